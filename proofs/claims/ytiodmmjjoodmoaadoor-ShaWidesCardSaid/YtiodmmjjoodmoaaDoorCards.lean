/-
  DERIVED. GIVEN WITH THE SEED: THE CARDS: each row of YtiodmmjjoodmoaaDoorRows.lean that lists a variable, with what it lists TIED to the program's text (the seventh form; the later family's looks); each row that meets fmt, with fmt's text TOLD by the authors' own Lean function (tested against real Go, not proved from fmt's source: count such statements apart). THE CARD IS WHAT COUNTS. Prove the row's statement (the work); the ties are given (YtiodmmjjoodmoaaDoorTie.lean); close each card by the builder's one call (the guide's Derived/Test/ToyasCard.lean, 'card_holds'). Laid BY PROGRAM, IN A SANDBOX (cutbox-door.mjs). By AI agents, Wed Nov 11 2026. No macro, syntax, notation, axiom, sorry.
-/
import Derived.Test.YtiodmmjjoodmoaaDoorRows
import GoSem.ClaimSeven
namespace Go.Proofs.YtiodmmjjoodmoaaDoor
namespace Rows

/-- THE TIED CARD OF 'pawllaw02.ShaSums'. -/
def shaSumsCard : Claim7 := { stood := { row := shaSumsRow, standIns := [], harness := (true, "1c42664c11750e7a94c28efb5b18fe53fb8bb74a187dab62b96ce623da168f21"), looks := false }, kinds := [], alts := [], laidByText := true, laidKinds := [.data], laidTests := true, laidLooks := .later }
def ShaSumsCardSaid : Prop := Claim7.holds Tryd.pinned (.plain (OpenSpec.ofChange shaSumsSpec)) shaSumsCard

/-- THE TIED CARD OF 'pawllaw02.ShaParts'. -/
def shaPartsCard : Claim7 := { stood := { row := shaPartsRow, standIns := [], harness := (true, "1c42664c11750e7a94c28efb5b18fe53fb8bb74a187dab62b96ce623da168f21"), looks := false }, kinds := [], alts := [], laidByText := true, laidKinds := [.data], laidTests := true, laidLooks := .later }
def ShaPartsCardSaid : Prop := Claim7.holds Tryd.pinned (.plain (OpenSpec.ofChange shaPartsSpec)) shaPartsCard

/-- THE TIED CARD OF 'pawllaw02.ShaMacs'. -/
def shaMacsCard : Claim7 := { stood := { row := shaMacsRow, standIns := [], harness := (true, "1c42664c11750e7a94c28efb5b18fe53fb8bb74a187dab62b96ce623da168f21"), looks := false }, kinds := [], alts := [], laidByText := true, laidKinds := [.data], laidTests := true, laidLooks := .later }
def ShaMacsCardSaid : Prop := Claim7.holds Tryd.pinned (.plain (OpenSpec.ofChange shaMacsSpec)) shaMacsCard

/-- THE TIED CARD OF 'pawllaw02.ShaExpands'. -/
def shaExpandsCard : Claim7 := { stood := { row := shaExpandsRow, standIns := [], harness := (true, "1c42664c11750e7a94c28efb5b18fe53fb8bb74a187dab62b96ce623da168f21"), looks := false }, kinds := [], alts := [], laidByText := true, laidKinds := [.data], laidTests := true, laidLooks := .later }
def ShaExpandsCardSaid : Prop := Claim7.holds Tryd.pinned (.plain (OpenSpec.ofChange shaExpandsSpec)) shaExpandsCard

/-- THE TIED CARD OF 'pawllaw02.ShaWides'. -/
def shaWidesCard : Claim7 := { stood := { row := shaWidesRow, standIns := [], harness := (true, "1c42664c11750e7a94c28efb5b18fe53fb8bb74a187dab62b96ce623da168f21"), looks := false }, kinds := [], alts := [], laidByText := true, laidKinds := [.data], laidTests := true, laidLooks := .later }
def ShaWidesCardSaid : Prop := Claim7.holds Tryd.pinned (.plain (OpenSpec.ofChange shaWidesSpec)) shaWidesCard

/-- THE SECOND FORM's CARD OF 'pawllaw02.ShaSums'. -/
def shaSumsUptoCard : Claim7 := { stood := { row := shaSumsUptoRow, standIns := [], harness := (true, "1c42664c11750e7a94c28efb5b18fe53fb8bb74a187dab62b96ce623da168f21"), looks := false }, kinds := [], alts := [], laidByText := true, laidKinds := [.data], laidTests := true, laidLooks := .later }
def ShaSumsUptoCardSaid : Prop := Claim7.holds Tryd.pinned (.plain (OpenSpec.upto shaSumsSpec)) shaSumsUptoCard

/-- THE SECOND FORM's CARD OF 'pawllaw02.ShaParts'. -/
def shaPartsUptoCard : Claim7 := { stood := { row := shaPartsUptoRow, standIns := [], harness := (true, "1c42664c11750e7a94c28efb5b18fe53fb8bb74a187dab62b96ce623da168f21"), looks := false }, kinds := [], alts := [], laidByText := true, laidKinds := [.data], laidTests := true, laidLooks := .later }
def ShaPartsUptoCardSaid : Prop := Claim7.holds Tryd.pinned (.plain (OpenSpec.upto shaPartsSpec)) shaPartsUptoCard

/-- THE SECOND FORM's CARD OF 'pawllaw02.ShaMacs'. -/
def shaMacsUptoCard : Claim7 := { stood := { row := shaMacsUptoRow, standIns := [], harness := (true, "1c42664c11750e7a94c28efb5b18fe53fb8bb74a187dab62b96ce623da168f21"), looks := false }, kinds := [], alts := [], laidByText := true, laidKinds := [.data], laidTests := true, laidLooks := .later }
def ShaMacsUptoCardSaid : Prop := Claim7.holds Tryd.pinned (.plain (OpenSpec.upto shaMacsSpec)) shaMacsUptoCard

/-- THE SECOND FORM's CARD OF 'pawllaw02.ShaExpands'. -/
def shaExpandsUptoCard : Claim7 := { stood := { row := shaExpandsUptoRow, standIns := [], harness := (true, "1c42664c11750e7a94c28efb5b18fe53fb8bb74a187dab62b96ce623da168f21"), looks := false }, kinds := [], alts := [], laidByText := true, laidKinds := [.data], laidTests := true, laidLooks := .later }
def ShaExpandsUptoCardSaid : Prop := Claim7.holds Tryd.pinned (.plain (OpenSpec.upto shaExpandsSpec)) shaExpandsUptoCard

/-- THE SECOND FORM's CARD OF 'pawllaw02.ShaWides'. -/
def shaWidesUptoCard : Claim7 := { stood := { row := shaWidesUptoRow, standIns := [], harness := (true, "1c42664c11750e7a94c28efb5b18fe53fb8bb74a187dab62b96ce623da168f21"), looks := false }, kinds := [], alts := [], laidByText := true, laidKinds := [.data], laidTests := true, laidLooks := .later }
def ShaWidesUptoCardSaid : Prop := Claim7.holds Tryd.pinned (.plain (OpenSpec.upto shaWidesSpec)) shaWidesUptoCard
end Rows
end Go.Proofs.YtiodmmjjoodmoaaDoor
