/-
  DERIVED. GIVEN WITH THE SEED: THE CARDS: each row of YtghaknienffmjaaDoorRows.lean that lists a variable, with what it lists TIED to the program's text (the seventh form; the later family's looks); each row that meets fmt, with fmt's text TOLD by the authors' own Lean function (tested against real Go, not proved from fmt's source: count such statements apart). THE CARD IS WHAT COUNTS. Prove the row's statement (the work); the ties are given (YtghaknienffmjaaDoorTie.lean); close each card by the builder's one call (the guide's Derived/Test/ToyasCard.lean, 'card_holds'). Laid BY PROGRAM, IN A SANDBOX (cutbox-door.mjs). By AI agents, Wed Nov 11 2026. No macro, syntax, notation, axiom, sorry.
-/
import Derived.Test.YtghaknienffmjaaDoorRows
import GoSem.ClaimSeven
namespace Go.Proofs.YtghaknienffmjaaDoor
namespace Rows

/-- THE TIED CARD OF 'pawllaw07.TermPuts'. -/
def termPutsCard : Claim7 := { stood := { row := termPutsRow, standIns := [], harness := (true, "59cfb65f1be5cca9352fc9a23dedb677fdf566c290d9d15b278d0291ef86fdca"), looks := true }, kinds := [], alts := [], laidByText := true, laidKinds := [.data, .data, .data, .sentinel, .sentinel], laidTests := true, laidLooks := .later }
def TermPutsCardSaid : Prop := Claim7.holds Tryd.pinned (.plain (OpenSpec.ofChange termPutsSpec)) termPutsCard

/-- THE TIED CARD OF 'pawllaw07.TermBytes'. -/
def termBytesCard : Claim7 := { stood := { row := termBytesRow, standIns := [], harness := (true, "59cfb65f1be5cca9352fc9a23dedb677fdf566c290d9d15b278d0291ef86fdca"), looks := true }, kinds := [], alts := [], laidByText := true, laidKinds := [.data, .data, .data, .sentinel, .sentinel], laidTests := true, laidLooks := .later }
def TermBytesCardSaid : Prop := Claim7.holds Tryd.pinned (.plain (OpenSpec.ofChange termBytesSpec)) termBytesCard

/-- THE TIED CARD OF 'pawllaw07.TermAgree'. -/
def termAgreeCard : Claim7 := { stood := { row := termAgreeRow, standIns := [], harness := (true, "59cfb65f1be5cca9352fc9a23dedb677fdf566c290d9d15b278d0291ef86fdca"), looks := true }, kinds := [], alts := [], laidByText := true, laidKinds := [.data, .data, .data, .sentinel, .sentinel], laidTests := true, laidLooks := .later }
def TermAgreeCardSaid : Prop := Claim7.holds Tryd.pinned (.plain (OpenSpec.ofChange termAgreeSpec)) termAgreeCard

/-- THE TIED CARD OF 'pawllaw07.TermMarks'. -/
def termMarksCard : Claim7 := { stood := { row := termMarksRow, standIns := [], harness := (true, "59cfb65f1be5cca9352fc9a23dedb677fdf566c290d9d15b278d0291ef86fdca"), looks := true }, kinds := [], alts := [], laidByText := true, laidKinds := [.data, .data, .data, .sentinel, .sentinel], laidTests := true, laidLooks := .later }
def TermMarksCardSaid : Prop := Claim7.holds Tryd.pinned (.plain (OpenSpec.ofChange termMarksSpec)) termMarksCard

/-- THE TIED CARD OF 'pawllaw07.TermNil'. -/
def termNilCard : Claim7 := { stood := { row := termNilRow, standIns := [], harness := (true, "59cfb65f1be5cca9352fc9a23dedb677fdf566c290d9d15b278d0291ef86fdca"), looks := true }, kinds := [], alts := [], laidByText := true, laidKinds := [.data, .data, .data, .sentinel, .sentinel], laidTests := true, laidLooks := .later }
def TermNilCardSaid : Prop := Claim7.holds Tryd.pinned (.plain (OpenSpec.ofChange termNilSpec)) termNilCard

/-- THE SECOND FORM's CARD OF 'pawllaw07.TermPuts'. -/
def termPutsUptoCard : Claim7 := { stood := { row := termPutsUptoRow, standIns := [], harness := (true, "59cfb65f1be5cca9352fc9a23dedb677fdf566c290d9d15b278d0291ef86fdca"), looks := true }, kinds := [], alts := [], laidByText := true, laidKinds := [.data, .data, .data, .sentinel, .sentinel], laidTests := true, laidLooks := .later }
def TermPutsUptoCardSaid : Prop := Claim7.holds Tryd.pinned (.plain (OpenSpec.upto termPutsSpec)) termPutsUptoCard

/-- THE SECOND FORM's CARD OF 'pawllaw07.TermBytes'. -/
def termBytesUptoCard : Claim7 := { stood := { row := termBytesUptoRow, standIns := [], harness := (true, "59cfb65f1be5cca9352fc9a23dedb677fdf566c290d9d15b278d0291ef86fdca"), looks := true }, kinds := [], alts := [], laidByText := true, laidKinds := [.data, .data, .data, .sentinel, .sentinel], laidTests := true, laidLooks := .later }
def TermBytesUptoCardSaid : Prop := Claim7.holds Tryd.pinned (.plain (OpenSpec.upto termBytesSpec)) termBytesUptoCard

/-- THE SECOND FORM's CARD OF 'pawllaw07.TermAgree'. -/
def termAgreeUptoCard : Claim7 := { stood := { row := termAgreeUptoRow, standIns := [], harness := (true, "59cfb65f1be5cca9352fc9a23dedb677fdf566c290d9d15b278d0291ef86fdca"), looks := true }, kinds := [], alts := [], laidByText := true, laidKinds := [.data, .data, .data, .sentinel, .sentinel], laidTests := true, laidLooks := .later }
def TermAgreeUptoCardSaid : Prop := Claim7.holds Tryd.pinned (.plain (OpenSpec.upto termAgreeSpec)) termAgreeUptoCard

/-- THE SECOND FORM's CARD OF 'pawllaw07.TermMarks'. -/
def termMarksUptoCard : Claim7 := { stood := { row := termMarksUptoRow, standIns := [], harness := (true, "59cfb65f1be5cca9352fc9a23dedb677fdf566c290d9d15b278d0291ef86fdca"), looks := true }, kinds := [], alts := [], laidByText := true, laidKinds := [.data, .data, .data, .sentinel, .sentinel], laidTests := true, laidLooks := .later }
def TermMarksUptoCardSaid : Prop := Claim7.holds Tryd.pinned (.plain (OpenSpec.upto termMarksSpec)) termMarksUptoCard

/-- THE SECOND FORM's CARD OF 'pawllaw07.TermNil'. -/
def termNilUptoCard : Claim7 := { stood := { row := termNilUptoRow, standIns := [], harness := (true, "59cfb65f1be5cca9352fc9a23dedb677fdf566c290d9d15b278d0291ef86fdca"), looks := true }, kinds := [], alts := [], laidByText := true, laidKinds := [.data, .data, .data, .sentinel, .sentinel], laidTests := true, laidLooks := .later }
def TermNilUptoCardSaid : Prop := Claim7.holds Tryd.pinned (.plain (OpenSpec.upto termNilSpec)) termNilUptoCard
end Rows
end Go.Proofs.YtghaknienffmjaaDoor
