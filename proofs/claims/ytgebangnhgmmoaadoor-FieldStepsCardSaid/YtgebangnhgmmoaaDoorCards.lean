/-
  DERIVED. GIVEN WITH THE SEED: THE CARDS: each row of YtgebangnhgmmoaaDoorRows.lean that lists a variable, with what it lists TIED to the program's text (the seventh form; the later family's looks); each row that meets fmt, with fmt's text TOLD by the authors' own Lean function (tested against real Go, not proved from fmt's source: count such statements apart). THE CARD IS WHAT COUNTS. Prove the row's statement (the work); the ties are given (YtgebangnhgmmoaaDoorTie.lean); close each card by the builder's one call (the guide's Derived/Test/ToyasCard.lean, 'card_holds'). Laid BY PROGRAM, IN A SANDBOX (cutbox-door.mjs). By AI agents, Wed Nov 11 2026. No macro, syntax, notation, axiom, sorry.
-/
import Derived.Test.YtgebangnhgmmoaaDoorRows
import GoSem.ClaimSeven
namespace Go.Proofs.YtgebangnhgmmoaaDoor
namespace Rows

/-- THE TIED CARD OF 'pawllaw03.FieldReads'. -/
def fieldReadsCard : Claim7 := { stood := { row := fieldReadsRow, standIns := [], harness := (true, "f2f4bb7b0ad5f2dca98566300b95ea11f0529c67792fe39ab7e7350f3fde01c7"), looks := false }, kinds := [], alts := [], laidByText := true, laidKinds := [.data], laidTests := true, laidLooks := .later }
def FieldReadsCardSaid : Prop := Claim7.holds Tryd.pinned (.plain (OpenSpec.ofChange fieldReadsSpec)) fieldReadsCard

/-- THE TIED CARD OF 'pawllaw03.FieldSums'. -/
def fieldSumsCard : Claim7 := { stood := { row := fieldSumsRow, standIns := [], harness := (true, "f2f4bb7b0ad5f2dca98566300b95ea11f0529c67792fe39ab7e7350f3fde01c7"), looks := false }, kinds := [], alts := [], laidByText := true, laidKinds := [.data], laidTests := true, laidLooks := .later }
def FieldSumsCardSaid : Prop := Claim7.holds Tryd.pinned (.plain (OpenSpec.ofChange fieldSumsSpec)) fieldSumsCard

/-- THE TIED CARD OF 'pawllaw03.FieldProducts'. -/
def fieldProductsCard : Claim7 := { stood := { row := fieldProductsRow, standIns := [], harness := (true, "f2f4bb7b0ad5f2dca98566300b95ea11f0529c67792fe39ab7e7350f3fde01c7"), looks := false }, kinds := [], alts := [], laidByText := true, laidKinds := [.data], laidTests := true, laidLooks := .later }
def FieldProductsCardSaid : Prop := Claim7.holds Tryd.pinned (.plain (OpenSpec.ofChange fieldProductsSpec)) fieldProductsCard

/-- THE TIED CARD OF 'pawllaw03.FieldSteps'. -/
def fieldStepsCard : Claim7 := { stood := { row := fieldStepsRow, standIns := [], harness := (true, "f2f4bb7b0ad5f2dca98566300b95ea11f0529c67792fe39ab7e7350f3fde01c7"), looks := false }, kinds := [], alts := [], laidByText := true, laidKinds := [.data], laidTests := true, laidLooks := .later }
def FieldStepsCardSaid : Prop := Claim7.holds Tryd.pinned (.plain (OpenSpec.ofChange fieldStepsSpec)) fieldStepsCard

/-- THE TIED CARD OF 'pawllaw03.FieldPowers'. -/
def fieldPowersCard : Claim7 := { stood := { row := fieldPowersRow, standIns := [], harness := (true, "f2f4bb7b0ad5f2dca98566300b95ea11f0529c67792fe39ab7e7350f3fde01c7"), looks := false }, kinds := [], alts := [], laidByText := true, laidKinds := [.data], laidTests := true, laidLooks := .later }
def FieldPowersCardSaid : Prop := Claim7.holds Tryd.pinned (.plain (OpenSpec.ofChange fieldPowersSpec)) fieldPowersCard

/-- THE TIED CARD OF 'pawllaw03.FieldRoots'. -/
def fieldRootsCard : Claim7 := { stood := { row := fieldRootsRow, standIns := [], harness := (true, "f2f4bb7b0ad5f2dca98566300b95ea11f0529c67792fe39ab7e7350f3fde01c7"), looks := false }, kinds := [], alts := [], laidByText := true, laidKinds := [.data], laidTests := true, laidLooks := .later }
def FieldRootsCardSaid : Prop := Claim7.holds Tryd.pinned (.plain (OpenSpec.ofChange fieldRootsSpec)) fieldRootsCard

/-- THE SECOND FORM's CARD OF 'pawllaw03.FieldReads'. -/
def fieldReadsUptoCard : Claim7 := { stood := { row := fieldReadsUptoRow, standIns := [], harness := (true, "f2f4bb7b0ad5f2dca98566300b95ea11f0529c67792fe39ab7e7350f3fde01c7"), looks := false }, kinds := [], alts := [], laidByText := true, laidKinds := [.data], laidTests := true, laidLooks := .later }
def FieldReadsUptoCardSaid : Prop := Claim7.holds Tryd.pinned (.plain (OpenSpec.upto fieldReadsSpec)) fieldReadsUptoCard

/-- THE SECOND FORM's CARD OF 'pawllaw03.FieldSums'. -/
def fieldSumsUptoCard : Claim7 := { stood := { row := fieldSumsUptoRow, standIns := [], harness := (true, "f2f4bb7b0ad5f2dca98566300b95ea11f0529c67792fe39ab7e7350f3fde01c7"), looks := false }, kinds := [], alts := [], laidByText := true, laidKinds := [.data], laidTests := true, laidLooks := .later }
def FieldSumsUptoCardSaid : Prop := Claim7.holds Tryd.pinned (.plain (OpenSpec.upto fieldSumsSpec)) fieldSumsUptoCard

/-- THE SECOND FORM's CARD OF 'pawllaw03.FieldProducts'. -/
def fieldProductsUptoCard : Claim7 := { stood := { row := fieldProductsUptoRow, standIns := [], harness := (true, "f2f4bb7b0ad5f2dca98566300b95ea11f0529c67792fe39ab7e7350f3fde01c7"), looks := false }, kinds := [], alts := [], laidByText := true, laidKinds := [.data], laidTests := true, laidLooks := .later }
def FieldProductsUptoCardSaid : Prop := Claim7.holds Tryd.pinned (.plain (OpenSpec.upto fieldProductsSpec)) fieldProductsUptoCard

/-- THE SECOND FORM's CARD OF 'pawllaw03.FieldSteps'. -/
def fieldStepsUptoCard : Claim7 := { stood := { row := fieldStepsUptoRow, standIns := [], harness := (true, "f2f4bb7b0ad5f2dca98566300b95ea11f0529c67792fe39ab7e7350f3fde01c7"), looks := false }, kinds := [], alts := [], laidByText := true, laidKinds := [.data], laidTests := true, laidLooks := .later }
def FieldStepsUptoCardSaid : Prop := Claim7.holds Tryd.pinned (.plain (OpenSpec.upto fieldStepsSpec)) fieldStepsUptoCard

/-- THE SECOND FORM's CARD OF 'pawllaw03.FieldPowers'. -/
def fieldPowersUptoCard : Claim7 := { stood := { row := fieldPowersUptoRow, standIns := [], harness := (true, "f2f4bb7b0ad5f2dca98566300b95ea11f0529c67792fe39ab7e7350f3fde01c7"), looks := false }, kinds := [], alts := [], laidByText := true, laidKinds := [.data], laidTests := true, laidLooks := .later }
def FieldPowersUptoCardSaid : Prop := Claim7.holds Tryd.pinned (.plain (OpenSpec.upto fieldPowersSpec)) fieldPowersUptoCard

/-- THE SECOND FORM's CARD OF 'pawllaw03.FieldRoots'. -/
def fieldRootsUptoCard : Claim7 := { stood := { row := fieldRootsUptoRow, standIns := [], harness := (true, "f2f4bb7b0ad5f2dca98566300b95ea11f0529c67792fe39ab7e7350f3fde01c7"), looks := false }, kinds := [], alts := [], laidByText := true, laidKinds := [.data], laidTests := true, laidLooks := .later }
def FieldRootsUptoCardSaid : Prop := Claim7.holds Tryd.pinned (.plain (OpenSpec.upto fieldRootsSpec)) fieldRootsUptoCard
end Rows
end Go.Proofs.YtgebangnhgmmoaaDoor
