/-
  NARROWER THAN 'FOR EVERY INPUT', by the rows' own cells (each row's printed sentence says how): FieldReads: laid · FieldSums: laid · FieldProducts: laid · FieldSteps: laid · FieldPowers: laid · FieldRoots: laid.
  DERIVED. THE GIVEN ROWS OF THIS SEAT. 6 by the template 'for every input the law returns true; each argument reads behind the call as it read before'; 0 by the template 'total and deterministic' (their statements: YtgebangnhgmmoaaDoorTotals.lean).
  GIVEN WITH THE SEED: the statements are not yours to turn. If you find one false, say at which input.
  Laid BY PROGRAM, IN A SANDBOX (cutbox-rows.mjs): the forced cells as the released guide's own fill.sh prints them over the translation 16c49d931d4fead5… (all of the seat's roots in one cut). By AI agents, Wed Nov 11 2026. No macro, syntax, notation, axiom, sorry.
-/
import Derived.Test.YtgebangnhgmmoaaDoorChecked
import GoSem.Claim
import GoSem.ClaimJoined
import GoSem.ClaimMapViews
import Derived.JoinedTies
import Derived.KernelRfl
namespace Go.Proofs.YtgebangnhgmmoaaDoor
/- THE CELL 'sum', in the pinned program and in every row, IS THE sha256 OF THE DUMP (.gsa) THAT YtgebangnhgmmoaaDoorProg.lean LOADS. Nothing in Lean hashes anything: it is a label: what it is worth is what the hold of that sum in a sandbox is worth. -/
noncomputable def Tryd.pinned : Pinned := { name := "ytgebangnhgmmoaadoor", sum := "16c49d931d4fead5046aad568e234878aa439264f4d2a0109005731686af826d", checked := Tryd.checked }
namespace Rows
def none {H : Type} : Left H := { results := [], args := [] }

/- WHAT THE LISTED PACKAGE-LEVEL VARIABLES READ AS WHEN THE CALL BEGINS. Each datum BY PROGRAM (the guide's laid-datum.mjs) off the statement by which the dump's own 'gosem.cut.vars' lays the variable. In a bare row this is a premise. The card (YtgebangnhgmmoaaDoorCards.lean) ties it to the program's text. -/
def laid_pawl_field_double {H : Type} : DataW H := .agg [.lit (.int .u64 4503599627370458), .lit (.int .u64 4503599627370494), .lit (.int .u64 4503599627370494), .lit (.int .u64 4503599627370494), .lit (.int .u64 4503599627370494)]

/-- 'pawllaw03.FieldReads': WHATEVER THE INPUT: true; the input reads as it did. -/
def fieldReadsSpec : ChangeSpec := { name := "fieldReads", fn := fun _ => fun
  | [d1, d2] => { results := [.lit (.bool true)], args := [d1, d2] }
  | _ => none }
def fieldReadsRow : OpenClaim := { program := "ytgebangnhgmmoaadoor", sum := "16c49d931d4fead5046aad568e234878aa439264f4d2a0109005731686af826d", func := "pawl/pawllaw03.FieldReads", spec := "fieldReads", inPlace := ["math/bits.Add64"], named := ["pawl/field.double"], apart := false, laid := [("pawl/field.double", laid_pawl_field_double)] }
def FieldReadsSaid : Prop := fieldReadsRow.holds Tryd.pinned (OpenSpec.ofChange fieldReadsSpec)

/-- ITS FALSE NEIGHBOUR: 'it returns false'. Refute it at one input. -/
def fieldReadsWrong : ChangeSpec := { name := "fieldReads", fn := fun _ => fun
  | [d1, d2] => { results := [.lit (.bool false)], args := [d1, d2] }
  | _ => none }
def FieldReadsWrongFalsely : Prop := fieldReadsRow.holds Tryd.pinned (OpenSpec.ofChange fieldReadsWrong)

/-- 'pawllaw03.FieldSums': WHATEVER THE INPUT: true; the input reads as it did. -/
def fieldSumsSpec : ChangeSpec := { name := "fieldSums", fn := fun _ => fun
  | [d1, d2] => { results := [.lit (.bool true)], args := [d1, d2] }
  | _ => none }
def fieldSumsRow : OpenClaim := { program := "ytgebangnhgmmoaadoor", sum := "16c49d931d4fead5046aad568e234878aa439264f4d2a0109005731686af826d", func := "pawl/pawllaw03.FieldSums", spec := "fieldSums", inPlace := ["math/bits.Add64"], named := ["pawl/field.double"], apart := false, laid := [("pawl/field.double", laid_pawl_field_double)] }
def FieldSumsSaid : Prop := fieldSumsRow.holds Tryd.pinned (OpenSpec.ofChange fieldSumsSpec)

/-- ITS FALSE NEIGHBOUR: 'it returns false'. Refute it at one input. -/
def fieldSumsWrong : ChangeSpec := { name := "fieldSums", fn := fun _ => fun
  | [d1, d2] => { results := [.lit (.bool false)], args := [d1, d2] }
  | _ => none }
def FieldSumsWrongFalsely : Prop := fieldSumsRow.holds Tryd.pinned (OpenSpec.ofChange fieldSumsWrong)

/-- 'pawllaw03.FieldProducts': WHATEVER THE INPUT: true; the input reads as it did. -/
def fieldProductsSpec : ChangeSpec := { name := "fieldProducts", fn := fun _ => fun
  | [d1, d2, d3] => { results := [.lit (.bool true)], args := [d1, d2, d3] }
  | _ => none }
def fieldProductsRow : OpenClaim := { program := "ytgebangnhgmmoaadoor", sum := "16c49d931d4fead5046aad568e234878aa439264f4d2a0109005731686af826d", func := "pawl/pawllaw03.FieldProducts", spec := "fieldProducts", inPlace := ["math/bits.Add64"], named := ["pawl/field.double"], apart := false, laid := [("pawl/field.double", laid_pawl_field_double)] }
def FieldProductsSaid : Prop := fieldProductsRow.holds Tryd.pinned (OpenSpec.ofChange fieldProductsSpec)

/-- ITS FALSE NEIGHBOUR: 'it returns false'. Refute it at one input. -/
def fieldProductsWrong : ChangeSpec := { name := "fieldProducts", fn := fun _ => fun
  | [d1, d2, d3] => { results := [.lit (.bool false)], args := [d1, d2, d3] }
  | _ => none }
def FieldProductsWrongFalsely : Prop := fieldProductsRow.holds Tryd.pinned (OpenSpec.ofChange fieldProductsWrong)

/-- 'pawllaw03.FieldSteps': WHATEVER THE INPUT: true; the input reads as it did. -/
def fieldStepsSpec : ChangeSpec := { name := "fieldSteps", fn := fun _ => fun
  | [d1, d2, d3] => { results := [.lit (.bool true)], args := [d1, d2, d3] }
  | _ => none }
def fieldStepsRow : OpenClaim := { program := "ytgebangnhgmmoaadoor", sum := "16c49d931d4fead5046aad568e234878aa439264f4d2a0109005731686af826d", func := "pawl/pawllaw03.FieldSteps", spec := "fieldSteps", inPlace := ["math/bits.Add64"], named := ["pawl/field.double"], apart := false, laid := [("pawl/field.double", laid_pawl_field_double)] }
def FieldStepsSaid : Prop := fieldStepsRow.holds Tryd.pinned (OpenSpec.ofChange fieldStepsSpec)

/-- ITS FALSE NEIGHBOUR: 'it returns false'. Refute it at one input. -/
def fieldStepsWrong : ChangeSpec := { name := "fieldSteps", fn := fun _ => fun
  | [d1, d2, d3] => { results := [.lit (.bool false)], args := [d1, d2, d3] }
  | _ => none }
def FieldStepsWrongFalsely : Prop := fieldStepsRow.holds Tryd.pinned (OpenSpec.ofChange fieldStepsWrong)

/-- 'pawllaw03.FieldPowers': WHATEVER THE INPUT: true; the input reads as it did. -/
def fieldPowersSpec : ChangeSpec := { name := "fieldPowers", fn := fun _ => fun
  | [d1, d2] => { results := [.lit (.bool true)], args := [d1, d2] }
  | _ => none }
def fieldPowersRow : OpenClaim := { program := "ytgebangnhgmmoaadoor", sum := "16c49d931d4fead5046aad568e234878aa439264f4d2a0109005731686af826d", func := "pawl/pawllaw03.FieldPowers", spec := "fieldPowers", inPlace := ["math/bits.Add64"], named := ["pawl/field.double"], apart := false, laid := [("pawl/field.double", laid_pawl_field_double)] }
def FieldPowersSaid : Prop := fieldPowersRow.holds Tryd.pinned (OpenSpec.ofChange fieldPowersSpec)

/-- ITS FALSE NEIGHBOUR: 'it returns false'. Refute it at one input. -/
def fieldPowersWrong : ChangeSpec := { name := "fieldPowers", fn := fun _ => fun
  | [d1, d2] => { results := [.lit (.bool false)], args := [d1, d2] }
  | _ => none }
def FieldPowersWrongFalsely : Prop := fieldPowersRow.holds Tryd.pinned (OpenSpec.ofChange fieldPowersWrong)

/-- 'pawllaw03.FieldRoots': WHATEVER THE INPUT: true; the input reads as it did. -/
def fieldRootsSpec : ChangeSpec := { name := "fieldRoots", fn := fun _ => fun
  | [d] => { results := [.lit (.bool true)], args := [d] }
  | _ => none }
def fieldRootsRow : OpenClaim := { program := "ytgebangnhgmmoaadoor", sum := "16c49d931d4fead5046aad568e234878aa439264f4d2a0109005731686af826d", func := "pawl/pawllaw03.FieldRoots", spec := "fieldRoots", inPlace := ["math/bits.Add64"], named := ["pawl/field.double"], apart := false, laid := [("pawl/field.double", laid_pawl_field_double)] }
def FieldRootsSaid : Prop := fieldRootsRow.holds Tryd.pinned (OpenSpec.ofChange fieldRootsSpec)

/-- ITS FALSE NEIGHBOUR: 'it returns false'. Refute it at one input. -/
def fieldRootsWrong : ChangeSpec := { name := "fieldRoots", fn := fun _ => fun
  | [d] => { results := [.lit (.bool false)], args := [d] }
  | _ => none }
def FieldRootsWrongFalsely : Prop := fieldRootsRow.holds Tryd.pinned (OpenSpec.ofChange fieldRootsWrong)

/- THE SECOND FORM. 'bulk': how many values and letters a reading holds, each counted each time it is reached (what is shared counts as often as it is met; a slice's spare places count too). A statement '..UptoSaid' is the law's where the arguments, and the package variables that the reading takes, are together of bulk at most 1048576: NARROWER than '..Said'. Prove '..Said' where nothing that the law and all that it calls make is longer than what came in: it says more and counts as full. Else prove '..UptoSaid'. A law counts once. -/
mutual
def uptoBulk {H : Type} : DataW H → Nat
  | .lit (.string bytes) => bytes.length + 1
  | .lit _ => 1
  | .nil => 1
  | .ptr d => uptoBulk d + 1
  | .slice elems spare => uptoBulkAll elems + uptoBulkAll spare + 1
  | .agg parts => uptoBulkAll parts + 1
  | .iface _ d => uptoBulk d + 1
  | .map entries => uptoBulkEntries entries + 1
  | .held _ => 1
def uptoBulkAll {H : Type} : List (DataW H) → Nat
  | [] => 0
  | d :: r => uptoBulk d + uptoBulkAll r
def uptoBulkEntries {H : Type} : List (Lit × DataW H) → Nat
  | [] => 0
  | x :: r => uptoBulkEntry x + uptoBulkEntries r
def uptoBulkEntry {H : Type} : Lit × DataW H → Nat
  | (.string bytes, d) => bytes.length + uptoBulk d + 1
  | (_, d) => uptoBulk d + 1
 end
def uptoSmall : (H : Type) → List (DataW H) → Bool := fun _ ds => decide (uptoBulkAll ds ≤ 1048576)
def OpenSpec.upto (s : _root_.Go.ChangeSpec) : _root_.Go.OpenSpec := { _root_.Go.OpenSpec.ofChange s with cond := some uptoSmall }

/-- 'pawllaw03.FieldReads', WHERE WHAT IT READS IS OF BULK AT MOST 1048576: true; the input reads as it did. -/
def fieldReadsUptoRow : OpenClaim := { program := "ytgebangnhgmmoaadoor", sum := "16c49d931d4fead5046aad568e234878aa439264f4d2a0109005731686af826d", func := "pawl/pawllaw03.FieldReads", spec := "fieldReads", inPlace := ["math/bits.Add64"], named := ["pawl/field.double"], apart := false, laid := [("pawl/field.double", laid_pawl_field_double)], narrowed := true }
def FieldReadsUptoSaid : Prop := fieldReadsUptoRow.holds Tryd.pinned (OpenSpec.upto fieldReadsSpec)

/-- 'pawllaw03.FieldSums', WHERE WHAT IT READS IS OF BULK AT MOST 1048576: true; the input reads as it did. -/
def fieldSumsUptoRow : OpenClaim := { program := "ytgebangnhgmmoaadoor", sum := "16c49d931d4fead5046aad568e234878aa439264f4d2a0109005731686af826d", func := "pawl/pawllaw03.FieldSums", spec := "fieldSums", inPlace := ["math/bits.Add64"], named := ["pawl/field.double"], apart := false, laid := [("pawl/field.double", laid_pawl_field_double)], narrowed := true }
def FieldSumsUptoSaid : Prop := fieldSumsUptoRow.holds Tryd.pinned (OpenSpec.upto fieldSumsSpec)

/-- 'pawllaw03.FieldProducts', WHERE WHAT IT READS IS OF BULK AT MOST 1048576: true; the input reads as it did. -/
def fieldProductsUptoRow : OpenClaim := { program := "ytgebangnhgmmoaadoor", sum := "16c49d931d4fead5046aad568e234878aa439264f4d2a0109005731686af826d", func := "pawl/pawllaw03.FieldProducts", spec := "fieldProducts", inPlace := ["math/bits.Add64"], named := ["pawl/field.double"], apart := false, laid := [("pawl/field.double", laid_pawl_field_double)], narrowed := true }
def FieldProductsUptoSaid : Prop := fieldProductsUptoRow.holds Tryd.pinned (OpenSpec.upto fieldProductsSpec)

/-- 'pawllaw03.FieldSteps', WHERE WHAT IT READS IS OF BULK AT MOST 1048576: true; the input reads as it did. -/
def fieldStepsUptoRow : OpenClaim := { program := "ytgebangnhgmmoaadoor", sum := "16c49d931d4fead5046aad568e234878aa439264f4d2a0109005731686af826d", func := "pawl/pawllaw03.FieldSteps", spec := "fieldSteps", inPlace := ["math/bits.Add64"], named := ["pawl/field.double"], apart := false, laid := [("pawl/field.double", laid_pawl_field_double)], narrowed := true }
def FieldStepsUptoSaid : Prop := fieldStepsUptoRow.holds Tryd.pinned (OpenSpec.upto fieldStepsSpec)

/-- 'pawllaw03.FieldPowers', WHERE WHAT IT READS IS OF BULK AT MOST 1048576: true; the input reads as it did. -/
def fieldPowersUptoRow : OpenClaim := { program := "ytgebangnhgmmoaadoor", sum := "16c49d931d4fead5046aad568e234878aa439264f4d2a0109005731686af826d", func := "pawl/pawllaw03.FieldPowers", spec := "fieldPowers", inPlace := ["math/bits.Add64"], named := ["pawl/field.double"], apart := false, laid := [("pawl/field.double", laid_pawl_field_double)], narrowed := true }
def FieldPowersUptoSaid : Prop := fieldPowersUptoRow.holds Tryd.pinned (OpenSpec.upto fieldPowersSpec)

/-- 'pawllaw03.FieldRoots', WHERE WHAT IT READS IS OF BULK AT MOST 1048576: true; the input reads as it did. -/
def fieldRootsUptoRow : OpenClaim := { program := "ytgebangnhgmmoaadoor", sum := "16c49d931d4fead5046aad568e234878aa439264f4d2a0109005731686af826d", func := "pawl/pawllaw03.FieldRoots", spec := "fieldRoots", inPlace := ["math/bits.Add64"], named := ["pawl/field.double"], apart := false, laid := [("pawl/field.double", laid_pawl_field_double)], narrowed := true }
def FieldRootsUptoSaid : Prop := fieldRootsUptoRow.holds Tryd.pinned (OpenSpec.upto fieldRootsSpec)

end Rows
end Go.Proofs.YtgebangnhgmmoaaDoor
