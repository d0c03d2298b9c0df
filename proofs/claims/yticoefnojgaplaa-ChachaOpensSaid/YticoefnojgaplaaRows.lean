/-
  No cell of these rows narrows 'for every input' (looked for: loops, veiled, ifaces, maps, wideKeys, modest, calm, conditions, laid).
  DERIVED. THE GIVEN ROWS OF THIS SEAT. 5 by the template 'for every input the law returns true; each argument reads behind the call as it read before'; 0 by the template 'total and deterministic' (their statements: YticoefnojgaplaaTotals.lean).
  GIVEN WITH THE SEED: the statements are not yours to turn. If you find one false, say at which input.
  Laid BY PROGRAM, IN A SANDBOX (cutbox-rows.mjs): the forced cells as the released guide's own fill.sh prints them over the translation 34a148534dc23a53… (all of the seat's roots in one cut). By AI agents, Wed Nov 11 2026. No macro, syntax, notation, axiom, sorry.
-/
import Derived.Test.YticoefnojgaplaaChecked
import GoSem.Claim
import GoSem.ClaimJoined
import GoSem.ClaimMapViews
import Derived.JoinedTies
import Derived.KernelRfl
namespace Go.Proofs.Yticoefnojgaplaa
/- THE CELL 'sum', in the pinned program and in every row, IS THE sha256 OF THE DUMP (.gsa) THAT YticoefnojgaplaaProg.lean LOADS. Nothing in Lean hashes anything: it is a label: what it is worth is what the hold of that sum in a sandbox is worth. -/
noncomputable def Try.pinned : Pinned := { name := "yticoefnojgaplaa", sum := "34a148534dc23a534959e16da3eebd76918307dc98207041fd7b523cfe734388", checked := Try.checked }
namespace Rows
def none {H : Type} : Left H := { results := [], args := [] }

/-- 'pawllaw05.ChachaBlocks': WHATEVER THE INPUT: true; the input reads as it did. -/
def chachaBlocksSpec : ChangeSpec := { name := "chachaBlocks", fn := fun _ => fun
  | [d1, d2, d3] => { results := [.lit (.bool true)], args := [d1, d2, d3] }
  | _ => none }
def chachaBlocksRow : OpenClaim := { program := "yticoefnojgaplaa", sum := "34a148534dc23a534959e16da3eebd76918307dc98207041fd7b523cfe734388", func := "pawl/pawllaw05.ChachaBlocks", spec := "chachaBlocks", inPlace := ["math/bits.Add64"], apart := false }
def ChachaBlocksSaid : Prop := chachaBlocksRow.holds Try.pinned (OpenSpec.ofChange chachaBlocksSpec)

/-- ITS FALSE NEIGHBOUR: 'it returns false'. Refute it at one input. -/
def chachaBlocksWrong : ChangeSpec := { name := "chachaBlocks", fn := fun _ => fun
  | [d1, d2, d3] => { results := [.lit (.bool false)], args := [d1, d2, d3] }
  | _ => none }
def ChachaBlocksWrongFalsely : Prop := chachaBlocksRow.holds Try.pinned (OpenSpec.ofChange chachaBlocksWrong)

/-- 'pawllaw05.ChachaStreams': WHATEVER THE INPUT: true; the input reads as it did. -/
def chachaStreamsSpec : ChangeSpec := { name := "chachaStreams", fn := fun _ => fun
  | [d1, d2, d3, d4] => { results := [.lit (.bool true)], args := [d1, d2, d3, d4] }
  | _ => none }
def chachaStreamsRow : OpenClaim := { program := "yticoefnojgaplaa", sum := "34a148534dc23a534959e16da3eebd76918307dc98207041fd7b523cfe734388", func := "pawl/pawllaw05.ChachaStreams", spec := "chachaStreams", inPlace := ["math/bits.Add64"], apart := false }
def ChachaStreamsSaid : Prop := chachaStreamsRow.holds Try.pinned (OpenSpec.ofChange chachaStreamsSpec)

/-- ITS FALSE NEIGHBOUR: 'it returns false'. Refute it at one input. -/
def chachaStreamsWrong : ChangeSpec := { name := "chachaStreams", fn := fun _ => fun
  | [d1, d2, d3, d4] => { results := [.lit (.bool false)], args := [d1, d2, d3, d4] }
  | _ => none }
def ChachaStreamsWrongFalsely : Prop := chachaStreamsRow.holds Try.pinned (OpenSpec.ofChange chachaStreamsWrong)

/-- 'pawllaw05.ChachaTags': WHATEVER THE INPUT: true; the input reads as it did. -/
def chachaTagsSpec : ChangeSpec := { name := "chachaTags", fn := fun _ => fun
  | [d1, d2] => { results := [.lit (.bool true)], args := [d1, d2] }
  | _ => none }
def chachaTagsRow : OpenClaim := { program := "yticoefnojgaplaa", sum := "34a148534dc23a534959e16da3eebd76918307dc98207041fd7b523cfe734388", func := "pawl/pawllaw05.ChachaTags", spec := "chachaTags", inPlace := ["math/bits.Add64"], apart := false }
def ChachaTagsSaid : Prop := chachaTagsRow.holds Try.pinned (OpenSpec.ofChange chachaTagsSpec)

/-- ITS FALSE NEIGHBOUR: 'it returns false'. Refute it at one input. -/
def chachaTagsWrong : ChangeSpec := { name := "chachaTags", fn := fun _ => fun
  | [d1, d2] => { results := [.lit (.bool false)], args := [d1, d2] }
  | _ => none }
def ChachaTagsWrongFalsely : Prop := chachaTagsRow.holds Try.pinned (OpenSpec.ofChange chachaTagsWrong)

/-- 'pawllaw05.ChachaSeals': WHATEVER THE INPUT: true; the input reads as it did. -/
def chachaSealsSpec : ChangeSpec := { name := "chachaSeals", fn := fun _ => fun
  | [d1, d2, d3, d4] => { results := [.lit (.bool true)], args := [d1, d2, d3, d4] }
  | _ => none }
def chachaSealsRow : OpenClaim := { program := "yticoefnojgaplaa", sum := "34a148534dc23a534959e16da3eebd76918307dc98207041fd7b523cfe734388", func := "pawl/pawllaw05.ChachaSeals", spec := "chachaSeals", inPlace := ["math/bits.Add64"], apart := false }
def ChachaSealsSaid : Prop := chachaSealsRow.holds Try.pinned (OpenSpec.ofChange chachaSealsSpec)

/-- ITS FALSE NEIGHBOUR: 'it returns false'. Refute it at one input. -/
def chachaSealsWrong : ChangeSpec := { name := "chachaSeals", fn := fun _ => fun
  | [d1, d2, d3, d4] => { results := [.lit (.bool false)], args := [d1, d2, d3, d4] }
  | _ => none }
def ChachaSealsWrongFalsely : Prop := chachaSealsRow.holds Try.pinned (OpenSpec.ofChange chachaSealsWrong)

/-- 'pawllaw05.ChachaOpens': WHATEVER THE INPUT: true; the input reads as it did. -/
def chachaOpensSpec : ChangeSpec := { name := "chachaOpens", fn := fun _ => fun
  | [d1, d2, d3, d4, d5] => { results := [.lit (.bool true)], args := [d1, d2, d3, d4, d5] }
  | _ => none }
def chachaOpensRow : OpenClaim := { program := "yticoefnojgaplaa", sum := "34a148534dc23a534959e16da3eebd76918307dc98207041fd7b523cfe734388", func := "pawl/pawllaw05.ChachaOpens", spec := "chachaOpens", inPlace := ["math/bits.Add64"], apart := false }
def ChachaOpensSaid : Prop := chachaOpensRow.holds Try.pinned (OpenSpec.ofChange chachaOpensSpec)

/-- ITS FALSE NEIGHBOUR: 'it returns false'. Refute it at one input. -/
def chachaOpensWrong : ChangeSpec := { name := "chachaOpens", fn := fun _ => fun
  | [d1, d2, d3, d4, d5] => { results := [.lit (.bool false)], args := [d1, d2, d3, d4, d5] }
  | _ => none }
def ChachaOpensWrongFalsely : Prop := chachaOpensRow.holds Try.pinned (OpenSpec.ofChange chachaOpensWrong)

/- THE SECOND FORM. 'bulk': how many values and letters a reading holds, each counted each time it is reached (what is shared counts as often as it is met; a slice's spare places count too). A statement '..UptoSaid' is the law's where the arguments, and the package variables that the reading takes, are together of bulk at most 1048576: NARROWER than '..Said'. Prove '..Said' where nothing that the law and all that it calls make is longer than what came in: it says more and counts as full. Else prove '..UptoSaid'. A law counts once. -/
mutual
def uptoBulk {H : Type} : DataW H → Nat
  | .lit (.string bytes) => bytes.length + 1
  | .lit _ => 1
  | .nil => 1
  | .ptr d => uptoBulk d + 1
  | .slice elems spare => uptoBulkAll elems + uptoBulkAll spare + 1
  | .agg parts => uptoBulkAll parts + 1
  | .iface _ d => uptoBulk d + 1
  | .map entries => uptoBulkEntries entries + 1
  | .held _ => 1
def uptoBulkAll {H : Type} : List (DataW H) → Nat
  | [] => 0
  | d :: r => uptoBulk d + uptoBulkAll r
def uptoBulkEntries {H : Type} : List (Lit × DataW H) → Nat
  | [] => 0
  | x :: r => uptoBulkEntry x + uptoBulkEntries r
def uptoBulkEntry {H : Type} : Lit × DataW H → Nat
  | (.string bytes, d) => bytes.length + uptoBulk d + 1
  | (_, d) => uptoBulk d + 1
 end
def uptoSmall : (H : Type) → List (DataW H) → Bool := fun _ ds => decide (uptoBulkAll ds ≤ 1048576)
def OpenSpec.upto (s : _root_.Go.ChangeSpec) : _root_.Go.OpenSpec := { _root_.Go.OpenSpec.ofChange s with cond := some uptoSmall }

/-- 'pawllaw05.ChachaBlocks', WHERE WHAT IT READS IS OF BULK AT MOST 1048576: true; the input reads as it did. -/
def chachaBlocksUptoRow : OpenClaim := { program := "yticoefnojgaplaa", sum := "34a148534dc23a534959e16da3eebd76918307dc98207041fd7b523cfe734388", func := "pawl/pawllaw05.ChachaBlocks", spec := "chachaBlocks", inPlace := ["math/bits.Add64"], apart := false, narrowed := true }
def ChachaBlocksUptoSaid : Prop := chachaBlocksUptoRow.holds Try.pinned (OpenSpec.upto chachaBlocksSpec)

/-- 'pawllaw05.ChachaStreams', WHERE WHAT IT READS IS OF BULK AT MOST 1048576: true; the input reads as it did. -/
def chachaStreamsUptoRow : OpenClaim := { program := "yticoefnojgaplaa", sum := "34a148534dc23a534959e16da3eebd76918307dc98207041fd7b523cfe734388", func := "pawl/pawllaw05.ChachaStreams", spec := "chachaStreams", inPlace := ["math/bits.Add64"], apart := false, narrowed := true }
def ChachaStreamsUptoSaid : Prop := chachaStreamsUptoRow.holds Try.pinned (OpenSpec.upto chachaStreamsSpec)

/-- 'pawllaw05.ChachaTags', WHERE WHAT IT READS IS OF BULK AT MOST 1048576: true; the input reads as it did. -/
def chachaTagsUptoRow : OpenClaim := { program := "yticoefnojgaplaa", sum := "34a148534dc23a534959e16da3eebd76918307dc98207041fd7b523cfe734388", func := "pawl/pawllaw05.ChachaTags", spec := "chachaTags", inPlace := ["math/bits.Add64"], apart := false, narrowed := true }
def ChachaTagsUptoSaid : Prop := chachaTagsUptoRow.holds Try.pinned (OpenSpec.upto chachaTagsSpec)

/-- 'pawllaw05.ChachaSeals', WHERE WHAT IT READS IS OF BULK AT MOST 1048576: true; the input reads as it did. -/
def chachaSealsUptoRow : OpenClaim := { program := "yticoefnojgaplaa", sum := "34a148534dc23a534959e16da3eebd76918307dc98207041fd7b523cfe734388", func := "pawl/pawllaw05.ChachaSeals", spec := "chachaSeals", inPlace := ["math/bits.Add64"], apart := false, narrowed := true }
def ChachaSealsUptoSaid : Prop := chachaSealsUptoRow.holds Try.pinned (OpenSpec.upto chachaSealsSpec)

/-- 'pawllaw05.ChachaOpens', WHERE WHAT IT READS IS OF BULK AT MOST 1048576: true; the input reads as it did. -/
def chachaOpensUptoRow : OpenClaim := { program := "yticoefnojgaplaa", sum := "34a148534dc23a534959e16da3eebd76918307dc98207041fd7b523cfe734388", func := "pawl/pawllaw05.ChachaOpens", spec := "chachaOpens", inPlace := ["math/bits.Add64"], apart := false, narrowed := true }
def ChachaOpensUptoSaid : Prop := chachaOpensUptoRow.holds Try.pinned (OpenSpec.upto chachaOpensSpec)

end Rows
end Go.Proofs.Yticoefnojgaplaa
