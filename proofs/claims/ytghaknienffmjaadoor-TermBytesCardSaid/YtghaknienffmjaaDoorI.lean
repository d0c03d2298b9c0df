/- What the cards of layer 7's laws share: what start-up laid, and a term that came in. -/
import Derived.Test.YtghaknienffmjaaDoorCards
import Derived.Test.YtghaknienffmjaaDoorTie
import Derived.Test.YtghaknienffmjaaDoorH
import Derived.WalkKit
import Derived.ProofKit
import Derived.OpenShut
import Derived.ChangeOld
import Derived.Below
import Derived.Deep.DeepHandedRow
import Derived.Lib.LaidTab
import Derived.Lib.SmallJoins
import Derived.Shelf.Vars
namespace Go.Proofs.YtghaknienffmjaaDoor
open Go.ChangeShapes Go.WideShapes Go.ChangeAt Go.RowKit Go.Joins Go.Deep
set_option linter.unusedVariables false
set_option maxRecDepth 100000

theorem own : ownKnob Tryd.prog.godebug = none := by kernel_rfl
theorem laidOut : laidOutB Tryd.prog = true := by kernel_rfl
theorem cells25 : Tryd.prog.cellsOf 25 = 4 := by kernel_rfl
theorem cells3 : Tryd.prog.cellsOf 3 = 1 := by kernel_rfl

/-- So many blocks has the settled world. -/
noncomputable def low : Nat := (World.holding Tryd.prog default ⟨#[], #[], []⟩).heap.size
/-- A variable's block, holding these. -/
def setTab (C : Array Value) : Obj → Obj
  | .cells _ t frozen => .cells C t frozen
  | o => o
def nums {H : Type} : DataW H → Array Value
  | .agg l => (l.map fun d => match d with | .lit (.int k x) => Value.int k x | _ => .int .u8 0).toArray
  | _ => #[]
/-- A world that holds what start-up laid: three tables, two errors. -/
noncomputable def laidWorld (os : Os) : World :=
  let w := World.holding Tryd.prog os ⟨#[.cells #[.string ⟨#[105, 110, 118, 97, 108, 105, 100, 32, 115, 121, 110, 116, 97, 120]⟩] 108, .cells #[.string ⟨#[118, 97, 108, 117, 101, 32, 111, 117, 116, 32, 111, 102, 32, 114, 97, 110, 103, 101]⟩] 108], #[], []⟩
  { w with heap := ((((w.heap.modify 0 (setTab (nums (H := Unit) Rows.laid_internal_strconv_uint64pow10))).modify 2 (setTab #[.iface 106 (.pointer (some ⟨low, 0, none⟩))])).modify 3 (setTab #[.iface 106 (.pointer (some ⟨low + 1, 0, none⟩))])).modify 4 (setTab (nums (H := Unit) Rows.laid_math_bits_deBruijn32tab))).modify 5 (setTab (nums (H := Unit) Rows.laid_math_bits_deBruijn64tab)) }

/-- The library's bound holds some number. -/
theorem maxLen_some {W : World} (h : W.ShapedOpen Tryd.prog) : ∃ m, W.cell? ⟨1, 0, none⟩ = some (.int .i64 m) :=
  cell_of_shapedOpen_int (g := 1) (t := 3) (zero := #[.int .i64 0]) h (of_decide_eq_true (by kernel_rfl)) (by kernel_rfl) rfl (by kernel_rfl) (by kernel_rfl) Tryd.underlying3

/-- A term that came in: its slice, its text. -/
theorem term_open {H : Type} {enc : TypeId × Value → H} {w : World} {r : Reach} {b0 base : Nat} {spare : Nat → Bool} {held : Bool} {v : Value} {d : DataW H} {p : List MemPlace}
    (hv : Value.okWide Tryd.prog w r b0 25 v) (h : DataW.Trod enc Tryd.prog w base spare held 25 v d p) :
    ∃ (k n : Value) (ao : Option Addr) (len cap : Nat) (s : ByteArray), v = .agg #[k, .slice ao len cap, .string s, n] := by
  obtain ⟨k, o, s, n, y0, y1, y2, y3, fuel, rfl, -, -, -, h1, h2, -⟩ := open_agg4 Tryd.underlying25 (by kernel_rfl) cells25 hv h
  obtain ⟨s', hs, -, -⟩ := DataW.trod_string Tryd.underlying9 h2
  obtain rfl : s = .string s' := by simpa using hs
  rcases open_ints Tryd.underlying23 Tryd.underlying3 cells3 h1 with ⟨hcs, _⟩ | ⟨x, l, c, zs, hcs, _⟩
  · obtain rfl : o = .slice none 0 0 := by simpa using hcs
    exact ⟨k, n, none, 0, 0, s', rfl⟩
  · obtain rfl : o = .slice (some x) l c := by simpa using hcs
    exact ⟨k, n, some x, l, c, s', rfl⟩
end Go.Proofs.YtghaknienffmjaaDoor
