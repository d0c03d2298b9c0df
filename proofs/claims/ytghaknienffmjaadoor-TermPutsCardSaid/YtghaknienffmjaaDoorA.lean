/- A nil table: each function of it. -/
import Derived.Test.YtghaknienffmjaaDoorRows
import Derived.WalkKit
import Derived.WalkSpells
import Derived.WalkLawsBesides
import Derived.Lib.SmallJoins
namespace Go.Proofs.YtghaknienffmjaaDoor
open Go.RowKit
set_option maxHeartbeats 400000 in
theorem len_nil (w : World) : Calls Tryd.prog 12 #[.pointer none] w fun e w' => e = .returned (.int .i64 0) ∧ w' = w := by
  go_enter Tryd.func12, Tryd.ntmps12
  go_wp2
  go_ret
  exact ⟨rfl, rfl⟩
theorem info25 : (Tryd.prog.info? 25).map (·.size) = some 4 := by kernel_rfl
theorem results_cell_tmp_row {P : Program} {fn : Func} {p u : Tmp} {ty : TypeId} (h : fn.results = #[.cell p ty, .tmp u]) (tmps : Array Value) (w : World) (g : Nat) (t : TypeId) (cs : Array Value) (fr : Nat × Nat) (d : TypeDesc)
    (hp : tmps.getD p undef = .pointer (some ⟨g, 0, none⟩)) (hg : w.heap[g]? = some (.cells cs t fr))
    (hu : P.underlying ty = some d) (hd : (match d with | .struct _ | .array _ _ => true | _ => false) = true) (hi : (P.info? ty).map (·.size) = some cs.size) :
    (results fn tmps).run P w = .ok (.tuple #[.agg cs, tmps.getD u undef]) w := by
  rw [results_cell_tmp h, hp]
  simp [asAddr, run_loadVar_row w g t ty cs fr d hg hu hd hi]
set_option maxHeartbeats 400000 in
theorem get_nil (i : Int) (w : World) : Calls Tryd.prog 13 #[.pointer none, .int .i64 i] w fun e w' => e = .returned (.tuple #[.agg #[.int .u8 0, .slice none 0 0, .string ⟨#[]⟩, .int .i64 0], .bool false]) ∧ Below w.heap.size w w' := by
  go_enter Tryd.func13, Tryd.ntmps13
  go_wp2
  all_goals exact bodyPost_ret (results_cell_tmp_row Tryd.results13 _ _ w.heap.size 25 _ (0, 0) _ rfl (heap_alloc_new w _) Tryd.underlying25 rfl info25) rfl ⟨rfl, Joins.below_alloc1 _ _⟩
set_option maxHeartbeats 400000 in
theorem put_nil (a b c d : Value) (w : World) : Calls Tryd.prog 11 #[.pointer none, .agg #[a, b, c, d]] w fun e w' => e = .returned (.int .i64 (-1)) ∧ Below w.heap.size w w' := by
  go_enter Tryd.func11, Tryd.ntmps11
  go_wp2
  go_ret
  exact ⟨rfl, Joins.below_alloc1 _ _⟩
set_option maxHeartbeats 400000 in
theorem find_nil (a b c d : Value) (w : World) : Calls Tryd.prog 14 #[.pointer none, .agg #[a, b, c, d]] w fun e w' => e = .returned (.tuple #[.int .i64 0, .bool false]) ∧ Below w.heap.size w w' := by
  go_enter Tryd.func14, Tryd.ntmps14
  go_wp2
  go_ret2
  exact ⟨rfl, Joins.below_alloc1 _ _⟩
end Go.Proofs.YtghaknienffmjaaDoor
