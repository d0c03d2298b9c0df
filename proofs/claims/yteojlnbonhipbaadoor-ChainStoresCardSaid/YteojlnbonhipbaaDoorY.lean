/- A key struck out of a store's row. -/
import Derived.Test.YteojlnbonhipbaaDoorX
namespace Go.Proofs.YteojlnbonhipbaaDoor
open Go.RowKit Go.Maps
theorem setCells_row (g : Nat) (t : TypeId) : ∀ (vs : List Value) (o : Nat) (w : World) (cur : Array Value), w.heap[g]? = some (.cells cur t (0, 0)) → o + vs.length ≤ cur.size →
    ∃ cur', (w.setCells g o vs).heap[g]? = some (.cells cur' t (0, 0)) ∧ cur'.size = cur.size ∧ (∀ j, j < o → cur'[j]? = cur[j]?) ∧ (∀ j, j < vs.length → cur'[o + j]? = vs[j]?) ∧ (w.setCells g o vs).heap.size = w.heap.size ∧ (∀ b, b ≠ g → (w.setCells g o vs).heap[b]? = w.heap[b]?) ∧ (w.setCells g o vs).os = w.os ∧ (w.setCells g o vs).tape = w.tape ∧ (w.setCells g o vs).output = w.output
  | [], o, w, cur, h, _ => ⟨cur, h, rfl, fun _ _ => rfl, fun j hj => absurd hj (Nat.not_lt_zero _), rfl, fun _ _ => rfl, rfl, rfl, rfl⟩
  | v :: r, o, w, cur, h, hs => by
    simp only [List.length_cons] at hs
    have h1 := heap_setCell_same w g o cur t v h
    obtain ⟨cur', p1, p2, p3, p4, p5, p6, p7, p8, p9⟩ := setCells_row g t r (o + 1) (w.setCell ⟨g, o, none⟩ v) _ h1 (by simp; omega)
    refine ⟨cur', p1, by simpa using p2, fun j hj => ?_, fun j hj => ?_, p5.trans (by simp [World.setCell]), fun b hb => (p6 b hb).trans (Below.heap_setCell _ _ _ _ hb), p7, p8, p9⟩
    · rw [p3 j (by omega), Array.getElem?_setIfInBounds_ne (by omega)]
    · match j, hj with
      | 0, _ =>
        rw [Nat.add_zero, p3 o (by omega), Array.getElem?_setIfInBounds_self_of_lt (by omega)]
        rfl
      | j + 1, hj =>
        simp only [List.length_cons] at hj
        rw [show o + (j + 1) = o + 1 + j by omega, p4 j (by omega)]
        rfl
theorem run_clear47 (w : World) (ty : TypeId) (b o c : Nat) (hc : ∀ j, j < 3 → (w.cell? ⟨b, o + j, none⟩).isSome = true) (hf : ∀ j, j < 3 → w.frozen? ⟨b, o + j, none⟩ = false) :
    (Builtin.clear_ #[36] ty #[.slice (some ⟨b, o, none⟩) 1 c]).run Tryd.prog w = .ok (.tuple #[]) (w.setCells b o [.slice none 0 0, .int .u32 0, .slice none 0 0]) := by
  have hzc : (Builtin.zeroCells (Value.agg #[.slice none 0 0, .int .u32 0, .slice none 0 0]).cells 1).toList = [.slice none 0 0, .int .u32 0, .slice none 0 0] := by kernel_rfl
  have hst := run_storeCells_cells (P := Tryd.prog) b o [.slice none 0 0, .int .u32 0, .slice none 0 0] 0 w (by simpa using hc) (by simpa using hf) (by intro v hv'; simp at hv'; rcases hv' with rfl | rfl | rfl <;> rfl)
  simp only [Nat.add_zero] at hst
  simp [Builtin.clear_, run_underlying Tryd.underlying36, hzc, hst]
end Go.Proofs.YteojlnbonhipbaaDoor
