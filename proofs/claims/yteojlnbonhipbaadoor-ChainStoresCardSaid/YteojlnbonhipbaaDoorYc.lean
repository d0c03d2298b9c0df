/- A store: Put. -/
import Derived.Test.YteojlnbonhipbaaDoorYb
namespace Go.Proofs.YteojlnbonhipbaaDoor
open Go.RowKit Go.Maps
theorem info47b : (Tryd.prog.info? 47).map (fun i => (i.zero, i.size, i.bytes)) = some (some (.agg #[.slice none 0 0, .int .u32 0, .slice none 0 0]), 3, 56) := by kernel_rfl
theorem cell_three_new (w : World) (a b c : Value) (t : TypeId) : ∀ j u, [a, b, c][j]? = some u → (w.alloc (.cells #[a, b, c] t)).cell? ((⟨w.heap.size, 0, none⟩ : Addr).add j) = some u := by
  intro j u h
  rw [addr_mid, Nat.zero_add, cell_of_row _ _ _ _ _ _ (heap_alloc_new w _), ← h]
  simp
/-- The keys, one put: the oldest goes where there are too many. -/
def putE (E : List Se) (x : Sk) (s : Sl) : List Se := if 32 < (rid E x.of x.n).length + 1 then (rid E x.of x.n ++ [(x, s)]).drop 1 else rid E x.of x.n ++ [(x, s)]
set_option maxHeartbeats 4000000 in
theorem put_nil (w : World) (xs : Array Value) (B : Nat) (hB : B ≤ w.heap.size) : Calls Tryd.prog 15 #[.pointer none, .agg xs] w fun e w' => e = .returned (.tuple #[]) ∧ Below B w w' := by
  go_enter Tryd.func15, Tryd.ntmps15
  go_wp2
  all_goals (
    refine bodyPost_ret (results_none rfl _ _ _) rfl ?_
    exact ⟨rfl, (Joins.below_alloc1 _ _).mono hB⟩)
/-- A key behind a store's others: in the row, and in the struct. -/
theorem sto_app {w w1 : World} {B sb : Nat} {v v1 : Value} {E : List Se} {x : Sk} {s : Sl} (h : Sto w B sb v E) (hx : By w s.oa x.of ∧ By w s.ka x.key) (hown : w1.ownsRow B 47 3 v1 (E.length + 1) (sflat E ++ skV (x, s))) (hg : w.grownBy w1 v.ownBlock) :
    ∃ cs, w1.heap[sb]? = some (.cells #[cs] 38 (0, 0)) ∧ cs = v ∧ Sto (w1.setCell ⟨sb, 0, none⟩ v1) B sb v1 (E ++ [(x, s)]) := by
  have hne : v.ownBlock ≠ some sb := fun e => by
    rcases h.own.2 with ⟨rfl, -⟩ | ⟨g, cap, cur, rfl, -, hc, -⟩
    · cases e
    · injection e with e
      have e : g = sb := e
      rw [e, h.row] at hc
      cases hc
  have hsl := (Array.getElem?_eq_some_iff.1 h.row).1
  have hr : w1.heap[sb]? = some (.cells #[v] 38 (0, 0)) := (hg.block sb hsl (fun e => hne e.symm)).trans h.row
  have k := Kp.set (i := 0) hr v1
  have hk : Kp [some 47] w w1 := by
    refine ⟨hg.size, fun b o hb ho => ?_⟩
    refine (hg.block b (Array.getElem?_eq_some_iff.1 hb).1 (fun e => ?_)).trans hb
    rcases h.own.2 with ⟨rfl, -⟩ | ⟨g, cap, cur, rfl, -, hc, -⟩
    · cases e
    · injection e with e
      have e : b = g := e
      rw [e, hc] at hb
      cases hb
      exact ho (show some 47 ∈ [some 47] by decide)
  refine ⟨v, hr, rfl, ⟨h.sbB, heap_setCell_same w1 sb 0 _ 38 v1 hr, ?_, fun e he => ?_⟩⟩
  · rw [List.length_append, List.length_singleton, sflat_snoc]
    exact k.owns hown (by decide)
  · rcases List.mem_append.1 he with he | he
    · have h2 := h.each e he
      exact ⟨(h2.1.kp hk (by decide)).kp k (by decide), (h2.2.kp hk (by decide)).kp k (by decide)⟩
    · obtain rfl := List.mem_singleton.1 he
      exact ⟨(hx.1.kp hk (by decide)).kp k (by decide), (hx.2.kp hk (by decide)).kp k (by decide)⟩
end Go.Proofs.YteojlnbonhipbaaDoor
