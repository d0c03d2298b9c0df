/- What two terms agree on. -/
import Derived.Test.YteojlnbonhipbaaDoorMh
namespace Go.Proofs.YteojlnbonhipbaaDoor
open Go.RowKit Go.Maps
/-- What a put leaves: the table has the term at place j. -/
def PutR (w : World) (B tb : Nat) (E : List En) (t : Tm) (e : Ending) (w' : World) : Prop :=
  ∃ j tv mv E', e = .returned (.int .i64 (j : Nat)) ∧ Tab w' B tb tv mv E' ∧ Below B w w' ∧ E <+: E' ∧ E'.length ≤ E.length + 1 ∧ ∃ h : j < E'.length, E'[j].1 = t
theorem put_any (t : Tm) (hf : Fit t) (ao : Option Addr) (cap : Nat) (w : World) (hG : Gv w) (hN : Nums w ao t.of) (B tb : Nat) (tv mv : Value) (E : List En) (hT : Tab w B tb tv mv E) (hB : B ≤ w.heap.size) (hE : E.length ≤ 1048576) :
    Calls Tryd.prog 93 #[.pointer (some ⟨tb, 0, none⟩), .agg #[.int .u8 t.k, .slice ao t.of.length cap, .string ⟨t.tx.toArray⟩, .int .i64 t.n]] w (PutR w B tb E t) := by
  by_cases h : t ∈ E.map (·.1)
  · obtain ⟨x, hx, hxt⟩ := List.mem_map.1 h
    obtain ⟨j, hj, rfl⟩ := List.getElem_of_mem hx
    refine (put_old t hf ao cap w hG hN B tb tv mv E hT j hj hxt).mono fun e w' ⟨h1, h2⟩ => ?_
    exact ⟨j, tv, mv, E, h1, hT.on h2, h2.mono hB, List.prefix_rfl, Nat.le_succ _, hj, hxt⟩
  · refine (put_new t hf ao cap w hG hN B tb tv mv E hT hB hE h).mono fun e w' ⟨h1, h2, tv', mv', ao', cap', h3, _⟩ => ?_
    exact ⟨E.length, tv', mv', _, h1, h3, h2, List.prefix_append _ _, by simp, by simp, by simp⟩
theorem PutR.of {w w2 w' : World} {B tb : Nat} {E : List En} {t : Tm} {e : Ending} (h : PutR w2 B tb E t e w') (hb : Below B w w2) : PutR w B tb E t e w' := by
  obtain ⟨j, tv, mv, E', h1, h2, h3, h4⟩ := h
  exact ⟨j, tv, mv, E', h1, h2, hb.trans h3, h4⟩
theorem nums_two (w : World) (a b : Int) : Nums (w.alloc (.cells #[.int .i64 a, .int .i64 b] 3)) (some ⟨w.heap.size, 0, none⟩) [a, b] := by
  refine ⟨fun j hj => ⟨w.heap.size, 0, rfl, by simp, ?_⟩⟩
  rw [Nat.zero_add, cell_of_row _ _ _ _ _ _ (heap_alloc_new w _)]
  match j, hj with
  | 0, _ => rfl
  | 1, _ => rfl
theorem nums_one (w : World) (a : Int) : Nums (w.alloc (.cells #[.int .i64 a] 3)) (some ⟨w.heap.size, 0, none⟩) [a] := by
  refine ⟨fun j hj => ⟨w.heap.size, 0, rfl, by simp, ?_⟩⟩
  rw [Nat.zero_add, cell_of_row _ _ _ _ _ _ (heap_alloc_new w _)]
  match j, hj with
  | 0, _ => rfl
/-- A small term may be put. -/
theorem fit_of (k n : Int) (of : List Int) (hk0 : 0 ≤ k) (hk1 : k ≤ 255) (hn : Tm.I64 n) (hof : ∀ i ∈ of, Tm.I64 i) (hl : of.length ≤ 2) : Fit ⟨k, of, [], n⟩ :=
  ⟨⟨hk0, hk1, hn, hof⟩, by show of.length ≤ _; omega, by show (0 : Nat) ≤ _; omega⟩
end Go.Proofs.YteojlnbonhipbaaDoor
