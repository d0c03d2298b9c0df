/- A put, with what it leaves alone: for a caller that has rows of its own. -/
import Derived.Test.YteojlnbonhipbaaDoorMi
namespace Go.Proofs.YteojlnbonhipbaaDoor
open Go.RowKit Go.Maps
/-- What a put leaves: the term's place, the table, and all that isn't the table's as it was. -/
def PutF (w : World) (B tb : Nat) (tv mv : Value) (E : List En) (t : Tm) (e : Ending) (w' : World) : Prop :=
  ∃ j tv' mv' E', e = .returned (.int .i64 (j : Nat)) ∧ Tab w' B tb tv' mv' E' ∧ Below B w w' ∧
    ((E' = E ∧ ∃ h : j < E.length, E[j].1 = t) ∨ (t ∉ E.map (·.1) ∧ j = E.length ∧ ∃ a c, E' = E ++ [(t, a, c)] ∧ ∀ x, a = some x → w.heap.size ≤ x.block)) ∧
    ∀ b, b < w.heap.size → ¬ Foot tb tv mv b → w'.heap[b]? = w.heap[b]? ∧ ¬ Foot tb tv' mv' b
theorem put_frame (t : Tm) (hf : Fit t) (ao : Option Addr) (cap : Nat) (w : World) (hG : Gv w) (hN : Nums w ao t.of) (B tb : Nat) (tv mv : Value) (E : List En) (hT : Tab w B tb tv mv E) (hB : B ≤ w.heap.size) (hE : E.length ≤ 1048576) :
    Calls Tryd.prog 93 #[.pointer (some ⟨tb, 0, none⟩), .agg #[.int .u8 t.k, .slice ao t.of.length cap, .string ⟨t.tx.toArray⟩, .int .i64 t.n]] w (PutF w B tb tv mv E t) := by
  by_cases h : t ∈ E.map (·.1)
  · obtain ⟨x, hx, hxt⟩ := List.mem_map.1 h
    obtain ⟨j, hj, rfl⟩ := List.getElem_of_mem hx
    refine (put_old t hf ao cap w hG hN B tb tv mv E hT j hj hxt).mono fun e w' ⟨h1, h2⟩ => ?_
    exact ⟨j, tv, mv, E, h1, hT.on h2, h2.mono hB, .inl ⟨rfl, hj, hxt⟩, fun b q1 q2 => ⟨h2.block b q1, q2⟩⟩
  · refine (put_new t hf ao cap w hG hN B tb tv mv E hT hB hE h).mono fun e w' ⟨h1, h2, tv', mv', ao', cap', h3, h4, h5⟩ => ?_
    exact ⟨E.length, tv', mv', _, h1, h3, h2, .inr ⟨h, rfl, ao', cap', rfl, h5⟩, h4⟩
end Go.Proofs.YteojlnbonhipbaaDoor
