/- A put, with what it leaves alone: for a caller that has rows of its own. -/
import Derived.Test.YtghaknienffmjaaDoorMi
namespace Go.Proofs.YtghaknienffmjaaDoor
open Go.RowKit Go.Maps
/-- What a put leaves: the term's place, the table, and all that isn't the table's as it was. -/
def PutF (w : World) (B tb : Nat) (tv mv : Value) (E : List En) (t : Tm) (e : Ending) (w' : World) : Prop :=
  ∃ j tv' mv' E', e = .returned (.int .i64 (j : Nat)) ∧ Tab w' B tb tv' mv' E' ∧ Below B w w' ∧
    ((E' = E ∧ ∃ h : j < E.length, E[j].1 = t) ∨ (t ∉ E.map (·.1) ∧ j = E.length ∧ ∃ a c, E' = E ++ [(t, a, c)] ∧ ∀ x, a = some x → w.heap.size ≤ x.block)) ∧
    ∀ b, b < w.heap.size → ¬ Foot tb tv mv b → w'.heap[b]? = w.heap[b]? ∧ ¬ Foot tb tv' mv' b
theorem put_frame (t : Tm) (hf : Fit t) (ao : Option Addr) (cap : Nat) (w : World) (hG : Gv w) (hN : Nums w ao t.of) (B tb : Nat) (tv mv : Value) (E : List En) (hT : Tab w B tb tv mv E) (hB : B ≤ w.heap.size) (hE : E.length ≤ 1048576) :
    Calls Tryd.prog 11 #[.pointer (some ⟨tb, 0, none⟩), .agg #[.int .u8 t.k, .slice ao t.of.length cap, .string ⟨t.tx.toArray⟩, .int .i64 t.n]] w (PutF w B tb tv mv E t) := by
  by_cases h : t ∈ E.map (·.1)
  · obtain ⟨x, hx, hxt⟩ := List.mem_map.1 h
    obtain ⟨j, hj, rfl⟩ := List.getElem_of_mem hx
    refine (put_old t hf ao cap w hG hN B tb tv mv E hT j hj hxt).mono fun e w' ⟨h1, h2⟩ => ?_
    exact ⟨j, tv, mv, E, h1, hT.on h2, h2.mono hB, .inl ⟨rfl, hj, hxt⟩, fun b q1 q2 => ⟨h2.block b q1, q2⟩⟩
  · refine (put_new t hf ao cap w hG hN B tb tv mv E hT hB hE h).mono fun e w' ⟨h1, h2, tv', mv', ao', cap', h3, h4, h5⟩ => ?_
    exact ⟨E.length, tv', mv', _, h1, h3, h2, .inr ⟨h, rfl, ao', cap', rfl, h5⟩, h4⟩
/-- A table goes on where a row that is none of its own is written. -/
theorem Tab.grown {w w' : World} {B tb g : Nat} {tv mv : Value} {E : List En} (h : Tab w B tb tv mv E) (hg : w.grownBy w' (some g)) (hF : ¬ Foot tb tv mv g) (hE : ∀ e ∈ E, ∀ a, e.2.1 = some a → e.1.of ≠ [] → a.block ≠ g) : Tab w' B tb tv mv E := by
  have h1 : tv.ownBlock ≠ some g := fun e => hF (.inr (.inl e))
  refine ⟨h.tbB, (hg.block tb h.lt (fun e => hF (.inl (by injection e with e; exact e.symm)))).trans h.row, h.own.kept hg (.inr h1), h.ne, fun e he => ?_, h.nodup, ?_⟩
  · obtain ⟨q1, q2, q3⟩ := h.each e he
    refine ⟨q1, ⟨fun j hj => ?_⟩, q3⟩
    obtain ⟨b, off, r1, r2, r3⟩ := q2.at_ j hj
    have hne := hE e he _ r1 (fun e => by rw [e] at hj; exact absurd hj (Nat.not_lt_zero _))
    exact ⟨b, off, r1, Nat.lt_of_lt_of_le r2 hg.size, (World.cell?_of_block (w := w) (a := ⟨b, off + j, none⟩) (hg.block b r2 (fun e => hne (by injection e)))).trans r3⟩
  · rcases h.mp with q | ⟨mb, D, q1, q2, q3, q4, q5, q6⟩
    · exact .inl q
    · exact .inr ⟨mb, D, q1, q2, q3, q4, q5.kept hg (fun e => hF (.inr (.inr (by injection e with e; rw [q1, e])))), q6⟩
end Go.Proofs.YtghaknienffmjaaDoor
