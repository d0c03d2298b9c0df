/- Layer 2's reference: what lies where while the blocks are taken in. -/
import Derived.Test.YtiodmmjjoodmoaaDoorAh
namespace Go.Proofs.YtiodmmjjoodmoaaDoor
open Go.RowKit

/-- The numbers of the rounds, the bytes, the state: each in its block. -/
structure Sits (w : World) (base gk gh ch gp : Nat) (L s : List Int) (wq : World) : Prop where
  kk : At wq .u32 gk 0 KK
  kl : gk < wq.heap.size
  pp : At wq .u8 gp 0 L
  pl : gp < wq.heap.size
  hh : wq.ownsRow base 39 1 (.slice (some ⟨gh, 0, none⟩) 8 ch) 8 (s.map (Value.int .u32))
  bb : Below w.heap.size w wq
section
variable {w : World} {base gk gh ch gp : Nat} {L s : List Int} {wq w' : World}
theorem Sits.below (h : Sits w base gk gh ch gp L s wq) (hb : Below wq.heap.size wq w') : Sits w base gk gh ch gp L s w' :=
  ⟨h.kk.below hb h.kl, Nat.lt_of_lt_of_le h.kl hb.size, h.pp.below hb h.pl, Nat.lt_of_lt_of_le h.pl hb.size, own_kept h.hh hb, h.bb.trans (hb.mono h.bb.size)⟩
theorem Sits.put (h : Sits w base gk gh ch gp L s wq) (h1 : gk ≠ gh) (h2 : gp ≠ gh) (h3 : w.heap.size ≤ gh) (j : Nat) (x : Int) : Sits w base gk gh ch gp L (s.set j x) (wq.setCell ⟨gh, j, none⟩ (.int .u32 x)) := by
  obtain ⟨h4, h5⟩ := h.hh.stored j (.int .u32 x)
  have ho : Only gh wq (wq.setCell ⟨gh, j, none⟩ (.int .u32 x)) := h5
  refine ⟨ho.at h.kk h.kl h1, Nat.lt_of_lt_of_le h.kl ho.size, ho.at h.pp h.pl h2, Nat.lt_of_lt_of_le h.pl ho.size, ?_, below_of_only h.bb ho h3 h.bb.size⟩
  rw [List.map_set]; exact h4
theorem Sits.drewN (h : Sits w base gk gh ch gp L s wq) (n : Nat) : Sits w base gk gh ch gp L s (wq.drewN n) := ⟨h.kk, h.kl, h.pp, h.pl, h.hh, ⟨h.bb.os, h.bb.tape, h.bb.output, h.bb.size, h.bb.block⟩⟩
theorem Sits.hcell (h : Sits w base gk gh ch gp L s wq) (hs : s.length = 8) (j : Nat) (hj : j < 8) : wq.cell? ⟨gh, j, none⟩ = some (.int .u32 (s.getD j 0)) := by
  rw [h.hh.cellAt j (by omega)]
  simp [show j < s.length by omega]
theorem Sits.hfree (h : Sits w base gk gh ch gp L s wq) (j : Nat) : wq.frozen? ⟨gh, j, none⟩ = false := h.hh.frozenAt j
theorem Sits.kcell (h : Sits w base gk gh ch gp L s wq) (j : Nat) (hj : j < 64) : wq.cell? ⟨gk, j, none⟩ = some (.int .u32 (KK.getD j 0)) := by
  have := h.kk j (by rw [length_KK]; exact hj)
  rwa [Nat.zero_add] at this
theorem Sits.pcell (h : Sits w base gk gh ch gp L s wq) (j : Nat) (hj : j < L.length) : wq.cell? ⟨gp, j, none⟩ = some (.int .u8 (L.getD j 0)) := by
  have := h.pp j hj
  rwa [Nat.zero_add] at this
end
theorem Mine.cell {k : IntKind} {e : TypeId} {w0 w : World} {g c n : Nat} {xs : List Int} (h : Mine k e w0 w (.slice (some ⟨g, 0, none⟩) n c) xs) (hn : n = xs.length) (j : Nat) (hj : j < xs.length) : w.cell? ⟨g, j, none⟩ = some (.int k (xs.getD j 0)) := by
  subst hn
  rw [h.1.cellAt j (by omega)]
  simp [hj]
theorem Mine.form2 {k : IntKind} {e : TypeId} {w0 w : World} {v : Value} {xs : List Int} (h : Mine k e w0 w v xs) (hn : 0 < xs.length) : ∃ g c, v = .slice (some ⟨g, 0, none⟩) xs.length c ∧ w0.heap.size ≤ g ∧ g < w.heap.size := own32_form h.1 hn
theorem Mine.drewN {k : IntKind} {e : TypeId} {w0 w : World} {v : Value} {xs : List Int} (h : Mine k e w0 w v xs) (n : Nat) : Mine k e w0 (w.drewN n) v xs := ⟨h.1, ⟨h.2.os, h.2.tape, h.2.output, h.2.size, h.2.block⟩⟩
theorem at_of_own {w : World} {base g c n : Nat} {e : TypeId} {k : IntKind} {l : List Int} (h : w.ownsRow base e 1 (.slice (some ⟨g, 0, none⟩) n c) n (l.map (Value.int k))) : At w k g 0 l := by
  intro j hj
  have hl := h.1
  rw [List.length_map] at hl
  rw [Nat.zero_add, h.cellAt j (by omega)]
  simp [hj]

/-- One round, as the reference writes it. -/
def asum (s : Sh.S) (i : Nat) : Value := .int .u32 (s.cells.getD i 0)
end Go.Proofs.YtiodmmjjoodmoaaDoor
