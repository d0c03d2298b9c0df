/- A list of keys: one more behind it; its head, and its rest. -/
import Derived.Test.YteojlnbonhipbaaDoorLb
import Derived.ArgAppend
namespace Go.Proofs.YteojlnbonhipbaaDoor
open Go.RowKit Go.Maps
theorem below_none {w w' : World} (h : w.grownBy w' none) : Below w.heap.size w w' := ⟨h.os, h.tape, h.output, h.size, fun k hk => h.block k hk (by simp)⟩
theorem lst_own {w : World} {B : Nat} {v : Value} {M : List Se} (h : w.ownsRow B 47 3 v M.length (sflat M)) (he : ∀ e ∈ M, By w e.2.oa e.1.of ∧ By w e.2.ka e.1.key) : Lst w B v M := by
  refine ⟨?_, he⟩
  rcases h.2 with ⟨rfl, h0⟩ | ⟨g, cap, cur, rfl, hg, hc, h1, h2, h3, h4⟩
  · exact .inl ⟨rfl, List.length_eq_zero_iff.1 h0⟩
  · refine .inr ⟨g, 0, cap, cur, rfl, hg, hc, h1, by omega, fun j hj => ?_⟩
    rw [← h4, List.getElem?_take_of_lt hj, Array.getElem?_toList, Nat.zero_add]
/-- What an append to a list leaves. -/
structure Psh (B : Nat) (v : Value) (w w' : World) (v' : Value) (M : List Se) : Prop where
  fr : ∀ b, b < w.heap.size → v.ownBlock ≠ some b → w'.heap[b]? = w.heap[b]?
  lst : Lst w' B v' M
  loc : v'.ownBlock = v.ownBlock ∨ ∃ g, v'.ownBlock = some g ∧ w.heap.size ≤ g
  below : Below B w w'
  kp : Kp [some 47] w w'
theorem skV_one (e : Se) : ∀ u ∈ skV e, u.oneCell' = true := by
  intro u hu
  simp only [skV, List.mem_cons, List.not_mem_nil, or_false] at hu
  rcases hu with rfl | rfl | rfl <;> rfl
theorem run_push {w : World} {B : Nat} {v : Value} {M : List Se} (h : Lst w B v M) (ty : TypeId) (e : Se) (ad : Addr) (c : Nat) (hnews : ∀ j u, (skV e)[j]? = some u → w.cell? (ad.add j) = some u) (he : By w e.2.oa e.1.of ∧ By w e.2.ka e.1.key) (hl : M.length ≤ 1000) (hB : B ≤ w.heap.size) :
    ∃ v' w', (Builtin.append_ #[36, 36] ty #[v, .slice (some ad) 1 c]).run Tryd.prog w = .ok v' w' ∧ Psh B v w w' v' (M ++ [e]) := by
  obtain ⟨i0, hi, hz0, hz1, hz2⟩ := info_parts info47b
  have new : ∀ v' w', w'.ownsRow w.heap.size 47 3 v' (M.length + 1) (sflat M ++ skV e) → w.grownBy w' none → Psh B v w w' v' (M ++ [e]) := by
    intro v' w' h1 h2
    have hb := below_none h2
    have hk := Kp.of_below [] hb
    refine ⟨fun b hb1 _ => hb.block b hb1, lst_own (by rw [List.length_append, List.length_singleton, sflat_snoc]; exact ⟨h1.1, h1.2.imp id fun ⟨g, cap, cur, q1, q2, q3⟩ => ⟨g, cap, cur, q1, Nat.le_trans hB q2, q3⟩⟩) (fun x hx => ?_), ?_, hb.mono hB, Kp.of_below _ hb⟩
    · rcases List.mem_append.1 hx with hx | hx
      · exact ⟨(h.each x hx).1.kp hk (List.not_mem_nil), (h.each x hx).2.kp hk (List.not_mem_nil)⟩
      · obtain rfl := List.mem_singleton.1 hx
        exact ⟨he.1.kp hk (List.not_mem_nil), he.2.kp hk (List.not_mem_nil)⟩
    · rcases h1.2 with ⟨-, h0⟩ | ⟨g, cap, cur, rfl, hg, -⟩
      · omega
      · exact .inr ⟨g, rfl, hg⟩
  rcases h.at_ with ⟨rfl, rfl⟩ | ⟨g, off, cap, cur, rfl, hg, hc, h1, h2, h3⟩
  · obtain ⟨v', w', hrun, r1, r2, -⟩ := run_append_own_at (P := Tryd.prog) w w.heap.size 36 ty 47 i0 _ 3 56 Tryd.underlying36 hi hz0 hz1 hz2 rfl (by decide) (.slice none 0 0) 0 [] (World.ownsRow_nil w _ 47 3) ad 1 c (skV e) rfl hnews (skV_one e) (by decide) (by decide) (Nat.le_refl _)
    exact ⟨v', w', hrun, new v' w' r1 r2⟩
  · have hcw : ∀ j, w.cell? ⟨g, j, none⟩ = cur[j]? := fun j => cell_of_row w g j cur 47 (0, 0) hc
    by_cases hr : M.length + 1 ≤ cap
    · have hrun := run_append_room_cells (P := Tryd.prog) w 36 ty 47 i0 Tryd.underlying36 hi g off M.length cap ad 1 c (skV e) (by rw [hz1]; rfl) hnews (skV_one e) hr
        (fun j hj => by rw [hcw, hz1, Array.getElem?_eq_getElem (by have : (skV e).length = 3 := rfl; omega)]; rfl)
        (fun j hj => by simp [World.frozen?, hc])
      rw [hz1] at hrun
      obtain ⟨cur', p1, p2, p3, p4, p5, p6, p7, p8, p9⟩ := setCells_row g 47 (skV e) (off + M.length * 3) w cur hc (by show off + M.length * 3 + 3 ≤ _; omega)
      have hk : Kp [some 47] w (w.setCells g (off + M.length * 3) (skV e)) := ⟨by rw [p5]; exact Nat.le_refl _, fun b o hb ho => by
        have hne : b ≠ g := fun e => by
          rw [e, hc] at hb
          cases hb
          exact ho (show some 47 ∈ [some 47] by decide)
        rw [p6 b hne]
        exact hb⟩
      refine ⟨_, _, hrun, fun b _ hb => p6 b (fun e => hb (by rw [e]; rfl)), ⟨.inr ⟨g, off, cap, cur', by rw [List.length_append, List.length_singleton], hg, p1, by rw [List.length_append, List.length_singleton]; exact hr, by rw [p2]; exact h2, fun j hj => ?_⟩, fun x hx => ?_⟩, .inl rfl, ⟨p7, p8, p9, by rw [p5]; exact Nat.le_refl _, fun b hb => p6 b (by omega)⟩, hk⟩
      · rw [List.length_append, List.length_singleton] at hj
        have hsl := sflat_len M
        rw [sflat_snoc]
        by_cases hj0 : j < M.length * 3
        · rw [p3 _ (by omega), h3 j hj0, List.getElem?_append_left (by omega)]
        · obtain ⟨t, rfl⟩ : ∃ t, j = M.length * 3 + t := ⟨j - M.length * 3, by omega⟩
          rw [← Nat.add_assoc, p4 t (by show t < 3; omega), List.getElem?_append_right (by omega), hsl, Nat.add_sub_cancel_left]
      · rcases List.mem_append.1 hx with hx | hx
        · exact ⟨(h.each x hx).1.kp hk (by decide), (h.each x hx).2.kp hk (by decide)⟩
        · obtain rfl := List.mem_singleton.1 hx
          exact ⟨he.1.kp hk (by decide), he.2.kp hk (by decide)⟩
    · obtain ⟨v', w', hrun, r1, r2⟩ := run_append_arg_grows (P := Tryd.prog) w 36 ty 47 i0 _ 3 56 Tryd.underlying36 hi hz0 hz1 hz2 rfl (by decide) ⟨g, off, none⟩ M.length cap (sflat M) (sflat_len M) (fun j u hu => by
          have hj : j < M.length * 3 := by
            have := (List.getElem?_eq_some_iff.1 hu).1
            rwa [sflat_len] at this
          rw [addr_mid, hcw, h3 j hj]; exact hu) ad 1 c (skV e) rfl hnews (by omega) (by unfold maxLen; omega) (by omega)
      exact ⟨v', w', hrun, new v' w' r1 r2⟩
/-- A row of the call's own, and the rest of a list behind it. -/
theorem run_rest {w : World} {B : Nat} {v u : Value} {M R : List Se} (k : Nat) (hu : w.ownsRow B 47 3 u R.length (sflat R)) (hR : ∀ e ∈ R, By w e.2.oa e.1.of ∧ By w e.2.ka e.1.key) (h : Lst w B v M) (ty : TypeId) (hk : k ≤ M.length) (ad : Addr) (c : Nat)
    (hnews : ∀ j x, (sflat (M.drop k))[j]? = some x → w.cell? (ad.add j) = some x) (hl : M.length ≤ 1000) (hlR : R.length ≤ 1000) (hB : B ≤ w.heap.size) :
    ∃ v' w', (Builtin.append_ #[36, 36] ty #[u, .slice (some ad) (M.length - k) c]).run Tryd.prog w = .ok v' w' ∧ Psh B u w w' v' (R ++ M.drop k) := by
  obtain ⟨i0, hi, hz0, hz1, hz2⟩ := info_parts info47b
  obtain ⟨v', w', hrun, r1, r2, -, r3⟩ := run_append_own_at (P := Tryd.prog) w B 36 ty 47 i0 _ 3 56 Tryd.underlying36 hi hz0 hz1 hz2 rfl (by decide) u R.length (sflat R) hu ad (M.length - k) c (sflat (M.drop k)) (by rw [sflat_len, List.length_drop]) hnews (sflat_one _) (by unfold maxLen; omega) (by omega) hB
  have hk47 : Kp [some 47] w w' := by
    refine ⟨r2.size, fun b o hb ho => ?_⟩
    refine (r2.block b (Array.getElem?_eq_some_iff.1 hb).1 (fun e => ?_)).trans hb
    rcases hu.2 with ⟨rfl, -⟩ | ⟨g, cap, cur, rfl, -, hc, -⟩
    · cases e
    · injection e with e
      have e : b = g := e
      rw [e, hc] at hb
      cases hb
      exact ho (show some 47 ∈ [some 47] by decide)
  refine ⟨v', w', hrun, fun b hb hn => r2.block b hb (fun e => hn e.symm), lst_own (by rw [List.length_append, List.length_drop, sflat_app]; exact r1) (fun x hx => ?_), ?_, (Below.grown (Below.refl B w) r2 hB (fun k hk => (World.ownsRow.lt hu _ hk).1)), hk47⟩
  · rcases List.mem_append.1 hx with hx | hx
    · exact ⟨(hR x hx).1.kp hk47 (by decide), (hR x hx).2.kp hk47 (by decide)⟩
    · have := h.each x (List.mem_of_mem_drop hx)
      exact ⟨this.1.kp hk47 (by decide), this.2.kp hk47 (by decide)⟩
  · exact r3.imp id fun e => ⟨_, e, Nat.le_refl _⟩
/-- The head of a list. -/
theorem run_head {w : World} {B : Nat} {M : List Se} (k : Nat) (ty : TypeId) (hk : k ≤ M.length) (ad : Addr) (c : Nat)
    (hnews : ∀ j x, (sflat (M.take k))[j]? = some x → w.cell? (ad.add j) = some x) (hl : M.length ≤ 1000) (hB : B ≤ w.heap.size) :
    ∃ v' w', (Builtin.append_ #[36, 36] ty #[.slice none 0 0, .slice (some ad) k c]).run Tryd.prog w = .ok v' w' ∧ w'.ownsRow B 47 3 v' (M.take k).length (sflat (M.take k)) ∧ Below w.heap.size w w' ∧ (∀ b, v'.ownBlock = some b → w.heap.size ≤ b) := by
  obtain ⟨i0, hi, hz0, hz1, hz2⟩ := info_parts info47b
  have hlk : (M.take k).length = k := by rw [List.length_take]; omega
  obtain ⟨v', w', hrun, r1, r2, -, -⟩ := run_append_own_at (P := Tryd.prog) w w.heap.size 36 ty 47 i0 _ 3 56 Tryd.underlying36 hi hz0 hz1 hz2 rfl (by decide) (.slice none 0 0) 0 [] (World.ownsRow_nil w _ 47 3) ad k c (sflat (M.take k)) (by rw [sflat_len, hlk]) hnews (sflat_one _) (by unfold maxLen; omega) (by omega) (Nat.le_refl _)
  rw [Nat.zero_add, List.nil_append] at r1
  refine ⟨v', w', hrun, by rw [hlk]; exact ⟨r1.1, r1.2.imp id fun ⟨g, cap, cur, q1, q2, q3⟩ => ⟨g, cap, cur, q1, Nat.le_trans hB q2, q3⟩⟩, below_none r2, fun b hb => ?_⟩
  rcases r1.2 with ⟨rfl, -⟩ | ⟨g, cap, cur, rfl, hg, -⟩
  · cases hb
  · cases hb
    exact hg
end Go.Proofs.YteojlnbonhipbaaDoor
