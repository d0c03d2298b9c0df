/- The walk of least. -/
import Derived.Test.YticoefnojgaplaaH
namespace Go.Proofs.Yticoefnojgaplaa
open Go.RowKit

def Po.five : Po.E := ⟨5, 0, 0, 0, 0⟩

set_option maxRecDepth 100000 in
set_option maxHeartbeats 1000000 in
theorem least_any (w : World) (x : Po.E) (hx : Po.Ok x) :
    Calls Try.prog 28 #[.agg (ec x)] w fun e w' => e = .returned (.agg (ec (Po.least x))) ∧ Below w.heap.size w w' := by
  have q1 := heap_alloc2_old w (.cells (ec x) 48) (.cells (ec Po.z) 48)
  have q2 := heap_alloc2_new w (.cells (ec x) 48) (.cells (ec Po.z) 48)
  have q3 : Below w.heap.size w ((w.alloc (.cells (ec x) 48)).alloc (.cells (ec Po.z) 48)) := ((Below.refl _ _).alloc (Nat.le_refl _) _).alloc (by simp) _
  have H1 : Hid (((w.alloc (.cells (ec x) 48)).alloc (.cells #[.int .u64 0, .int .u64 0, .int .u64 0, .int .u64 0, .int .u64 0] 48)).heap[w.heap.size]? = some (.cells (ec x) 48 (0, 0))) := q1
  have H2 : Hid (((w.alloc (.cells (ec x) 48)).alloc (.cells #[.int .u64 0, .int .u64 0, .int .u64 0, .int .u64 0, .int .u64 0] 48)).heap[w.heap.size + 1]? = some (.cells (ec Po.z) 48 (0, 0))) := q2
  have H3 : Hid (Below w.heap.size w ((w.alloc (.cells (ec x) 48)).alloc (.cells #[.int .u64 0, .int .u64 0, .int .u64 0, .int .u64 0, .int .u64 0] 48))) := q3
  have hlx : Po.Le 9223372036854775807 x := hx.le.mono (by decide)
  have hl5 : Po.Le 9223372036854775807 Po.five := by unfold Po.Le Po.five; simp only; omega
  have hlp : Po.Le 9223372036854775807 (Po.plus x Po.five) := by
    have h5 : Po.Le 5 Po.five := by unfold Po.Le Po.five; simp only; omega
    exact (Po.plus_le hx.le h5).mono (by decide)
  have HPL : Hid (∀ wq, Calls Try.prog 26 #[.agg (ec x), .agg #[.int .u64 5, .int .u64 0, .int .u64 0, .int .u64 0, .int .u64 0]] wq fun e w' => e = .returned (.agg (ec (Po.plus x Po.five))) ∧ Below wq.heap.size wq w') := fun wq => plus_any wq x Po.five hlx hl5
  have HCP := Lib.hid (fun wq => carried_any wq (Po.plus x Po.five) hlp)
  have HCX := Lib.hid (fun wq => carried_any wq x hlx)
  have HLE : Hid (Po.least x = if 0 < Po.beyond (Po.plus x Po.five) then Po.rest (Po.plus x Po.five) else Po.rest x) := rfl
  clear q1 q2 q3 hx hlx hl5 hlp
  generalize Po.plus x Po.five = PF at *
  by_cases hb : 0 < Po.beyond PF
  · rw [if_pos hb] at HLE
    generalize Po.beyond PF = bb at *
    obtain ⟨R, hR⟩ : ∃ R, R = Po.rest PF := ⟨_, rfl⟩
    rw [← hR] at HCP HLE
    clear hR
    go_enter Try.func28, Try.ntmps28
    go_wp2_with (first
      | ((with_reducible refine wpList_load_row (o := ⟨some 14, _, _, _, _, _⟩) rfl 48 (.tmp 3) rfl w5.heap.size rfl 48 _ (0, 0) _ HN.out Try.underlying48 rfl ?_ ?_); exact i48)
      | ((with_reducible refine wpList_store_row (o := ⟨none, _, _, _, _, _⟩) rfl 48 (.tmp 2) (.tmp 14) rfl (w.heap.size + 1) (ec R) rfl rfl 48 _ HZ6.out ?_ ?_ ?_ ?_); exact i48; exact rfl; exact ec_one _)
      | ((with_reducible refine wpList_store_row (o := ⟨none, _, _, _, _, _⟩) rfl 48 (.tmp 3) (.tmp 10) rfl w5.heap.size (ec R) rfl rfl 48 _ HZ5.out ?_ ?_ ?_ ?_); exact i48; exact rfl; exact ec_one _; have HN := Lib.hid (setRow_heap (w5.alloc (.cells #[.int .u64 0, .int .u64 0, .int .u64 0, .int .u64 0, .int .u64 0] 48)) w5.heap.size _ (ec R) 48 _ HZ5.out); have HB6 := Lib.hid (HB5.out.trans ((below_setRow ((Below.refl w5.heap.size w5).alloc (Nat.le_refl _) (.cells #[.int .u64 0, .int .u64 0, .int .u64 0, .int .u64 0, .int .u64 0] 48)) (Nat.le_refl _) (ec R)).mono HB5.out.size)); have HZ6 := Lib.hid (((below_setRow ((Below.refl w5.heap.size w5).alloc (Nat.le_refl _) (.cells #[.int .u64 0, .int .u64 0, .int .u64 0, .int .u64 0, .int .u64 0] 48)) (Nat.le_refl _) (ec R)).block _ (lt_of_block H25.out)).trans H25.out))
      | (go_at_call 41; refine (HCP.out _).mono ?_; rintro e w5 ⟨rfl, hb5⟩; have HB5 := Lib.hid (HB4.out.trans (hb5.mono HB4.out.size)); have H25 := Lib.hid ((hb5.block _ (lt_of_block H24.out)).trans H24.out); have HZ5 : Hid ((w5.alloc (.cells #[.int .u64 0, .int .u64 0, .int .u64 0, .int .u64 0, .int .u64 0] 48)).heap[w5.heap.size]? = some (.cells (ec Po.z) 48 (0, 0))) := heap_alloc_new w5 (.cells (ec Po.z) 48); clear hb5)
      | (go_at_call 26; refine (HPL.out _).mono ?_; rintro e w4 ⟨rfl, hb4⟩; have HB4 := Lib.hid (H3.out.trans (hb4.mono H3.out.size)); have H24 := Lib.hid ((hb4.block _ (lt_of_block H2.out)).trans H2.out); clear hb4)
      | ((with_reducible refine wpList_load_row (o := ⟨some 6, _, _, _, _, _⟩) rfl 48 (.tmp 1) rfl w.heap.size rfl 48 _ (0, 0) _ H1.out Try.underlying48 rfl ?_ ?_); exact i48))
    exact bodyPost_ret (results_cell_row Try.results28 _ _ (w.heap.size + 1) 48 _ (0, 0) _ rfl (setRow_heap _ (w.heap.size + 1) _ (ec R) 48 _ HZ6.out) Try.underlying48 rfl i48) rfl ⟨by rw [HLE.out], below_setRow HB6.out (by omega) _⟩
  · rw [if_neg hb] at HLE
    generalize Po.beyond PF = bb at *
    generalize Po.beyond x = bx at *
    obtain ⟨R0, hR0⟩ : ∃ R, R = Po.rest PF := ⟨_, rfl⟩
    rw [← hR0] at HCP
    obtain ⟨R, hR⟩ : ∃ R, R = Po.rest x := ⟨_, rfl⟩
    rw [← hR] at HCX HLE
    clear hR hR0
    go_enter Try.func28, Try.ntmps28
    go_wp2_with (first
      | ((with_reducible refine wpList_load_row (o := ⟨some 20, _, _, _, _, _⟩) rfl 48 (.tmp 1) rfl w.heap.size rfl 48 _ (0, 0) _ HX8.out Try.underlying48 rfl ?_ ?_); exact i48)
      | ((with_reducible refine wpList_store_row (o := ⟨none, _, _, _, _, _⟩) rfl 48 (.tmp 2) (.tmp 20) rfl (w.heap.size + 1) (ec R) rfl rfl 48 _ HZ8.out ?_ ?_ ?_ ?_); exact i48; exact rfl; exact ec_one _)
      | ((with_reducible refine wpList_store_row (o := ⟨none, _, _, _, _, _⟩) rfl 48 (.tmp 1) (.tmp 18) rfl w.heap.size (ec R) rfl rfl 48 _ HX7.out ?_ ?_ ?_ ?_); exact i48; exact rfl; exact ec_one _; have HX8 := Lib.hid (setRow_heap w7 w.heap.size _ (ec R) 48 _ HX7.out); have HZ8 : Hid ((w7.setRow w.heap.size (ec R)).heap[w.heap.size + 1]? = some (.cells (ec Po.z) 48 (0, 0))) := (setRow_other _ _ _ _ (by omega)).trans HZ7.out)
      | (go_at_call 41; refine (HCX.out ((w5.alloc (.cells #[.int .u64 0, .int .u64 0, .int .u64 0, .int .u64 0, .int .u64 0] 48)).setRow w5.heap.size (ec R0))).mono ?_; rintro e w7 ⟨rfl, hb7⟩; have HB7 := Lib.hid (HB6.out.trans (hb7.mono HB6.out.size)); have HZ7 := Lib.hid ((hb7.block _ (lt_of_block HZ6.out)).trans HZ6.out); have HX7 := Lib.hid ((hb7.block _ (lt_of_block HX6.out)).trans HX6.out); clear hb7)
      | ((with_reducible refine wpList_load_row (o := ⟨some 16, _, _, _, _, _⟩) rfl 48 (.tmp 1) rfl w.heap.size rfl 48 _ (0, 0) _ HX6.out Try.underlying48 rfl ?_ ?_); exact i48)
      | ((with_reducible refine wpList_store_row (o := ⟨none, _, _, _, _, _⟩) rfl 48 (.tmp 3) (.tmp 10) rfl w5.heap.size (ec R0) rfl rfl 48 _ HZ5.out ?_ ?_ ?_ ?_); exact i48; exact rfl; exact ec_one _; have HBS := Lib.hid (below_setRow ((Below.refl w5.heap.size w5).alloc (Nat.le_refl _) (.cells #[.int .u64 0, .int .u64 0, .int .u64 0, .int .u64 0, .int .u64 0] 48)) (Nat.le_refl _) (ec R0)); have HB6 := Lib.hid (HB5.out.trans (HBS.out.mono HB5.out.size)); have HZ6 := Lib.hid ((HBS.out.block _ (lt_of_block H25.out)).trans H25.out); have HX6 := Lib.hid ((HBS.out.block _ (lt_of_block H15.out)).trans H15.out))
      | (go_at_call 41; refine (HCP.out _).mono ?_; rintro e w5 ⟨rfl, hb5⟩; have HB5 := Lib.hid (HB4.out.trans (hb5.mono HB4.out.size)); have H25 := Lib.hid ((hb5.block _ (lt_of_block H24.out)).trans H24.out); have H15 := Lib.hid ((hb5.block _ (lt_of_block H14.out)).trans H14.out); have HZ5 : Hid ((w5.alloc (.cells #[.int .u64 0, .int .u64 0, .int .u64 0, .int .u64 0, .int .u64 0] 48)).heap[w5.heap.size]? = some (.cells (ec Po.z) 48 (0, 0))) := heap_alloc_new w5 (.cells (ec Po.z) 48); clear hb5)
      | (go_at_call 26; refine (HPL.out _).mono ?_; rintro e w4 ⟨rfl, hb4⟩; have HB4 := Lib.hid (H3.out.trans (hb4.mono H3.out.size)); have H24 := Lib.hid ((hb4.block _ (lt_of_block H2.out)).trans H2.out); have H14 := Lib.hid ((hb4.block _ (lt_of_block H1.out)).trans H1.out); clear hb4)
      | ((with_reducible refine wpList_load_row (o := ⟨some 6, _, _, _, _, _⟩) rfl 48 (.tmp 1) rfl w.heap.size rfl 48 _ (0, 0) _ H1.out Try.underlying48 rfl ?_ ?_); exact i48))
    exact bodyPost_ret (results_cell_row Try.results28 _ _ (w.heap.size + 1) 48 _ (0, 0) _ rfl (setRow_heap _ (w.heap.size + 1) _ (ec R) 48 _ HZ8.out) Try.underlying48 rfl i48) rfl ⟨by rw [HLE.out], below_setRow (below_setRow HB7.out (Nat.le_refl _) _) (by omega) _⟩
end Go.Proofs.Yticoefnojgaplaa
