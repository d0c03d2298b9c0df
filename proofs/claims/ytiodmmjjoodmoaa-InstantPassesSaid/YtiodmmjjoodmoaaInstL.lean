/- The four laws of layer 1, walked. -/
import Derived.Test.YtiodmmjjoodmoaaInstU
namespace Go.Proofs.Ytiodmmjjoodmoaa
open Go.RowKit

set_option maxHeartbeats 400000 in
theorem orders_walk (a b : Nat) (w : World) (ha : Fl.W a) (hb : Fl.W b) :
    Calls Try.prog 3 #[.float .f64 a, .float .f64 b] w fun e w' => e = .returned (.bool true) ∧ Drew w w' := by
  go_enter Try.func3, Try.ntmps3
  go_wp2_with (first | (go_at_call 7; refine (awake_true _).mono ?_; rintro e w1 ⟨rfl, hw1⟩) | (go_at_call 8; refine (before_any a b _ ha hb).mono ?_; rintro e w' ⟨rfl, rfl⟩) | (go_at_call 9; refine (ahead_any a b _ ha hb).mono ?_; rintro e w' ⟨rfl, rfl⟩) | (go_at_call 10; refine (same_any a b _ ha hb).mono ?_; rintro e w' ⟨rfl, rfl⟩) | (go_at_call 11; refine (rsame_any a b _ ha hb).mono ?_; rintro e w' ⟨rfl, rfl⟩) | (go_at_call_of 12 (Value.float FloatKind.f64 a); refine (key_any a _ ha).mono ?_; rintro e w' ⟨rfl, rfl⟩) | (go_at_call_of 12 (Value.float FloatKind.f64 b); refine (key_any b _ hb).mono ?_; rintro e w' ⟨rfl, rfl⟩) | (go_at_call 13; refine (rkey_any a _ ha).mono ?_; rintro e w' ⟨rfl, rfl⟩))
  go_ret
  exact ⟨ret_bool (by unfold Bef; simp), hw1⟩

theorem tm_W (n : Nat) (h : Fl.W n) : Fl.W (Fl.tm n) := by
  unfold Fl.W at *
  unfold Fl.tm Fl.qnan
  repeat' split
  all_goals omega
theorem kd_W (n : Nat) (h : Fl.W n) : Fl.W (Fl.Kd n) := by
  unfold Fl.W at *
  unfold Fl.Kd Fl.neg
  repeat' split
  all_goals first | omega | (rename_i h1 h2; simp at h2; omega)
theorem tm_kd (t : Nat) (h : Fl.W t) : Sm (Fl.tm (Fl.Kd t)) t = true := by
  unfold Sm
  simp only [decide_eq_true_eq]
  cases hn : Fl.nan t
  · congr 1
    unfold Fl.W at h
    cases hg : Fl.neg t
    · unfold Fl.Kd
      rw [hn, hg, if_neg (by decide), if_neg (by decide)]
      unfold Fl.tm
      rw [if_pos (by unfold Fl.neg; simp), show t + 9223372036854775808 - 9223372036854775808 = t by omega, hn, if_neg (by decide)]
    · unfold Fl.Kd
      rw [hn, hg, if_neg (by decide), if_pos rfl]
      unfold Fl.tm
      unfold Fl.neg at hg
      simp only [decide_eq_true_eq] at hg
      rw [if_neg (by unfold Fl.neg; simp; omega), show 18446744073709551615 - (18446744073709551615 - t) = t by omega, hn, if_neg (by decide)]
  · rw [kd_nan t hn]; decide
theorem kd_tm (n : Nat) (h : Fl.W n) (hn : Fl.nan (Fl.tm n) = false) : Fl.Kd (Fl.tm n) = n := by
  unfold Fl.W at h
  cases hg : Fl.neg n
  · have e : Fl.tm n = 18446744073709551615 - n := by
      unfold Fl.tm at hn ⊢
      rw [hg, if_neg (by decide)] at hn ⊢
      split
      · rename_i c; rw [if_pos c] at hn; exact absurd hn (by decide)
      · rfl
    rw [e] at hn ⊢
    unfold Fl.Kd
    unfold Fl.neg at hg
    simp only [decide_eq_false_iff_not] at hg
    rw [hn, if_neg (by decide), if_pos (by unfold Fl.neg; simp; omega)]
    omega
  · have e : Fl.tm n = n - 9223372036854775808 := by
      unfold Fl.tm at hn ⊢
      rw [hg, if_pos rfl] at hn ⊢
      split
      · rename_i c; rw [if_pos c] at hn; exact absurd hn (by decide)
      · rfl
    rw [e] at hn ⊢
    unfold Fl.Kd
    unfold Fl.neg at hg
    simp only [decide_eq_true_eq] at hg
    rw [hn, if_neg (by decide), if_neg (by unfold Fl.neg; simp; omega)]
    omega

set_option maxHeartbeats 400000 in
theorem keys_walk (t n : Nat) (w : World) (ht : Fl.W t) (hn : Fl.W n) :
    Calls Try.prog 4 #[.float .f64 t, .int .u64 n] w fun e w' => e = .returned (.bool true) ∧ Drew w w' := by
  have h1 := tm_kd t ht
  have wx := tm_W n hn
  have wk := kd_W t ht
  have nx := ord_self (Fl.tm n)
  cases h2 : Fl.nan (Fl.tm n)
  · have h3 := Lib.hid (kd_tm n hn h2)
    clear nx h2
    go_enter Try.func4, Try.ntmps4
    go_wp2_with (first | (go_at_call 7; refine (awake_true _).mono ?_; rintro e w1 ⟨rfl, hw1⟩) | (go_at_call_of 14 (Fl.Kd t); refine (time_any (Fl.Kd t) _ wk).mono ?_; rintro e w' ⟨rfl, rfl⟩) | (go_at_call 14; refine (time_any n _ hn).mono ?_; rintro e w' ⟨rfl, rfl⟩) | (go_at_call_of 12 (Value.float FloatKind.f64 t); refine (key_any t _ ht).mono ?_; rintro e w' ⟨rfl, rfl⟩) | (go_at_call 12; refine (key_any (Fl.tm n) _ wx).mono ?_; rintro e w' ⟨rfl, rfl⟩) | (go_at_call 11; refine (rsame_any (Fl.tm (Fl.Kd t)) t _ (tm_W _ wk) ht).mono ?_; rintro e w' ⟨rfl, rfl⟩))
    · go_ret
      exact ⟨rfl, hw1⟩
    · have h4 : ¬ ((Fl.Kd (Fl.tm n) : Nat) : Int) = (n : Int) := by assumption
      exact absurd (congrArg Nat.cast h3.out) h4
  · rw [h2] at nx
    go_enter Try.func4, Try.ntmps4
    go_wp2_with (first | (go_at_call 7; refine (awake_true _).mono ?_; rintro e w1 ⟨rfl, hw1⟩) | (go_at_call_of 14 (Fl.Kd t); refine (time_any (Fl.Kd t) _ wk).mono ?_; rintro e w' ⟨rfl, rfl⟩) | (go_at_call 14; refine (time_any n _ hn).mono ?_; rintro e w' ⟨rfl, rfl⟩) | (go_at_call_of 12 (Value.float FloatKind.f64 t); refine (key_any t _ ht).mono ?_; rintro e w' ⟨rfl, rfl⟩) | (go_at_call 12; refine (key_any (Fl.tm n) _ wx).mono ?_; rintro e w' ⟨rfl, rfl⟩) | (go_at_call 11; refine (rsame_any (Fl.tm (Fl.Kd t)) t _ (tm_W _ wk) ht).mono ?_; rintro e w' ⟨rfl, rfl⟩))
    all_goals go_ret
    all_goals exact ⟨rfl, hw1⟩

theorem le_order (x y : Nat) (hx : Fl.nan x = false) (hy : Fl.nan y = false) : (FloatKind.f64.format.order x y == some .lt || FloatKind.f64.format.order x y == some .eq) = decide (Fl.sg x ≤ Fl.sg y) := by
  rw [lt_of_order x y hx hy, eq_of_order x y hx hy, Bool.eq_iff_iff]
  simp only [Bool.or_eq_true, decide_eq_true_eq]
  omega
theorem ge_order (x y : Nat) (hx : Fl.nan x = false) (hy : Fl.nan y = false) : (Ieee.double.order x y == some .gt || Ieee.double.order x y == some .eq) = decide (Fl.sg y ≤ Fl.sg x) := by
  rw [← dbl, gt_of_order x y hx hy, eq_of_order x y hx hy, Bool.eq_iff_iff]
  simp only [Bool.or_eq_true, decide_eq_true_eq]
  omega

theorem fin_nan (x : Nat) (h : Fl.fin x = true) : Fl.nan x = false := by
  unfold Fl.fin at h
  unfold Fl.nan
  simp at h ⊢
  omega
theorem fin_isT (x : Nat) (h : Fl.fin x = true) : isT x = true := by
  unfold isT
  rw [fin_nan x h, if_neg (by decide)]
  unfold isI
  unfold Fl.fin at h
  simp at h ⊢
  omega
theorem isT_fin (x : Nat) : isT x = Fl.fin x := by
  unfold isT Fl.nan isI Fl.fin
  rw [Bool.eq_iff_iff]
  by_cases c : 9218868437227405312 < x % 9223372036854775808
  · simp [c]; omega
  · simp [c]; omega
theorem fin_sg (x : Nat) (h : Fl.fin x = true) : -9218868437227405311 ≤ Fl.sg x ∧ Fl.sg x ≤ 9218868437227405311 := by
  unfold Fl.fin at h
  unfold Fl.sg
  simp at h
  split <;> omega
theorem lm_fin (x : Nat) (h : Fl.fin x = true) : Fl.lm x = x := by
  unfold Fl.fin at h
  unfold Fl.lm
  simp at h
  rw [if_neg (by omega), if_neg (by omega)]
theorem sg_lm (x r : Nat) (hx : Fl.fin x = true) (h : Fl.sg x ≤ Fl.sg r) : Fl.sg x ≤ Fl.sg (Fl.lm r) := by
  have b := fin_sg x hx
  unfold Fl.lm
  split
  · rw [show Fl.sg 9218868437227405311 = 9218868437227405311 by decide]; omega
  · split
    · rename_i c
      rw [c, show Fl.sg 18442240474082181120 = -9218868437227405312 by decide] at h
      omega
    · exact h
theorem pass_fin (x d : Nat) (hx : Fl.W x) (hd : Fl.W d) : Fl.W (Fl.pass x d) ∧ Fl.fin (Fl.pass x d) = true := by
  obtain ⟨f1, f2, f3⟩ := held_facts x hx
  unfold Fl.pass
  cases hg : Fl.gt0 d
  · rw [if_neg (by decide)]; exact ⟨f1, f3⟩
  · rw [if_pos rfl]
    obtain ⟨_, a2, a3⟩ := ad_facts (Fl.held x) d f3 hd hg
    exact ⟨(lm_facts _ a2 a3).1, (lm_facts _ a2 a3).2.2⟩
theorem pass_mono (x d : Nat) (hd : Fl.W d) (h : Fl.fin x = true) : Fl.sg x ≤ Fl.sg (Fl.pass x d) := by
  have e : Fl.held x = x := (held_lm x (fin_nan x h)).trans (lm_fin x h)
  unfold Fl.pass
  rw [e]
  cases hg : Fl.gt0 d
  · rw [if_neg (by decide)]; exact Int.le_refl _
  · rw [if_pos rfl]
    refine sg_lm x _ h ?_
    obtain ⟨g1, g2, g3⟩ := gt0_inf d hd hg
    unfold Fl.ad
    rcases g3 with g3 | g3
    · obtain ⟨r, er, _, _, es⟩ := Fl.add_spec h g3
      rw [er]
      show Fl.sg x ≤ Fl.sg r
      rw [es, ← Fl.sR_sv (fin_nan x h)]
      refine Fl.sR_mono ?_
      have : Fl.sv 0 ≤ Fl.sv d := Fl.sg_le_sv.1 (by rw [show Fl.sg 0 = 0 by decide]; omega)
      rw [show Fl.sv 0 = 0 by decide] at this
      omega
    · subst g3
      rw [Fl.add_inf x h]
      show Fl.sg x ≤ Fl.sg 9218868437227405312
      rw [show Fl.sg 9218868437227405312 = 9218868437227405312 by decide]
      have := fin_sg x h
      omega

theorem sub_self_fin (x : Nat) (h : Fl.fin x = true) : ∃ r, Ieee.double.sub x x = some r ∧ (FloatKind.f64.format.order r 0 == some .eq) = true := by
  obtain ⟨r, e, _, hn, hs⟩ := Fl.sub_spec h h
  refine ⟨r, e, ?_⟩
  rw [eq_of_order r 0 hn nan_zero, hs, show Fl.sg 0 = 0 by decide, Int.sub_self]
  decide
theorem sub_self_inf (x : Nat) (h : Fl.fin x = false) : Ieee.double.sub x x = none := by
  unfold Ieee.Format.sub
  by_cases c : 9218868437227405312 < x % 9223372036854775808
  · obtain ⟨t, e⟩ := Fl.read_nan x c
    rw [e]; rfl
  · have c2 : x % 9223372036854775808 = 9218868437227405312 := by
      unfold Fl.fin at h
      simp at h
      omega
    rw [Fl.read_inf x c2]
    cases (x / 9223372036854775808 % 2 == 1) <;> rfl

set_option maxHeartbeats 400000 in
theorem passes_walk (x d g : Nat) (w : World) (hx : Fl.W x) (hd : Fl.W d) (hg : Fl.W g) :
    Calls Try.prog 5 #[.float .f64 x, .float .f64 d, .float .f64 g] w fun e w' => e = .returned (.bool true) ∧ Drew w w' := by
  obtain ⟨wt, ft⟩ := pass_fin x d hx hd
  have m := pass_mono (Fl.pass x d) g hg ft
  obtain ⟨wu, fu⟩ := pass_fin (Fl.pass x d) g wt hg
  have it := fin_isT _ ft
  have lt := le_order (Fl.pass x d) (Fl.pass (Fl.pass x d) g) (fin_nan _ ft) (fin_nan _ fu)
  rw [decide_eq_true m] at lt
  clear m fu
  have s1 : Sm (Fl.pass x d) (Fl.pass x d) = true := by simp [Sm]
  have s2 : Sm (Fl.pass (Fl.pass x d) g) (Fl.pass (Fl.pass x d) g) = true := by simp [Sm]
  cases hf : Fl.fin x
  · have hsub := fun w => run_sub_none 22 x x w (sub_self_inf x hf)
    have ho := fun (w : World) => ord_nan (nanOf x x w) 0 (nan_drawn x x w)
    rw [← isT_fin x] at hf
    go_enter Try.func5, Try.ntmps5
    go_wp2_with (first | (go_at_call 7; refine (awake_true _).mono ?_; rintro e w1 ⟨rfl, hw1⟩) | (go_at_call_of 15 (Value.float FloatKind.f64 x); refine (pass_any x d _ hx hd).mono ?_; rintro e w' ⟨rfl, rfl⟩) | (go_at_call 15; refine (pass_any (Fl.pass x d) g _ wt hg).mono ?_; rintro e w' ⟨rfl, rfl⟩) | (go_at_call_of 16 (Value.float FloatKind.f64 x); refine (rpass_any x d _ hx hd).mono ?_; rintro e w' ⟨rfl, rfl⟩) | (go_at_call 16; refine (rpass_any (Fl.pass x d) g _ wt hg).mono ?_; rintro e w' ⟨rfl, rfl⟩) | (go_at_call_of 11 (Fl.pass (Fl.pass x d) g); refine (rsame_any _ _ _ wu wu).mono ?_; rintro e w' ⟨rfl, rfl⟩) | (go_at_call 11; refine (rsame_any _ _ _ wt wt).mono ?_; rintro e w' ⟨rfl, rfl⟩) | (go_at_call_of 17 (Value.float FloatKind.f64 x); refine (is_any x _ hx).mono ?_; rintro e w' ⟨rfl, rfl⟩) | (go_at_call 17; refine (is_any _ _ wt).mono ?_; rintro e w' ⟨rfl, rfl⟩))
    go_ret
    exact ⟨rfl, hw1.trans (Drew.one _)⟩
  · obtain ⟨r, e1, e2⟩ := sub_self_fin x hf
    have hsub : ∀ w, (binOp .sub 22 (.float .f64 x) (.float .f64 x)).run Try.prog w = .ok (.float .f64 r) w := fun w => run_float_arith w .sub 22 .f64 _ _ _ e1
    rw [← isT_fin x] at hf
    clear e1
    go_enter Try.func5, Try.ntmps5
    go_wp2_with (first | (go_at_call 7; refine (awake_true _).mono ?_; rintro e w1 ⟨rfl, hw1⟩) | (go_at_call_of 15 (Value.float FloatKind.f64 x); refine (pass_any x d _ hx hd).mono ?_; rintro e w' ⟨rfl, rfl⟩) | (go_at_call 15; refine (pass_any (Fl.pass x d) g _ wt hg).mono ?_; rintro e w' ⟨rfl, rfl⟩) | (go_at_call_of 16 (Value.float FloatKind.f64 x); refine (rpass_any x d _ hx hd).mono ?_; rintro e w' ⟨rfl, rfl⟩) | (go_at_call 16; refine (rpass_any (Fl.pass x d) g _ wt hg).mono ?_; rintro e w' ⟨rfl, rfl⟩) | (go_at_call_of 11 (Fl.pass (Fl.pass x d) g); refine (rsame_any _ _ _ wu wu).mono ?_; rintro e w' ⟨rfl, rfl⟩) | (go_at_call 11; refine (rsame_any _ _ _ wt wt).mono ?_; rintro e w' ⟨rfl, rfl⟩) | (go_at_call_of 17 (Value.float FloatKind.f64 x); refine (is_any x _ hx).mono ?_; rintro e w' ⟨rfl, rfl⟩) | (go_at_call 17; refine (is_any _ _ wt).mono ?_; rintro e w' ⟨rfl, rfl⟩))
    go_ret
    exact ⟨rfl, hw1⟩

theorem over_later (x s d m : Nat) (hx : Fl.W x) (hm : Fl.W m) (h : Fl.over x s d = true) (fx : Fl.fin x = true) (fs : Fl.fin s = true) : Fl.over (Fl.pass x m) s d = true := by
  obtain ⟨wl, fl⟩ := pass_fin x m hx hm
  have mono := Fl.sg_le_sv.1 (pass_mono x m hm fx)
  rw [over_split] at h ⊢
  rw [fin_nan x fx, fin_nan s fs, if_neg (by decide), if_neg (by decide)] at h
  rw [fin_nan _ fl, fin_nan s fs, if_neg (by decide), if_neg (by decide)]
  cases hd : Fl.nan d
  · rw [hd, if_neg (by decide)] at h
    rw [if_neg (by decide)]
    cases hi : decide (d = 9218868437227405312)
    · rw [hi, if_neg (by decide)] at h
      rw [if_neg (by decide)]
      unfold ovr at h ⊢
      cases hl : Fl.le0 d
      · rw [hl, if_neg (by decide)] at h
        rw [if_neg (by decide)]
        obtain ⟨r, er, _, nr, sr⟩ := Fl.sub_spec fx fs
        obtain ⟨q, eq, _, nq, sq⟩ := Fl.sub_spec fl fs
        unfold Fl.geSub at h ⊢
        rw [er] at h
        rw [eq]
        simp only at h ⊢
        rw [ge_order r d nr hd] at h
        rw [ge_order q d nq hd]
        simp only [decide_eq_true_eq] at h ⊢
        rw [sr] at h
        rw [sq]
        exact Int.le_trans h (Fl.sR_mono (by omega))
      · rw [if_pos rfl]
    · rw [hi] at h; simp at h
  · rw [hd] at h; simp at h

set_option maxHeartbeats 400000 in
theorem overs_walk (x s d m : Nat) (w : World) (hx : Fl.W x) (hs : Fl.W s) (hd : Fl.W d) (hm : Fl.W m) :
    Calls Try.prog 6 #[.float .f64 x, .float .f64 s, .float .f64 d, .float .f64 m] w fun e w' => e = .returned (.bool true) ∧ Drew w w' := by
  have hl := over_later x s d m hx hm
  obtain ⟨wl, _⟩ := pass_fin x m hx hm
  cases h1 : Fl.over x s d
  · clear hl
    go_enter Try.func6, Try.ntmps6
    go_wp2_with (first | (go_at_call 7; refine (awake_true _).mono ?_; rintro e w1 ⟨rfl, hw1⟩) | (go_at_call_of 18 (Value.float FloatKind.f64 x); refine (over_any x s d _ hd).mono ?_; rintro e w2 ⟨rfl, hw2⟩) | (go_at_call 19; refine (rover_any x s d _ hd).mono ?_; rintro e w3 ⟨rfl, hw3⟩) | (go_at_call 15; refine (pass_any x m _ hx hm).mono ?_; rintro e w' ⟨rfl, rfl⟩))
    go_ret
    exact ⟨rfl, (hw2.trans hw1).trans hw3⟩
  · cases h2 : Fl.fin x
    · clear hl
      rw [← isT_fin x] at h2
      go_enter Try.func6, Try.ntmps6
      go_wp2_with (first | (go_at_call 7; refine (awake_true _).mono ?_; rintro e w1 ⟨rfl, hw1⟩) | (go_at_call_of 18 (Value.float FloatKind.f64 x); refine (over_any x s d _ hd).mono ?_; rintro e w2 ⟨rfl, hw2⟩) | (go_at_call 19; refine (rover_any x s d _ hd).mono ?_; rintro e w3 ⟨rfl, hw3⟩) | (go_at_call 15; refine (pass_any x m _ hx hm).mono ?_; rintro e w' ⟨rfl, rfl⟩) | (go_at_call 17; refine (is_any x _ hx).mono ?_; rintro e w' ⟨rfl, rfl⟩))
      go_ret
      exact ⟨rfl, (hw2.trans hw1).trans hw3⟩
    · cases h3 : Fl.fin s
      · clear hl
        rw [← isT_fin x] at h2
        rw [← isT_fin s] at h3
        go_enter Try.func6, Try.ntmps6
        go_wp2_with (first | (go_at_call 7; refine (awake_true _).mono ?_; rintro e w1 ⟨rfl, hw1⟩) | (go_at_call_of 18 (Value.float FloatKind.f64 x); refine (over_any x s d _ hd).mono ?_; rintro e w2 ⟨rfl, hw2⟩) | (go_at_call 19; refine (rover_any x s d _ hd).mono ?_; rintro e w3 ⟨rfl, hw3⟩) | (go_at_call 15; refine (pass_any x m _ hx hm).mono ?_; rintro e w' ⟨rfl, rfl⟩) | (go_at_call_of 17 (Value.float FloatKind.f64 x); refine (is_any x _ hx).mono ?_; rintro e w' ⟨rfl, rfl⟩) | (go_at_call 17; refine (is_any s _ hs).mono ?_; rintro e w' ⟨rfl, rfl⟩))
        go_ret
        exact ⟨rfl, (hw2.trans hw1).trans hw3⟩
      · have h4 := hl h1 h2 h3
        clear hl
        rw [← isT_fin x] at h2
        rw [← isT_fin s] at h3
        go_enter Try.func6, Try.ntmps6
        go_wp2_with (first | (go_at_call 7; refine (awake_true _).mono ?_; rintro e w1 ⟨rfl, hw1⟩) | (go_at_call_of 18 (Value.float FloatKind.f64 x); refine (over_any x s d _ hd).mono ?_; rintro e w2 ⟨rfl, hw2⟩) | (go_at_call 18; refine (over_any (Fl.pass x m) s d _ hd).mono ?_; rintro e w4 ⟨rfl, hw4⟩) | (go_at_call 19; refine (rover_any x s d _ hd).mono ?_; rintro e w3 ⟨rfl, hw3⟩) | (go_at_call 15; refine (pass_any x m _ hx hm).mono ?_; rintro e w' ⟨rfl, rfl⟩) | (go_at_call_of 17 (Value.float FloatKind.f64 x); refine (is_any x _ hx).mono ?_; rintro e w' ⟨rfl, rfl⟩) | (go_at_call 17; refine (is_any s _ hs).mono ?_; rintro e w' ⟨rfl, rfl⟩))
        go_ret
        exact ⟨rfl, ((hw2.trans hw1).trans hw3).trans hw4⟩
end Go.Proofs.Ytiodmmjjoodmoaa
