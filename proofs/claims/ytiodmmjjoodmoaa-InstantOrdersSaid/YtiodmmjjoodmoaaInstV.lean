/- The walks of layer 1, second part: orders, ends, time that goes by. -/
import Derived.Test.YtiodmmjjoodmoaaInstW
import Derived.Deep.RegionWith
namespace Go.Proofs.Ytiodmmjjoodmoaa
open Go.RowKit
attribute [local go_sem] run_bits run_frombits

def Bef (a b : Nat) : Bool := decide (Fl.Kd a < Fl.Kd b)
def Sm (a b : Nat) : Bool := decide (Fl.Kd a = Fl.Kd b)

set_option maxHeartbeats 400000 in
theorem before_any (a b : Nat) (w : World) (ha : Fl.W a) (hb : Fl.W b) :
    Calls Try.prog 8 #[.float .f64 a, .float .f64 b] w fun e w' => e = .returned (.bool (Bef a b)) ∧ w = w' := by
  go_enter Try.func8, Try.ntmps8
  go_wp2_with (first | (go_at_call_of 12 (Value.float FloatKind.f64 a); refine (key_any a _ ha).mono ?_; rintro e w' ⟨rfl, rfl⟩) | (go_at_call_of 12 (Value.float FloatKind.f64 b); refine (key_any b _ hb).mono ?_; rintro e w' ⟨rfl, rfl⟩))
  go_ret
  exact ⟨ret_bool (by unfold Bef; exact decide_eq_decide.2 (by omega)), rfl⟩

set_option maxHeartbeats 400000 in
theorem same_any (a b : Nat) (w : World) (ha : Fl.W a) (hb : Fl.W b) :
    Calls Try.prog 10 #[.float .f64 a, .float .f64 b] w fun e w' => e = .returned (.bool (Sm a b)) ∧ w = w' := by
  go_enter Try.func10, Try.ntmps10
  go_wp2_with (first | (go_at_call_of 12 (Value.float FloatKind.f64 a); refine (key_any a _ ha).mono ?_; rintro e w' ⟨rfl, rfl⟩) | (go_at_call_of 12 (Value.float FloatKind.f64 b); refine (key_any b _ hb).mono ?_; rintro e w' ⟨rfl, rfl⟩))
  go_ret
  exact ⟨ret_bool (by unfold Sm; rw [Bool.eq_iff_iff]; simp; omega), rfl⟩

theorem wrap_neg (a : Nat) (ha : Fl.W a) : decide (wrap64 (a : Int) < 0) = Fl.neg a := by
  unfold Fl.W at ha
  unfold Fl.neg
  rw [Bool.eq_iff_iff]
  simp only [decide_eq_true_eq, wrap64]
  omega

set_option maxHeartbeats 400000 in
theorem signbit_any (a : Nat) (w : World) (ha : Fl.W a) :
    Calls Try.prog 23 #[.float .f64 a] w fun e w' => e = .returned (.bool (Fl.neg a)) ∧ w = w' := by
  go_enter Try.func23, Try.ntmps23
  go_wp2
  go_ret
  exact ⟨ret_bool (wrap_neg a ha), rfl⟩

theorem lt_of_order (a b : Nat) (h1 : Fl.nan a = false) (h2 : Fl.nan b = false) : (FloatKind.f64.format.order a b == some .lt) = decide (Fl.sg a < Fl.sg b) := by
  rw [dbl, Fl.order_eq, h1, h2, if_neg (by decide), Bool.eq_iff_iff]
  simp only [beq_iff_eq, Option.some.injEq, decide_eq_true_eq]
  show compareOfLessAndEq _ _ = _ ↔ _
  unfold compareOfLessAndEq
  repeat' split
  all_goals simp_all
theorem gt_of_order (a b : Nat) (h1 : Fl.nan a = false) (h2 : Fl.nan b = false) : (FloatKind.f64.format.order a b == some .gt) = decide (Fl.sg b < Fl.sg a) := by
  rw [dbl, Fl.order_eq, h1, h2, if_neg (by decide), Bool.eq_iff_iff]
  simp only [beq_iff_eq, Option.some.injEq, decide_eq_true_eq]
  show compareOfLessAndEq _ _ = _ ↔ _
  unfold compareOfLessAndEq
  repeat' split
  all_goals simp_all
  all_goals omega
theorem eq_of_order (a b : Nat) (h1 : Fl.nan a = false) (h2 : Fl.nan b = false) : (FloatKind.f64.format.order a b == some .eq) = decide (Fl.sg a = Fl.sg b) := by
  rw [dbl, Fl.order_eq, h1, h2, if_neg (by decide), Bool.eq_iff_iff]
  simp only [beq_iff_eq, Option.some.injEq, decide_eq_true_eq]
  show compareOfLessAndEq _ _ = _ ↔ _
  unfold compareOfLessAndEq
  repeat' split
  all_goals simp_all
  all_goals omega

theorem nan_zero : Fl.nan 0 = false := by decide

/-- The signed rung, and whether there is a sign: that says which number stands for the time. -/
theorem kd_cases (a : Nat) (ha : Fl.W a) (h : Fl.nan a = false) :
    (Fl.neg a = true ∧ Fl.sg a ≤ 0 ∧ (Fl.Kd a : Int) = 9223372036854775807 + Fl.sg a ∧ -9218868437227405312 ≤ Fl.sg a) ∨ (Fl.neg a = false ∧ 0 ≤ Fl.sg a ∧ (Fl.Kd a : Int) = 9223372036854775808 + Fl.sg a ∧ Fl.sg a ≤ 9218868437227405312) := by
  unfold Fl.W at ha
  unfold Fl.Kd
  rw [h]
  unfold Fl.nan at h
  unfold Fl.neg Fl.sg
  simp only [decide_eq_false_iff_not] at h
  by_cases c : 9223372036854775808 ≤ a
  · left
    rw [if_pos (by omega : a / 9223372036854775808 % 2 = 1)]
    rw [if_neg (by decide), if_pos (by simp [c])]
    refine ⟨by simp [c], ?_, ?_, ?_⟩ <;> omega
  · right
    rw [if_neg (by omega)]
    rw [if_neg (by decide), if_neg (by simp [c])]
    refine ⟨by simp [c], ?_, ?_, ?_⟩ <;> omega
theorem kd_nan (a : Nat) (h : Fl.nan a = true) : Fl.Kd a = 18446744073709551615 := by unfold Fl.Kd; rw [h]; rfl

set_option maxHeartbeats 400000 in
theorem ahead_any (a b : Nat) (w : World) (ha : Fl.W a) (hb : Fl.W b) :
    Calls Try.prog 9 #[.float .f64 a, .float .f64 b] w fun e w' => e = .returned (.bool (Bef a b)) ∧ w = w' := by
  have na := ord_self a
  have nb := ord_self b
  by_cases ca : Fl.nan a = true
  · rw [ca] at na
    clear nb
    go_enter Try.func9, Try.ntmps9
    go_wp2
    go_ret
    refine ⟨ret_bool ?_, rfl⟩
    unfold Bef
    rw [kd_nan a ca]
    by_cases cb : Fl.nan b = true
    · rw [kd_nan b cb]; decide
    · rcases kd_cases b hb (by simpa using cb) with h | h <;> (symm; simp only [decide_eq_false_iff_not]; omega)
  have ca' : Fl.nan a = false := by simpa using ca
  rw [ca'] at na
  by_cases cb : Fl.nan b = true
  · rw [cb] at nb
    go_enter Try.func9, Try.ntmps9
    go_wp2
    go_ret
    refine ⟨ret_bool ?_, rfl⟩
    unfold Bef
    rw [kd_nan b cb]
    rcases kd_cases a ha ca' with h | h <;> (symm; simp only [decide_eq_true_eq]; omega)
  have cb' : Fl.nan b = false := by simpa using cb
  rw [cb'] at nb
  have za := eq_of_order a 0 ca' nan_zero
  have zb := eq_of_order b 0 cb' nan_zero
  have hlt := lt_of_order a b ca' cb'
  have ka := kd_cases a ha ca'
  have kb := kd_cases b hb cb'
  rw [show Fl.sg 0 = 0 by decide] at za zb
  have Hlt := Lib.hid hlt
  have Hka := Lib.hid ka
  have Hkb := Lib.hid kb
  clear ka kb hlt
  by_cases ea : Fl.sg a = 0
  · rw [decide_eq_true ea] at za
    have Hea := Lib.hid ea
    clear ea
    by_cases eb : Fl.sg b = 0
    · rw [decide_eq_true eb] at zb
      have Heb := Lib.hid eb
      clear eb ca cb
      cases ga : Fl.neg a <;> cases gb : Fl.neg b
      all_goals
        go_enter Try.func9, Try.ntmps9
        go_wp2_with (first | (go_at_call_of 23 (Value.float FloatKind.f64 a); refine (signbit_any a _ ha).mono ?_; rintro e w' ⟨rfl, rfl⟩) | (go_at_call_of 23 (Value.float FloatKind.f64 b); refine (signbit_any b _ hb).mono ?_; rintro e w' ⟨rfl, rfl⟩))
        go_ret
        refine ⟨ret_bool ?_, rfl⟩
        unfold Bef
        have k1 := Hka.out
        have k2 := Hkb.out
        rw [ga] at k1
        rw [gb] at k2
        have e1 := Hea.out
        have e2 := Heb.out
        simp only [Bool.false_eq_true, false_and, true_and, false_or, or_false, Bool.true_eq_false] at k1 k2
        symm
        simp only [decide_eq_true_eq, decide_eq_false_iff_not]
        omega
    · rw [decide_eq_false eb] at zb
      go_enter Try.func9, Try.ntmps9
      go_wp2
      go_ret
      refine ⟨ret_bool ?_, rfl⟩
      rw [Hlt.out]
      unfold Bef
      have k1 := Hka.out
      have k2 := Hkb.out
      have e1 := Hea.out
      rw [Bool.eq_iff_iff]
      simp only [decide_eq_true_eq]
      omega
  · rw [decide_eq_false ea] at za
    go_enter Try.func9, Try.ntmps9
    go_wp2
    go_ret
    refine ⟨ret_bool ?_, rfl⟩
    rw [Hlt.out]
    unfold Bef
    have k1 := Hka.out
    have k2 := Hkb.out
    rw [Bool.eq_iff_iff]
    simp only [decide_eq_true_eq]
    omega

set_option maxHeartbeats 400000 in
theorem rsame_any (a b : Nat) (w : World) (ha : Fl.W a) (hb : Fl.W b) :
    Calls Try.prog 11 #[.float .f64 a, .float .f64 b] w fun e w' => e = .returned (.bool (Sm a b)) ∧ w = w' := by
  cases h1 : Bef a b <;> cases h2 : Bef b a
  all_goals
    go_enter Try.func11, Try.ntmps11
    go_wp2_with fail
    refine (ahead_any a b _ ha hb).mono ?_
    rintro e w' ⟨rfl, rfl⟩
    go_wp2_with (go_at_call 9; refine (ahead_any b a _ hb ha).mono ?_; rintro e w' ⟨rfl, rfl⟩)
    go_ret
    refine ⟨ret_bool ?_, rfl⟩
    unfold Bef at h1 h2
    unfold Sm
    symm
    simp only [decide_eq_true_eq, decide_eq_false_iff_not] at h1 h2 ⊢
    omega

theorem run_max_fl (ts : Array TypeId) (ty : TypeId) (x y : Nat) (w : World) (hx : Fl.nan x = false) (hy : Fl.nan y = false) :
    (Builtin.max_ ts ty #[.float .f64 x, .float .f64 y]).run Try.prog w = .ok (.float .f64 (if Fl.sg x < Fl.sg y then y else if Fl.sg y < Fl.sg x then x else if (FloatKind.f64.decode x).neg then y else x)) w := by
  have h1 := lt_of_order x y hx hy
  have h2 := gt_of_order x y hx hy
  have h3 := eq_of_order x y hx hy
  unfold Builtin.max_
  simp only [List.foldlM_cons, List.foldlM_nil, Builtin.max2]
  cases h : FloatKind.f64.format.order x y with
  | none => rw [h] at h1 h2 h3; simp at h1 h2 h3; omega
  | some o =>
    rw [h] at h1 h2 h3
    cases o <;> simp at h1 h2 h3 <;> simp <;> (repeat' split) <;> first | rfl | omega
theorem run_min_fl (ts : Array TypeId) (ty : TypeId) (x y : Nat) (w : World) (hx : Fl.nan x = false) (hy : Fl.nan y = false) :
    (Builtin.min_ ts ty #[.float .f64 x, .float .f64 y]).run Try.prog w = .ok (.float .f64 (if Fl.sg x < Fl.sg y then x else if Fl.sg y < Fl.sg x then y else if (FloatKind.f64.decode x).neg then x else y)) w := by
  have h1 := lt_of_order x y hx hy
  have h2 := gt_of_order x y hx hy
  have h3 := eq_of_order x y hx hy
  unfold Builtin.min_
  simp only [List.foldlM_cons, List.foldlM_nil, Builtin.min2]
  cases h : FloatKind.f64.format.order x y with
  | none => rw [h] at h1 h2 h3; simp at h1 h2 h3; omega
  | some o =>
    rw [h] at h1 h2 h3
    cases o <;> simp at h1 h2 h3 <;> simp <;> (repeat' split) <;> first | rfl | omega

theorem sg_inj (x y : Nat) (hx : Fl.W x) (hy : Fl.W y) (h : Fl.sg x = Fl.sg y) (h0 : Fl.sg x ≠ 0) : x = y := by
  unfold Fl.W at hx hy
  unfold Fl.sg at h h0
  repeat' split at h
  all_goals first | omega | (split at h0 <;> omega)

theorem lm_walk (x : Nat) (hx : Fl.W x) (hn : Fl.nan x = false) :
    (if Fl.sg x < Fl.sg 18442240474082181119 then 18442240474082181119 else if Fl.sg 18442240474082181119 < Fl.sg x then x else if (FloatKind.f64.decode x).neg then 18442240474082181119 else x) =
      if x = 18442240474082181120 then 18442240474082181119 else x := by
  have e : Fl.sg 18442240474082181119 = -9218868437227405311 := by decide
  rw [e]
  have k := kd_cases x hx hn
  have hx' := hx
  unfold Fl.W at hx
  by_cases c : x = 18442240474082181120
  · subst c
    rw [if_pos rfl, if_pos (by decide)]
  · rw [if_neg c]
    have h1 : ¬ Fl.sg x < -9218868437227405311 := by
      intro h
      have : Fl.sg x = -9218868437227405312 := by omega
      apply c
      exact sg_inj x 18442240474082181120 hx' (by unfold Fl.W; decide) (this.trans (by decide)) (by omega)
    rw [if_neg h1]
    by_cases h2 : -9218868437227405311 < Fl.sg x
    · rw [if_pos h2]
    · rw [if_neg h2]
      have : x = 18442240474082181119 := sg_inj x 18442240474082181119 hx' (by unfold Fl.W; decide) (by omega) (by omega)
      rw [this]; simp
theorem lm_walk2 (x : Nat) (hx : Fl.W x) (hn : Fl.nan x = false) :
    (if Fl.sg x < Fl.sg 9218868437227405311 then x else if Fl.sg 9218868437227405311 < Fl.sg x then 9218868437227405311 else if (FloatKind.f64.decode x).neg then x else 9218868437227405311) =
      if x = 9218868437227405312 then 9218868437227405311 else x := by
  have e : Fl.sg 9218868437227405311 = 9218868437227405311 := by decide
  rw [e]
  have k := kd_cases x hx hn
  have hx' := hx
  unfold Fl.W at hx
  by_cases c : x = 9218868437227405312
  · subst c
    rw [if_pos rfl, if_neg (by decide), if_pos (by decide)]
  · rw [if_neg c]
    have h1 : ¬ 9218868437227405311 < Fl.sg x := by
      intro h
      have : Fl.sg x = 9218868437227405312 := by omega
      apply c
      exact sg_inj x 9218868437227405312 hx' (by unfold Fl.W; decide) (this.trans (by decide)) (by omega)
    by_cases h2 : Fl.sg x < 9218868437227405311
    · rw [if_pos h2]
    · rw [if_neg h2, if_neg h1]
      have : x = 9218868437227405311 := sg_inj x 9218868437227405311 hx' (by unfold Fl.W; decide) (by omega) (by omega)
      rw [this]; simp
def lo (x : Nat) : Nat := if x = 18442240474082181120 then 18442240474082181119 else x
theorem lo_facts (x : Nat) (hx : Fl.W x) (hn : Fl.nan x = false) : Fl.W (lo x) ∧ Fl.nan (lo x) = false ∧ (if lo x = 9218868437227405312 then 9218868437227405311 else lo x) = Fl.lm x := by
  unfold lo Fl.lm
  by_cases c : x = 18442240474082181120
  · subst c; exact ⟨by unfold Fl.W; decide, by decide, by decide⟩
  · rw [if_neg c]
    exact ⟨hx, hn, by simp⟩

set_option maxHeartbeats 400000 in
theorem limit_any (x : Nat) (w : World) (hx : Fl.W x) (hn : Fl.nan x = false) :
    Calls Try.prog 27 #[.float .f64 x] w fun e w' => e = .returned (.float .f64 (Fl.lm x)) ∧ w = w' := by
  obtain ⟨l1, l2, l3⟩ := lo_facts x hx hn
  have e1 : ∀ (ts : Array TypeId) (ty : TypeId) (w : World), (Builtin.max_ ts ty #[.float .f64 x, .float .f64 18442240474082181119]).run Try.prog w = .ok (.float .f64 (lo x)) w := by
    intro ts ty w
    rw [run_max_fl ts ty x 18442240474082181119 w hn (by decide), lm_walk x hx hn]; rfl
  have e2 : ∀ (ts : Array TypeId) (ty : TypeId) (w : World), (Builtin.min_ ts ty #[.float .f64 (lo x), .float .f64 9218868437227405311]).run Try.prog w = .ok (.float .f64 (Fl.lm x)) w := by
    intro ts ty w
    rw [run_min_fl ts ty (lo x) 9218868437227405311 w l2 (by decide), lm_walk2 (lo x) l1 l2, l3]
  clear l1 l2 l3 hx hn
  go_enter Try.func27, Try.ntmps27
  go_wp2
  go_ret
  exact ⟨rfl, rfl⟩

end Go.Proofs.Ytiodmmjjoodmoaa
