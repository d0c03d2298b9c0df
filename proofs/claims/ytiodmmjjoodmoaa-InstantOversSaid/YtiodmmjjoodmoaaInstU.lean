/- The walks of layer 1, third part: the time that goes by; has as much gone by. -/
import Derived.Test.YtiodmmjjoodmoaaInstV
namespace Go.Proofs.Ytiodmmjjoodmoaa
open Go.RowKit
attribute [local go_sem] run_bits run_frombits

set_option maxHeartbeats 400000 in
theorem greatest_val (w : World) : Calls Try.prog 22 #[] w fun e w' => e = .returned (.float .f64 9218868437227405311) ∧ w = w' := by
  go_enter Try.func22, Try.ntmps22
  go_wp2
  go_ret
  exact ⟨rfl, rfl⟩
set_option maxHeartbeats 400000 in
theorem inf_val (w : World) : Calls Try.prog 21 #[.int .i64 1] w fun e w' => e = .returned (.float .f64 9218868437227405312) ∧ w = w' := by
  go_enter Try.func21, Try.ntmps21
  go_wp2
  go_ret
  exact ⟨rfl, rfl⟩

theorem run_neg_great (w : World) : (Op.unary .neg (.float .f64 9218868437227405311)).run Try.prog w = .ok (.float .f64 18442240474082181119) w := by
  show Sem.run Try.prog (pure (Value.float .f64 (Op.negFloat .f64 9218868437227405311))) w = _
  rw [show Op.negFloat .f64 9218868437227405311 = 18442240474082181119 by decide +kernel]
  rfl

theorem gt_great (x : Nat) (hx : Fl.W x) (hn : Fl.nan x = false) : (FloatKind.f64.format.order x 9218868437227405311 == some .gt) = decide (x = 9218868437227405312) := by
  rw [gt_of_order x _ hn (by decide), show Fl.sg 9218868437227405311 = 9218868437227405311 by decide]
  have k := kd_cases x hx hn
  rw [Bool.eq_iff_iff]
  simp only [decide_eq_true_eq]
  constructor
  · intro h
    exact sg_inj x 9218868437227405312 hx (by unfold Fl.W; decide) ((show Fl.sg x = 9218868437227405312 by omega).trans (by decide)) (by omega)
  · intro h; subst h; decide
theorem lt_least (x : Nat) (hx : Fl.W x) (hn : Fl.nan x = false) : (FloatKind.f64.format.order x 18442240474082181119 == some .lt) = decide (x = 18442240474082181120) := by
  rw [lt_of_order x _ hn (by decide), show Fl.sg 18442240474082181119 = -9218868437227405311 by decide]
  have k := kd_cases x hx hn
  rw [Bool.eq_iff_iff]
  simp only [decide_eq_true_eq]
  constructor
  · intro h
    exact sg_inj x 18442240474082181120 hx (by unfold Fl.W; decide) ((show Fl.sg x = -9218868437227405312 by omega).trans (by decide)) (by omega)
  · intro h; subst h; decide

set_option maxHeartbeats 400000 in
theorem held_any (x : Nat) (w : World) (hx : Fl.W x) :
    Calls Try.prog 28 #[.float .f64 x] w fun e w' => e = .returned (.float .f64 (Fl.held x)) ∧ w = w' := by
  have nx := ord_self x
  have hneg := run_neg_great
  unfold Fl.held
  cases hn : Fl.nan x
  · rw [hn] at nx
    have g := gt_great x hx hn
    have l := lt_least x hx hn
    rw [if_neg (by decide)]
    unfold Fl.lm
    by_cases c1 : x = 9218868437227405312
    · rw [decide_eq_true c1] at g
      rw [if_pos c1]
      clear c1
      go_enter Try.func28, Try.ntmps28
      go_wp2_with (go_at_call 22; refine (greatest_val _).mono ?_; rintro e w' ⟨rfl, rfl⟩)
      go_ret
      exact ⟨rfl, rfl⟩
    · rw [decide_eq_false c1] at g
      rw [if_neg c1]
      by_cases c2 : x = 18442240474082181120
      · rw [decide_eq_true c2] at l
        rw [if_pos c2]
        clear c1 c2
        go_enter Try.func28, Try.ntmps28
        go_wp2_with (go_at_call 22; refine (greatest_val _).mono ?_; rintro e w' ⟨rfl, rfl⟩)
        go_ret
        exact ⟨rfl, rfl⟩
      · rw [decide_eq_false c2] at l
        rw [if_neg c2]
        clear c1 c2
        go_enter Try.func28, Try.ntmps28
        go_wp2_with (go_at_call 22; refine (greatest_val _).mono ?_; rintro e w' ⟨rfl, rfl⟩)
        go_ret
        exact ⟨rfl, rfl⟩
  · rw [hn] at nx
    rw [if_pos rfl]
    go_enter Try.func28, Try.ntmps28
    go_wp2
    go_ret
    exact ⟨rfl, rfl⟩

/-- What a finite time and what goes by add up to: no NaN. -/
theorem lm_facts (x : Nat) (hx : Fl.W x) (hn : Fl.nan x = false) : Fl.W (Fl.lm x) ∧ Fl.nan (Fl.lm x) = false ∧ Fl.fin (Fl.lm x) = true := by
  unfold Fl.lm
  by_cases c : x = 9218868437227405312
  · rw [if_pos c]; exact ⟨by unfold Fl.W; decide, by decide, by decide⟩
  · rw [if_neg c]
    by_cases c2 : x = 18442240474082181120
    · rw [if_pos c2]; exact ⟨by unfold Fl.W; decide, by decide, by decide⟩
    · rw [if_neg c2]
      refine ⟨hx, hn, ?_⟩
      unfold Fl.W at hx
      unfold Fl.nan at hn
      unfold Fl.fin
      simp at hn ⊢
      omega
theorem held_facts (x : Nat) (hx : Fl.W x) : Fl.W (Fl.held x) ∧ Fl.nan (Fl.held x) = false ∧ Fl.fin (Fl.held x) = true := by
  unfold Fl.held
  cases hn : Fl.nan x
  · rw [if_neg (by decide)]; exact lm_facts x hx hn
  · rw [if_pos rfl]; exact ⟨by unfold Fl.W; decide, by decide, by decide⟩

theorem gt0_inf (d : Nat) (hd : Fl.W d) (h : Fl.gt0 d = true) : Fl.nan d = false ∧ 0 < Fl.sg d ∧ (Fl.fin d = true ∨ d = 9218868437227405312) := by
  unfold Fl.gt0 at h
  have hn : Fl.nan d = false := by
    cases hn : Fl.nan d
    · rfl
    · rw [Fl.order_eq, hn] at h; simp at h
  have g := gt_of_order d 0 hn nan_zero
  rw [dbl, h, show Fl.sg 0 = 0 by decide] at g
  have g' : 0 < Fl.sg d := by simpa using g.symm
  refine ⟨hn, g', ?_⟩
  by_cases c : d = 9218868437227405312
  · exact .inr c
  · left
    unfold Fl.sg at g'
    unfold Fl.W at hd
    unfold Fl.nan at hn
    unfold Fl.fin
    simp at hn ⊢
    split at g' <;> omega

theorem ad_facts (n d : Nat) (hn : Fl.fin n = true) (hd : Fl.W d) (h : Fl.gt0 d = true) :
    Ieee.double.add n d = some (Fl.ad n d) ∧ Fl.W (Fl.ad n d) ∧ Fl.nan (Fl.ad n d) = false := by
  obtain ⟨h1, h2, h3⟩ := gt0_inf d hd h
  unfold Fl.ad
  rcases h3 with h3 | h3
  · obtain ⟨r, e, a, b, _⟩ := Fl.add_spec hn h3
    rw [e]; exact ⟨rfl, a, b⟩
  · subst h3
    rw [Fl.add_inf n hn]; exact ⟨rfl, by unfold Fl.W; decide, by decide⟩

set_option maxHeartbeats 400000 in
theorem pass_any (x d : Nat) (w : World) (hx : Fl.W x) (hd : Fl.W d) :
    Calls Try.prog 15 #[.float .f64 x, .float .f64 d] w fun e w' => e = .returned (.float .f64 (Fl.pass x d)) ∧ w = w' := by
  obtain ⟨f1, f2, f3⟩ := held_facts x hx
  unfold Fl.pass
  cases hg : Fl.gt0 d
  · have hg' := hg
    unfold Fl.gt0 at hg'
    rw [← dbl] at hg'
    rw [if_neg (by decide)]
    unfold Fl.held
    clear f1 f2 f3
    cases hn : Fl.nan x
    · rw [if_neg (by decide)]
      go_enter Try.func15, Try.ntmps15
      go_wp2_with (first | (go_at_call 24; refine (isNaN_any _ _).mono ?_; rintro e w' ⟨rfl, rfl⟩) | (go_at_call 27; refine (limit_any x _ hx hn).mono ?_; rintro e w' ⟨rfl, rfl⟩))
      go_ret
      exact ⟨rfl, rfl⟩
    · rw [if_pos rfl]
      have l0 : Fl.lm 0 = 0 := by decide
      go_enter Try.func15, Try.ntmps15
      go_wp2_with (first | (go_at_call 24; refine (isNaN_any _ _).mono ?_; rintro e w' ⟨rfl, rfl⟩) | (go_at_call 27; refine (limit_any 0 _ (by unfold Fl.W; decide) nan_zero).mono ?_; rintro e w' ⟨rfl, rfl⟩))
      go_ret
      exact ⟨ret_float l0, rfl⟩
  · have hg' := hg
    unfold Fl.gt0 at hg'
    rw [← dbl] at hg'
    rw [if_pos rfl]
    obtain ⟨a1, a2, a3⟩ := ad_facts (Fl.held x) d f3 hd hg
    have hadd : ∀ w, (binOp .add 22 (.float .f64 (Fl.held x)) (.float .f64 d)).run Try.prog w = .ok (.float .f64 (Fl.ad (Fl.held x) d)) w := fun w => run_float_arith w .add 22 .f64 _ _ _ a1
    clear a1 f1 f2 f3
    generalize Fl.ad (Fl.held x) d = r at *
    cases hn : Fl.nan x
    · rw [show Fl.held x = Fl.lm x by unfold Fl.held; rw [hn]; rfl] at hadd
      go_enter Try.func15, Try.ntmps15
      go_wp2_with (first | (go_at_call 24; refine (isNaN_any _ _).mono ?_; rintro e w' ⟨rfl, rfl⟩) | (go_at_call_of 27 (Value.float FloatKind.f64 x); refine (limit_any x _ hx hn).mono ?_; rintro e w' ⟨rfl, rfl⟩) | (go_at_call_of 27 (Value.float FloatKind.f64 r); refine (limit_any r _ a2 a3).mono ?_; rintro e w' ⟨rfl, rfl⟩))
      go_ret
      exact ⟨rfl, rfl⟩
    · rw [show Fl.held x = Fl.lm 0 by unfold Fl.held; rw [hn, if_pos rfl]; decide] at hadd
      go_enter Try.func15, Try.ntmps15
      go_wp2_with (first | (go_at_call 24; refine (isNaN_any _ _).mono ?_; rintro e w' ⟨rfl, rfl⟩) | (go_at_call_of 27 (Value.float FloatKind.f64 0); refine (limit_any 0 _ (by unfold Fl.W; decide) nan_zero).mono ?_; rintro e w' ⟨rfl, rfl⟩) | (go_at_call_of 27 (Value.float FloatKind.f64 r); refine (limit_any r _ a2 a3).mono ?_; rintro e w' ⟨rfl, rfl⟩))
      go_ret
      exact ⟨rfl, rfl⟩

theorem held_lm (x : Nat) (hn : Fl.nan x = false) : Fl.held x = Fl.lm x := by unfold Fl.held; rw [hn]; rfl

set_option maxHeartbeats 400000 in
theorem rpass_any (x d : Nat) (w : World) (hx : Fl.W x) (hd : Fl.W d) :
    Calls Try.prog 16 #[.float .f64 x, .float .f64 d] w fun e w' => e = .returned (.float .f64 (Fl.pass x d)) ∧ w = w' := by
  obtain ⟨f1, f2, f3⟩ := held_facts x hx
  unfold Fl.pass
  cases hg : Fl.gt0 d
  · have hg' := hg
    unfold Fl.gt0 at hg'
    rw [← dbl] at hg'
    rw [if_neg (by decide)]
    clear f1 f2 f3
    go_enter Try.func16, Try.ntmps16
    go_wp2_with (go_at_call 28; refine (held_any x _ hx).mono ?_; rintro e w' ⟨rfl, rfl⟩)
    go_ret
    exact ⟨rfl, rfl⟩
  · have hg' := hg
    unfold Fl.gt0 at hg'
    rw [← dbl] at hg'
    rw [if_pos rfl]
    obtain ⟨a1, a2, a3⟩ := ad_facts (Fl.held x) d f3 hd hg
    have hadd : ∀ w, (binOp .add 22 (.float .f64 (Fl.held x)) (.float .f64 d)).run Try.prog w = .ok (.float .f64 (Fl.ad (Fl.held x) d)) w := fun w => run_float_arith w .add 22 .f64 _ _ _ a1
    clear a1 f1 f2 f3
    generalize Fl.ad (Fl.held x) d = r at *
    have hl := held_lm r a3
    go_enter Try.func16, Try.ntmps16
    go_wp2_with (first | (go_at_call_of 28 (Value.float FloatKind.f64 x); refine (held_any x _ hx).mono ?_; rintro e w' ⟨rfl, rfl⟩) | (go_at_call_of 28 (Value.float FloatKind.f64 r); refine (held_any r _ a2).mono ?_; rintro e w' ⟨rfl, rfl⟩))
    go_ret
    exact ⟨by first | rfl | (rw [hl]), rfl⟩

theorem mod_abs (x : Nat) (hx : Fl.W x) : (bits .andNot .u64 (x : Int) 9223372036854775808).toNat = x % 9223372036854775808 := by
  rw [andNot_top x hx, Int.toNat_natCast]

set_option maxHeartbeats 400000 in
theorem abs_any (x : Nat) (w : World) : Calls Try.prog 30 #[.float .f64 x] w fun e w' => e = .returned (.float .f64 (at63 x)) ∧ w = w' := by
  go_enter Try.func30, Try.ntmps30
  go_wp2
  go_ret
  exact ⟨rfl, rfl⟩

/-- An end, of a time that is a number or an end. -/
def isI (x : Nat) : Bool := decide (x % 9223372036854775808 = 9218868437227405312)

theorem mod_W (x : Nat) : Fl.W (x % 9223372036854775808) := by unfold Fl.W; omega
theorem nan_mod (x : Nat) : Fl.nan (x % 9223372036854775808) = Fl.nan x := by unfold Fl.nan; rw [Nat.mod_mod]

theorem inf_at (x : Nat) (hx : Fl.W x) (hn : Fl.nan x = false) : (FloatKind.f64.format.order (at63 x) 9218868437227405311 == some .gt) = isI x := by
  unfold at63 isI
  rw [mod_abs x hx]
  exact gt_great _ (mod_W x) (by rw [nan_mod]; exact hn)

set_option maxHeartbeats 400000 in
theorem isInf0_any (x : Nat) (w : World) (hx : Fl.W x) (hn : Fl.nan x = false) :
    Calls Try.prog 29 #[.float .f64 x, .int .i64 0] w fun e w' => e = .returned (.bool (isI x)) ∧ w = w' := by
  have h := inf_at x hx hn
  go_enter Try.func29, Try.ntmps29
  go_wp2_with (go_at_call 30; refine (abs_any _ _).mono ?_; rintro e w' ⟨rfl, rfl⟩)
  go_ret
  exact ⟨rfl, rfl⟩
set_option maxHeartbeats 400000 in
theorem isInf1_any (x : Nat) (w : World) (hx : Fl.W x) (hn : Fl.nan x = false) :
    Calls Try.prog 29 #[.float .f64 x, .int .i64 1] w fun e w' => e = .returned (.bool (decide (x = 9218868437227405312))) ∧ w = w' := by
  have h := Lib.hid (gt_great x hx hn)
  go_enter Try.func29, Try.ntmps29
  go_wp2
  go_ret
  exact ⟨ret_bool h.out, rfl⟩

def isT (x : Nat) : Bool := if Fl.nan x then false else !isI x
set_option maxHeartbeats 400000 in
theorem is_any (x : Nat) (w : World) (hx : Fl.W x) :
    Calls Try.prog 17 #[.float .f64 x] w fun e w' => e = .returned (.bool (isT x)) ∧ w = w' := by
  unfold isT
  cases hn : Fl.nan x
  · rw [if_neg (by decide)]
    go_enter Try.func17, Try.ntmps17
    go_wp2_with (first | (go_at_call 24; refine (isNaN_any _ _).mono ?_; rintro e w' ⟨rfl, rfl⟩) | (go_at_call 29; refine (isInf0_any x _ hx hn).mono ?_; rintro e w' ⟨rfl, rfl⟩))
    go_ret
    exact ⟨rfl, rfl⟩
  · rw [if_pos rfl]
    go_enter Try.func17, Try.ntmps17
    go_wp2_with (go_at_call 24; refine (isNaN_any _ _).mono ?_; rintro e w' ⟨rfl, rfl⟩)
    go_ret
    exact ⟨rfl, rfl⟩

/-- A difference that is no number: its bits are drawn. -/
def nanOf (x y : Nat) (w : World) : Nat := (Question.nanBits .f64 x y).cut (w.tape w.drawn (.nanBits .f64 x y))
theorem nan_drawn (x y : Nat) (w : World) : Fl.nan (nanOf x y w) = true := by
  unfold nanOf Question.cut Fl.nan
  generalize w.tape w.drawn (.nanBits .f64 x y) = t
  simp only [decide_eq_true_eq]
  have e1 : (2 : Nat) ^ 52 - 1 = 4503599627370495 := by decide
  have e2 : (2 : Nat) ^ 63 = 9223372036854775808 := by decide
  rw [e1, e2]
  have : t / 2 % 4503599627370495 < 4503599627370495 := Nat.mod_lt _ (by decide)
  generalize t / 2 % 4503599627370495 = q at *
  rw [show t % 2 * 9223372036854775808 + 9218868437227405312 + 1 + q = 9218868437227405313 + q + t % 2 * 9223372036854775808 by omega, Nat.add_mul_mod_self_right, Nat.mod_eq_of_lt (by omega)]
  omega
theorem run_sub_none (ty : TypeId) (x y : Nat) (w : World) (h : Ieee.double.sub x y = none) :
    (binOp .sub ty (.float .f64 x) (.float .f64 y)).run Try.prog w = .ok (.float .f64 (nanOf x y w)) w.drew := by
  have h' : FloatKind.f64.format.sub x y = none := h
  simp only [binOp, Op.floatArith, h']
  rfl
theorem ord_nan (x y : Nat) (h : Fl.nan x = true) : FloatKind.f64.format.order x y = none := by rw [dbl, Fl.order_eq, h]; rfl

/-- What 'Over' comes to where its arguments are no NaN and the length is no end. -/
def ovr (x s d : Nat) : Bool := if Fl.le0 d then true else Fl.geSub x s d

def Drew (w w' : World) : Prop := ∃ n, w' = w.drewN n
theorem Drew.refl (w : World) : Drew w w := ⟨0, rfl⟩
theorem Drew.one (w : World) : Drew w w.drew := ⟨1, rfl⟩

theorem over_split (x s d : Nat) : Fl.over x s d = if Fl.nan x then false else if Fl.nan s then false else if Fl.nan d then false else if decide (d = 9218868437227405312) then false else ovr x s d := by
  unfold Fl.over ovr
  rw [show (d == 9218868437227405312) = decide (d = 9218868437227405312) from rfl]
  cases Fl.nan x <;> cases Fl.nan s <;> cases Fl.nan d <;> cases decide (d = 9218868437227405312) <;> cases Fl.le0 d <;> rfl

set_option maxHeartbeats 400000 in
theorem over_num (x s d : Nat) (w : World) (hd : Fl.W d) (h1 : Fl.nan x = false) (h2 : Fl.nan s = false) (h3 : Fl.nan d = false) (h4 : decide (d = 9218868437227405312) = false) :
    Calls Try.prog 18 #[.float .f64 x, .float .f64 s, .float .f64 d] w fun e w' => e = .returned (.bool (ovr x s d)) ∧ Drew w w' := by
  unfold ovr
  cases hl : Fl.le0 d
  · rw [if_neg (by decide)]
    unfold Fl.le0 at hl
    rw [← dbl] at hl
    unfold Fl.geSub
    cases hs : Ieee.double.sub x s with
    | none =>
      have hsub := fun w => run_sub_none 22 x s w hs
      have ho := ord_nan (nanOf x s w) d (nan_drawn x s w)
      go_enter Try.func18, Try.ntmps18
      go_wp2_with (first | (go_at_call_of 24 (Value.float FloatKind.f64 x); refine (isNaN_any x _).mono ?_; rintro e w' ⟨rfl, rfl⟩) | (go_at_call_of 24 (Value.float FloatKind.f64 s); refine (isNaN_any s _).mono ?_; rintro e w' ⟨rfl, rfl⟩) | (go_at_call_of 24 (Value.float FloatKind.f64 d); refine (isNaN_any d _).mono ?_; rintro e w' ⟨rfl, rfl⟩) | (go_at_call 29; refine (isInf1_any d _ hd h3).mono ?_; rintro e w' ⟨rfl, rfl⟩))
      go_ret
      exact ⟨rfl, Drew.one w⟩
    | some r =>
      have hsub : ∀ w, (binOp .sub 22 (.float .f64 x) (.float .f64 s)).run Try.prog w = .ok (.float .f64 r) w := fun w => run_float_arith w .sub 22 .f64 _ _ _ hs
      go_enter Try.func18, Try.ntmps18
      go_wp2_with (first | (go_at_call_of 24 (Value.float FloatKind.f64 x); refine (isNaN_any x _).mono ?_; rintro e w' ⟨rfl, rfl⟩) | (go_at_call_of 24 (Value.float FloatKind.f64 s); refine (isNaN_any s _).mono ?_; rintro e w' ⟨rfl, rfl⟩) | (go_at_call_of 24 (Value.float FloatKind.f64 d); refine (isNaN_any d _).mono ?_; rintro e w' ⟨rfl, rfl⟩) | (go_at_call 29; refine (isInf1_any d _ hd h3).mono ?_; rintro e w' ⟨rfl, rfl⟩))
      go_ret
      exact ⟨rfl, Drew.refl w⟩
  · rw [if_pos rfl]
    unfold Fl.le0 at hl
    rw [← dbl] at hl
    go_enter Try.func18, Try.ntmps18
    go_wp2_with (first | (go_at_call_of 24 (Value.float FloatKind.f64 x); refine (isNaN_any x _).mono ?_; rintro e w' ⟨rfl, rfl⟩) | (go_at_call_of 24 (Value.float FloatKind.f64 s); refine (isNaN_any s _).mono ?_; rintro e w' ⟨rfl, rfl⟩) | (go_at_call_of 24 (Value.float FloatKind.f64 d); refine (isNaN_any d _).mono ?_; rintro e w' ⟨rfl, rfl⟩) | (go_at_call 29; refine (isInf1_any d _ hd h3).mono ?_; rintro e w' ⟨rfl, rfl⟩))
    go_ret
    exact ⟨rfl, Drew.refl w⟩

set_option maxHeartbeats 400000 in
theorem over_any (x s d : Nat) (w : World) (hd : Fl.W d) :
    Calls Try.prog 18 #[.float .f64 x, .float .f64 s, .float .f64 d] w fun e w' => e = .returned (.bool (Fl.over x s d)) ∧ Drew w w' := by
  rw [over_split]
  cases h1 : Fl.nan x
  · rw [if_neg (by decide)]
    cases h2 : Fl.nan s
    · rw [if_neg (by decide)]
      cases h3 : Fl.nan d
      · rw [if_neg (by decide)]
        cases h4 : decide (d = 9218868437227405312)
        · rw [if_neg (by decide)]
          exact over_num x s d w hd h1 h2 h3 h4
        · rw [if_pos rfl]
          go_enter Try.func18, Try.ntmps18
          go_wp2_with (first | (go_at_call_of 24 (Value.float FloatKind.f64 x); refine (isNaN_any x _).mono ?_; rintro e w' ⟨rfl, rfl⟩) | (go_at_call_of 24 (Value.float FloatKind.f64 s); refine (isNaN_any s _).mono ?_; rintro e w' ⟨rfl, rfl⟩) | (go_at_call_of 24 (Value.float FloatKind.f64 d); refine (isNaN_any d _).mono ?_; rintro e w' ⟨rfl, rfl⟩) | (go_at_call 29; refine (isInf1_any d _ hd h3).mono ?_; rintro e w' ⟨rfl, rfl⟩))
          go_ret
          exact ⟨rfl, Drew.refl w⟩
      · rw [if_pos rfl]
        go_enter Try.func18, Try.ntmps18
        go_wp2_with (first | (go_at_call_of 24 (Value.float FloatKind.f64 x); refine (isNaN_any x _).mono ?_; rintro e w' ⟨rfl, rfl⟩) | (go_at_call_of 24 (Value.float FloatKind.f64 s); refine (isNaN_any s _).mono ?_; rintro e w' ⟨rfl, rfl⟩) | (go_at_call_of 24 (Value.float FloatKind.f64 d); refine (isNaN_any d _).mono ?_; rintro e w' ⟨rfl, rfl⟩) | (go_at_call 29; refine (isInf1_any d _ hd h3).mono ?_; rintro e w' ⟨rfl, rfl⟩))
        go_ret
        exact ⟨rfl, Drew.refl w⟩
    · rw [if_pos rfl]
      go_enter Try.func18, Try.ntmps18
      go_wp2_with (first | (go_at_call_of 24 (Value.float FloatKind.f64 x); refine (isNaN_any x _).mono ?_; rintro e w' ⟨rfl, rfl⟩) | (go_at_call_of 24 (Value.float FloatKind.f64 s); refine (isNaN_any s _).mono ?_; rintro e w' ⟨rfl, rfl⟩) | (go_at_call_of 24 (Value.float FloatKind.f64 d); refine (isNaN_any d _).mono ?_; rintro e w' ⟨rfl, rfl⟩) | (go_at_call 29; refine (isInf1_any d _ hd h3).mono ?_; rintro e w' ⟨rfl, rfl⟩))
      go_ret
      exact ⟨rfl, Drew.refl w⟩
  · rw [if_pos rfl]
    go_enter Try.func18, Try.ntmps18
    go_wp2_with (first | (go_at_call_of 24 (Value.float FloatKind.f64 x); refine (isNaN_any x _).mono ?_; rintro e w' ⟨rfl, rfl⟩) | (go_at_call_of 24 (Value.float FloatKind.f64 s); refine (isNaN_any s _).mono ?_; rintro e w' ⟨rfl, rfl⟩) | (go_at_call_of 24 (Value.float FloatKind.f64 d); refine (isNaN_any d _).mono ?_; rintro e w' ⟨rfl, rfl⟩) | (go_at_call 29; refine (isInf1_any d _ hd h3).mono ?_; rintro e w' ⟨rfl, rfl⟩))
    go_ret
    exact ⟨rfl, Drew.refl w⟩

set_option maxHeartbeats 400000 in
theorem rover_any (x s d : Nat) (w : World) (hd : Fl.W d) :
    Calls Try.prog 19 #[.float .f64 x, .float .f64 s, .float .f64 d] w fun e w' => e = .returned (.bool (Fl.over x s d)) ∧ Drew w w' := by
  have nx := ord_self x
  have ns := ord_self s
  have nd := ord_self d
  rw [over_split]
  cases h1 : Fl.nan x
  · rw [if_neg (by decide)]
    rw [h1] at nx
    cases h2 : Fl.nan s
    · rw [if_neg (by decide)]
      rw [h2] at ns
      cases h3 : Fl.nan d
      · rw [if_neg (by decide)]
        rw [h3] at nd
        have g := gt_great d hd h3
        cases h4 : decide (d = 9218868437227405312)
        · rw [if_neg (by decide)]
          rw [h4] at g
          unfold ovr
          clear h4
          cases hl : Fl.le0 d
          · rw [if_neg (by decide)]
            unfold Fl.le0 at hl
            rw [← dbl] at hl
            unfold Fl.geSub
            cases hs : Ieee.double.sub x s with
            | none =>
              have hsub := fun w => run_sub_none 22 x s w hs
              have ho := ord_nan (nanOf x s w) d (nan_drawn x s w)
              go_enter Try.func19, Try.ntmps19
              go_wp2_with (go_at_call 22; refine (greatest_val _).mono ?_; rintro e w' ⟨rfl, rfl⟩)
              go_ret
              exact ⟨rfl, Drew.one w⟩
            | some r =>
              have hsub : ∀ w, (binOp .sub 22 (.float .f64 x) (.float .f64 s)).run Try.prog w = .ok (.float .f64 r) w := fun w => run_float_arith w .sub 22 .f64 _ _ _ hs
              go_enter Try.func19, Try.ntmps19
              go_wp2_with (go_at_call 22; refine (greatest_val _).mono ?_; rintro e w' ⟨rfl, rfl⟩)
              go_ret
              exact ⟨rfl, Drew.refl w⟩
          · rw [if_pos rfl]
            unfold Fl.le0 at hl
            rw [← dbl] at hl
            go_enter Try.func19, Try.ntmps19
            go_wp2_with (go_at_call 22; refine (greatest_val _).mono ?_; rintro e w' ⟨rfl, rfl⟩)
            go_ret
            exact ⟨rfl, Drew.refl w⟩
        · rw [if_pos rfl]
          rw [h4] at g
          clear h4
          go_enter Try.func19, Try.ntmps19
          go_wp2_with (go_at_call 22; refine (greatest_val _).mono ?_; rintro e w' ⟨rfl, rfl⟩)
          go_ret
          exact ⟨rfl, Drew.refl w⟩
      · rw [if_pos rfl]
        rw [h3] at nd
        go_enter Try.func19, Try.ntmps19
        go_wp2
        go_ret
        exact ⟨rfl, Drew.refl w⟩
    · rw [if_pos rfl]
      rw [h2] at ns
      go_enter Try.func19, Try.ntmps19
      go_wp2
      go_ret
      exact ⟨rfl, Drew.refl w⟩
  · rw [if_pos rfl]
    rw [h1] at nx
    go_enter Try.func19, Try.ntmps19
    go_wp2
    go_ret
    exact ⟨rfl, Drew.refl w⟩

theorem W_lit {a : Nat} (h : Nat.blt a 18446744073709551616 = true) : Fl.W a := by unfold Fl.W; exact Nat.le_of_ble_eq_true h

theorem pass_nan (w : World) : Calls Try.prog 15 #[.float .f64 4607182418800017408, .float .f64 Fl.qnan] w fun e w' => e = .returned (.float .f64 4607182418800017408) ∧ w = w' := by
  have e : Fl.pass 4607182418800017408 Fl.qnan = 4607182418800017408 := by decide +kernel
  have h := pass_any 4607182418800017408 Fl.qnan w (W_lit (by decide)) (W_lit (by decide))
  rw [e] at h
  exact h
theorem pass_inf (w : World) : Calls Try.prog 15 #[.float .f64 4607182418800017408, .float .f64 9218868437227405312] w fun e w' => e = .returned (.float .f64 9218868437227405311) ∧ w = w' := by
  have e : Fl.pass 4607182418800017408 9218868437227405312 = 9218868437227405311 := by decide +kernel
  have h := pass_any 4607182418800017408 9218868437227405312 w (W_lit (by decide)) (W_lit (by decide))
  rw [e] at h
  exact h
theorem over_yes (w : World) : Calls Try.prog 18 #[.float .f64 4617315517961601024, .float .f64 4611686018427387904, .float .f64 4613937818241073152] w fun e w' => e = .returned (.bool true) ∧ Drew w w' := by
  have e : Fl.over 4617315517961601024 4611686018427387904 4613937818241073152 = true := by decide +kernel
  have h := over_any 4617315517961601024 4611686018427387904 4613937818241073152 w (W_lit (by decide))
  rw [e] at h
  exact h
theorem over_no (w : World) : Calls Try.prog 18 #[.float .f64 4617315517961601024, .float .f64 4611686018427387904, .float .f64 Fl.qnan] w fun e w' => e = .returned (.bool false) ∧ Drew w w' := by
  have e : Fl.over 4617315517961601024 4611686018427387904 Fl.qnan = false := by decide +kernel
  have h := over_any 4617315517961601024 4611686018427387904 Fl.qnan w (W_lit (by decide))
  rw [e] at h
  exact h

theorem Drew.trans {a b c : World} (h1 : Drew a b) (h2 : Drew b c) : Drew a c := by
  obtain ⟨n, rfl⟩ := h1
  obtain ⟨m, rfl⟩ := h2
  exact ⟨n + m, by simp [World.drewN, Nat.add_assoc]⟩

set_option maxHeartbeats 400000 in
theorem awake_true (w : World) : Calls Try.prog 7 #[] w fun e w' => e = .returned (.bool true) ∧ Drew w w' := by
  have e1 : (FloatKind.f64.format.order 4607182418800017408 4607182418800017408 == some .eq) = true := by decide +kernel
  have e2 : (FloatKind.f64.format.order 9218868437227405311 9218868437227405311 == some .eq) = true := by decide +kernel
  go_enter Try.func7, Try.ntmps7
  go_wp2_with (first | (go_at_call 20; refine (nan_val _).mono ?_; rintro e w' ⟨rfl, rfl⟩) | (go_at_call_of 15 Fl.qnan; refine (pass_nan _).mono ?_; rintro e w' ⟨rfl, rfl⟩) | (go_at_call 21; refine (inf_val _).mono ?_; rintro e w' ⟨rfl, rfl⟩) | (go_at_call 15; refine (pass_inf _).mono ?_; rintro e w' ⟨rfl, rfl⟩) | (go_at_call 22; refine (greatest_val _).mono ?_; rintro e w' ⟨rfl, rfl⟩) | (go_at_call_of 18 Fl.qnan; refine (over_no _).mono ?_; rintro e w2 ⟨rfl, hw2⟩) | (go_at_call 18; refine (over_yes _).mono ?_; rintro e w1 ⟨rfl, hw1⟩))
  go_ret
  exact ⟨rfl, Drew.trans (by assumption) (by assumption)⟩

end Go.Proofs.Ytiodmmjjoodmoaa
