/- The walks of layer 1: what each function answers, of any bits. -/
import Derived.Test.YtiodmmjjoodmoaaRows
import Derived.WalkKit
import Derived.WalkSpells
import Derived.WalkLawsBesides
import Derived.Laws.Externs
import Derived.Lib.Hide
import Derived.Laws.Bits64
import Derived.Laws.BitsAllLaws
import Derived.Test.YtiodmmjjoodmoaaFloats
namespace Go.Proofs.Ytiodmmjjoodmoaa
open Go.RowKit

namespace Fl
/-- A word of 64 bits. -/
def W (a : Nat) : Prop := a < 18446744073709551616
def neg (a : Nat) : Bool := decide (9223372036854775808 ≤ a)
/-- The number that stands for a time. -/
def Kd (a : Nat) : Nat := if nan a then 18446744073709551615 else if neg a then 18446744073709551615 - a else a + 9223372036854775808
def qnan : Nat := 9221120237041090561
/-- The time of a number. -/
def tm (n : Nat) : Nat := if neg n then (if nan (n - 9223372036854775808) then qnan else n - 9223372036854775808) else (if nan (18446744073709551615 - n) then qnan else 18446744073709551615 - n)
def lm (x : Nat) : Nat := if x = 9218868437227405312 then 9218868437227405311 else if x = 18442240474082181120 then 18442240474082181119 else x
def held (x : Nat) : Nat := if nan x then 0 else lm x
def ad (x y : Nat) : Nat := (Ieee.double.add x y).getD 0
def gt0 (d : Nat) : Bool := Ieee.double.order d 0 == some .gt
def pass (now d : Nat) : Nat := if gt0 d then lm (ad (held now) d) else held now
def isF (x : Nat) : Bool := !nan x && decide (x % 9223372036854775808 ≠ 9218868437227405312)
def geSub (now since d : Nat) : Bool := match Ieee.double.sub now since with
  | some r => Ieee.double.order r d == some .gt || Ieee.double.order r d == some .eq
  | none => false
def le0 (d : Nat) : Bool := Ieee.double.order d 0 == some .lt || Ieee.double.order d 0 == some .eq
def over (now since d : Nat) : Bool := if nan now || nan since || nan d || d == 9218868437227405312 then false else le0 d || geSub now since d
end Fl

@[local go_sem] theorem run_bits (a : Nat) (w : World) : (callFunc 25 #[.float .f64 a]).run Try.prog w = .ok (.value (.int .u64 a)) w := by
  rw [run_callFunc_extern (e := Extern.MathFloatBits.float64bits) Try.func25 (by kernel_rfl) (by kernel_rfl) (by kernel_rfl) (by kernel_rfl)]
  rfl
@[local go_sem] theorem run_frombits (a : Int) (w : World) : (callFunc 26 #[.int .u64 a]).run Try.prog w = .ok (.value (.float .f64 a.toNat)) w := by
  rw [run_callFunc_extern (e := Extern.MathFloatBits.float64frombits) Try.func26 (by kernel_rfl) (by kernel_rfl) (by kernel_rfl) (by kernel_rfl)]
  rfl
theorem ret_bool {a b : Bool} (h : a = b) : Ending.returned (.bool a) = .returned (.bool b) := by rw [h]
theorem ret_int {k : IntKind} {a b : Int} (h : a = b) : Ending.returned (.int k a) = .returned (.int k b) := by rw [h]
theorem ret_float {a b : Nat} (h : a = b) : Ending.returned (.float .f64 a) = .returned (.float .f64 b) := by rw [h]

theorem dbl : FloatKind.f64.format = Ieee.double := rfl
theorem ord_self (a : Nat) : (FloatKind.f64.format.order a a != some .eq) = Fl.nan a := by
  rw [dbl, Fl.order_eq]
  cases h : Fl.nan a
  · simp only [Bool.or_self, Bool.false_eq_true, if_false]
    have : compare (Fl.sg a) (Fl.sg a) = .eq := by show compareOfLessAndEq _ _ = _; simp [compareOfLessAndEq]
    rw [this]; rfl
  · simp

theorem and_pow (a i : Nat) : a &&& 2 ^ i = if a.testBit i then 2 ^ i else 0 := by
  apply Nat.eq_of_testBit_eq
  intro j
  rw [Nat.testBit_and, Nat.testBit_two_pow]
  by_cases h : i = j
  · subst h
    cases a.testBit i <;> simp
  · cases a.testBit i <;> simp [h]

theorem and_top (a : Nat) (h : Fl.W a) : (bits .and .u64 (a : Int) 9223372036854775808 != 0) = Fl.neg a := by
  unfold Fl.W at h
  have e := u64_and_nat a 9223372036854775808 h (by decide)
  rw [show ((9223372036854775808 : Nat) : Int) = 9223372036854775808 from rfl] at e
  rw [e, show (9223372036854775808 : Nat) = 2 ^ 63 by decide, and_pow]
  unfold Fl.neg
  have t : a.testBit 63 = decide (9223372036854775808 ≤ a) := by
    rw [Nat.testBit_eq_decide_div_mod_eq]
    have : (2 : Nat) ^ 63 = 9223372036854775808 := by decide
    rw [this]
    by_cases c : 9223372036854775808 ≤ a
    · have e : a / 9223372036854775808 = 1 := by omega
      simp [c, e]
    · have e : a / 9223372036854775808 = 0 := by omega
      simp [c, e]
  rw [t]
  cases decide (9223372036854775808 ≤ a) <;> decide

theorem xor_max (a : Nat) (h : Fl.W a) : bits .xor .u64 IntKind.u64.max (a : Int) = ((18446744073709551615 - a : Nat) : Int) := by
  unfold Fl.W at h
  have e := u64_xor_nat 18446744073709551615 a (by decide) h
  rw [show IntKind.u64.max = ((18446744073709551615 : Nat) : Int) by decide, e]
  congr 1
  apply Nat.eq_of_testBit_eq
  intro i
  rw [Nat.testBit_xor, show (18446744073709551615 : Nat) = 2 ^ 64 - 1 by decide, Nat.testBit_two_pow_sub_one, show 2 ^ 64 - 1 - a = 2 ^ 64 - (a + 1) by omega, Nat.testBit_two_pow_sub_succ (by omega)]
  by_cases c : i < 64
  · simp [c]
  · have : a.testBit i = false := Nat.testBit_lt_two_pow (Nat.lt_of_lt_of_le (show a < 2 ^ 64 by omega) (Nat.pow_le_pow_right (by decide) (by omega)))
    simp [c, this]

theorem or_top (a : Nat) (h : Fl.neg a = false) : bits .or .u64 (a : Int) 9223372036854775808 = ((a + 9223372036854775808 : Nat) : Int) := by
  unfold Fl.neg at h
  simp only [decide_eq_false_iff_not] at h
  have e := u64_or_nat a 9223372036854775808 (by omega) (by decide)
  rw [show ((9223372036854775808 : Nat) : Int) = 9223372036854775808 from rfl] at e
  rw [e, Nat.or_comm]
  have := Nat.two_pow_add_eq_or_of_lt (i := 63) (b := a) (by omega) 1
  simp only [Nat.mul_one] at this
  rw [show (9223372036854775808 : Nat) = 2 ^ 63 by decide, ← this, Nat.add_comm]

theorem andNot_top (a : Nat) (h : Fl.W a) : bits .andNot .u64 (a : Int) 9223372036854775808 = ((a % 9223372036854775808 : Nat) : Int) := by
  unfold Fl.W at h
  have e := u64_andNot_nat a 9223372036854775808 h (by decide)
  rw [show ((9223372036854775808 : Nat) : Int) = 9223372036854775808 from rfl] at e
  rw [e, show 18446744073709551615 - 9223372036854775808 = 2 ^ 63 - 1 by decide, Nat.and_two_pow_sub_one_eq_mod]

set_option maxHeartbeats 400000 in
theorem isNaN_any (a : Nat) (w : World) :
    Calls Try.prog 24 #[.float .f64 a] w fun e w' => e = .returned (.bool (Fl.nan a)) ∧ w = w' := by
  go_enter Try.func24, Try.ntmps24
  go_wp2
  go_ret
  exact ⟨ret_bool (ord_self a), rfl⟩

set_option maxHeartbeats 400000 in
theorem key_any (a : Nat) (w : World) (ha : Fl.W a) :
    Calls Try.prog 12 #[.float .f64 a] w fun e w' => e = .returned (.int .u64 (Fl.Kd a)) ∧ w = w' := by
  have h1 := and_top a ha
  unfold Fl.Kd
  cases hn : Fl.nan a <;> cases hg : Fl.neg a
  all_goals
    rw [hg] at h1
    go_enter Try.func12, Try.ntmps12
    go_wp2_with (go_at_call 24; refine (isNaN_any _ _).mono ?_; rintro e w' ⟨rfl, rfl⟩)
    go_ret
  · exact ⟨ret_int (or_top a hg), rfl⟩
  · exact ⟨ret_int (xor_max a ha), rfl⟩
  · exact ⟨ret_int (by simp), rfl⟩
  · exact ⟨ret_int (by simp), rfl⟩

set_option maxHeartbeats 400000 in
theorem rkey_any (a : Nat) (w : World) (ha : Fl.W a) :
    Calls Try.prog 13 #[.float .f64 a] w fun e w' => e = .returned (.int .u64 (Fl.Kd a)) ∧ w = w' := by
  have hn := ord_self a
  unfold Fl.Kd
  have ht : decide (9223372036854775808 ≤ (a : Int)) = Fl.neg a := by unfold Fl.neg; rw [Bool.eq_iff_iff]; simp; omega
  cases hn' : Fl.nan a <;> cases hg : Fl.neg a
  all_goals
    rw [hg] at ht
    rw [hn'] at hn
    go_enter Try.func13, Try.ntmps13
    go_wp2
    go_ret
  · exact ⟨ret_int (by unfold Fl.neg at hg; simp only [decide_eq_false_iff_not] at hg; rw [IntKind.wrap_u64]; omega), rfl⟩
  · exact ⟨ret_int (by unfold Fl.neg at hg; unfold Fl.W at ha; simp only [decide_eq_true_eq] at hg; rw [IntKind.wrap_u64]; omega), rfl⟩
  · exact ⟨ret_int (by simp), rfl⟩
  · exact ⟨ret_int (by simp), rfl⟩


set_option maxHeartbeats 400000 in
theorem nan_val (w : World) : Calls Try.prog 20 #[] w fun e w' => e = .returned (.float .f64 Fl.qnan) ∧ w = w' := by
  go_enter Try.func20, Try.ntmps20
  go_wp2
  go_ret
  exact ⟨ret_float rfl, rfl⟩

def nt (n : Nat) : Nat := (bits BinOp.xor IntKind.u64 (if IntKind.u64.signed = true then -1 else IntKind.u64.max) (n : Int)).toNat
def at63 (n : Nat) : Nat := (bits BinOp.andNot IntKind.u64 (n : Int) 9223372036854775808).toNat

set_option maxHeartbeats 400000 in
theorem time_lo (n : Nat) (w : World) (h1 : (bits .and .u64 (n : Int) 9223372036854775808 != 0) = false) :
    Calls Try.prog 14 #[.int .u64 n] w fun e w' => e = .returned (.float .f64 (if Fl.nan (nt n) then Fl.qnan else nt n)) ∧ w = w' := by
  unfold nt
  cases h5 : Fl.nan (bits BinOp.xor IntKind.u64 (if IntKind.u64.signed = true then -1 else IntKind.u64.max) (n : Int)).toNat
  · go_enter Try.func14, Try.ntmps14
    go_wp2_with (go_at_call 24; refine (isNaN_any _ _).mono ?_; rintro e w' ⟨rfl, rfl⟩)
    go_ret
    exact ⟨rfl, rfl⟩
  · go_enter Try.func14, Try.ntmps14
    go_wp2_with (first | (go_at_call 24; refine (isNaN_any _ _).mono ?_; rintro e w' ⟨rfl, rfl⟩) | (go_at_call 20; refine (nan_val _).mono ?_; rintro e w' ⟨rfl, rfl⟩))
    go_ret
    exact ⟨rfl, rfl⟩

set_option maxHeartbeats 400000 in
theorem time_hi (n : Nat) (w : World) (h1 : (bits .and .u64 (n : Int) 9223372036854775808 != 0) = true) :
    Calls Try.prog 14 #[.int .u64 n] w fun e w' => e = .returned (.float .f64 (if Fl.nan (at63 n) then Fl.qnan else at63 n)) ∧ w = w' := by
  unfold at63
  cases h5 : Fl.nan (bits BinOp.andNot IntKind.u64 (n : Int) 9223372036854775808).toNat
  · go_enter Try.func14, Try.ntmps14
    go_wp2_with (go_at_call 24; refine (isNaN_any _ _).mono ?_; rintro e w' ⟨rfl, rfl⟩)
    go_ret
    exact ⟨rfl, rfl⟩
  · go_enter Try.func14, Try.ntmps14
    go_wp2_with (first | (go_at_call 24; refine (isNaN_any _ _).mono ?_; rintro e w' ⟨rfl, rfl⟩) | (go_at_call 20; refine (nan_val _).mono ?_; rintro e w' ⟨rfl, rfl⟩))
    go_ret
    exact ⟨rfl, rfl⟩

theorem time_any (n : Nat) (w : World) (hw : Fl.W n) :
    Calls Try.prog 14 #[.int .u64 n] w fun e w' => e = .returned (.float .f64 (Fl.tm n)) ∧ w = w' := by
  have h1 := and_top n hw
  unfold Fl.tm
  cases hg : Fl.neg n
  · have e : nt n = 18446744073709551615 - n := by
      unfold nt
      rw [if_neg (by decide), xor_max n hw, Int.toNat_natCast]
    rw [hg] at h1
    simp only [Bool.false_eq_true, if_false]
    rw [← e]
    exact time_lo n w h1
  · have e : at63 n = n - 9223372036854775808 := by
      unfold at63
      rw [andNot_top n hw, Int.toNat_natCast]
      unfold Fl.neg Fl.W at *
      simp only [decide_eq_true_eq] at hg
      omega
    rw [hg] at h1
    simp only [if_true]
    rw [← e]
    exact time_hi n w h1

end Go.Proofs.Ytiodmmjjoodmoaa
