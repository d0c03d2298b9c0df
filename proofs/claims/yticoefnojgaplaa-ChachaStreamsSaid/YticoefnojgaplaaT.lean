/- The reference's numbers, the walks: a bit. -/
import Derived.Test.YticoefnojgaplaaS
namespace Go.Proofs.Yticoefnojgaplaa
open Go.RowKit

namespace Nt
def bit (a : List Int) (n : Nat) : Int := a.getD (n / 32) 0 / 2 ^ (n % 32) % 2
theorem pw_two (q r : Nat) : (2 : Int) ^ (32 * q + r) = pw q * 2 ^ r := by
  rw [Int.pow_add, Int.pow_mul]; rfl
theorem bit_word (x y : Int) (r : Nat) (hr : r < 32) : (x + B * y) / 2 ^ r % 2 = x / 2 ^ r % 2 := by
  have e : B = 2 ^ r * (2 * 2 ^ (31 - r)) := by
    rw [show (2 : Int) * 2 ^ (31 - r) = 2 ^ (32 - r) by rw [show 32 - r = (31 - r) + 1 by omega, Int.pow_succ, Int.mul_comm], ← Int.pow_add, show r + (32 - r) = 32 by omega]
    rfl
  rw [e, Int.mul_assoc, Int.add_mul_ediv_left _ _ (Int.ne_of_gt (Int.pow_pos (by decide))), Int.mul_assoc, Int.add_mul_emod_self_left]
theorem val_high {a : List Int} (ha : Ws a) (q : Nat) : val a / pw q = val (a.drop q) := by
  by_cases h : q ≤ a.length
  · rw [val_split a q h, Int.add_mul_ediv_left _ _ (Int.ne_of_gt (pw_pos q)), Int.ediv_eq_zero_of_lt (val_nonneg (ha.take q))]
    · omega
    · have := val_lt (ha.take q)
      rw [List.length_take, Nat.min_eq_left h] at this
      exact this
  · rw [List.drop_of_length_le (by omega), Int.ediv_eq_zero_of_lt (val_nonneg ha) (Int.lt_of_lt_of_le (val_lt ha) (pw_le (by omega)))]
    rfl
theorem bit_val {a : List Int} (ha : Ws a) (n : Nat) : bit a n = val a / 2 ^ n % 2 := by
  have e : (2 : Int) ^ n = pw (n / 32) * 2 ^ (n % 32) := by rw [← pw_two, Nat.div_add_mod]
  unfold bit
  rw [e, ← Int.ediv_ediv_of_nonneg (Int.le_of_lt (pw_pos _)), val_high ha]
  by_cases h : n / 32 < a.length
  · rw [val_drop a _ h, bit_word _ _ _ (by omega)]
  · rw [List.drop_of_length_le (by omega), show a.getD (n / 32) 0 = 0 by simp [List.getD_eq_getElem?_getD, List.getElem?_eq_none (show a.length ≤ n / 32 by omega)]]
    rfl
end Nt

theorem and1_32 (v : Int) (h0 : 0 ≤ v) (h1 : v ≤ 4294967295) : bits BinOp.and IntKind.u32 v 1 = v % 2 := by
  obtain ⟨n, rfl⟩ := Int.eq_ofNat_of_zero_le h0
  have h := u32_and_nat n 1 (by omega) (by decide)
  rw [nat_mask1, Int.natCast_emod] at h
  exact h

set_option maxRecDepth 100000 in
set_option maxHeartbeats 1000000 in
theorem bit_any (w : World) (va : Value) (a : List Int) (n : Nat) (ha : Num w va a) (hla : a.length ≤ 100000) (hn : n ≤ 10000000) :
    Calls Try.prog 43 #[va, .int .i64 n] w fun e w' => e = .returned (.int .u32 (Nt.bit a n)) ∧ w' = w := by
  obtain ⟨aa, ca, rfl⟩ := num_form ha
  have hwa : Hid (Nt.Ws a) := by obtain ⟨_, _, _, _, h, _⟩ := ha; exact h
  have hda : 0 ≤ a.getD (n / 32) 0 ∧ a.getD (n / 32) 0 ≤ 4294967295 := hwa.out.getD _
  obtain ⟨da0, da1⟩ := hda
  have hbit : Hid (Nt.bit a n = a.getD (n / 32) 0 / 2 ^ (n % 32) % 2) := rfl
  by_cases hlq : n / 32 < a.length
  · obtain ⟨b1, o1, rfl, hb1, hc1, hcap1⟩ := num_cell ha _ hlq
    clear ha hwa
    generalize a.getD (n / 32) 0 = xa at *
    have hm := and1_32 (xa / 2 ^ (n % 32)) (Int.ediv_nonneg (by omega) (Int.le_of_lt (Int.pow_pos (by decide)))) (Int.le_trans (Int.ediv_le_self _ (by omega)) (by omega))
    go_enter Try.func43, Try.ntmps43
    go_wp2_with fail
    go_ret
    exact ⟨by rw [hbit.out]; rfl, rfl⟩
  · clear hwa
    have hz : a.getD (n / 32) 0 = 0 := by simp [List.getD_eq_getElem?_getD, List.getElem?_eq_none (show a.length ≤ n / 32 by omega)]
    have hb : Hid (Nt.bit a n = 0) := by show _ = _; rw [hbit.out, hz]; simp
    clear hbit da0 da1 hz ha
    go_enter Try.func43, Try.ntmps43
    go_wp2_with fail
    go_ret
    exact ⟨by rw [hb.out]; rfl, rfl⟩
end Go.Proofs.Yticoefnojgaplaa
