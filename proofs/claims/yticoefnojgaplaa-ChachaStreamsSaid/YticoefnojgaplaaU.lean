/- The reference's numbers, the walks: the length. -/
import Derived.Test.YticoefnojgaplaaT
namespace Go.Proofs.Yticoefnojgaplaa
open Go.RowKit

theorem bit_at (w : World) (va : Value) (a : List Int) (n : Nat) (i : Int) (hi : i = n) (ha : Num w va a) (hla : a.length ≤ 100000) (hn : n ≤ 10000000) :
    Calls Try.prog 43 #[va, .int .i64 i] w fun e w' => e = .returned (.int .u32 (Nt.bit a n)) ∧ w' = w := by
  subst hi
  exact bit_any w va a n ha hla hn
namespace Nt
theorem pow_step (j : Nat) : (2 : Int) ^ (j + 1) = 2 * 2 ^ j := by rw [Int.pow_succ, Int.mul_comm]
theorem bit_down {a : List Int} (ha : Ws a) {j : Nat} (h : val a < 2 ^ (j + 1)) (hb : bit a j = 0) : val a < 2 ^ j := by
  have hp : (0 : Int) < 2 ^ j := Int.pow_pos (by decide)
  rw [bit_val ha] at hb
  rw [pow_step] at h
  have h1 : val a / 2 ^ j < 2 := Int.ediv_lt_of_lt_mul hp h
  have h2 : 0 ≤ val a / 2 ^ j := Int.ediv_nonneg (val_nonneg ha) (Int.le_of_lt hp)
  have h3 : val a / 2 ^ j < 1 := by omega
  have := Int.lt_mul_of_ediv_lt hp h3
  omega
theorem bit_up {a : List Int} (ha : Ws a) {j : Nat} (hb : bit a j ≠ 0) : 2 ^ j ≤ val a := by
  apply Decidable.byContradiction
  intro h
  apply hb
  rw [bit_val ha, Int.ediv_eq_zero_of_lt (val_nonneg ha) (by omega)]
  rfl
theorem val_lt_two {a : List Int} (ha : Ws a) : val a < 2 ^ (32 * a.length) := by
  have := val_lt ha
  rw [show (2 : Int) ^ (32 * a.length) = pw a.length by rw [Int.pow_mul]; rfl]
  exact this
end Nt

set_option maxRecDepth 100000 in
set_option maxHeartbeats 1000000 in
theorem len_any (w : World) (va : Value) (a : List Int) (ha : Num w va a) (hla : a.length ≤ 100000) :
    Calls Try.prog 42 #[va] w fun e w' => ∃ m : Nat, e = .returned (.int .i64 m) ∧ Nt.val a < 2 ^ m ∧ (0 < m → 2 ^ (m - 1) ≤ Nt.val a) ∧ m ≤ 32 * a.length ∧ w' = w := by
  obtain ⟨aa, ca, rfl⟩ := num_form ha
  have hwa : Hid (Nt.Ws a) := by obtain ⟨_, _, _, _, h, _⟩ := ha; exact h
  have HA := Lib.hid ha
  clear ha
  go_enter Try.func42, Try.ntmps42
  go_wp2_with fail
  go_loopw [3] (fun i wr => ∃ k : Nat, k ≤ 32 * a.length ∧ i = .int .i64 k ∧ wr = w ∧ Hid (Nt.val a < 2 ^ k)) (fun i _ => (intOf i).toNat)
  case atStart => exact ⟨32 * a.length, Nat.le_refl _, by simp, rfl, Nt.val_lt_two hwa.out⟩
  case round =>
    obtain ⟨k, hk, rfl, rfl, HV⟩ := hrel
    by_cases hk0 : 0 < k
    · by_cases hb : Nt.bit a (k - 1) = 0
      · have hd : Hid (Nt.val a < 2 ^ (k - 1)) := Nt.bit_down hwa.out (by rw [show k - 1 + 1 = k by omega]; exact HV.out) hb
        have HBT := Lib.hid (bit_at wr _ a (k - 1) ((k : Int) - 1) (by omega) HA.out hla (by omega))
        rw [hb] at HBT
        clear hb
        go_wp2_with (go_at_call 43; refine HBT.out.mono ?_; rintro e w1 ⟨rfl, rfl⟩)
        refine ⟨⟨k - 1, by omega, ?_, trivial, hd⟩, ?_⟩
        · rw [show ((k - 1 : Nat) : Int) = (k : Int) - 1 by omega]
        · simp [intOf]; omega
      · have hu : Hid (2 ^ (k - 1) ≤ Nt.val a) := Nt.bit_up hwa.out hb
        have HBT := Lib.hid (bit_at wr _ a (k - 1) ((k : Int) - 1) (by omega) HA.out hla (by omega))
        generalize Nt.bit a (k - 1) = bv at *
        go_wp2_with (go_at_call 43; refine HBT.out.mono ?_; rintro e w1 ⟨rfl, rfl⟩)
        go_ret
        exact ⟨k, rfl, HV.out, fun _ => hu.out, hk, rfl⟩
    · obtain rfl : k = 0 := by omega
      go_wp2_with fail
      go_ret
      exact ⟨0, rfl, HV.out, fun h => absurd h (by omega), hk, rfl⟩
end Go.Proofs.Yticoefnojgaplaa
