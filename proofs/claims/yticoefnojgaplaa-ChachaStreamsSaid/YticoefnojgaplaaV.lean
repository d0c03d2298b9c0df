/- The reference's numbers, pure: bytes laid into words, the lowest first. -/
import Derived.Test.YticoefnojgaplaaU
namespace Go.Proofs.Yticoefnojgaplaa
open Go.RowKit

namespace Nt
theorem word_small {O : List Int} (hw : Ws O) {q r : Nat} (hq : q < O.length) (h : val O < 2 ^ (32 * q + r)) : O.getD q 0 < 2 ^ r := by
  rw [pw_two, val_split O q (by omega), val_drop O q hq] at h
  have h1 := val_nonneg (hw.take q)
  have h2 := val_nonneg (hw.drop (q + 1))
  have h3 : pw q * O.getD q 0 ≤ pw q * (O.getD q 0 + B * val (O.drop (q + 1))) := Int.mul_le_mul_of_nonneg_left (by unfold B; omega) (Int.le_of_lt (pw_pos q))
  exact Int.lt_of_mul_lt_mul_left (show pw q * O.getD q 0 < pw q * 2 ^ r by omega) (Int.le_of_lt (pw_pos q))
theorem or32 (o s b : Nat) (hs : s ≤ 24) (hb : b ≤ 255) (ho : o < 2 ^ s) : bits BinOp.or IntKind.u32 (o : Int) ((b * 2 ^ s : Nat) : Int) = ((o + b * 2 ^ s : Nat) : Int) := by
  have h1 : 2 ^ s ≤ 2 ^ 24 := Nat.pow_le_pow_right (by decide) hs
  simp only [Nat.reducePow] at h1
  have h2 : b * 2 ^ s ≤ 255 * 2 ^ s := Nat.mul_le_mul_right _ hb
  rw [u32_or_nat _ _ (by omega) (by omega), Nat.or_comm, nat_join s _ _ (Nat.mul_mod_left _ _) ho, Nat.add_comm]
theorem low_more : ∀ (p : List Int) (k : Nat), k < p.length → Bt.low (p.take (k + 1)) = Bt.low (p.take k) + 256 ^ k * (p.getD k 0).toNat
  | [], k, h => by simp at h
  | x :: r, 0, _ => by simp [Bt.low]
  | x :: r, k + 1, h => by
    have ih := low_more r k (by simpa using h)
    show x.toNat + 256 * Bt.low (r.take (k + 1)) = x.toNat + 256 * Bt.low (r.take k) + 256 ^ (k + 1) * (r.getD k 0).toNat
    rw [ih, Nat.pow_succ]
    grind
/-- One byte more. -/
theorem low_word {O p : List Int} {k : Nat} {x : Int} (hk : k < p.length) (hO : k / 4 < O.length) (hp : 0 ≤ p.getD k 0) (hx : x = O.getD (k / 4) 0 + p.getD k 0 * 2 ^ (8 * (k % 4))) (h : val O = (Bt.low (p.take k) : Nat)) : val (O.set (k / 4) x) = (Bt.low (p.take (k + 1)) : Nat) := by
  rw [val_set O _ _ hO, h, low_more p k hk, hx]
  have e : ((256 ^ k : Nat) : Int) = pw (k / 4) * 2 ^ (8 * (k % 4)) := by
    rw [← pw_two, show 32 * (k / 4) + 8 * (k % 4) = 8 * k by omega, Int.pow_mul]
    simp
  rw [Int.natCast_add, Int.natCast_mul, e, Int.toNat_of_nonneg hp]
  grind
end Nt
end Go.Proofs.Yticoefnojgaplaa
