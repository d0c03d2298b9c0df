/- A tag, pure: what is summed up, block by block. -/
import Derived.Test.YticoefnojgaplaaJ
namespace Go.Proofs.Yticoefnojgaplaa
open Go.RowKit

namespace Bt
theorem low_app : ∀ (a b : List Int), low (a ++ b) = low a + 256 ^ a.length * low b
  | [], b => by simp [low]
  | x :: r, b => by
    show x.toNat + 256 * low (r ++ b) = x.toNat + 256 * low r + 256 ^ (r.length + 1) * low b
    rw [low_app r b, Nat.pow_succ]
    grind
theorem low_two (l : List Int) (n m : Nat) (h : n ≤ l.length) : low (l.take (n + m)) = low (l.take n) + 256 ^ n * low ((l.drop n).take m) := by
  rw [List.take_add, low_app, List.length_take, Nat.min_eq_left h]
theorem low_zeros (n : Nat) : low (List.replicate n 0) = 0 := by
  induction n with
  | zero => rfl
  | succ n ih => rw [List.replicate_succ, low, ih]; rfl
theorem le_app (x y n m : Nat) (hx : x < 2 ^ (8 * n)) : le x n ++ le y m = le (x + 2 ^ (8 * n) * y) (n + m) := by
  unfold le
  rw [List.range_add, List.map_append, List.map_map]
  congr 1
  · refine List.map_congr_left fun j hj => ?_
    rw [List.mem_range] at hj
    have e : 2 ^ (8 * n) = 2 ^ (8 * j) * (2 ^ 8 * 2 ^ (8 * (n - j - 1))) := by
      rw [← Nat.pow_add, ← Nat.pow_add]; congr 1; omega
    rw [e, Nat.mul_assoc, Nat.add_mul_div_left _ _ (Nat.two_pow_pos _), Nat.mul_assoc, Nat.add_mul_mod_self_left]
  · refine List.map_congr_left fun j _ => ?_
    simp only [Function.comp]
    rw [Nat.mul_add, Nat.pow_add, ← Nat.div_div_eq_div_mul, Nat.add_mul_div_left _ _ (Nat.two_pow_pos _), Nat.div_eq_of_lt hx, Nat.zero_add]
end Bt
theorem and_nat (v : Int) (m : Nat) (hm : m < 18446744073709551616) (h0 : 0 ≤ v) (h1 : v ≤ 18446744073709551615) : 0 ≤ bits BinOp.and IntKind.u64 v (m : Int) ∧ bits BinOp.and IntKind.u64 v (m : Int) ≤ 18446744073709551615 := by
  obtain ⟨n, rfl⟩ := Int.eq_ofNat_of_zero_le h0
  have hn : n < 18446744073709551616 := by omega
  rw [u64_and_nat n m hn hm]
  have : n &&& m ≤ n := Nat.and_le_left
  omega
theorem low8 {l : List Int} (h8 : ∀ x ∈ l, W8 x) (h : l.length ≤ 8) : ((Bt.low l : Nat) : Int) ≤ 18446744073709551615 := by
  have h1 := Bt.low_lt l h8
  have h2 : 2 ^ (8 * l.length) ≤ 2 ^ 64 := Nat.pow_le_pow_right (by decide) (by omega)
  simp only [Nat.reducePow] at h2
  omega
namespace Po
/-- The factor. -/
def rlo (K : List Int) : Int := bits BinOp.and IntKind.u64 (Bt.low (K.take 8) : Nat) 1152921487695413247
def rhi (K : List Int) : Int := bits BinOp.and IntKind.u64 (Bt.low ((K.drop 8).take 8) : Nat) 1152921487695413244
theorem rlo_le {K : List Int} (h : ∀ x ∈ K, W8 x) : 0 ≤ rlo K ∧ rlo K ≤ 18446744073709551615 := by
  have h1 := low8 (l := K.take 8) (fun x hx => h x (List.mem_of_mem_take hx)) (by rw [List.length_take]; omega)
  exact and_nat _ 1152921487695413247 (by decide) (by omega) h1
theorem rhi_le {K : List Int} (h : ∀ x ∈ K, W8 x) : 0 ≤ rhi K ∧ rhi K ≤ 18446744073709551615 := by
  have h1 := low8 (l := (K.drop 8).take 8) (fun x hx => h x (List.mem_of_mem_drop (List.mem_of_mem_take hx))) (by rw [List.length_take]; omega)
  exact and_nat _ 1152921487695413244 (by decide) (by omega) h1
def fac (K : List Int) : E := split (rlo K) (rhi K) 0
theorem fac_can {K : List Int} (h : ∀ x ∈ K, W8 x) : Can (fac K) := split_can (rhi_le h).1 (rhi_le h).2 (by decide) (by decide)
/-- What a block is worth. -/
def blkv (B : List Int) : Int := ((Bt.low B + 256 ^ B.length : Nat) : Int)
def acc (K Q : List Int) : Nat → Int
  | 0 => 0
  | k + 1 => (acc K Q k + blkv ((Q.drop (16 * k)).take 16)) * val (fac K) % P
/-- The sum of so many blocks. -/
structure Sum (K Q : List Int) (k : Nat) (s : E) : Prop where
  ok : Ok s
  eq : val s % P = acc K Q k
theorem Sum.zero (K Q : List Int) : Sum K Q 0 z := ⟨z_can.ok, by show (0 : Int) % P = 0; decide⟩
theorem Sum.more {K Q : List Int} {k : Nat} {s b : E} (h : Sum K Q k s) (hK : ∀ x ∈ K, W8 x) (hb : Can b) (hv : val b = blkv ((Q.drop (16 * k)).take 16)) : Sum K Q (k + 1) (mul (plus s b) (fac K)) := by
  have hl := plus_le h.ok.le hb
  have hm : Le 135266304 (plus s b) := hl.mono (by decide)
  refine ⟨red_ok (col_le hm (fac_can hK)), ?_⟩
  have ha : acc K Q k % P = acc K Q k := by rw [← h.eq, Int.emod_emod]
  have e : (val s + blkv ((Q.drop (16 * k)).take 16)) % P = (acc K Q k + blkv ((Q.drop (16 * k)).take 16)) % P := by
    rw [Int.add_emod, h.eq, ← ha, ← Int.add_emod, ha]
  rw [mul_val, plus_val, hv, acc, Int.mul_emod, e, ← Int.mul_emod]
theorem blk_full {L : List Int} (h8 : ∀ x ∈ L, W8 x) (h : 16 ≤ L.length) : Can (split (Bt.low (L.take 8) : Nat) (Bt.low ((L.drop 8).take 8) : Nat) 1) ∧ val (split (Bt.low (L.take 8) : Nat) (Bt.low ((L.drop 8).take 8) : Nat) 1) = blkv (L.take 16) := by
  have h1 := low8 (l := L.take 8) (fun x hx => h8 x (List.mem_of_mem_take hx)) (by rw [List.length_take]; omega)
  have h2 := low8 (l := (L.drop 8).take 8) (fun x hx => h8 x (List.mem_of_mem_drop (List.mem_of_mem_take hx))) (by rw [List.length_take]; omega)
  refine ⟨split_can (by omega) h2 (by decide) (by decide), ?_⟩
  rw [split_val (by omega) h1]
  unfold blkv
  rw [show (16 : Nat) = 8 + 8 from rfl, Bt.low_two L 8 8 (by omega), List.length_take, Nat.min_eq_left (by omega)]
  simp only [Nat.reducePow, Nat.reduceAdd, Int.natCast_add, Int.natCast_mul]
  omega
theorem blk_rest {L : List Int} (h8 : ∀ x ∈ L, W8 x) (h : L.length < 16) (R : List Int) (hR : R = (fit L 16).set L.length 1) : R.length = 16 ∧ (∀ x ∈ R, W8 x) ∧ Can (split (Bt.low (R.take 8) : Nat) (Bt.low (R.drop 8) : Nat) 0) ∧ val (split (Bt.low (R.take 8) : Nat) (Bt.low (R.drop 8) : Nat) 0) = blkv (L.take 16) := by
  have hl : R.length = 16 := by rw [hR, List.length_set, fit_length]
  have hw : ∀ x ∈ R, W8 x := by
    intro x hx
    rw [hR] at hx
    rcases List.mem_or_eq_of_mem_set hx with hx | rfl
    · exact fit_W8 h8 16 x hx
    · unfold W8; omega
  have h1 := low8 (l := R.take 8) (fun x hx => hw x (List.mem_of_mem_take hx)) (by rw [List.length_take]; omega)
  have h2 := low8 (l := R.drop 8) (fun x hx => hw x (List.mem_of_mem_drop hx)) (by rw [List.length_drop]; omega)
  refine ⟨hl, hw, split_can (by omega) h2 (by decide) (by decide), ?_⟩
  rw [split_val (by omega) h1]
  have e1 := Bt.low_two R 8 8 (by omega)
  rw [List.take_of_length_le (by omega), List.take_of_length_le (l := R.drop 8) (by rw [List.length_drop]; omega)] at e1
  have e2 : R = L ++ (1 :: List.replicate (15 - L.length) 0) := by
    rw [hR]
    unfold fit zs
    rw [List.take_of_length_le (by omega), List.set_append, if_neg (by omega), Nat.sub_self, show 16 - L.length = (15 - L.length) + 1 by omega, List.replicate_succ]
    rfl
  have e3 : Bt.low R = Bt.low L + 256 ^ L.length := by
    rw [e2, Bt.low_app, Bt.low, Bt.low_zeros]
    simp
  unfold blkv
  rw [List.take_of_length_le (l := L) (show L.length ≤ 16 by omega), ← e3, e1]
  simp only [Nat.reducePow, Int.natCast_add, Int.natCast_mul]
  omega
/-- A tag. -/
def tagN (K Q : List Int) : Nat := (((acc K Q ((Q.length + 15) / 16)).toNat % 2 ^ 128) + Bt.low ((K.drop 16).take 16)) % 2 ^ 128
def tag (K Q : List Int) : List Int := Bt.le (tagN K Q) 16
end Po
end Go.Proofs.Yticoefnojgaplaa
