/- Bytes as numbers, the lowest first: plain functions, and the walks of low, of appendLow. -/
import Derived.Test.YticoefnojgaplaaA
namespace Go.Proofs.Yticoefnojgaplaa
open Go.RowKit

namespace Bt
def low : List Int → Nat
  | [] => 0
  | x :: r => x.toNat + 256 * low r
theorem low_lt : ∀ l : List Int, (∀ x ∈ l, W8 x) → low l < 2 ^ (8 * l.length)
  | [], _ => by simp [low]
  | x :: r, h => by
    have h1 := low_lt r (fun y hy => h y (List.mem_cons_of_mem _ hy))
    have h2 := (h x List.mem_cons_self).2
    have e : 2 ^ (8 * (x :: r).length) = 256 * 2 ^ (8 * r.length) := by
      rw [List.length_cons, Nat.mul_add, Nat.pow_add, Nat.mul_comm]
    rw [e]
    show x.toNat + 256 * low r < _
    omega
theorem low_more : ∀ (p : List Int) (k : Nat), k < p.length → low (p.take (k + 1)) = low (p.take k) + 256 ^ k * (p.getD k 0).toNat
  | [], k, h => by simp at h
  | x :: r, 0, _ => by simp [low]
  | x :: r, k + 1, h => by
    have ih := low_more r k (by simpa using h)
    show x.toNat + 256 * low (r.take (k + 1)) = x.toNat + 256 * low (r.take k) + 256 ^ (k + 1) * (r.getD k 0).toNat
    rw [ih, Nat.pow_succ]
    grind
theorem low_append : ∀ (l : List Int) (x : Int), low (l ++ [x]) = low l + 256 ^ l.length * x.toNat
  | [], x => by simp [low]
  | y :: r, x => by
    show y.toNat + 256 * low (r ++ [x]) = y.toNat + 256 * low r + 256 ^ (r.length + 1) * x.toNat
    rw [low_append r x, Nat.pow_succ]
    grind
theorem low_range (N : Nat) : ∀ n, low ((List.range n).map fun j => ((N / 2 ^ (8 * j) % 2 ^ 8 : Nat) : Int)) = N % 2 ^ (8 * n)
  | 0 => by simp [low, Nat.mod_one]
  | n + 1 => by
    rw [List.range_succ, List.map_append, List.map_cons, List.map_nil, low_append, low_range N n, List.length_map, List.length_range, Int.toNat_natCast]
    rw [show 8 * (n + 1) = 8 * n + 8 by omega, Nat.pow_add 2 (8 * n) 8, Nat.mod_mul, Nat.pow_mul]
/-- So many bytes of a number. -/
def le (x : Nat) (n : Nat) : List Int := (List.range n).map fun j => ((x / 2 ^ (8 * j) % 2 ^ 8 : Nat) : Int)
theorem le_length (x n : Nat) : (le x n).length = n := by simp [le]
theorem le_more (x n : Nat) : le x (n + 1) = le x n ++ [((x / 2 ^ (8 * n) % 2 ^ 8 : Nat) : Int)] := by simp [le, List.range_succ]
theorem le_W8 (x n : Nat) : ∀ y ∈ le x n, W8 y := by
  intro y hy
  unfold le at hy
  rw [List.mem_map] at hy
  obtain ⟨j, _, rfl⟩ := hy
  have := Nat.mod_lt (x / 2 ^ (8 * j)) (show 0 < 2 ^ 8 by decide)
  unfold W8
  omega
theorem low_le (x n : Nat) : low (le x n) = x % 2 ^ (8 * n) := low_range x n
end Bt
theorem or64 (o s b : Nat) (hs : s ≤ 56) (hb : b ≤ 255) (ho : o < 2 ^ s) : bits BinOp.or IntKind.u64 (o : Int) ((b * 2 ^ s : Nat) : Int) = ((o + b * 2 ^ s : Nat) : Int) := by
  have h1 : 2 ^ s ≤ 2 ^ 56 := Nat.pow_le_pow_right (by decide) hs
  simp only [Nat.reducePow] at h1
  have h2 : b * 2 ^ s ≤ 255 * 2 ^ s := Nat.mul_le_mul_right _ hb
  rw [u64_or_nat _ _ (by omega) (by omega), Nat.or_comm, nat_join s _ _ (Nat.mul_mod_left _ _) ho, Nat.add_comm]

set_option maxRecDepth 100000 in
set_option maxHeartbeats 400000 in
theorem low_any (w : World) (a : Option Addr) (c : Nat) (p : List Int) (hp : Slc w (.slice a p.length c) p) (hl : p.length ≤ 8) :
    Calls Try.prog 25 #[.slice a p.length c] w fun e w' => e = .returned (.int .u64 (Bt.low p : Nat)) ∧ Below w.heap.size w w' := by
  have HP := Lib.hid hp
  have h8 : Hid (∀ x ∈ p, W8 x) := by obtain ⟨_, _, _, _, h, _⟩ := hp; exact h
  clear hp
  go_enter Try.func25, Try.ntmps25
  go_wp2_with fail
  go_loopw [3, 8] (fun n i wr => ∃ k : Nat, k ≤ p.length ∧ i = .int .i64 k ∧ n = .int .u64 (Bt.low (p.take k) : Nat) ∧ Hid (Below w.heap.size w wr)) (fun _ i _ => p.length - (intOf i).toNat)
  case atStart => exact ⟨0, Nat.zero_le _, rfl, rfl, Below.refl _ _⟩
  case round =>
    obtain ⟨k, hk, rfl, rfl, BW⟩ := hrel
    by_cases hlt : k < p.length
    · obtain ⟨b1, o1, rfl, hb1, hc1, hcap1⟩ := slc_cell HP.out k hlt
      have hcb := (BW.out.cell (p := ⟨b1, o1 + k, none⟩) hb1).trans hc1
      have hx8 : 0 ≤ p.getD k 0 ∧ p.getD k 0 ≤ 255 := by
        have hm : p.getD k 0 ∈ p := by rw [List.getD_eq_getElem?_getD, List.getElem?_eq_getElem hlt]; exact List.getElem_mem hlt
        have := h8.out _ hm
        unfold W8 at this; omega
      have hlow : Bt.low (p.take k) < 2 ^ (8 * k) := by
        have h1 := Bt.low_lt (p.take k) (fun x hx => h8.out x (List.mem_of_mem_take hx))
        rwa [List.length_take, Nat.min_eq_left hk] at h1
      obtain ⟨x0, x1⟩ := hx8
      have hmore := Bt.low_more p k hlt
      rw [show 256 ^ k = 2 ^ (8 * k) by rw [Nat.pow_mul]] at hmore
      have HMORE := Lib.hid hmore
      clear hmore hc1
      generalize p.getD k 0 = x at *
      obtain ⟨xn, rfl⟩ := Int.eq_ofNat_of_zero_le x0
      rw [show ((xn : Int)).toNat = xn by omega] at HMORE
      generalize Bt.low (p.take k) = o at *
      have hor := or64 o (8 * k) xn (by omega) (by omega) hlow
      have h2p : 2 ^ (8 * k) ≤ 2 ^ 56 := Nat.pow_le_pow_right (by decide) (by omega)
      have hbp : xn * 2 ^ (8 * k) ≤ 255 * 2 ^ (8 * k) := Nat.mul_le_mul_right _ (by omega)
      have hcast : (xn : Int) * 2 ^ (8 * k) % 18446744073709551616 = ((xn * 2 ^ (8 * k) : Nat) : Int) := by
        rw [show (xn : Int) * 2 ^ (8 * k) = ((xn * 2 ^ (8 * k) : Nat) : Int) by simp]
        simp only [Nat.reducePow] at h2p
        exact Int.emod_eq_of_lt (by omega) (by omega)
      have hval : bits BinOp.or IntKind.u64 (o : Int) ((xn : Int) * 2 ^ (8 * k) % 18446744073709551616) = ((o + 2 ^ (8 * k) * xn : Nat) : Int) := by rw [hcast, hor, Nat.mul_comm]
      have HVAL := Lib.hid hval
      clear hor hval hcast h2p hbp hlow
      go_wp2
      go_roundw
      case rel => exact ⟨k + 1, by omega, by go_num, by rw [HMORE.out]; exact congrArg (Value.int .u64) HVAL.out, BW⟩
      case measure => simp [intOf]; omega
    · obtain rfl : k = p.length := by omega
      rw [List.take_length]
      go_wp2
      go_ret
      exact ⟨rfl, BW.out⟩
end Go.Proofs.Yticoefnojgaplaa
