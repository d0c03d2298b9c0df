/- Layer 2's reference, the pure part: words by bytes, the tail, one block more. -/
import Derived.Test.YtiodmmjjoodmoaaDoorAe
import Derived.Laws.OwnMore
namespace Go.Proofs.YtiodmmjjoodmoaaDoor
open Go.RowKit
namespace Sh
/-- Some bytes as a number, the highest first. -/
def acc (p : List Int) (at0 : Nat) : Nat → Int
  | 0 => 0
  | j + 1 => acc p at0 j * 256 + p.getD (at0 + j) 0
theorem acc_low (p : List Int) (at0 j : Nat) (h : ∀ x ∈ p, W8 x) (hj : j ≤ 3) : 0 ≤ acc p at0 j ∧ acc p at0 j ≤ 16777215 := by
  have h0 := W8_getD h (at0 + 0)
  have h1 := W8_getD h (at0 + 1)
  have h2 := W8_getD h (at0 + 2)
  obtain ⟨a0, b0⟩ := h0
  obtain ⟨a1, b1⟩ := h1
  obtain ⟨a2, b2⟩ := h2
  match j, hj with
  | 0, _ => simp only [acc]; omega
  | 1, _ => simp only [acc]; omega
  | 2, _ => simp only [acc]; omega
  | 3, _ => simp only [acc]; omega
theorem ld4_sum (a b c d : Int) (ha : W8 a) (hb : W8 b) (hc : W8 c) (hd : W8 d) : ld4 a b c d = ((a * 256 + b) * 256 + c) * 256 + d := by
  obtain ⟨a0, a1⟩ := ha
  obtain ⟨b0, b1⟩ := hb
  obtain ⟨c0, c1⟩ := hc
  obtain ⟨d0, d1⟩ := hd
  obtain ⟨A, rfl⟩ := Int.eq_ofNat_of_zero_le a0
  obtain ⟨B, rfl⟩ := Int.eq_ofNat_of_zero_le b0
  obtain ⟨C, rfl⟩ := Int.eq_ofNat_of_zero_le c0
  obtain ⟨D, rfl⟩ := Int.eq_ofNat_of_zero_le d0
  unfold ld4
  rw [show ((A : Nat) : Int) * 16777216 = ((A * 16777216 : Nat) : Int) by omega, show ((B : Nat) : Int) * 65536 = ((B * 65536 : Nat) : Int) by omega, show ((C : Nat) : Int) * 256 = ((C * 256 : Nat) : Int) by omega]
  rw [u32_or_nat _ _ (by omega) (by omega), nat_join 24 _ _ (by omega) (by omega), u32_or_nat _ _ (by omega) (by omega), nat_join 16 _ _ (by omega) (by omega), u32_or_nat _ _ (by omega) (by omega), nat_join 8 _ _ (by omega) (by omega)]
  omega
theorem acc_four (p : List Int) (i : Nat) (h : ∀ x ∈ p, W8 x) : acc p (4 * i) 4 = ld4 (p.getD (4 * i) 0) (p.getD (4 * i + 1) 0) (p.getD (4 * i + 2) 0) (p.getD (4 * i + 3) 0) := by
  rw [ld4_sum _ _ _ _ (W8_getD h _) (W8_getD h _) (W8_getD h _) (W8_getD h _)]
  simp only [acc, Nat.add_zero]
  omega
/-- The words so far. -/
def words (p : List Int) (i : Nat) : List Int := if i < 16 then (w16 p).take i else grow (i - 16) (w16 p)
theorem length_words (p : List Int) (i : Nat) : (words p i).length = i := by
  unfold words
  split
  · simp [length_w16]; omega
  · rw [length_grow, length_w16]; omega
theorem words_W (p : List Int) (i : Nat) : ∀ x ∈ words p i, W32 x := by
  unfold words
  split
  · intro x hx; exact w16_W p x (List.mem_of_mem_take hx)
  · exact grow_W _ _ (w16_W p)
theorem words_low (p : List Int) (i : Nat) (h : i < 16) (h8 : ∀ x ∈ p, W8 x) : words p (i + 1) = words p i ++ [acc p (4 * i) 4] := by
  rw [acc_four p i h8, show words p i = (w16 p).take i from if_pos h, ← w16_take_succ p i h]
  unfold words
  split
  · rfl
  · obtain rfl : i = 15 := by omega
    rw [List.take_of_length_le (by rw [length_w16]; omega)]; rfl
theorem words_high (p : List Int) (i : Nat) (h : 16 ≤ i) : words p (i + 1) = words p i ++ [ad (ad (ad ((words p i).getD (i - 16) 0) (sg0 ((words p i).getD (i - 15) 0))) ((words p i).getD (i - 7) 0)) (sg1 ((words p i).getD (i - 2) 0))] := by
  have hl := length_words p i
  have e : words p i = grow (i - 16) (w16 p) := if_neg (by omega)
  have e2 : words p (i + 1) = grow (i - 16 + 1) (w16 p) := by
    rw [show i - 16 + 1 = i + 1 - 16 by omega]; exact if_neg (by omega)
  rw [e] at hl ⊢
  rw [e2]
  show _ ++ [ext _] = _
  unfold ext
  rw [hl]
theorem words_all (p : List Int) : words p 64 = sched p := if_neg (by decide)
theorem lbytes_succ (len : Int) (k : Nat) : lbytes len (k + 1) = lbytes len k ++ [lbyte len k] := by simp [lbytes, List.range_succ]
theorem lbytes_W (len : Int) (k : Nat) : ∀ x ∈ lbytes len k, W8 x := by
  intro x hx
  simp only [lbytes, List.mem_map] at hx
  obtain ⟨i, _, rfl⟩ := hx
  unfold lbyte W8; omega
/-- The message with its tail. -/
def full (m : List Int) : List Int := m ++ pad m.length
theorem length_full (m : List Int) : ∃ b, (full m).length = 64 * b ∧ 64 * b ≤ m.length + 72 := by
  refine ⟨(m.length + 1 + (119 - m.length % 64) % 64 + 8) / 64, ?_, ?_⟩
  · simp [full, pad, lbytes]; omega
  · omega
theorem pad_W (n : Nat) : ∀ x ∈ pad n, W8 x := by
  intro x hx
  simp only [pad, List.mem_cons, List.mem_append, List.mem_replicate] at hx
  rcases hx with rfl | ⟨_, rfl⟩ | hx
  · unfold W8; omega
  · unfold W8; omega
  · exact lbytes_W _ _ x hx
theorem full_W (m : List Int) (h : ∀ x ∈ m, W8 x) : ∀ x ∈ full m, W8 x := by
  intro x hx
  rcases List.mem_append.1 hx with hx | hx
  · exact h x hx
  · exact pad_W _ x hx
/-- A block. -/
def blockOf (l : List Int) (b : Nat) : List Int := (l.drop (64 * b)).take 64
theorem blockOf_get (l : List Int) (b j : Nat) (hj : j < 64) : (blockOf l b).getD j 0 = l.getD (64 * b + j) 0 := by
  unfold blockOf
  rw [List.getD_eq_getElem?_getD, List.getElem?_take, if_pos hj, List.getElem?_drop, ← List.getD_eq_getElem?_getD]
theorem blockOf_W (l : List Int) (b : Nat) (h : ∀ x ∈ l, W8 x) : ∀ x ∈ blockOf l b, W8 x := fun x hx => h x (List.mem_of_mem_drop (List.mem_of_mem_take hx))
theorem blocks_more (b : Nat) (s : S) (l : List Int) : blocks (b + 1) s l = plus (blocks b s l) (rounds KK (sched (blockOf l b)) (blocks b s l) 64) := rfl
theorem sha_full (m : List Int) (b : Nat) (h : (full m).length = 64 * b) : sha m = out (blocks b H0 (full m)) := by
  show out (blocks ((full m).length / 64) H0 (full m)) = _
  rw [h, Nat.mul_div_cancel_left _ (by decide)]
theorem outW_take (x : Int) (h : W32 x) (t : Nat) (ht : t < 4) : (outW x).take (t + 1) = (outW x).take t ++ [x / 2 ^ (8 * (3 - t)) % 256] := by
  obtain ⟨h0, h1⟩ := h
  match t, ht with
  | 0, _ =>
    simp [outW]; omega
  | 1, _ => simp [outW]
  | 2, _ => simp [outW]
  | 3, _ => simp [outW]
end Sh
end Go.Proofs.YtiodmmjjoodmoaaDoor
