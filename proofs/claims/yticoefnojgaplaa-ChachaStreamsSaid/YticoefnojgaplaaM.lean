/- Numbers as words of 32 bits, the lowest first: plain functions and what they are worth. -/
import Derived.Test.YticoefnojgaplaaL
namespace Go.Proofs.Yticoefnojgaplaa
theorem W32_getD {l : List Int} (h : ∀ x ∈ l, W32 x) (j : Nat) : W32 (l.getD j 0) := by
  by_cases hj : j < l.length
  · have : l.getD j 0 = l[j] := by simp [hj]
    rw [this]; exact h _ (List.getElem_mem hj)
  · have : l.getD j 0 = 0 := by simp; rw [List.getElem?_eq_none (by omega)]; rfl
    rw [this]; unfold W32; omega
namespace Nt
def B : Int := 4294967296
def val : List Int → Int
  | [] => 0
  | x :: r => x + B * val r
def pw (n : Nat) : Int := B ^ n
theorem pw_zero : pw 0 = 1 := rfl
theorem pw_succ (n : Nat) : pw (n + 1) = B * pw n := by unfold pw; rw [Int.pow_succ, Int.mul_comm]
theorem pw_pos (n : Nat) : 0 < pw n := Int.pow_pos (by decide)
theorem pw_add (m n : Nat) : pw (m + n) = pw m * pw n := Int.pow_add _ _ _
theorem pw_le {m n : Nat} (h : m ≤ n) : pw m ≤ pw n := by
  obtain ⟨d, rfl⟩ : ∃ d, n = m + d := ⟨n - m, by omega⟩
  rw [pw_add]
  have h1 := pw_pos m
  have h2 := pw_pos d
  calc pw m = pw m * 1 := (Int.mul_one _).symm
    _ ≤ pw m * pw d := Int.mul_le_mul_of_nonneg_left (by omega) (by omega)

def Ws (l : List Int) : Prop := ∀ x ∈ l, W32 x
theorem Ws.nil : Ws [] := by intro x hx; cases hx
theorem Ws.tail {x : Int} {l : List Int} (h : Ws (x :: l)) : Ws l := fun y hy => h y (List.mem_cons_of_mem _ hy)
theorem Ws.take {l : List Int} (h : Ws l) (n : Nat) : Ws (l.take n) := fun y hy => h y (List.mem_of_mem_take hy)
theorem Ws.drop {l : List Int} (h : Ws l) (n : Nat) : Ws (l.drop n) := fun y hy => h y (List.mem_of_mem_drop hy)
theorem Ws.getD {l : List Int} (h : Ws l) (n : Nat) : W32 (l.getD n 0) := W32_getD h n
theorem Ws.set {l : List Int} (h : Ws l) (n : Nat) {x : Int} (hx : W32 x) : Ws (l.set n x) := by
  intro y hy
  rcases List.mem_or_eq_of_mem_set hy with h1 | h1
  · exact h y h1
  · rw [h1]; exact hx

theorem val_nonneg : ∀ {l : List Int}, Ws l → 0 ≤ val l
  | [], _ => by simp [val]
  | x :: r, h => by
    have h1 := val_nonneg h.tail
    have h2 := (h x List.mem_cons_self).1
    unfold val
    have : 0 ≤ B * val r := Int.mul_nonneg (by decide) h1
    omega
theorem val_lt : ∀ {l : List Int}, Ws l → val l < pw l.length
  | [], _ => by simp [val, pw_zero]
  | x :: r, h => by
    have h1 := val_lt h.tail
    have h2 := (h x List.mem_cons_self).2
    rw [val, List.length_cons, pw_succ]
    have h3 : B * val r ≤ B * (pw r.length - 1) := Int.mul_le_mul_of_nonneg_left (by omega) (by decide)
    rw [Int.mul_sub, Int.mul_one] at h3
    have hB : B = 4294967296 := rfl
    omega
theorem val_append : ∀ (a b : List Int), val (a ++ b) = val a + pw a.length * val b
  | [], b => by simp [val, pw_zero]
  | x :: r, b => by
    rw [List.cons_append, val, val, val_append r b, List.length_cons, pw_succ, Int.mul_add, Int.mul_assoc]; omega
theorem val_split (l : List Int) (n : Nat) (h : n ≤ l.length) : val l = val (l.take n) + pw n * val (l.drop n) := by
  conv => lhs; rw [← List.take_append_drop n l]
  rw [val_append, List.length_take, Nat.min_eq_left h]
theorem val_drop (l : List Int) (n : Nat) (h : n < l.length) : val (l.drop n) = l.getD n 0 + B * val (l.drop (n + 1)) := by
  rw [List.drop_eq_getElem_cons h, val]
  simp [h]
theorem val_take_succ (l : List Int) (n : Nat) (h : n < l.length) : val (l.take (n + 1)) = val (l.take n) + pw n * l.getD n 0 := by
  rw [List.take_succ_eq_append_getElem h, val_append, List.length_take, Nat.min_eq_left (by omega)]
  simp [val, h]
theorem val_set : ∀ (l : List Int) (n : Nat) (x : Int), n < l.length → val (l.set n x) = val l + pw n * (x - l.getD n 0)
  | [], n, _, h => by simp at h
  | y :: r, 0, x, _ => by simp [val, pw_zero]; omega
  | y :: r, n + 1, x, h => by
    rw [List.set_cons_succ, val, val, val_set r n x (by simpa using h), pw_succ, Int.mul_add, Int.mul_assoc]
    simp; omega
theorem val_zeros (n : Nat) : val (List.replicate n 0) = 0 := by
  induction n with
  | zero => rfl
  | succ n ih => rw [List.replicate_succ, val, ih]; rfl

/-- Where the noughts behind begin. -/
def cut (l : List Int) : Nat → Nat
  | 0 => 0
  | n + 1 => if l.getD n 0 = 0 then cut l n else n + 1
def trim (l : List Int) : List Int := l.take (cut l l.length)
theorem cut_le (l : List Int) : ∀ n, cut l n ≤ n
  | 0 => Nat.le_refl _
  | n + 1 => by
    unfold cut; split
    · exact Nat.le_succ_of_le (cut_le l n)
    · exact Nat.le_refl _
theorem cut_zeros (l : List Int) : ∀ n, n ≤ l.length → val (l.take n) = val (l.take (cut l n))
  | 0, _ => rfl
  | n + 1, h => by
    unfold cut; split
    · next h0 => rw [val_take_succ l n (by omega), h0, Int.mul_zero, Int.add_zero]; exact cut_zeros l n (by omega)
    · rfl
theorem val_trim (l : List Int) : val (trim l) = val l := by
  unfold trim
  rw [← cut_zeros l l.length (Nat.le_refl _), List.take_length]
theorem length_trim (l : List Int) : (trim l).length = cut l l.length := by
  unfold trim
  rw [List.length_take, Nat.min_eq_left (cut_le l _)]
theorem Ws.trim {l : List Int} (h : Ws l) : Ws (trim l) := h.take _
theorem cut_last (l : List Int) : ∀ n, 0 < cut l n → l.getD (cut l n - 1) 0 ≠ 0
  | 0, h => by simp [cut] at h
  | n + 1, h => by
    unfold cut at h ⊢
    split
    · next h0 => rw [if_pos h0] at h; exact cut_last l n h
    · next h0 => exact h0
/-- The last one is no nought. -/
def Neat (l : List Int) : Prop := 0 < l.length → l.getD (l.length - 1) 0 ≠ 0
theorem neat_trim (l : List Int) : Neat (trim l) := by
  intro h
  rw [length_trim] at h ⊢
  have := cut_last l l.length h
  unfold trim
  rw [List.getD_eq_getElem?_getD, List.getElem?_take_of_lt (by omega), ← List.getD_eq_getElem?_getD]
  exact this
theorem neat_le {l : List Int} (hn : Neat l) (hw : Ws l) (h : 0 < l.length) : pw (l.length - 1) ≤ val l := by
  have h1 := hn h
  have h2 := (hw.getD (l.length - 1)).1
  have h3 := val_nonneg (hw.take (l.length - 1))
  have h4 := pw_pos (l.length - 1)
  have e := val_take_succ l (l.length - 1) (by omega)
  rw [show l.length - 1 + 1 = l.length by omega, List.take_length] at e
  rw [e]
  have h5 : pw (l.length - 1) * 1 ≤ pw (l.length - 1) * l.getD (l.length - 1) 0 := Int.mul_le_mul_of_nonneg_left (by omega) (by omega)
  omega
theorem val_lt_of_length {a b : List Int} (ha : Ws a) (hb : Ws b) (nb : Neat b) (h : a.length < b.length) : val a < val b := by
  have h1 := val_lt ha
  have h2 := neat_le nb hb (by omega)
  have h3 := pw_le (show a.length ≤ b.length - 1 by omega)
  omega
/-- The first place from above where they differ tells. -/
theorem val_lt_of_word {a b : List Int} (ha : Ws a) (hb : Ws b) (n : Nat) (h1 : n < a.length) (h2 : n < b.length) (hd : a.drop (n + 1) = b.drop (n + 1)) (hlt : a.getD n 0 < b.getD n 0) : val a < val b := by
  rw [val_split a n (by omega), val_split b n (by omega), val_drop a n h1, val_drop b n h2, hd]
  have h3 := val_lt (ha.take n)
  rw [List.length_take, Nat.min_eq_left (by omega)] at h3
  have h4 := val_nonneg (hb.take n)
  have h5 : pw n * (a.getD n 0 + B * val (b.drop (n + 1)) + 1) ≤ pw n * (b.getD n 0 + B * val (b.drop (n + 1))) := Int.mul_le_mul_of_nonneg_left (by omega) (by have := pw_pos n; omega)
  rw [Int.mul_add, Int.mul_one] at h5
  omega
theorem val_small (x : Int) : val [x % B, x / B] = x := by
  have hB : B = 4294967296 := rfl
  simp only [val, Int.mul_zero, Int.add_zero]
  rw [hB]; omega
end Nt
end Go.Proofs.Yticoefnojgaplaa
