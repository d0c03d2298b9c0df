/- The reference's tag: what the end is worth; bytes appended to none. -/
import Derived.Test.YticoefnojgaplaaAc
namespace Go.Proofs.Yticoefnojgaplaa
open Go.RowKit

namespace Nt
theorem drop_word (a : List Int) (n : Nat) : val (a.drop n) = a.getD n 0 + B * val (a.drop (n + 1)) := by
  by_cases h : n < a.length
  · exact val_drop a n h
  · rw [List.drop_of_length_le (by omega), List.drop_of_length_le (by omega), show a.getD n 0 = 0 by simp [List.getD_eq_getElem?_getD, List.getElem?_eq_none (show a.length ≤ n by omega)]]
    rfl
theorem byte_word (x y : Int) (r : Nat) (hr : r < 4) : (x + B * y) / 2 ^ (8 * r) % 256 = x / 2 ^ (8 * r) % 256 := by
  unfold B
  match r, hr with
  | 0, _ => simp only [Nat.mul_zero, Int.pow_zero, Int.ediv_one]; omega
  | 1, _ => simp only [Nat.mul_one, Int.reducePow]; omega
  | 2, _ => simp only [Nat.reduceMul, Int.reducePow]; omega
  | 3, _ => simp only [Nat.reduceMul, Int.reducePow]; omega
theorem byte_val {a : List Int} (ha : Ws a) (j : Nat) : byte a j = val a / 2 ^ (8 * j) % 256 := by
  have e : (2 : Int) ^ (8 * j) = pw (j / 4) * 2 ^ (8 * (j % 4)) := by
    rw [← pw_two]; congr 1; omega
  rw [e, ← Int.ediv_ediv_of_nonneg (Int.le_of_lt (pw_pos _)), val_high ha, drop_word, byte_word _ _ _ (by omega)]
  rfl
theorem bytes_le {a : List Int} (ha : Ws a) {N : Nat} (hv : val a = (N : Int)) (n : Nat) : (List.range n).map (byte a) = Bt.le N n := by
  unfold Bt.le
  refine List.map_congr_left fun j _ => ?_
  rw [byte_val ha, hv]
  simp
end Nt
theorem le_mod (x n : Nat) : Bt.le (x % 2 ^ (8 * n)) n = Bt.le x n := by
  unfold Bt.le
  refine List.map_congr_left fun j hj => ?_
  rw [List.mem_range] at hj
  have : x % 2 ^ (8 * n) / 2 ^ (8 * j) % 2 ^ 8 = x / 2 ^ (8 * j) % 2 ^ 8 := by
    apply Nat.eq_of_testBit_eq
    intro i
    simp only [Nat.testBit_mod_two_pow, Nat.testBit_div_two_pow]
    by_cases hi : i < 8
    · simp [hi, show i + 8 * j < 8 * n by omega]
    · simp [hi]
  rw [this]
/-- The tag, from the sum and the key's end. -/
theorem tag_of {K Q : List Int} (hK : K.length = 32) {X : Nat} (hX : (X : Int) = Po.acc K Q ((Q.length + 15) / 16) + (Bt.low (K.drop 16) : Nat)) (ha : 0 ≤ Po.acc K Q ((Q.length + 15) / 16)) : Bt.le X 16 = Po.tag K Q := by
  have hd : (K.drop 16).take 16 = K.drop 16 := List.take_of_length_le (by rw [List.length_drop]; omega)
  unfold Po.tag Po.tagN
  rw [hd, ← le_mod X 16, ← le_mod _ 16]
  congr 1
  obtain ⟨A, hA⟩ := Int.eq_ofNat_of_zero_le ha
  rw [hA] at hX ⊢
  have : X = A + Bt.low (K.drop 16) := by omega
  rw [this, Int.toNat_natCast]
  simp only [Nat.reduceMul]
  omega
/-- The reference's Bytes, by the number's worth. -/
theorem bytes_nv (w : World) (u : Value) (X L n : Nat) (hu : Nv w u X L) (hL : L ≤ 100000) (hn : n ≤ 100000) : Calls Try.prog 36 #[u, .int .i64 n] w fun e w' => e = .returned (.slice (some ⟨w.heap.size, 0, none⟩) n n) ∧ Blk w' w.heap.size .u8 5 (Bt.le X n) ∧ Below w.heap.size w w' := by
  obtain ⟨a, h1, hv, _, h2⟩ := hu
  obtain ⟨_, _, _, _, h8, _⟩ := id h1
  rw [← Nt.bytes_le h8 hv n]
  exact outb_any w u a n h1 (by omega) hn
/-- A copy of bytes, appended to none. -/
theorem append_bytes {w : World} {ops : Array Oper} {rest : List Oper} {o : Oper} {a : Act} {Q : Exit → Act → World → Prop} (hgd : o.guard = none) (s x : Operand)
    (ho : o.op = .call { callee := .builtin .append, args := #[s, x], argTypes := #[22, 22] })
    (hs : a.eval s = .slice none 0 0) (b off c : Nat) (l : List Int) (hx : a.eval x = .slice (some ⟨b, off, none⟩) l.length c) (hl : At w .u8 b off l) (h8 : ∀ x ∈ l, W8 x) (hlen : l.length ≤ 100000000)
    (h : ∀ v' w', Own w.heap.size w' v' l → Below w.heap.size w w' → wpList Try.prog ops Q rest (a.put o.dst v') w') :
    wpList Try.prog ops Q (o :: rest) a w := by
  obtain ⟨i0, hi, hz0, hz1, hz2⟩ := info_parts info5
  refine wpList_append_own_at w hgd s x 22 ho w.heap.size 5 i0 (.int .u8 0) 1 1 Try.underlying22 hi hz0 hz1 hz2 rfl (by decide) (.slice none 0 0) 0 [] hs ⟨rfl, Or.inl ⟨rfl, rfl⟩⟩ ⟨b, off, none⟩ l.length c (l.map (Value.int .u8)) hx (by rw [List.length_map, Nat.mul_one]) (src_of_at hl) ?_ (by unfold maxLen; omega) (by omega) (Nat.le_refl _) ?_
  · intro u hu
    simp only [List.mem_map] at hu
    obtain ⟨y, _, rfl⟩ := hu; rfl
  · intro v' w' h1 h2 _ _
    rw [Nat.zero_add, List.nil_append] at h1
    exact h v' w' ⟨h1, h8, h2.size⟩ (below_grown (Below.refl _ _) (xs := []) (e := 5) (k := 0) (base := w.heap.size) ⟨rfl, Or.inl ⟨rfl, rfl⟩⟩ h2 (Nat.le_refl _))
end Go.Proofs.Yticoefnojgaplaa
