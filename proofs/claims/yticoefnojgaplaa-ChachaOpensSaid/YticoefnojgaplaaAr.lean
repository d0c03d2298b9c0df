/- The stream of bytes, pure. -/
import Derived.Test.YticoefnojgaplaaAq
namespace Go.Proofs.Yticoefnojgaplaa
open Go.RowKit

namespace Ch
def xr8 (x y : Int) : Int := bits .xor .u8 x y
theorem wrap_W8 (x : Int) : W8 (IntKind.u8.wrap x) := by
  rw [IntKind.wrap_u8]; unfold W8; omega
theorem xr8_W (x y : Int) : W8 (xr8 x y) := by
  unfold xr8 bits
  exact wrap_W8 _
theorem xr8_twice (x y : Int) (hx : W8 x) (hy : W8 y) : xr8 (xr8 x y) y = x := by
  obtain ⟨a, rfl⟩ := Int.eq_ofNat_of_zero_le hx.1
  obtain ⟨b, rfl⟩ := Int.eq_ofNat_of_zero_le hy.1
  have h1 : a < 2 ^ 8 := by have := hx.2; simp only [Nat.reducePow]; omega
  have h2 : b < 2 ^ 8 := by have := hy.2; simp only [Nat.reducePow]; omega
  have h3 := Nat.xor_lt_two_pow h1 h2
  unfold xr8
  rw [u8_xor_nat a b h1 h2, u8_xor_nat _ b h3 h2, Nat.xor_assoc, Nat.xor_self, Nat.xor_zero]
/-- The count of a later block. -/
def cnt (n : Int) (j : Nat) : Int := IntKind.u32.wrap (n + j)
theorem cnt_W (n : Int) (j : Nat) : W32 (cnt n j) := wrap_W _
theorem cnt_zero {n : Int} (h : W32 n) : cnt n 0 = n := by
  unfold cnt W32 at *
  rw [IntKind.wrap_u32]
  omega
theorem cnt_more (n : Int) (j : Nat) : ad (cnt n j) 1 = cnt n (j + 1) := by
  unfold ad cnt
  simp only [IntKind.wrap_u32]
  omega
/-- One byte of the stream. -/
def sb (K : List Int) (n : Int) (N : List Int) (i : Nat) : Int := (block (st K (cnt n (i / 64)) N)).getD (i % 64) 0
def sx (K : List Int) (n : Int) (N P : List Int) (i : Nat) : Int := xr8 (P.getD i 0) (sb K n N i)
/-- So many bytes, turned. -/
def strk (K : List Int) (n : Int) (N P : List Int) : Nat → List Int
  | 0 => []
  | k + 1 => strk K n N P k ++ [sx K n N P k]
def stream (K : List Int) (n : Int) (N P : List Int) : List Int := strk K n N P P.length
theorem strk_length (K : List Int) (n : Int) (N P : List Int) : ∀ k, (strk K n N P k).length = k
  | 0 => rfl
  | k + 1 => by rw [strk, List.length_append, strk_length K n N P k]; rfl
theorem stream_length (K : List Int) (n : Int) (N P : List Int) : (stream K n N P).length = P.length := strk_length _ _ _ _ _
theorem strk_W8 (K : List Int) (n : Int) (N P : List Int) : ∀ k, ∀ x ∈ strk K n N P k, W8 x
  | 0 => fun _ h => (List.not_mem_nil h).elim
  | k + 1 => fun x h => by
    rw [strk, List.mem_append, List.mem_singleton] at h
    rcases h with h | rfl
    · exact strk_W8 K n N P k x h
    · exact xr8_W _ _
theorem strk_getD (K : List Int) (n : Int) (N P : List Int) : ∀ k i, i < k → (strk K n N P k).getD i 0 = sx K n N P i
  | 0, i, h => by omega
  | k + 1, i, h => by
    rw [strk]
    have hl := strk_length K n N P k
    by_cases h1 : i < k
    · rw [List.getD_eq_getElem?_getD, List.getElem?_append_left (by omega), ← List.getD_eq_getElem?_getD]
      exact strk_getD K n N P k i h1
    · obtain rfl : i = k := by omega
      rw [List.getD_eq_getElem?_getD, List.getElem?_append_right (by omega), hl]
      simp
/-- So many bytes, and noughts behind. -/
def stro (K : List Int) (n : Int) (N P : List Int) (k : Nat) : List Int := strk K n N P k ++ zs (P.length - k)
theorem stro_length (K : List Int) (n : Int) (N P : List Int) (k : Nat) (h : k ≤ P.length) : (stro K n N P k).length = P.length := by
  simp [stro, zs, strk_length]; omega
theorem stro_zero (K : List Int) (n : Int) (N P : List Int) : stro K n N P 0 = zs P.length := by simp [stro, strk]
theorem stro_all (K : List Int) (n : Int) (N P : List Int) : stro K n N P P.length = stream K n N P := by simp [stro, stream, zs]
theorem stro_more (K : List Int) (n : Int) (N P : List Int) (k : Nat) (h : k < P.length) : (stro K n N P k).set k (sx K n N P k) = stro K n N P (k + 1) := by
  have e1 : zs (P.length - k) = 0 :: zs (P.length - (k + 1)) := by
    unfold zs
    rw [show P.length - k = (P.length - (k + 1)) + 1 by omega, List.replicate_succ]
  unfold stro
  rw [e1, List.set_append_right _ _ (by rw [strk_length]; exact Nat.le_refl _), strk_length, Nat.sub_self, List.set_cons_zero, strk, List.append_assoc]
  rfl
theorem setw_set12 (K : List Int) (x : Int) : ∀ (k : Nat) (S : List Int), (setw S K 13 k).set 12 x = setw (S.set 12 x) K 13 k
  | 0, _ => rfl
  | k + 1, S => by
    rw [setw, setw, List.set_comm _ _ (by omega), setw_set12 K x k S]
theorem st_set12 (K : List Int) (n m : Int) (N : List Int) : (st K n N).set 12 m = st K m N := by
  unfold st
  rw [setw_set12, List.set_set]
theorem setw_get12 (K : List Int) : ∀ (k : Nat) (S : List Int), (setw S K 13 k).getD 12 0 = S.getD 12 0
  | 0, _ => rfl
  | k + 1, S => by
    rw [setw, List.getD_eq_getElem?_getD, List.getElem?_set_ne (by omega), ← List.getD_eq_getElem?_getD, setw_get12 K k S]
theorem st_get12 (K : List Int) (n : Int) (N : List Int) : (st K n N).getD 12 0 = n := by
  unfold st
  rw [setw_get12, List.getD_eq_getElem?_getD, List.getElem?_set_self (by rw [setw_length]; decide)]
  rfl
theorem block_length (S : List Int) : (block S).length = 64 := outk_length _ _ _
theorem outk_W8 (S M : List Int) : ∀ k, ∀ x ∈ outk S M k, W8 x
  | 0 => fun _ h => (List.not_mem_nil h).elim
  | k + 1 => fun x h => by
    rw [outk, List.mem_append] at h
    rcases h with h | h
    · exact outk_W8 S M k x h
    · exact Bt.le_W8 _ _ x h
theorem block_W8 (S : List Int) : ∀ x ∈ block S, W8 x := outk_W8 _ _ _
theorem getD_W8 {l : List Int} (h : ∀ x ∈ l, W8 x) (i : Nat) : W8 (l.getD i 0) := by
  by_cases hi : i < l.length
  · rw [List.getD_eq_getElem?_getD, List.getElem?_eq_getElem hi]
    exact h _ (List.getElem_mem hi)
  · rw [List.getD_eq_getElem?_getD, List.getElem?_eq_none (by omega)]
    exact ⟨by decide, by decide⟩
theorem sb_W8 (K : List Int) (n : Int) (N : List Int) (i : Nat) : W8 (sb K n N i) := getD_W8 (block_W8 _) _
/-- Twice is nothing. -/
theorem stream_twice (K : List Int) (n : Int) (N P : List Int) (hP : ∀ x ∈ P, W8 x) : stream K n N (stream K n N P) = P := by
  have hl : (stream K n N (stream K n N P)).length = P.length := by rw [stream_length, stream_length]
  refine List.ext_getElem hl fun i h1 h2 => ?_
  have e1 : (stream K n N (stream K n N P)).getD i 0 = P.getD i 0 := by
    have hi : i < (stream K n N P).length := by rw [stream_length]; exact h2
    have e2 := strk_getD K n N (stream K n N P) (stream K n N P).length i hi
    have e3 := strk_getD K n N P P.length i h2
    have e4 : (stream K n N P).getD i 0 = sx K n N P i := e3
    show (strk K n N (stream K n N P) (stream K n N P).length).getD i 0 = _
    rw [e2]
    unfold sx at *
    rw [e4, xr8_twice _ _ (getD_W8 hP i) (sb_W8 K n N i)]
  rw [List.getD_eq_getElem?_getD, List.getD_eq_getElem?_getD, List.getElem?_eq_getElem h1, List.getElem?_eq_getElem h2] at e1
  exact e1
end Ch
/-- What lies where while bytes are turned. -/
structure StS (w : World) (g1 g2 : Nat) (O S : List Int) (wr : World) : Prop where
  oo : Blk wr g1 .u8 5 O
  ss : Blk wr g2 .u32 37 S
  ne : w.heap.size ≤ g1 ∧ g1 < g2
  bb : Below w.heap.size w wr
theorem StS.below {w wr w' : World} {g1 g2 : Nat} {O S : List Int} (h : StS w g1 g2 O S wr) (hb : Below wr.heap.size wr w') : StS w g1 g2 O S w' :=
  ⟨h.oo.other (hb.block _ h.oo.lt), h.ss.other (hb.block _ h.ss.lt), h.ne, h.bb.trans (hb.mono h.bb.size)⟩
theorem StS.putO {w wr : World} {g1 g2 : Nat} {O S : List Int} (h : StS w g1 g2 O S wr) (j : Nat) (x : Int) : StS w g1 g2 (O.set j x) S (wr.setCell ⟨g1, j, none⟩ (.int .u8 x)) := by
  obtain ⟨n1, n2⟩ := h.ne
  exact ⟨h.oo.set j x, h.ss.other (heap_setCell_other _ _ _ _ (by simp; omega)), h.ne, h.bb.setCell n1 _⟩
theorem StS.putS {w wr : World} {g1 g2 : Nat} {O S : List Int} (h : StS w g1 g2 O S wr) (j : Nat) (x : Int) : StS w g1 g2 O (S.set j x) (wr.setCell ⟨g2, j, none⟩ (.int .u32 x)) := by
  obtain ⟨n1, n2⟩ := h.ne
  exact ⟨h.oo.other (heap_setCell_other _ _ _ _ (by simp; omega)), h.ss.set j x, h.ne, h.bb.setCell (by show w.heap.size ≤ g2; omega) _⟩
theorem Own.block {B : Nat} {w : World} {v : Value} {xs : List Int} (h : Own B w v xs) (h0 : 0 < xs.length) : ∃ g cap cur, v = .slice (some ⟨g, 0, none⟩) xs.length cap ∧ B ≤ g ∧ w.heap[g]? = some (.cells cur 5 (0, 0)) ∧ xs.length ≤ cap ∧ cap ≤ maxLen ∧ cur.toList.take xs.length = xs.map (Value.int .u8) := by
  rcases h.1.2 with ⟨_, h2⟩ | ⟨g, cap, cur, h1, h2, h3, h4, h5, h6, h7⟩
  · omega
  · rw [Nat.mul_one] at h6 h7
    exact ⟨g, cap, cur, h1, h2, h3, h4, h5, h7⟩
theorem Blk.own {B : Nat} {w : World} {g : Nat} {l : List Int} (h : Blk w g .u8 5 l) (hg : B ≤ g) (h8 : ∀ x ∈ l, W8 x) (hl : l.length ≤ 1000000) : Own B w (.slice (some ⟨g, 0, none⟩) l.length l.length) l := by
  refine ⟨⟨by simp, Or.inr ⟨g, l.length, _, rfl, hg, h, Nat.le_refl _, ?_, by simp, by rw [Nat.mul_one]; exact List.take_of_length_le (by simp)⟩⟩, h8, ?_⟩
  · unfold maxLen; omega
  · have := h.lt; omega
end Go.Proofs.Yticoefnojgaplaa
