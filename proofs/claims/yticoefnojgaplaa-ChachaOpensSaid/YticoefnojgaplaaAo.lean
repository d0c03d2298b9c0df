/- The reference's Block: words behind words; a copy. -/
import Derived.Test.YticoefnojgaplaaAn
namespace Go.Proofs.Yticoefnojgaplaa
open Go.RowKit

section
variable {w : World} {ops : Array Oper} {rest : List Oper} {o : Oper} {a : Act} {Q : Exit → Act → World → Prop}
theorem append_word41 (hgd : o.guard = none) (s x : Operand)
    (ho : o.op = .call { callee := .builtin .append, args := #[s, x], argTypes := #[41, 41] })
    (w0 : World) (v : Value) (xs : List Int) (hs : a.eval s = v) (hown : Mine .u32 23 w0 w v xs) (y : Int) (hx : a.eval x = .slice (some ⟨w.heap.size, 0, none⟩) 1 1) (hlen : xs.length ≤ 10000000000000)
    (h : ∀ v' w', Mine .u32 23 w0 w' v' (xs ++ [y]) → wpList Try.prog ops Q rest (a.put o.dst v') w') :
    wpList Try.prog ops Q (o :: rest) a (w.alloc (.cells #[.int .u32 y] 23)) := by
  obtain ⟨i0, hi, hz0, hz1, hz2⟩ := info_parts info36
  refine wpList_append_own_at (w.alloc (.cells #[.int .u32 y] 23)) hgd s x 41 ho w0.heap.size 23 i0 (.int .u32 0) 1 4 Try.underlying41 hi hz0 hz1 hz2 rfl (by decide) v xs.length (xs.map (Value.int .u32)) hs (hown.1.alloc _) ⟨w.heap.size, 0, none⟩ 1 1 [.int .u32 y] hx rfl (cell_one_new w _ _) (by intro u hu; simp at hu; subst hu; rfl) (by unfold maxLen; omega) (by omega) (by have := hown.2.size; simp; omega) ?_
  intro v' w' h1 h2 _ _
  have hb := own_below (hown.2.alloc hown.2.size _) (hown.1.alloc _) h2
  exact h v' w' ⟨by rw [List.length_append, List.map_append]; exact h1, hb⟩
end
/-- A copy of words, appended to none. -/
theorem append_words41 {w : World} {ops : Array Oper} {rest : List Oper} {o : Oper} {a : Act} {Q : Exit → Act → World → Prop} (hgd : o.guard = none) (s x : Operand)
    (ho : o.op = .call { callee := .builtin .append, args := #[s, x], argTypes := #[41, 41] })
    (hs : a.eval s = .slice none 0 0) (b off c : Nat) (l : List Int) (hx : a.eval x = .slice (some ⟨b, off, none⟩) l.length c) (hl : At w .u32 b off l) (hlen : l.length ≤ 100000000)
    (h : ∀ v' w', Mine .u32 23 w w' v' l → wpList Try.prog ops Q rest (a.put o.dst v') w') :
    wpList Try.prog ops Q (o :: rest) a w := by
  obtain ⟨i0, hi, hz0, hz1, hz2⟩ := info_parts info36
  refine wpList_append_own_at w hgd s x 41 ho w.heap.size 23 i0 (.int .u32 0) 1 4 Try.underlying41 hi hz0 hz1 hz2 rfl (by decide) (.slice none 0 0) 0 [] hs ⟨rfl, Or.inl ⟨rfl, rfl⟩⟩ ⟨b, off, none⟩ l.length c (l.map (Value.int .u32)) hx (by rw [List.length_map, Nat.mul_one]) (src_of_at hl) ?_ (by unfold maxLen; omega) (by omega) (Nat.le_refl _) ?_
  · intro u hu
    simp only [List.mem_map] at hu
    obtain ⟨y, _, rfl⟩ := hu; rfl
  · intro v' w' h1 h2 _ _
    rw [Nat.zero_add, List.nil_append] at h1
    exact h v' w' ⟨h1, own_below (Below.refl _ _) (xs := []) (e := 23) (k := 0) ⟨rfl, Or.inl ⟨rfl, rfl⟩⟩ h2⟩
theorem Mine.rw {w0 w : World} {v : Value} {xs : List Int} (h : Mine .u32 23 w0 w v xs) (h0 : 0 < xs.length) : ∃ g cap, v = .slice (some ⟨g, 0, none⟩) xs.length cap ∧ w0.heap.size ≤ g ∧ Rw w g xs := by
  obtain ⟨g, cap, cur, h1, h2, h3, _, h5, h6⟩ := h.block h0
  exact ⟨g, cap, h1, h2, cur, h3, h5, h6⟩
namespace Ch
def kons : List Int := [1634760805, 857760878, 2036477234, 1797285236]
/-- So many words behind. -/
def pushw (S K : List Int) : Nat → List Int
  | 0 => S
  | k + 1 => pushw S K k ++ [wd K k]
theorem pushw_length (S K : List Int) : ∀ k, (pushw S K k).length = S.length + k
  | 0 => rfl
  | k + 1 => by rw [pushw, List.length_append, pushw_length S K k]; rfl
theorem push_st (K : List Int) (n : Int) (N : List Int) : pushw (pushw kons K 8 ++ [n]) N 3 = st K n N := rfl
end Ch
theorem xw_wd (P : List Int) (i : Nat) : xw P (4 * i) 0 = Ch.wd P i := rfl
theorem At.of_rw {w : World} {g : Nat} {S : List Int} (h : Rw w g S) : At w .u32 g 0 S := fun j hj => by rw [Nat.zero_add]; exact h.cell j hj
theorem rounds_lit (S : List Int) (k : Nat) : Ch.quarter (Ch.quarter (Ch.quarter (Ch.quarter (Ch.quarter (Ch.quarter (Ch.quarter (Ch.quarter (Ch.rounds S k) 0 4 8 12) 1 5 9 13) 2 6 10 14) 3 7 11 15) 0 5 10 15) 1 6 11 12) 2 7 8 13) 3 4 9 14 = Ch.rounds S (k + 1) := rfl
end Go.Proofs.Yticoefnojgaplaa
