/- The reference's numbers, the walks: rows made word by word; sums. -/
import Derived.Test.YticoefnojgaplaaP
import Derived.Maps.AppendAt
namespace Go.Proofs.Yticoefnojgaplaa
open Go.RowKit

theorem Mine.num {e : TypeId} {w0 w : World} {v : Value} {xs : List Int} (h : Mine .u32 e w0 w v xs) (hw : Nt.Ws xs) : Num w v xs := by
  rcases h.1.2 with ⟨hv, h0⟩ | ⟨g, cap, cur, h1, h2, h3, h4, h5, h6, h7⟩
  · exact ⟨none, 0, by rw [h0]; exact hv, by rw [h0]; exact Nat.le_refl _, hw, Or.inl (List.eq_nil_of_length_eq_zero h0)⟩
  · refine ⟨_, cap, h1, h4, hw, Or.inr ⟨g, 0, rfl, lt_of_block h3, fun j hj => ?_⟩⟩
    rw [Nat.zero_add, cell_of_row w g j _ e (0, 0) h3]
    have e1 : (cur.toList.take (xs.length * 1))[j]? = some (.int .u32 (xs.getD j 0)) := by rw [h7]; simp [hj]
    rw [List.getElem?_take_of_lt (by omega)] at e1
    simpa using e1
section
variable {w : World} {ops : Array Oper} {rest : List Oper} {o : Oper} {a : Act} {Q : Exit → Act → World → Prop}
/-- One word. -/
theorem append_word (hgd : o.guard = none) (s x : Operand)
    (ho : o.op = .call { callee := .builtin .append, args := #[s, x], argTypes := #[58, 58] })
    (w0 : World) (v : Value) (xs : List Int) (hs : a.eval s = v) (hown : Mine .u32 23 w0 w v xs) (y : Int) (hx : a.eval x = .slice (some ⟨w.heap.size, 0, none⟩) 1 1) (hlen : xs.length ≤ 10000000000000)
    (h : ∀ v' w', Mine .u32 23 w0 w' v' (xs ++ [y]) → wpList Try.prog ops Q rest (a.put o.dst v') w') :
    wpList Try.prog ops Q (o :: rest) a (w.alloc (.cells #[.int .u32 y] 23)) := by
  obtain ⟨i0, hi, hz0, hz1, hz2⟩ := info_parts info36
  refine wpList_append_own_at (w.alloc (.cells #[.int .u32 y] 23)) hgd s x 58 ho w0.heap.size 23 i0 (.int .u32 0) 1 4 Try.underlying58 hi hz0 hz1 hz2 rfl (by decide) v xs.length (xs.map (Value.int .u32)) hs (hown.1.alloc _) ⟨w.heap.size, 0, none⟩ 1 1 [.int .u32 y] hx rfl (cell_one_new w _ _) (by intro u hu; simp at hu; subst hu; rfl) (by unfold maxLen; omega) (by omega) (by have := hown.2.size; simp; omega) ?_
  intro v' w' h1 h2 _ _
  have hb := own_below (hown.2.alloc hown.2.size _) (hown.1.alloc _) h2
  exact h v' w' ⟨by rw [List.length_append, List.map_append]; exact h1, hb⟩
end
namespace Nt
theorem val_take_more (l : List Int) (k : Nat) : val (l.take (k + 1)) = val (l.take k) + pw k * l.getD k 0 := by
  by_cases h : k < l.length
  · exact val_take_succ l k h
  · rw [List.take_of_length_le (by omega), List.take_of_length_le (by omega), show l.getD k 0 = 0 by simp [List.getD_eq_getElem?_getD, List.getElem?_eq_none (show l.length ≤ k by omega)]]
    omega
theorem Ws.snoc {l : List Int} (h : Ws l) {x : Int} (hx : W32 x) : Ws (l ++ [x]) := by
  intro y hy
  rcases List.mem_append.1 hy with hy | hy
  · exact h y hy
  · rw [List.mem_singleton] at hy; rw [hy]; exact hx
/-- One word more of a sum. -/
theorem plus_more {a b O : List Int} {k : Nat} {c t : Int} (hO : O.length = k) (ht : t = c + a.getD k 0 + b.getD k 0) (h : val O + c * pw k = val (a.take k) + val (b.take k)) :
    val (O ++ [t % B]) + t / B * pw (k + 1) = val (a.take (k + 1)) + val (b.take (k + 1)) := by
  rw [val_append, hO, val_take_more, val_take_more, pw_succ]
  have e : val [t % B] = t % B := by simp [val]
  rw [e]
  have h2 : t = B * (t / B) + t % B := (Int.mul_ediv_add_emod t B).symm
  generalize t / B = q at *
  generalize t % B = r at *
  subst h2
  grind
end Nt
end Go.Proofs.Yticoefnojgaplaa
