/- Layer 2's reference: rows that a call makes, one element at a time. -/
import Derived.Test.YtiodmmjjoodmoaaDoorAg
import Derived.Test.YtiodmmjjoodmoaaDoorZ
import Derived.Deep.RegionLaw
namespace Go.Proofs.YtiodmmjjoodmoaaDoor
open Go.RowKit

theorem own32_form {w : World} {base size n : Nat} {e : TypeId} {v : Value} {xs : List Value} (h : w.ownsRow base e size v n xs) (hn : 0 < n := by decide) : ∃ g cap, v = .slice (some ⟨g, 0, none⟩) n cap ∧ base ≤ g ∧ g < w.heap.size := by
  rcases h.2 with ⟨_, h0⟩ | ⟨g, cap, cur, hv, hb, hat, _⟩
  · omega
  · exact ⟨g, cap, hv, hb, lt_of_block hat⟩
theorem own_below {w wr w' : World} {k : Nat} {e : TypeId} {v : Value} {xs : List Value} (hb : Below w.heap.size w wr) (h : wr.ownsRow w.heap.size e 1 v k xs) (hg : wr.grownBy w' v.ownBlock) : Below w.heap.size w w' := by
  refine hb.trans ⟨hg.os, hg.tape, hg.output, hg.size, fun i hi => hg.block i (Nat.lt_of_lt_of_le hi hb.size) ?_⟩
  rcases h.2 with ⟨rfl, _⟩ | ⟨g, cap, cur, rfl, hg', _⟩
  · simp [Value.ownBlock]
  · intro hh
    simp only [Value.ownBlock, Option.some.injEq] at hh
    omega

/-- A row of numbers that was made since. -/
def Mine (k : IntKind) (e : TypeId) (w0 w : World) (v : Value) (xs : List Int) : Prop := w.ownsRow w0.heap.size e 1 v xs.length (xs.map (Value.int k)) ∧ Below w0.heap.size w0 w
theorem Mine.nil (k : IntKind) (e : TypeId) (w : World) : Mine k e w w (.slice none 0 0) [] := ⟨⟨rfl, Or.inl ⟨rfl, rfl⟩⟩, Below.refl _ _⟩
theorem Mine.nil' {k : IntKind} {e : TypeId} {w w' : World} (h : Below w.heap.size w w') : Mine k e w w' (.slice none 0 0) [] := ⟨⟨rfl, Or.inl ⟨rfl, rfl⟩⟩, h⟩
theorem Mine.alloc {k : IntKind} {e : TypeId} {w0 w : World} {v : Value} {xs : List Int} (h : Mine k e w0 w v xs) (o : Obj) : Mine k e w0 (w.alloc o) v xs := ⟨h.1.alloc o, h.2.alloc h.2.size o⟩
theorem Mine.form {k : IntKind} {e : TypeId} {w0 w : World} {v : Value} {xs : List Int} (h : Mine k e w0 w v xs) : ∃ a c, v = .slice a xs.length c := by
  rcases h.1.2 with ⟨h, h0⟩ | ⟨g, cap, cur, h, _⟩
  · exact ⟨none, 0, by rw [h0]; exact h⟩
  · exact ⟨_, _, h⟩
theorem Mine.kept {k : IntKind} {e : TypeId} {w0 w w' : World} {v : Value} {xs : List Int} (h : Mine k e w0 w v xs) (hb : Below w.heap.size w w') : Mine k e w0 w' v xs := ⟨own_kept h.1 hb, h.2.trans (hb.mono h.2.size)⟩
theorem slc_one (w : World) (x : Int) (h : Sh.W8 x) : Slc (w.alloc (.cells #[.int .u8 x] 5)) (.slice (some ⟨w.heap.size, 0, none⟩) 1 1) [x] := by
  refine ⟨_, 1, rfl, Nat.le_refl _, fun y hy => ?_, Or.inr ⟨w.heap.size, 0, rfl, by simp, fun j hj => ?_⟩⟩
  · rw [List.mem_singleton] at hy; rw [hy]; exact h
  · obtain rfl : j = 0 := by simp at hj; omega
    rw [cell_of_row _ _ _ _ 5 (0, 0) (heap_alloc_new w _)]; rfl

section
variable {w : World} {ops : Array Oper} {rest : List Oper} {o : Oper} {a : Act} {Q : Exit → Act → World → Prop}
theorem append_mine (hgd : o.guard = none) (s x : Operand)
    (ho : o.op = .call { callee := .builtin .append, args := #[s, x], argTypes := #[22, 22] })
    (w0 : World) (v : Value) (xs : List Int) (hs : a.eval s = v) (hown : Mine .u8 5 w0 w v xs)
    (am : Option Addr) (m c : Nat) (M : List Int) (hx : a.eval x = .slice am m c) (hM : Slc w (.slice am m c) M) (hlen : xs.length + M.length ≤ 100000000000000)
    (h : ∀ v' w', Mine .u8 5 w0 w' v' (xs ++ M) → wpList Tryd.prog ops Q rest (a.put o.dst v') w') :
    wpList Tryd.prog ops Q (o :: rest) a w :=
  append_slc hgd s x ho w0.heap.size v xs.length xs hs hown.1 am m c M hx hM hlen hown.2.size fun v' w' h1 h2 _ =>
    h v' w' ⟨by rw [List.length_append]; exact h1, own_below hown.2 hown.1 h2⟩
/-- One byte. -/
theorem append_byte (hgd : o.guard = none) (s x : Operand)
    (ho : o.op = .call { callee := .builtin .append, args := #[s, x], argTypes := #[22, 22] })
    (w0 : World) (v : Value) (xs : List Int) (hs : a.eval s = v) (hown : Mine .u8 5 w0 w v xs) (y : Int) (hx : a.eval x = .slice (some ⟨w.heap.size, 0, none⟩) 1 1) (hy : Sh.W8 y) (hlen : xs.length ≤ 10000000000000)
    (h : ∀ v' w', Mine .u8 5 w0 w' v' (xs ++ [y]) → wpList Tryd.prog ops Q rest (a.put o.dst v') w') :
    wpList Tryd.prog ops Q (o :: rest) a (w.alloc (.cells #[.int .u8 y] 5)) :=
  append_mine hgd s x ho w0 v xs hs (hown.alloc _) _ 1 1 [y] hx (slc_one w y hy) (by simp; omega) h
/-- One word. -/
theorem append_word (hgd : o.guard = none) (s x : Operand)
    (ho : o.op = .call { callee := .builtin .append, args := #[s, x], argTypes := #[36, 36] })
    (w0 : World) (v : Value) (xs : List Int) (hs : a.eval s = v) (hown : Mine .u32 39 w0 w v xs) (y : Int) (hx : a.eval x = .slice (some ⟨w.heap.size, 0, none⟩) 1 1) (hlen : xs.length ≤ 10000000000000)
    (h : ∀ v' w', Mine .u32 39 w0 w' v' (xs ++ [y]) → wpList Tryd.prog ops Q rest (a.put o.dst v') w') :
    wpList Tryd.prog ops Q (o :: rest) a (w.alloc (.cells #[.int .u32 y] 39)) := by
  obtain ⟨i0, hi, hz0, hz1, hz2⟩ := info_parts info39
  refine wpList_append_own_at (w.alloc (.cells #[.int .u32 y] 39)) hgd s x 36 ho w0.heap.size 39 i0 (.int .u32 0) 1 4 Tryd.underlying36 hi hz0 hz1 hz2 rfl (by decide) v xs.length (xs.map (Value.int .u32)) hs (hown.1.alloc _) ⟨w.heap.size, 0, none⟩ 1 1 [.int .u32 y] hx rfl (cell_one_new w _ _) (by intro u hu; simp at hu; subst hu; rfl) (by unfold maxLen; omega) (by omega) (by have := hown.2.size; simp; omega) ?_
  intro v' w' h1 h2 _ _
  have hb := own_below (hown.2.alloc hown.2.size _) (hown.1.alloc _) h2
  exact h v' w' ⟨by rw [List.length_append, List.map_append]; exact h1, hb⟩
/-- .. as one step of a region that draws its order. -/
theorem step_append_word {K : Act → World → Prop} {E : Prop} (hgd : o.guard = none) (s x : Operand)
    (ho : o.op = .call { callee := .builtin .append, args := #[s, x], argTypes := #[36, 36] })
    (w0 w1 : World) (v : Value) (xs : List Int) (hs : a.eval s = v) (hown : Mine .u32 39 w0 w1 v xs) (y : Int) (hw : w = w1.alloc (.cells #[.int .u32 y] 39)) (hx : a.eval x = .slice (some ⟨w1.heap.size, 0, none⟩) 1 1) (hlen : xs.length ≤ 10000000000000)
    (h : ∀ v' w', Mine .u32 39 w0 w' v' (xs ++ [y]) → K (a.put o.dst v') w') :
    if Region.wanted o (yielded ops a.tmps) = true then Oper.wp Tryd.prog o a w K Q else E := by
  subst hw
  have hw : Region.wanted o (yielded ops a.tmps) = true := by simp [Region.wanted, hgd]
  rw [if_pos hw]
  obtain ⟨i0, hi, hz0, hz1, hz2⟩ := info_parts info39
  obtain ⟨v', w', hrun, h1, h2, _, _⟩ := run_append_own_at (P := Tryd.prog) (w1.alloc (.cells #[.int .u32 y] 39)) w0.heap.size 36 o.type 39 i0 (.int .u32 0) 1 4 Tryd.underlying36 hi hz0 hz1 hz2 rfl (by decide) v xs.length (xs.map (Value.int .u32)) (hown.1.alloc _) ⟨w1.heap.size, 0, none⟩ 1 1 [.int .u32 y] rfl (cell_one_new w1 _ _) (by intro u hu; simp at hu; subst hu; rfl) (by unfold maxLen; omega) (by omega) (by have := hown.2.size; simp; omega)
  have hb := own_below (hown.2.alloc hown.2.size _) (hown.1.alloc _) h2
  unfold Oper.wp
  simp [execOp, ho, resolve, invoke, builtin, hs, hx, hrun, Result.andThen]
  exact h v' w' ⟨by rw [List.length_append, List.map_append]; exact h1, hb⟩
end
end Go.Proofs.YtiodmmjjoodmoaaDoor
