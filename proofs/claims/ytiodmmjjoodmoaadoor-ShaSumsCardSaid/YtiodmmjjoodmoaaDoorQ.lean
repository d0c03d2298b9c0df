/- The operations of such a region, each by one law. -/
import Derived.Test.YtiodmmjjoodmoaaDoorP
namespace Go.Proofs.YtiodmmjjoodmoaaDoor
open Go.RowKit

namespace Grow
/-- The operation is carried out. -/
def Runs (ops : Array Oper) (specs : Nat → Spec) (a0 : Act) (o : Oper) : Prop :=
  o.guard = none ∨ ∃ g d, o.guard = some (g, true) ∧ deps .any ops o g d = true ∧ specs g = .is (.bool true) ∧ d < a0.tmps.size

section
variable {ops : Array Oper} {Q : Exit → Act → World → Prop} {specs : Nat → Spec} {a0 : Act} {w0 : World} {i : Nat} {o : Oper}

theorem wanted_of (hr : Runs ops specs a0 o) {a : Act} {w : World} (ht : a.tmps.size = a0.tmps.size) (hk : ∀ j d, deps .any ops o j d = true → (specs j).meets (a.eval (.tmp d)) w) : Region.wanted o (yielded ops a.tmps) = true := by
  rcases hr with h | ⟨g, d, h1, h2, h3, h4⟩
  · simp [Region.wanted, h]
  · have h5 := hk g d h2
    rw [h3] at h5
    have h5 : a.eval (.tmp d) = .bool true := h5
    unfold deps at h2
    simp only [Bool.and_eq_true, beq_iff_eq] at h2
    have h6 : ((ops[g]?).bind (·.dst)) = some d := h2.2
    have h7 : a.tmps[d]? = some (.bool true) := by
      have hlt : d < a.tmps.size := by rw [ht]; exact h4
      rw [Array.getElem?_eq_getElem hlt]
      simpa [Act.eval, Array.getElem?_eq_getElem hlt] using h5
    simp [Region.wanted, h1, yielded, h6, h7]

theorem wp_move {a : Act} {w : World} {K : Act → World → Prop} (x : Operand) (h : o.op = .move x ∨ o.op = .assign x) (hk : K (a.put o.dst (a.eval x)) w) : o.wp Tryd.prog a w K Q := by
  unfold Oper.wp execOp
  rcases h with h | h
  · rw [h]; exact hk
  · rw [h]; exact hk
theorem wp_value {a : Act} {w w' : World} {v : Value} {K : Act → World → Prop} (h : (execOp a.eval o).run Tryd.prog w = .ok (.value v) w') (hk : K (a.put o.dst v) w') : o.wp Tryd.prog a w K Q := by
  unfold Oper.wp
  rw [h]; exact hk
theorem wp_enter {a : Act} {w : World} {f : FuncId} {args : Array Value} {K : Act → World → Prop} (h : (execOp a.eval o).run Tryd.prog w = .ok (.enter f args) w) (hk : Calls Tryd.prog f args w fun e w' => ∃ v, e = .returned v ∧ K (a.put o.dst v) w') : o.wp Tryd.prog a w K Q := by
  unfold Oper.wp
  rw [h]
  refine hk.mono ?_
  rintro e w' ⟨v, rfl, h1⟩
  exact h1

theorem hop_move (hr : Runs ops specs a0 o) (j d : Nat) (ho : o.op = .move (.tmp d) ∨ o.op = .assign (.tmp d)) (hj : deps .any ops o j d = true) (hs : specs i = specs j) : Hop Tryd.prog .any ops specs Q a0 w0 i o := by
  intro a w _ ht hk _
  refine ⟨wanted_of hr ht hk, ?_⟩
  have h := hk j d hj
  rw [← hs] at h
  exact wp_move _ ho ⟨_, rfl, h, Below.refl _ _⟩
theorem hop_free (hr : Runs ops specs a0 o) (t : Nat) (v : Value) (ho : o.op = .move (.tmp t)) (hf : free ops t = true) (hv : a0.eval (.tmp t) = v) (hs : specs i = .is v) : Hop Tryd.prog .any ops specs Q a0 w0 i o := by
  intro a w _ ht hk hfr
  refine ⟨wanted_of hr ht hk, ?_⟩
  refine wp_move _ (Or.inl ho) ⟨_, rfl, ?_, Below.refl _ _⟩
  rw [hs]
  exact (hfr t hf).trans hv
theorem hop_conv (hr : Runs ops specs a0 o) (j d n : Nat) (l : List Int) (ho : o.op = .convert 22 9 (.tmp d)) (hj : deps .any ops o j d = true) (hs : specs j = .row n l) (hl : l.length = n) (hi : specs i = .is (.string (strOfNums l))) : Hop Tryd.prog .any ops specs Q a0 w0 i o := by
  intro a w _ ht hk _
  refine ⟨wanted_of hr ht hk, ?_⟩
  have h := hk j d hj
  rw [hs] at h
  obtain ⟨go, h1, h2, h3⟩ := h
  have hc := conv_at (c := n) h2 hl
  refine wp_value (v := .string (strOfNums l)) (w' := w) ?_ ⟨_, rfl, by rw [hi]; rfl, Below.refl _ _⟩
  unfold execOp
  rw [ho]
  simp only [h1, Sem.run_bind, hc, Result.andThen_ok, Sem.run_pure]
theorem hop_eql (hr : Runs ops specs a0 o) (j1 d1 j2 d2 : Nat) (s : ByteArray) (ho : o.op = .binOp .eql 9 (.tmp d1) (.tmp d2) 9) (hj1 : deps .any ops o j1 d1 = true) (hj2 : deps .any ops o j2 d2 = true) (hs1 : specs j1 = .is (.string s)) (hs2 : specs j2 = .is (.string s)) (hi : specs i = .is (.bool true)) : Hop Tryd.prog .any ops specs Q a0 w0 i o := by
  intro a w _ ht hk _
  refine ⟨wanted_of hr ht hk, ?_⟩
  have h1 := hk j1 d1 hj1
  have h2 := hk j2 d2 hj2
  rw [hs1] at h1
  rw [hs2] at h2
  have h1 : a.eval (.tmp d1) = .string s := h1
  have h2 : a.eval (.tmp d2) = .string s := h2
  have hu := Tryd.underlying9
  refine wp_value (v := .bool true) (w' := w) ?_ ⟨_, rfl, by rw [hi]; rfl, Below.refl _ _⟩
  unfold execOp
  rw [ho]
  simp only [h1, h2]
  go_simp
theorem hop_pick (hr : Runs ops specs a0 o) (j1 d1 j2 d2 : Nat) (y : Operand) (ho : o.op = .pick (.tmp d1) (.tmp d2) y) (hj1 : deps .any ops o j1 d1 = true) (hj2 : deps .any ops o j2 d2 = true) (hs1 : specs j1 = .is (.bool true)) (hs2 : specs i = specs j2) : Hop Tryd.prog .any ops specs Q a0 w0 i o := by
  intro a w _ ht hk _
  refine ⟨wanted_of hr ht hk, ?_⟩
  have h1 := hk j1 d1 hj1
  have h2 := hk j2 d2 hj2
  rw [hs1] at h1
  rw [← hs2] at h2
  have h1 : a.eval (.tmp d1) = .bool true := h1
  refine wp_value (v := a.eval (.tmp d2)) (w' := w) ?_ ⟨_, rfl, h2, Below.refl _ _⟩
  unfold execOp
  rw [ho]
  simp only [h1]
  go_simp
theorem hop_build (hr : Runs ops specs a0 o) (j d : Nat) (v : Value) (p : List Int) (ho : o.op = .buildSlice 28 1 #[(0, .tmp d)]) (hj : deps .any ops o j d = true) (hs : specs j = .is v) (hS : Slc w0 v p) (hi : specs i = .parts [p]) : Hop Tryd.prog .any ops specs Q a0 w0 i o := by
  intro a w hb ht hk _
  refine ⟨wanted_of hr ht hk, ?_⟩
  have h := hk j d hj
  rw [hs] at h
  have h : a.eval (.tmp d) = v := h
  obtain ⟨a', cap, rfl, -⟩ := id hS
  have ho4 : Below w.heap.size w (w.alloc (.cells #[.slice a' p.length cap] 22)) := (Below.refl _ _).alloc (Nat.le_refl _) _
  have hp := parts_one (heap_alloc_new w (.cells #[.slice a' p.length cap] 22)) (hS.below (hb.trans (ho4.mono hb.size)) (Nat.le_refl _)) rfl
  refine wp_value (v := .slice (some ⟨w.heap.size, 0, none⟩) 1 1) (w' := w.alloc (.cells #[.slice a' p.length cap] 22)) ?_ ⟨_, rfl, by rw [hi]; exact hp, ho4⟩
  unfold execOp
  rw [ho]
  simp only [h, List.map_toArray, List.map_cons, List.map_nil]
  go_simp
theorem hop_call1 (hr : Runs ops specs a0 o) (f : FuncId) (he : ∀ args w, (callFunc f args).run Tryd.prog w = .ok (.enter f args) w) (ts : Array TypeId) (j d : Nat) (ho : o.op = .call { callee := .value (.func f), args := #[.tmp d], argTypes := ts }) (hj : deps .any ops o j d = true)
    (hc : ∀ u w, Below w0.heap.size w0 w → (specs j).meets u w → Calls Tryd.prog f #[u] w fun e w' => ∃ v, e = .returned v ∧ (specs i).meets v w' ∧ Below w.heap.size w w') : Hop Tryd.prog .any ops specs Q a0 w0 i o := by
  intro a w hb ht hk _
  refine ⟨wanted_of hr ht hk, ?_⟩
  have h := hc _ w hb (hk j d hj)
  refine wp_enter (f := f) (args := #[a.eval (.tmp d)]) ?_ (h.mono ?_)
  · unfold execOp
    rw [ho]
    go_simp
  · rintro e w' ⟨v, rfl, h1, h2⟩
    exact ⟨v, rfl, v, rfl, h1, h2⟩
theorem hop_call2 (hr : Runs ops specs a0 o) (f : FuncId) (he : ∀ args w, (callFunc f args).run Tryd.prog w = .ok (.enter f args) w) (ts : Array TypeId) (j1 d1 j2 d2 : Nat) (ho : o.op = .call { callee := .value (.func f), args := #[.tmp d1, .tmp d2], argTypes := ts }) (hj1 : deps .any ops o j1 d1 = true) (hj2 : deps .any ops o j2 d2 = true)
    (hc : ∀ u1 u2 w, Below w0.heap.size w0 w → (specs j1).meets u1 w → (specs j2).meets u2 w → Calls Tryd.prog f #[u1, u2] w fun e w' => ∃ v, e = .returned v ∧ (specs i).meets v w' ∧ Below w.heap.size w w') : Hop Tryd.prog .any ops specs Q a0 w0 i o := by
  intro a w hb ht hk _
  refine ⟨wanted_of hr ht hk, ?_⟩
  have h := hc _ _ w hb (hk j1 d1 hj1) (hk j2 d2 hj2)
  refine wp_enter (f := f) (args := #[a.eval (.tmp d1), a.eval (.tmp d2)]) ?_ (h.mono ?_)
  · unfold execOp
    rw [ho]
    go_simp
  · rintro e w' ⟨v, rfl, h1, h2⟩
    exact ⟨v, rfl, v, rfl, h1, h2⟩
end
theorem enter9 (args : Array Value) (w : World) : (callFunc 9 args).run Tryd.prog w = .ok (.enter 9 args) w := by
  have := Tryd.func9
  go_simp
theorem enter11 (args : Array Value) (w : World) : (callFunc 11 args).run Tryd.prog w = .ok (.enter 11 args) w := by
  have := Tryd.func11
  go_simp
theorem enter12 (args : Array Value) (w : World) : (callFunc 12 args).run Tryd.prog w = .ok (.enter 12 args) w := by
  have := Tryd.func12
  go_simp
end Grow
end Go.Proofs.YtiodmmjjoodmoaaDoor
