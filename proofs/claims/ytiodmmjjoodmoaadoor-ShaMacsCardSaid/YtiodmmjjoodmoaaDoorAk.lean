/- More operations of such a region, each by one law: slices of any room, strings joined, one byte and what is appended to it. -/
import Derived.Test.YtiodmmjjoodmoaaDoorAg
import Derived.ArgAppend
namespace Go.Proofs.YtiodmmjjoodmoaaDoor
open Go.RowKit

theorem conv_slc {w : World} {v : Value} {l : List Int} (h : Slc w v l) : (convert 22 9 v).run Tryd.prog w = .ok (.string (strOfNums l)) w := by
  obtain ⟨a, cap, rfl, hc, h8, hm⟩ := h
  rcases hm with rfl | ⟨b, off, rfl, h2, h3⟩
  · cases a with
    | none => exact run_convert_bytes_nil w 22 5 Tryd.underlying22 Tryd.underlying5 0 cap 9 Tryd.underlying9
    | some ad =>
      have hl : (loadCells ad 0).run Tryd.prog w = .ok ([] : List Value).toArray w := run_loadCells_list (P := Tryd.prog) w ad [] (fun j v hj => by simp at hj)
      rw [List.length_nil, run_convert_bytes_string w 22 9 5 _ 0 cap Tryd.underlying22 Tryd.underlying5 Tryd.underlying9, run_bytesToString w _ 0 cap [] hl]
      rfl
  · exact conv_at h3 rfl

theorem strOfNums_append (a b : List Int) : strOfNums (a ++ b) = strOfNums a ++ strOfNums b := by
  apply ByteArray.ext
  simp [strOfNums]

namespace Grow
section
variable {ops : Array Oper} {Q : Exit → Act → World → Prop} {specs : Nat → Spec} {a0 : Act} {w0 : World} {i : Nat} {o : Oper}
theorem hop_conv_slc (hr : Runs ops specs a0 o) (j d : Nat) (l : List Int) (ho : o.op = .convert 22 9 (.tmp d)) (hj : deps .any ops o j d = true) (hs : specs j = .slc l) (hi : specs i = .is (.string (strOfNums l))) : Hop Tryd.prog .any ops specs Q a0 w0 i o := by
  intro a w _ ht hk _
  refine ⟨wanted_of hr ht hk, ?_⟩
  have h := hk j d hj
  rw [hs] at h
  refine wp_value (v := .string (strOfNums l)) (w' := w) ?_ ⟨_, rfl, by rw [hi]; rfl, Below.refl _ _⟩
  unfold execOp
  rw [ho]
  simp only [Sem.run_bind, conv_slc h, Result.andThen_ok, Sem.run_pure]
/-- .. of a slice that lies there from the start. -/
theorem hop_conv_is (hr : Runs ops specs a0 o) (j d : Nat) (v : Value) (l : List Int) (ho : o.op = .convert 22 9 (.tmp d)) (hj : deps .any ops o j d = true) (hs : specs j = .is v) (hS : Slc w0 v l) (hi : specs i = .is (.string (strOfNums l))) : Hop Tryd.prog .any ops specs Q a0 w0 i o := by
  intro a w hb ht hk _
  refine ⟨wanted_of hr ht hk, ?_⟩
  have h := hk j d hj
  rw [hs] at h
  have h : a.eval (.tmp d) = v := h
  refine wp_value (v := .string (strOfNums l)) (w' := w) ?_ ⟨_, rfl, by rw [hi]; rfl, Below.refl _ _⟩
  unfold execOp
  rw [ho]
  simp only [h, Sem.run_bind, conv_slc (hS.below hb (Nat.le_refl _)), Result.andThen_ok, Sem.run_pure]
theorem hop_add (hr : Runs ops specs a0 o) (j1 d1 j2 d2 : Nat) (s t : ByteArray) (ho : o.op = .binOp .add 9 (.tmp d1) (.tmp d2) 9) (hj1 : deps .any ops o j1 d1 = true) (hj2 : deps .any ops o j2 d2 = true) (hs1 : specs j1 = .is (.string s)) (hs2 : specs j2 = .is (.string t)) (hl : s.size + t.size ≤ 9223372036854775807) (hi : specs i = .is (.string (s ++ t))) : Hop Tryd.prog .any ops specs Q a0 w0 i o := by
  intro a w _ ht hk _
  refine ⟨wanted_of hr ht hk, ?_⟩
  have h1 := hk j1 d1 hj1
  have h2 := hk j2 d2 hj2
  rw [hs1] at h1
  rw [hs2] at h2
  have h1 : a.eval (.tmp d1) = .string s := h1
  have h2 : a.eval (.tmp d2) = .string t := h2
  have hu := Tryd.underlying9
  refine wp_value (v := .string (s ++ t)) (w' := w) ?_ ⟨_, rfl, by rw [hi]; rfl, Below.refl _ _⟩
  unfold execOp
  rw [ho]
  simp only [h1, h2]
  go_simp
theorem hop_byte (hr : Runs ops specs a0 o) (x : Int) (hx : Sh.W8 x) (ho : o.op = .buildSlice 22 1 #[(0, .const (.int .u8 x))]) (hi : specs i = .one x) : Hop Tryd.prog .any ops specs Q a0 w0 i o := by
  intro a w _ ht hk _
  refine ⟨wanted_of hr ht hk, ?_⟩
  have hb : Below w.heap.size w (w.alloc (.cells #[.int .u8 x] 5)) := (Below.refl _ _).alloc (Nat.le_refl _) _
  refine wp_value (v := .slice (some ⟨w.heap.size, 0, none⟩) 1 1) (w' := w.alloc (.cells #[.int .u8 x] 5)) ?_ ⟨_, rfl, by rw [hi]; exact ⟨_, rfl, hx, heap_alloc_new w _⟩, hb⟩
  unfold execOp
  rw [ho]
  simp only [Act.eval, List.map_toArray, List.map_cons, List.map_nil]
  go_simp
/-- Bytes appended to one. -/
theorem run_append_one {w : World} (ty : TypeId) (g : Nat) (x : Int) (hx : Sh.W8 x) (hg : w.heap[g]? = some (.cells #[.int .u8 x] 5 (0, 0))) (v : Value) (l : List Int) (hv : Slc w v l) (hl : l.length ≤ 10000000000000) :
    ∃ v' w', (Builtin.append_ #[22, 22] ty #[.slice (some ⟨g, 0, none⟩) 1 1, v]).run Tryd.prog w = .ok v' w' ∧ Slc w' v' (x :: l) ∧ Below w.heap.size w w' := by
  obtain ⟨i0, hi, hz0, hz1, hz2⟩ := info_parts info5
  have hown : w.ownsRow 0 5 1 (.slice (some ⟨g, 0, none⟩) 1 1) 1 ([x].map (Value.int .u8)) := ⟨rfl, Or.inr ⟨g, 1, #[.int .u8 x], rfl, Nat.zero_le _, hg, Nat.le_refl _, by unfold maxLen; omega, rfl, rfl⟩⟩
  have hs1 : Slc w (.slice (some ⟨g, 0, none⟩) 1 1) [x] := by
    obtain ⟨a, c, h1, h2⟩ := slc_own hown (by intro y hy; rw [List.mem_singleton] at hy; rw [hy]; exact hx)
    exact h1 ▸ h2
  obtain ⟨a, cap, rfl, hc, h8, hm⟩ := id hv
  by_cases hn : l = []
  · subst hn
    refine ⟨_, w, ?_, hs1, Below.refl _ _⟩
    cases a with
    | none => exact run_append_none_cap 0 22 ty 5 i0 1 Tryd.underlying22 hi _ 1 cap _ hown
    | some ad =>
      have := run_append_room_cells (P := Tryd.prog) w 22 ty 5 i0 Tryd.underlying22 hi g 0 1 1 ad 0 cap [] (by simp) (fun j u hj => by simp at hj) (fun u hu => by simp at hu) (by omega) (fun j hj => by simp at hj) (fun j hj => by simp at hj)
      exact this
  · rcases hm with hm | ⟨b, off, rfl, h2, h3⟩
    · exact absurd hm hn
    · have hpos : 0 < l.length := List.length_pos_iff.2 hn
      obtain ⟨v', w', hrun, ho, hg'⟩ := run_append_arg_grows (P := Tryd.prog) w 22 ty 5 i0 (.int .u8 0) 1 1 Tryd.underlying22 hi hz0 hz1 hz2 rfl (by decide) ⟨g, 0, none⟩ 1 1 ([x].map (Value.int .u8)) rfl (slc_src hs1) ⟨b, off, none⟩ l.length cap (l.map (Value.int .u8)) (by simp) (slc_src hv) (by omega) (by unfold maxLen; omega) (by omega)
      refine ⟨v', w', hrun, ?_, ⟨hg'.os, hg'.tape, hg'.output, hg'.size, fun k hk => hg'.block k hk (by simp)⟩⟩
      rw [← List.map_append] at ho
      have h8' : ∀ y ∈ [x] ++ l, Sh.W8 y := by
        intro y hy
        simp only [List.cons_append, List.nil_append, List.mem_cons] at hy
        rcases hy with rfl | hy
        · exact hx
        · exact h8 y hy
      obtain ⟨a', c', h4, h5⟩ := slc_own ho h8'
      rw [h4]; exact h5
theorem hop_append (hr : Runs ops specs a0 o) (j1 d1 j2 d2 : Nat) (x : Int) (v : Value) (l : List Int) (ho : o.op = .call { callee := .builtin .append, args := #[.tmp d1, .tmp d2], argTypes := #[22, 22] }) (hj1 : deps .any ops o j1 d1 = true) (hj2 : deps .any ops o j2 d2 = true) (hs1 : specs j1 = .one x) (hs2 : specs j2 = .is v) (hS : Slc w0 v l) (hl : l.length ≤ 10000000000000) (hi : specs i = .slc (x :: l)) : Hop Tryd.prog .any ops specs Q a0 w0 i o := by
  intro a w hb ht hk _
  refine ⟨wanted_of hr ht hk, ?_⟩
  have h1 := hk j1 d1 hj1
  have h2 := hk j2 d2 hj2
  rw [hs1] at h1
  rw [hs2] at h2
  obtain ⟨g, hg1, hg2, hg3⟩ := h1
  have h2 : a.eval (.tmp d2) = v := h2
  obtain ⟨v', w', hrun, h3, h4⟩ := run_append_one (w := w) o.type g x hg2 hg3 v l (hS.below hb (Nat.le_refl _)) hl
  refine wp_value (v := v') (w' := w') ?_ ⟨_, rfl, by rw [hi]; exact h3, h4⟩
  unfold execOp
  rw [ho]
  simp [resolve, invoke, builtin, hg1, h2, hrun, Result.andThen]
theorem enter10 (args : Array Value) (w : World) : (callFunc 10 args).run Tryd.prog w = .ok (.enter 10 args) w := by
  have := Tryd.func10
  go_simp
theorem enter13 (args : Array Value) (w : World) : (callFunc 13 args).run Tryd.prog w = .ok (.enter 13 args) w := by
  have := Tryd.func13
  go_simp
theorem enter14 (args : Array Value) (w : World) : (callFunc 14 args).run Tryd.prog w = .ok (.enter 14 args) w := by
  have := Tryd.func14
  go_simp
theorem enter16 (args : Array Value) (w : World) : (callFunc 16 args).run Tryd.prog w = .ok (.enter 16 args) w := by
  have := Tryd.func16
  go_simp
end
end Grow
end Go.Proofs.YtiodmmjjoodmoaaDoor
