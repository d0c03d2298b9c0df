/- Slices cut, as one look at each operation wants them; what the laws of numbers give there. -/
import Derived.Test.YticoefnojgaplaaI
namespace Go.Proofs.Yticoefnojgaplaa
open Go.RowKit

theorem slc_cut {w : World} {a : Option Addr} {n cap : Nat} {l : List Int} (h : Slc w (.slice a n cap) l) (lo hi : Nat) (h1 : lo ≤ hi) (h2 : hi ≤ n) : Slc w (sliced a lo hi cap 1) ((l.drop lo).take (hi - lo)) := by
  obtain ⟨a', cap', hv, hc, h8, hm⟩ := h
  simp only [Value.slice.injEq] at hv
  obtain ⟨rfl, rfl, rfl⟩ := hv
  have hlen : ((l.drop lo).take (hi - lo)).length = hi - lo := by rw [List.length_take, List.length_drop]; omega
  refine ⟨_, cap - lo, by rw [hlen]; rfl, by rw [hlen]; omega, fun x hx => h8 x (List.mem_of_mem_drop (List.mem_of_mem_take hx)), ?_⟩
  by_cases h0 : hi = lo
  · exact Or.inl (by rw [h0, Nat.sub_self]; rfl)
  · rcases hm with hm | ⟨b, off, rfl, h4, h5⟩
    · rw [hm] at h2; simp at h2; omega
    · refine Or.inr ⟨b, off + lo, ?_, h4, h5.sub lo (hi - lo) (by omega)⟩
      rw [if_neg (by omega)]
      simp [Addr.add]
theorem slc_from {w : World} {a : Option Addr} {n cap : Nat} {l : List Int} (h : Slc w (.slice a n cap) l) (lo : Nat) (h1 : lo ≤ n) : Slc w (sliced a lo n cap 1) (l.drop lo) := by
  have hn : n = l.length := by
    obtain ⟨a', cap', hv, _⟩ := h
    simp only [Value.slice.injEq] at hv
    exact hv.2.1
  have := slc_cut h lo n h1 (Nat.le_refl _)
  rwa [List.take_of_length_le (by rw [List.length_drop]; omega)] at this
theorem run_cut (a : Option Addr) (n cap lo hi : Nat) (h1 : lo ≤ hi) (h2 : hi ≤ cap) (i j : Int) (hi' : i = lo) (hj : j = hi) (w : World) : (Instr.slice 22 (.slice a n cap) (some (.int .i64 i)) (some (.int .i64 j)) none).run Try.prog w = .ok (sliced a lo hi cap 1) w := by
  subst hi' hj
  have he : Try.prog.elem 22 = 5 := by kernel_rfl
  have hu : Try.prog.underlying 22 = some (.slice (Try.prog.elem 22)) := by rw [he]; exact Try.underlying22
  rw [run_slice_lh w 22 a n cap hu .i64 .i64 lo hi (by omega) (by omega) (by omega), he, Try.sizeOf5]
  rfl
theorem run_cutH (a : Option Addr) (n cap hi : Nat) (h2 : hi ≤ cap) (j : Int) (hj : j = hi) (w : World) : (Instr.slice 22 (.slice a n cap) none (some (.int .i64 j)) none).run Try.prog w = .ok (sliced a 0 hi cap 1) w := by
  subst hj
  have he : Try.prog.elem 22 = 5 := by kernel_rfl
  have hu : Try.prog.underlying 22 = some (.slice (Try.prog.elem 22)) := by rw [he]; exact Try.underlying22
  rw [run_slice_h w 22 a n cap hu .i64 hi (by omega) (by omega), he, Try.sizeOf5]
  rfl
theorem run_cutL (a : Option Addr) (n cap lo : Nat) (h2 : lo ≤ n) (i : Int) (hi' : i = lo) (w : World) : (Instr.slice 22 (.slice a n cap) (some (.int .i64 i)) none none).run Try.prog w = .ok (sliced a lo n cap 1) w := by
  subst hi'
  have he : Try.prog.elem 22 = 5 := by kernel_rfl
  have hu : Try.prog.underlying 22 = some (.slice (Try.prog.elem 22)) := by rw [he]; exact Try.underlying22
  rw [run_slice_l w 22 a n cap hu .i64 lo (by omega) (by omega), he, Try.sizeOf5]
  rfl
namespace Grow
section
variable {m : Nat} {ops : Array Oper} {Q : Exit → Act → World → Prop} {specs : Nat → Spec} {a0 : Act} {w0 : World} {i : Nat} {o : Oper}
/-- A new block for a number. -/
def newRow (w0 : World) : Spec := .held (fun u w => ∃ g, u = .pointer (some ⟨g, 0, none⟩) ∧ w.heap[g]? = some (.cells (ec Po.z) 48 (0, 0)) ∧ w0.heap.size ≤ g) (fun _ _ _ h hb => by
  obtain ⟨g, h1, h2, h3⟩ := h
  exact ⟨g, h1, (hb.block g (lt_of_block h2)).trans h2, h3⟩)
theorem h2_alloc (hr : Runs2 ops specs a0 o) (ho : o.op = .alloc 48) (hs : specs i = newRow w0) : Hop2 Try.prog m ops specs Q a0 w0 i o :=
  h2_val hr fun a w hk => by
    have hu := Try.underlying48
    refine ⟨.pointer (some ⟨w.heap.size, 0, none⟩), w.alloc (.cells (ec Po.z) 48), ?_, ?_, (Below.refl _ _).alloc (Nat.le_refl _) _⟩
    · unfold execOp
      rw [ho]
      kernel_rfl
    · rw [hs]
      exact ⟨_, rfl, heap_alloc_new w _, hk.below.size⟩
/-- A part of a row of bytes. -/
theorem h2_cutArr (hr : Runs2 ops specs a0 o) (t g lo n c : Nat) (l : List Int) (hf : free2 ops m t = true) (hv : a0.eval (.tmp t) = .pointer (some ⟨g, 0, none⟩))
    (hrun : ∀ (a : Act) (w : World), a.eval (.tmp t) = .pointer (some ⟨g, 0, none⟩) → (execOp a.eval o).run Try.prog w = .ok (.value (.slice (some ⟨g, lo, none⟩) n c)) w) (hl : l.length = n) (hc : n ≤ c) (h8 : ∀ x ∈ l, W8 x) (hg : g < w0.heap.size) (hat : At w0 .u8 g lo l) (hs : specs i = .slc l) : Hop2 Try.prog m ops specs Q a0 w0 i o :=
  h2_val hr fun a w hk => by
    refine ⟨_, w, hrun a w ((hk.rest t hf).trans hv), ?_, Below.refl _ _⟩
    rw [hs]
    exact ⟨_, c, by rw [hl], by rw [hl]; exact hc, h8, Or.inr ⟨g, lo, rfl, Nat.lt_of_lt_of_le hg hk.below.size, hat.below hk.below hg⟩⟩
/-- A part of a slice that came first. -/
theorem h2_cut (hr : Runs2 ops specs a0 o) (j d : Nat) (a1 : Option Addr) (n cap lo hi : Nat) (h1 : lo ≤ hi) (h2 : hi ≤ n) (l : List Int) (ho : o.op = .slice 22 (.tmp d) (some (.const (.int .i64 lo))) (some (.const (.int .i64 hi))) none) (hj : deps .any ops o j d = true) (hs : specs j = .is (.slice a1 n cap)) (hS : Slc w0 (.slice a1 n cap) l) (hi' : specs i = .slc ((l.drop lo).take (hi - lo))) : Hop2 Try.prog m ops specs Q a0 w0 i o :=
  h2_val hr fun a w hk => by
    have h := hk.deps j d hj
    rw [hs] at h
    have h : a.eval (.tmp d) = .slice a1 n cap := h
    have hc : n ≤ cap := by
      obtain ⟨a', c', hv, hc, _⟩ := hS
      simp only [Value.slice.injEq] at hv
      obtain ⟨-, rfl, rfl⟩ := hv
      exact hc
    refine ⟨sliced a1 lo hi cap 1, w, ?_, by rw [hi']; exact slc_cut (hS.below hk.below (Nat.le_refl _)) lo hi h1 h2, Below.refl _ _⟩
    unfold execOp
    rw [ho]
    simp only [Option.map_some, Option.map_none, h]
    have e := run_cut a1 n cap lo hi h1 (Nat.le_trans h2 hc) lo hi rfl rfl w
    have hu := Try.underlying22
    go_simp
end
theorem enter25 (args : Array Value) (w : World) : (callFunc 25 args).run Try.prog w = .ok (.enter 25 args) w := by
  have := Try.func25
  go_simp
theorem enter24 (args : Array Value) (w : World) : (callFunc 24 args).run Try.prog w = .ok (.enter 24 args) w := by
  have := Try.func24
  go_simp
theorem enter26 (args : Array Value) (w : World) : (callFunc 26 args).run Try.prog w = .ok (.enter 26 args) w := by
  have := Try.func26
  go_simp
theorem enter27 (args : Array Value) (w : World) : (callFunc 27 args).run Try.prog w = .ok (.enter 27 args) w := by
  have := Try.func27
  go_simp
end Grow
end Go.Proofs.Yticoefnojgaplaa
