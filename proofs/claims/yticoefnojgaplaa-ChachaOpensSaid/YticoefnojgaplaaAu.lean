/- Bytes in drawn regions: an index, a load, a new byte, an append. -/
import Derived.Test.YticoefnojgaplaaAt
namespace Go.Proofs.Yticoefnojgaplaa
open Go.RowKit
theorem getElem_one (w : World) (g : Nat) (y : Value) (t : TypeId) (h : w.heap[g]? = some (.cells #[y] t (0, 0))) : ∀ j u, [y][j]? = some u → w.cell? ((⟨g, 0, none⟩ : Addr).add j) = some u := by
  intro j u hj
  match j, hj with
  | 0, hj =>
    simp at hj
    subst hj
    rw [Addr.add_mid, Nat.add_zero, cell_of_row w g 0 _ t (0, 0) h]
    rfl
namespace Grow
section
variable {m : Nat} {ops : Array Oper} {Q : Exit → Act → World → Prop} {specs : Nat → Spec} {a0 : Act} {w0 : World} {i : Nat} {o : Oper}
theorem h2_idx22 (hr : Runs2 ops specs a0 o) (j1 d1 j2 d2 g off n c k : Nat) (hkn : k < n) (ho : o.op = .indexAddr 22 (.tmp d1) (.tmp d2)) (hj1 : deps .any ops o j1 d1 = true) (hj2 : deps .any ops o j2 d2 = true) (hs1 : specs j1 = .is (.slice (some ⟨g, off, none⟩) n c)) (hs2 : specs j2 = .is (.int .i64 (k : Int))) (hi : specs i = .is (.pointer (some ⟨g, off + k, none⟩))) : Hop2 Try.prog m ops specs Q a0 w0 i o :=
  h2_val hr fun a w hk => by
    have h1 := hk.deps j1 d1 hj1
    have h2 := hk.deps j2 d2 hj2
    rw [hs1] at h1
    rw [hs2] at h2
    have h1 : a.eval (.tmp d1) = .slice (some ⟨g, off, none⟩) n c := h1
    have h2 : a.eval (.tmp d2) = .int .i64 (k : Int) := h2
    refine ⟨.pointer (some ⟨g, off + k, none⟩), w, ?_, by rw [hi]; rfl, Below.refl _ _⟩
    unfold execOp
    rw [ho]
    simp only [h1, h2]
    have hu := Try.underlying22
    go_simp
theorem h2_load5 (hr : Runs2 ops specs a0 o) (j d g k : Nat) (x : Int) (ho : o.op = .load 5 (.tmp d)) (hj : deps .any ops o j d = true) (hs : specs j = .is (.pointer (some ⟨g, k, none⟩))) (hg : g < w0.heap.size) (hc : w0.cell? ⟨g, k, none⟩ = some (.int .u8 x)) (hi : specs i = .is (.int .u8 x)) : Hop2 Try.prog m ops specs Q a0 w0 i o :=
  h2_val hr fun a w hk => by
    have h := hk.deps j d hj
    rw [hs] at h
    have h : a.eval (.tmp d) = .pointer (some ⟨g, k, none⟩) := h
    have hcw := (hk.below.cell (p := ⟨g, k, none⟩) hg).trans hc
    refine ⟨.int .u8 x, w, ?_, by rw [hi]; rfl, Below.refl _ _⟩
    unfold execOp
    rw [ho]
    simp only [h]
    have hu := Try.underlying5
    go_simp
theorem h2_xor5 (hr : Runs2 ops specs a0 o) (j1 d1 j2 d2 : Nat) (x y : Int) (ho : o.op = .binOp .xor 5 (.tmp d1) (.tmp d2) 5) (hj1 : deps .any ops o j1 d1 = true) (hj2 : deps .any ops o j2 d2 = true) (hs1 : specs j1 = .is (.int .u8 x)) (hs2 : specs j2 = .is (.int .u8 y)) (hi : specs i = .is (.int .u8 (Ch.xr8 x y))) : Hop2 Try.prog m ops specs Q a0 w0 i o :=
  h2_val hr fun a w hk => by
    have h1 := hk.deps j1 d1 hj1
    have h2 := hk.deps j2 d2 hj2
    rw [hs1] at h1
    rw [hs2] at h2
    have h1 : a.eval (.tmp d1) = .int .u8 x := h1
    have h2 : a.eval (.tmp d2) = .int .u8 y := h2
    refine ⟨.int .u8 (Ch.xr8 x y), w, ?_, by rw [hi]; rfl, Below.refl _ _⟩
    unfold execOp
    rw [ho]
    simp only [h1, h2]
    have hu := Try.underlying5
    go_simp
    rfl
theorem h2_rem64 (hr : Runs2 ops specs a0 o) (j d k : Nat) (ho : o.op = .binOp .rem 3 (.tmp d) (.const (.int .i64 64)) 3) (hj : deps .any ops o j d = true) (hs : specs j = .is (.int .i64 (k : Int))) (hi : specs i = .is (.int .i64 ((k % 64 : Nat) : Int))) : Hop2 Try.prog m ops specs Q a0 w0 i o :=
  h2_val hr fun a w hk => by
    have h := hk.deps j d hj
    rw [hs] at h
    have h : a.eval (.tmp d) = .int .i64 (k : Int) := h
    refine ⟨.int .i64 ((k % 64 : Nat) : Int), w, ?_, by rw [hi]; rfl, Below.refl _ _⟩
    unfold execOp
    rw [ho]
    simp only [h]
    have hu := Try.underlying3
    go_simp
    exact Int.tmod_eq_emod_of_nonneg (Int.natCast_nonneg _)
/-- A new row of one byte. -/
def newByte (w0 : World) (y : Int) : Spec :=
  .held (fun u w => ∃ g, u = .slice (some ⟨g, 0, none⟩) 1 1 ∧ w0.heap.size ≤ g ∧ w.heap[g]? = some (.cells #[.int .u8 y] 5 (0, 0)))
    fun _ _ _ ⟨g, h1, h2, h3⟩ hb => ⟨g, h1, h2, (hb.block _ (lt_of_block h3)).trans h3⟩
theorem h2_build1 (hr : Runs2 ops specs a0 o) (j d : Nat) (y : Int) (ho : o.op = .buildSlice 22 1 #[(0, .tmp d)]) (hj : deps .any ops o j d = true) (hs : specs j = .is (.int .u8 y)) (hi : specs i = newByte w0 y) : Hop2 Try.prog m ops specs Q a0 w0 i o :=
  h2_wp hr fun a w hk => by
    have h := hk.deps j d hj
    rw [hs] at h
    have h : a.eval (.tmp d) = .int .u8 y := h
    obtain ⟨i0, hi0, hz0, hz1, hz2⟩ := info_parts info5
    refine wp_buildSlice 22 5 1 _ ho #[.int .u8 y] i0 (.int .u8 0) Try.underlying22 hi0 hz0 (by rw [hz1]; decide) (by rw [hz1]; decide) ?_ ?_
    · rw [hz1]
      simp only [List.map_toArray, List.map_cons, List.map_nil, h]
      kernel_rfl
    · refine ⟨_, rfl, ?_, (Below.refl _ _).alloc (Nat.le_refl _) _⟩
      rw [hi]
      exact ⟨_, rfl, hk.below.size, heap_alloc_new w _⟩
end
/-- One byte behind what was made since. -/
theorem wp_append_byte {o : Oper} {a : Act} {w : World} {Q : Exit → Act → World → Prop} {K : Act → World → Prop} (s x : Operand)
    (ho : o.op = .call { callee := .builtin .append, args := #[s, x], argTypes := #[22, 22] })
    (base : Nat) (v : Value) (xs : List Int) (hs : a.eval s = v) (hown : Own base w v xs) (y : Int) (hy : W8 y) (g : Nat) (hx : a.eval x = .slice (some ⟨g, 0, none⟩) 1 1) (hg : w.heap[g]? = some (.cells #[.int .u8 y] 5 (0, 0))) (hlen : xs.length ≤ 10000000000000)
    (h : ∀ v' w', Own base w' v' (xs ++ [y]) → w.grownBy w' v.ownBlock → (v'.ownBlock = v.ownBlock ∨ v'.ownBlock = some w.heap.size) → K (a.put o.dst v') w') :
    o.wp Try.prog a w K Q := by
  obtain ⟨i0, hi, hz0, hz1, hz2⟩ := info_parts info5
  obtain ⟨v', w', hr, h2, h3, h4, h5⟩ := run_append_own_at (P := Try.prog) w base 22 o.type 5 i0 (.int .u8 0) 1 1 Try.underlying22 hi hz0 hz1 hz2 rfl (by decide) v xs.length (xs.map (Value.int .u8)) hown.1 ⟨g, 0, none⟩ 1 1 [.int .u8 y] rfl (getElem_one w g _ 5 hg) (by intro u hu; simp at hu; subst hu; rfl) (by unfold maxLen; omega) (by omega) hown.2.2
  unfold Oper.wp execOp
  simp only [ho, resolve, invoke, builtin, Sem.run_bind, Sem.run_pure, Result.andThen_ok, List.map_toArray, List.map_cons, List.map_nil, hs, hx, hr]
  refine h _ _ ⟨by rw [List.length_append, List.map_append]; exact h2, ?_, Nat.le_trans hown.2.2 h3.size⟩ h3 h5
  intro z hz
  rcases List.mem_append.1 hz with hz | hz
  · exact hown.2.1 z hz
  · rw [List.mem_singleton] at hz; rw [hz]; exact hy
end Grow
/-- What was made since lies in no old block. -/
theorem Own.ne_block {B : Nat} {w : World} {v : Value} {xs : List Int} (h : Own B w v xs) : ∀ g, v.ownBlock = some g → g < w.heap.size ∧ B ≤ g := by
  intro g hg
  rcases h.1.2 with ⟨rfl, _⟩ | ⟨g', cap, cur, rfl, h2, h3, _⟩
  · cases hg
  · obtain rfl : g' = g := by simpa [Value.ownBlock] using hg
    exact ⟨lt_of_block h3, h2⟩
theorem below_grown2 {base : Nat} {w0 w w' : World} {v : Value} {xs : List Int} (hb : Below base w0 w) (h : Own base w v xs) (hg : w.grownBy w' v.ownBlock) : Below base w0 w' := below_grown hb h.1 hg h.2.2
end Go.Proofs.Yticoefnojgaplaa
