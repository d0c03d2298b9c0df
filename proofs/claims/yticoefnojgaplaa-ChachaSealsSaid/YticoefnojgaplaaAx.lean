/- Appends: of bytes that lie somewhere, of noughts; what is sealed, pure. -/
import Derived.Test.YticoefnojgaplaaAw
namespace Go.Proofs.Yticoefnojgaplaa
open Go.RowKit
theorem run_append_slc (w : World) (ty : TypeId) {base : Nat} {v : Value} {xs : List Int} (hown : Own base w v xs) {y : Value} {l : List Int} (hl : Slc w y l) (hlen : xs.length + l.length ≤ 100000000) :
    ∃ v' w', (Builtin.append_ #[22, 22] ty #[v, y]).run Try.prog w = .ok v' w' ∧ Own base w' v' (xs ++ l) ∧ w.grownBy w' v.ownBlock ∧ (v'.ownBlock = v.ownBlock ∨ v'.ownBlock = some w.heap.size) := by
  obtain ⟨i0, hi, hz0, hz1, hz2⟩ := info_parts info5
  obtain ⟨a, cap, rfl, hc, h8, hm⟩ := hl
  have h8' : ∀ x ∈ xs ++ l, W8 x := fun z hz => by
    rcases List.mem_append.1 hz with hz | hz
    · exact hown.2.1 z hz
    · exact h8 z hz
  rcases hm with rfl | ⟨b, off, rfl, hb, hat⟩
  · rw [List.append_nil]
    rcases hown.1.2 with ⟨rfl, h0⟩ | ⟨g, cp, cur, rfl, hg, h3, h4, h5⟩
    · refine ⟨.slice none 0 0, w, ?_, hown, ⟨rfl, rfl, rfl, Nat.le_refl _, fun _ _ _ => rfl⟩, Or.inl rfl⟩
      cases a with
      | none => simp [Builtin.append_, run_underlying Try.underlying22, sizeOf, typeInfo, hi, Builtin.lenOf, Builtin.firstCells]
      | some ad => simp [Builtin.append_, run_underlying Try.underlying22, sizeOf, typeInfo, hi, Builtin.lenOf, Builtin.firstCells, loadCells, loadCellsFrom]
    · refine ⟨.slice (some ⟨g, 0, none⟩) xs.length cp, w, ?_, hown, ⟨rfl, rfl, rfl, Nat.le_refl _, fun _ _ _ => rfl⟩, Or.inl rfl⟩
      cases a with
      | none => simp [Builtin.append_, run_underlying Try.underlying22, sizeOf, typeInfo, hi, Builtin.lenOf, Builtin.firstCells, h4, storeCells]
      | some ad => simp [Builtin.append_, run_underlying Try.underlying22, sizeOf, typeInfo, hi, Builtin.lenOf, Builtin.firstCells, loadCells, loadCellsFrom, h4, storeCells]
  · obtain ⟨v', w', hr, h2, h3, h4, h5⟩ := run_append_own_at (P := Try.prog) w base 22 ty 5 i0 (.int .u8 0) 1 1 Try.underlying22 hi hz0 hz1 hz2 rfl (by decide) v xs.length (xs.map (Value.int .u8)) hown.1 ⟨b, off, none⟩ l.length cap (l.map (Value.int .u8)) (by simp) (src_of_at hat) (ints_one .u8 l) (by unfold maxLen; omega) (by omega) hown.2.2
    exact ⟨v', w', hr, ⟨by rw [List.length_append, List.map_append]; exact h2, h8', Nat.le_trans hown.2.2 h3.size⟩, h3, h5⟩
theorem zeros_cells (k : Nat) : (Builtin.zeroCells #[Value.int .u8 0] k).toList = (zs k).map (Value.int .u8) := by
  refine List.ext_getElem (by simp [Builtin.zeroCells, zs]) fun i h1 h2 => ?_
  simp [Builtin.zeroCells, zs]
  rw [Nat.mod_one]
  rfl
theorem run_append_zeros (w : World) (ty : TypeId) {base : Nat} {v : Value} {xs : List Int} (hown : Own base w v xs) (k : Nat) (hk : k ≤ 15) (h0 : 0 < xs.length ∨ k = 0) (hlen : xs.length ≤ 100000000) :
    ∃ v' w', (Builtin.append_ #[22, 3] ty #[v, .int .i64 (k : Int)]).run Try.prog w = .ok v' w' ∧ Own base w' v' (xs ++ zs k) ∧ w.grownBy w' v.ownBlock ∧ (v'.ownBlock = v.ownBlock ∨ v'.ownBlock = some w.heap.size) := by
  obtain ⟨i0, hi, hz0, hz1, hz2⟩ := info_parts info5
  have hwr : IntKind.i64.wrap (k : Int) = (k : Int) := by rw [IntKind.wrap_i64]; omega
  have hkn : ¬ ((k : Int) < 0) := by omega
  have hk48 : ¬ (281474976710656 < (k : Int)) := by omega
  have h8' : ∀ x ∈ xs ++ zs k, W8 x := fun z hz => by
    rcases List.mem_append.1 hz with hz | hz
    · exact hown.2.1 z hz
    · rw [List.eq_of_mem_replicate hz]; exact ⟨by decide, by decide⟩
  have hzc : (Value.int .u8 0).cells = #[Value.int .u8 0] := rfl
  have hzl : (Builtin.zeroCells #[Value.int .u8 0] k).toList.length = k := by rw [zeros_cells]; simp [zs]
  have hone : ∀ u ∈ (Builtin.zeroCells #[Value.int .u8 0] k).toList, u.oneCell' = true := by rw [zeros_cells]; exact ints_one .u8 _
  have hlx : (xs ++ zs k).length = xs.length + k := by simp [zs]
  rcases hown.1.2 with ⟨rfl, hx0⟩ | ⟨g, cap, cur, rfl, hbg, hg, hnc, hcm, hcs, htake⟩
  · obtain rfl : k = 0 := by omega
    refine ⟨.slice none 0 0, w, ?_, by rw [show zs 0 = [] from rfl, List.append_nil]; exact hown, ⟨rfl, rfl, rfl, Nat.le_refl _, fun _ _ _ => rfl⟩, Or.inl rfl⟩
    simp [Builtin.append_, run_underlying Try.underlying22, run_underlying Try.underlying3, sizeOf, typeInfo, hi, asInt, asIntOf, IntKind.wrap_i64]
  · rw [Nat.mul_one] at hcs htake
    by_cases hroom : xs.length + k ≤ cap
    · have hst := run_storeCells_at Try.prog g xs.length 5 (Builtin.zeroCells #[Value.int .u8 0] k).toList 0 cur w hg (by rw [hzl]; omega) hone
      simp only [Nat.add_zero] at hst
      by_cases hk0 : k = 0
      · subst hk0
        refine ⟨.slice (some ⟨g, 0, none⟩) xs.length cap, w, ?_, by rw [show zs 0 = [] from rfl, List.append_nil]; exact hown, ⟨rfl, rfl, rfl, Nat.le_refl _, fun _ _ _ => rfl⟩, Or.inl rfl⟩
        simp [Builtin.append_, run_underlying Try.underlying22, run_underlying Try.underlying3, sizeOf, typeInfo, hi, asInt, asIntOf, IntKind.wrap_i64, hnc, storeCells]
      · refine ⟨.slice (some ⟨g, 0, none⟩) (xs.length + k) cap, w.setRow g (cur.toList.take xs.length ++ (Builtin.zeroCells #[Value.int .u8 0] k).toList ++ cur.toList.drop (xs.length + (Builtin.zeroCells #[Value.int .u8 0] k).toList.length)).toArray, ?_, ⟨⟨by simp [zs], .inr ⟨g, cap, _, by rw [hlx], hbg, setRow_heap w g cur _ 5 _ hg, by rw [hlx]; exact hroom, hcm, ?_, ?_⟩⟩, h8', ?_⟩, ⟨rfl, rfl, rfl, by simp, fun j _ hj => setRow_other w g j _ (fun e => hj (by simp [Value.ownBlock, e]))⟩, Or.inl rfl⟩
        · simp [Builtin.append_, run_underlying Try.underlying22, run_underlying Try.underlying3, sizeOf, typeInfo, zeroValue, hi, hz0, hz1, hz2, asInt, asIntOf, hwr, hkn, hk48, hk0, hroom, Addr.add_lit, hzc, hst]
        · simp only [List.size_toArray, List.length_append, List.length_take, List.length_drop, Array.length_toList, hzl]
          omega
        · rw [Nat.mul_one, htake, zeros_cells, ← List.map_append]
          have e : (xs ++ zs k).length = (List.map (Value.int .u8) (xs ++ zs k)).length := by simp
          rw [e]
          exact List.take_left
        · have := hown.2.2
          simpa using this
    · have hk0 : ¬ k = 0 := by omega
      have hge := grownCap_ge w (xs.length + k) cap 5
      have hcm2 : grownCap w (xs.length + k) cap 5 ≤ maxLen := grownCap_le_maxLen w (xs.length + k) cap 5 (by unfold maxLen; omega)
      have holds : ∀ j u, (xs.map (Value.int .u8))[j]? = some u → w.cell? ((⟨g, 0, none⟩ : Addr).add j) = some u := World.ownsRow.cells (g := g) hown.1 rfl
      have hfo := run_firstCells_some (P := Try.prog) w.drew 1 xs.length ⟨g, 0, none⟩ xs.length cap (xs.map (Value.int .u8)) (by simp) (by simpa using holds)
      have h63' : ¬ (9223372036854775807 < ((xs.length : Int) + (k : Int))) := by omega
      have h48' : ¬ (281474976710656 < Builtin.nextslicecap (xs.length + k) cap) := by
        have := growslice_fits (need := xs.length + k) (old := cap) (bytes := 1) (by omega) (by omega)
        omega
      refine ⟨.slice (some ⟨w.heap.size, 0, none⟩) (xs.length + k) (grownCap w (xs.length + k) cap 5), w.drew.alloc (.cells ((xs.map (Value.int .u8)).toArray ++ Builtin.zeroCells #[Value.int .u8 0] k ++ Builtin.zeroCells #[Value.int .u8 0] (grownCap w (xs.length + k) cap 5 - (xs.length + k))) 5), ?_, ⟨⟨by simp [zs], .inr ⟨w.heap.size, _, _, by rw [hlx], hown.2.2, heap_alloc_new w.drew _, by rw [hlx]; exact hge, hcm2, ?_, ?_⟩⟩, h8', ?_⟩, ⟨rfl, rfl, rfl, by simp, fun j hj _ => heap_alloc_old w.drew _ hj⟩, Or.inr rfl⟩
      · simp [Builtin.append_, run_underlying Try.underlying22, run_underlying Try.underlying3, sizeOf, typeInfo, zeroValue, hi, hz0, hz1, hz2, asInt, asIntOf, hwr, hkn, hk48, hk0, hroom, hzc, hfo, h63', h48', Question.forced, newRow, grownCap]
      · simp [size_zeroCells]
        omega
      · rw [Nat.mul_one, Array.toList_append, Array.toList_append, zeros_cells, ← List.map_append]
        have e : (xs ++ zs k).length = (List.map (Value.int .u8) (xs ++ zs k)).length := by simp
        rw [e]
        exact List.take_left
      · have := hown.2.2
        simp
        omega
end Go.Proofs.Yticoefnojgaplaa
