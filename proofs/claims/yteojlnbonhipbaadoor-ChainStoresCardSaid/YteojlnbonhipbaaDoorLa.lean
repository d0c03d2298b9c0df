/- A store: All. -/
import Derived.Test.YteojlnbonhipbaaDoorYe
namespace Go.Proofs.YteojlnbonhipbaaDoor
open Go.RowKit Go.Maps
theorem run_mk47 (w : World) (n : Nat) (hn : n ≤ 1000000) : (Instr.makeSlice 36 (.int .i64 n) (.int .i64 n)).run Tryd.prog w = .ok (.slice (some ⟨w.heap.size, 0, none⟩) n n) (w.alloc (.cells (madeCells #[.slice none 0 0, .int .u32 0, .slice none 0 0] (n * 3)) 47)) := by
  obtain ⟨i0, hi, hz0, hz1, hz2⟩ := info_parts info47b
  have h := run_make (P := Tryd.prog) w 36 47 i0 _ Tryd.underlying36 hi hz0 .i64 .i64 n n (by omega) (Int.le_refl _) (by rw [hz2]; omega) (by omega)
  rw [hz1, show (Value.agg #[.slice none 0 0, .int .u32 0, .slice none 0 0]).cells = #[.slice none 0 0, .int .u32 0, .slice none 0 0] by kernel_rfl] at h
  simpa using h
/-- Rows laid so far, in the block of a slice that was made. -/
structure Rw (w : World) (g N k : Nat) (F : List Se) : Prop where
  blk : ∃ cur : Array Value, w.heap[g]? = some (.cells cur 47 (0, 0)) ∧ cur.size = N * 3 ∧ ∀ j, j < k * 3 → cur[j]? = (sflat F)[j]?
  len : F.length = k
  each : ∀ e ∈ F, By w e.2.oa e.1.of ∧ By w e.2.ka e.1.key
theorem Rw.on {w w' : World} {g N k : Nat} {F : List Se} (h : Rw w g N k F) (hb : Below w.heap.size w w') : Rw w' g N k F := by
  obtain ⟨cur, h1, h2, h3⟩ := h.blk
  exact ⟨⟨cur, (hb.block g (Array.getElem?_eq_some_iff.1 h1).1).trans h1, h2, h3⟩, h.len, fun e he => ⟨(h.each e he).1.kp (Kp.of_below [] hb) (List.not_mem_nil), (h.each e he).2.kp (Kp.of_below [] hb) (List.not_mem_nil)⟩⟩
/-- One row more. -/
theorem Rw.step {w : World} {g N k : Nat} {F : List Se} (h : Rw w g N k F) (hk : k < N) (x : Sk) (t : Sl) (h1 : By w t.oa x.of) (h2 : By w t.ka x.key) :
    ∃ u0 u1 u2, w.cell? ⟨g, k * 3, none⟩ = some u0 ∧ w.frozen? ⟨g, k * 3, none⟩ = false ∧
      (w.setCell ⟨g, k * 3, none⟩ (.slice t.oa x.of.length t.oc)).cell? ⟨g, k * 3 + 1, none⟩ = some u1 ∧ (w.setCell ⟨g, k * 3, none⟩ (.slice t.oa x.of.length t.oc)).frozen? ⟨g, k * 3 + 1, none⟩ = false ∧
      ((w.setCell ⟨g, k * 3, none⟩ (.slice t.oa x.of.length t.oc)).setCell ⟨g, k * 3 + 1, none⟩ (.int .u32 x.n)).cell? ⟨g, k * 3 + 2, none⟩ = some u2 ∧ ((w.setCell ⟨g, k * 3, none⟩ (.slice t.oa x.of.length t.oc)).setCell ⟨g, k * 3 + 1, none⟩ (.int .u32 x.n)).frozen? ⟨g, k * 3 + 2, none⟩ = false ∧
      Hid (Rw (((w.setCell ⟨g, k * 3, none⟩ (.slice t.oa x.of.length t.oc)).setCell ⟨g, k * 3 + 1, none⟩ (.int .u32 x.n)).setCell ⟨g, k * 3 + 2, none⟩ (.slice t.ka x.key.length t.kc)) g N (k + 1) (F ++ [(x, t)])) := by
  obtain ⟨cur, b1, b2, b3⟩ := h.blk
  have c1 := heap_setCell_same w g (k * 3) cur 47 (.slice t.oa x.of.length t.oc) b1
  have c2 := heap_setCell_same _ g (k * 3 + 1) _ 47 (.int .u32 x.n) c1
  have c3 := heap_setCell_same _ g (k * 3 + 2) _ 47 (.slice t.ka x.key.length t.kc) c2
  have k1 := Kp.set (i := k * 3) b1 (.slice t.oa x.of.length t.oc)
  have k2 := Kp.set (i := k * 3 + 1) c1 (.int .u32 x.n)
  have k3 := Kp.set (i := k * 3 + 2) c2 (.slice t.ka x.key.length t.kc)
  have kk := (k1.trans k2).trans k3
  have hs : ∀ (c : Array Value) (j : Nat), c.size = N * 3 → j < N * 3 → ∃ u, c[j]? = some u := fun c j hc hj => ⟨c[j], Array.getElem?_eq_getElem (by omega)⟩
  obtain ⟨u0, hu0⟩ := hs cur (k * 3) b2 (by omega)
  obtain ⟨u1, hu1⟩ := hs (cur.setIfInBounds (k * 3) (.slice t.oa x.of.length t.oc)) (k * 3 + 1) (by simpa using b2) (by omega)
  obtain ⟨u2, hu2⟩ := hs ((cur.setIfInBounds (k * 3) (.slice t.oa x.of.length t.oc)).setIfInBounds (k * 3 + 1) (.int .u32 x.n)) (k * 3 + 2) (by simpa using b2) (by omega)
  refine ⟨u0, u1, u2, by rw [cell_of_row _ _ _ _ _ _ b1]; exact hu0, by simp [World.frozen?, b1], by rw [cell_of_row _ _ _ _ _ _ c1]; exact hu1, by simp [World.frozen?, c1], by rw [cell_of_row _ _ _ _ _ _ c2]; exact hu2, by simp [World.frozen?, c2], ⟨_, c3, by simpa using b2, fun j hj => ?_⟩, by simp [h.len], fun e he => ?_⟩
  · have hl : (sflat F).length = k * 3 := by rw [sflat_len, h.len]
    rw [sflat_snoc]
    by_cases hj0 : j < k * 3
    · rw [Array.getElem?_setIfInBounds_ne (by omega), Array.getElem?_setIfInBounds_ne (by omega), Array.getElem?_setIfInBounds_ne (by omega), b3 j hj0, List.getElem?_append_left (by omega)]
    · rw [List.getElem?_append_right (by omega), hl]
      rcases (show j = k * 3 ∨ j = k * 3 + 1 ∨ j = k * 3 + 2 by omega) with rfl | rfl | rfl
      · rw [Array.getElem?_setIfInBounds_ne (by omega), Array.getElem?_setIfInBounds_ne (by omega), Array.getElem?_setIfInBounds_self_of_lt (by omega), Nat.sub_self]
        rfl
      · rw [Array.getElem?_setIfInBounds_ne (by omega), Array.getElem?_setIfInBounds_self_of_lt (by simp; omega), Nat.add_sub_cancel_left]
        rfl
      · rw [Array.getElem?_setIfInBounds_self_of_lt (by simp; omega), Nat.add_sub_cancel_left]
        rfl
  · rcases List.mem_append.1 he with he | he
    · have h2 := h.each e he
      exact ⟨h2.1.kp kk (by decide), h2.2.kp kk (by decide)⟩
    · obtain rfl := List.mem_singleton.1 he
      exact ⟨h1.kp kk (by decide), h2.kp kk (by decide)⟩
set_option maxRecDepth 20000 in
set_option maxHeartbeats 8000000 in
theorem sall_any (w : World) (B sb : Nat) (v : Value) (E : List Se) (hS : Sto w B sb v E) (hl : E.length ≤ 1000000) (hb : ∀ e ∈ E, e.1.of.length ≤ 1048576 ∧ e.1.key.length ≤ 1048576) :
    Calls Tryd.prog 18 #[.pointer (some ⟨sb, 0, none⟩)] w fun x w' => x = .returned (.slice (some ⟨w.heap.size, 0, none⟩) E.length E.length) ∧ ∃ F, F.map (·.1) = E.map (·.1) ∧ Rw w' w.heap.size E.length E.length F ∧ Below w.heap.size w w' := by
  have hmk := run_mk47 w E.length hl
  obtain ⟨z0, hz0⟩ : ∃ z0, z0 = madeCells #[.slice none 0 0, .int .u32 0, .slice none 0 0] (E.length * 3) := ⟨_, rfl⟩
  have hz1 : z0.size = E.length * 3 := by rw [hz0, size_madeCells]
  rw [← hz0] at hmk
  have r0 := heap_alloc_new w (.cells z0 47)
  have b0 := Joins.below_alloc1 w (.cells z0 47)
  have hcell := fun (i : Nat) (hi : i < E.length) => srow_cells hS.own i hi
  have hcl := fun (W : World) (h : Below w.heap.size w W) (i : Nat) (hi : i < E.length) => sclone_any W E[i].1 E[i].2 ((hS.each E[i] (List.getElem_mem hi)).1.kp (Kp.of_below [] h) (List.not_mem_nil)).byt ((hS.each E[i] (List.getElem_mem hi)).2.kp (Kp.of_below [] h) (List.not_mem_nil)).byt (hb E[i] (List.getElem_mem hi)).1 (hb E[i] (List.getElem_mem hi)).2
  obtain ⟨vo, vc, rfl⟩ := own_slice hS.own
  have c0 : w.cell? ⟨sb, 0, none⟩ = some (.slice vo E.length vc) := by rw [cell_of_row _ _ _ _ _ _ hS.row]; rfl
  have hsl := (Array.getElem?_eq_some_iff.1 hS.row).1
  have d0 := (b0.cell (p := ⟨sb, 0, none⟩) hsl).trans c0
  have hR : Rw (w.alloc (.cells z0 47)) w.heap.size E.length 0 [] := ⟨⟨z0, r0, hz1, fun j hj => absurd hj (by omega)⟩, rfl, fun e he => absurd he (List.not_mem_nil)⟩
  obtain ⟨N, hN⟩ : ∃ N, N = E.length := ⟨_, rfl⟩
  rw [← hN] at hmk c0 d0 hl hR ⊢
  have HN := Lib.hid hN
  have HCE := Lib.hid hcell
  have HCL := Lib.hid hcl
  have H0 := Lib.hid (And.intro b0 hR)
  clear hz0 hz1 r0 b0 hcell hcl hR hS hb hN
  go_enter Tryd.func18, Tryd.ntmps18
  go_wp2
  go_loopw [4, 5, 19] (fun _ _ i wr => ∃ k : Nat, i = .int .i64 k ∧ k ≤ N ∧ Hid (Below w.heap.size w wr ∧ ∃ F, Rw wr w.heap.size N k F ∧ F.map (·.1) = (E.take k).map (·.1)))
    (fun _ _ i _ => N - (intOf i).toNat)
  case atStart => exact ⟨0, rfl, Nat.zero_le _, H0.out.1, [], H0.out.2, rfl⟩
  case round =>
    obtain ⟨k, rfl, hk, HX⟩ := hrel
    by_cases hkN : k < N
    · have hk1 : (k : Int) < N := by omega
      have hkE : k < E.length := by rw [← HN.out]; exact hkN
      obtain ⟨g, c, hv, hg, x0, x1, x2⟩ := HCE.out k hkE
      obtain ⟨rfl, -, rfl⟩ : vo = some ⟨g, 0, none⟩ ∧ True ∧ vc = c := by cases hv; exact ⟨rfl, trivial, rfl⟩
      obtain ⟨hb, F, hF, hFE⟩ := HX.out
      have y0 := (hb.cell (p := ⟨g, k * 3, none⟩) hg).trans x0
      have y1 := (hb.cell (p := ⟨g, k * 3 + 1, none⟩) hg).trans x1
      have y2 := (hb.cell (p := ⟨g, k * 3 + 2, none⟩) hg).trans x2
      have HC := Lib.hid (fun W h => HCL.out W h k hkE)
      have hx : Hid ((E.take (k + 1)).map (·.1) = (E.take k).map (·.1) ++ [E[k].1]) := by show _ = _; rw [List.take_succ_eq_append_getElem hkE, List.map_append]; rfl
      generalize E[k] = e0 at *
      obtain ⟨x, t⟩ := e0
      dsimp only at *
      have HF := Lib.hid (And.intro hb (And.intro hF hFE))
      clear x0 x1 x2 hv HX hb hF hFE
      have b1 := Joins.below_alloc1 wr (.cells #[.slice t.oa x.of.length t.oc, .int .u32 x.n, .slice t.ka x.key.length t.kc] 47)
      have HB1 := Lib.hid (HF.out.1.trans (b1.mono HF.out.1.size))
      have HC1 := Lib.hid (HC.out _ HB1.out)
      have HF1 := Lib.hid (HF.out.2.1.on b1)
      clear b1 HC
      go_wp2_with (go_at_call 26; refine HC1.out.mono ?_; rintro e w1 ⟨t1, rfl, q1, q2, hb1⟩; obtain ⟨u0, u1, u2, z0, f0, z1, f1, z2, f2, HR⟩ := (HF1.out.on hb1).step hkN x t1 q1 q2; have HB2 := Lib.hid (HB1.out.trans (hb1.mono HB1.out.size)); clear hb1 q1 q2)
      refine ⟨⟨k + 1, rfl, hkN, ?_, F ++ [(x, t1)], HR.out, ?_⟩, ?_⟩
      · exact ((HB2.out.setCell (p := ⟨w.heap.size, k * 3, none⟩) (Nat.le_refl _) _).setCell (p := ⟨w.heap.size, k * 3 + 1, none⟩) (Nat.le_refl _) _).setCell (p := ⟨w.heap.size, k * 3 + 2, none⟩) (Nat.le_refl _) _
      · rw [List.map_append, HF.out.2.2, hx.out]; rfl
      · simp [intOf]; omega
    · obtain rfl : k = N := by omega
      have hk1 : ¬ (k : Int) < k := by omega
      go_wp2
      go_ret
      obtain ⟨hb, F, h1, h2⟩ := HX.out
      exact ⟨rfl, F, by rw [h2, List.take_of_length_le (by rw [← HN.out]; exact Nat.le_refl _)], h1, hb⟩
end Go.Proofs.YteojlnbonhipbaaDoor
