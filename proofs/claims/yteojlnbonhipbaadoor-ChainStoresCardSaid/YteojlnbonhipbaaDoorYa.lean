/- A key struck out of a store's row. -/
import Derived.Test.YteojlnbonhipbaaDoorY
namespace Go.Proofs.YteojlnbonhipbaaDoor
open Go.RowKit Go.Maps
theorem sflat_len (E : List Se) : (sflat E).length = E.length * 3 := by
  induction E with
  | nil => rfl
  | cons e E ih =>
    have : (sflat (e :: E)) = skV e ++ sflat E := rfl
    rw [this, List.length_append, ih, show (skV e).length = 3 from rfl, List.length_cons]
    omega
theorem sflat_drop : ∀ (E : List Se) (k : Nat), sflat (E.drop k) = (sflat E).drop (k * 3)
  | E, 0 => by simp
  | [], k + 1 => by simp [sflat]
  | e :: E, k + 1 => by
    have : (sflat (e :: E)) = skV e ++ sflat E := rfl
    have h3 : (skV e).drop ((k + 1) * 3) = [] := List.drop_eq_nil_of_le (by show 3 ≤ _; omega)
    rw [List.drop_succ_cons, sflat_drop E k, this, List.drop_append, show (skV e).length = 3 from rfl, show (k + 1) * 3 - 3 = k * 3 by omega, h3, List.nil_append]
theorem sflat_take : ∀ (E : List Se) (k : Nat), sflat (E.take k) = (sflat E).take (k * 3)
  | E, 0 => by simp [sflat]
  | [], k + 1 => by simp [sflat]
  | e :: E, k + 1 => by
    have : (sflat (e :: E)) = skV e ++ sflat E := rfl
    have h2 : sflat (e :: E.take k) = skV e ++ sflat (E.take k) := rfl
    rw [List.take_succ_cons, h2, sflat_take E k, this, List.take_append, show (skV e).length = 3 from rfl, show (k + 1) * 3 - 3 = k * 3 by omega, List.take_of_length_le (l := skV e) (by show 3 ≤ _; omega)]
theorem sflat_app (E F : List Se) : sflat (E ++ F) = sflat E ++ sflat F := by simp [sflat]
theorem sflat_one (E : List Se) : ∀ u ∈ sflat E, u.oneCell' = true := by
  intro u hu
  simp only [sflat, List.mem_flatMap] at hu
  obtain ⟨e, -, hu⟩ := hu
  simp only [skV, List.mem_cons, List.not_mem_nil, or_false] at hu
  rcases hu with rfl | rfl | rfl <;> rfl
set_option maxRecDepth 20000 in
set_option maxHeartbeats 8000000 in
theorem delete_any (w : World) (B : Nat) (v : Value) (E : List Se) (k M : Nat) (hown : w.ownsRow B 47 3 v E.length (sflat E)) (hN : E.length = k + 1 + M) (hl : E.length ≤ 1048576) :
    Calls Tryd.prog 32 #[v, .int .i64 k, .int .i64 ((k : Int) + 1)] w fun e w' => ∃ v', e = .returned v' ∧ w'.ownsRow B 47 3 v' (k + M) (sflat (E.take k ++ E.drop (k + 1))) ∧ Kp [some 47] w w' ∧ Below B w w' ∧ (∀ b, v.ownBlock ≠ some b → w'.heap[b]? = w.heap[b]?) ∧ v'.ownBlock = v.ownBlock := by
  rcases hown.2 with ⟨-, h0⟩ | ⟨g, cap, cur, rfl, hg, hc, h1, h2, h3, h4⟩
  · omega
  rw [hN] at h1 h4 hl ⊢
  have hcell : ∀ j, j < (k + 1 + M) * 3 → cur[j]? = (sflat E)[j]? := fun j hj => by
    rw [← h4, List.getElem?_take_of_lt hj, Array.getElem?_toList]
  obtain ⟨news, hnews⟩ : ∃ news, news = sflat (E.drop (k + 1)) := ⟨_, rfl⟩
  have hnl : news.length = M * 3 := by rw [hnews, sflat_len, List.length_drop, hN]; omega
  have hget : ∀ t, t < M * 3 → news[t]? = (sflat E)[(k + 1) * 3 + t]? := fun t ht => by rw [hnews, sflat_drop, List.getElem?_drop]
  have hwc : ∀ (w : World), w.heap[g]? = some (.cells cur 47 (0, 0)) → ∀ j, w.cell? ⟨g, j, none⟩ = cur[j]? := fun w h j => cell_of_row w g j cur 47 (0, 0) h
  obtain ⟨A, hA, hsrc⟩ : ∃ A : Addr, (if cap = k + 1 then (some (⟨g, 0, none⟩ : Addr)) else some ⟨g, (k + 1) * 3, none⟩) = some A ∧ Hid (∀ t u, news[t]? = some u → w.drew.cell? (A.add t) = some u) := by
    by_cases h : cap = k + 1
    · refine ⟨⟨g, 0, none⟩, by simp [h], fun t u hu => ?_⟩
      have h0 : news.length = 0 := by rw [hnl]; omega
      rw [List.length_eq_zero_iff.1 h0] at hu
      simp at hu
    · refine ⟨⟨g, (k + 1) * 3, none⟩, by simp [h], fun t u hu => ?_⟩
      have ht : t < M * 3 := by
        have := (List.getElem?_eq_some_iff.1 hu).1
        rwa [hnl] at this
      rw [addr_mid, hwc w.drew hc, hcell _ (by omega), ← hget t ht]
      exact hu
  have s2 : Hid (∀ u ∈ news, u.oneCell' = true) := by rw [hnews]; exact sflat_one _
  have s3 : Hid (∀ t, t < news.length → (w.drew.cell? ⟨g, 0 + k * 3 + t, none⟩).isSome = true ∧ w.drew.frozen? ⟨g, 0 + k * 3 + t, none⟩ = false) := by
    intro t ht
    rw [hnl] at ht
    refine ⟨?_, ?_⟩
    · rw [hwc w.drew hc, Array.getElem?_eq_getElem (by omega)]
      rfl
    · have hcd : w.drew.heap[g]? = some (.cells cur 47 (0, 0)) := hc
      simp [World.frozen?, hcd]
  obtain ⟨cur1, a1, a2, a3, a4, a5, a6, a7, a8, a9⟩ := setCells_row g 47 news (0 + k * 3) w.drew cur hc (by omega)
  obtain ⟨W1, hW1⟩ : ∃ W1, W1 = w.drew.setCells g (0 + k * 3) news := ⟨_, rfl⟩
  rw [← hW1] at a1 a5 a6 a7 a8 a9
  have hwc1 : ∀ j, W1.cell? ⟨g, j, none⟩ = cur1[j]? := fun j => cell_of_row W1 g j cur1 47 (0, 0) a1
  have hcl := fun (ty : TypeId) (c : Nat) => run_clear47 W1 ty g ((k + M) * 3) c (fun j hj => by rw [hwc1, Array.getElem?_eq_getElem (by omega)]; rfl) (fun j hj => by simp [World.frozen?, a1])
  obtain ⟨cur2, b1, b2, b3, b4, b5, b6, b7, b8, b9⟩ := setCells_row g 47 [.slice none 0 0, .int .u32 0, .slice none 0 0] ((k + M) * 3) W1 cur1 a1 (by show (k + M) * 3 + 3 ≤ _; omega)
  have hfin : (W1.setCells g ((k + M) * 3) [.slice none 0 0, .int .u32 0, .slice none 0 0]).ownsRow B 47 3 (.slice (some ⟨g, 0, none⟩) (k + M) cap) (k + M) (sflat (E.take k ++ E.drop (k + 1))) := by
    have hlen : (sflat (E.take k ++ E.drop (k + 1))).length = (k + M) * 3 := by
      rw [sflat_len, List.length_append, List.length_take, List.length_drop, hN]; omega
    refine ⟨hlen, .inr ⟨g, cap, cur2, rfl, hg, b1, by omega, h2, by omega, ?_⟩⟩
    refine List.ext_getElem? fun j => ?_
    by_cases hj : j < (k + M) * 3
    · rw [List.getElem?_take_of_lt hj, Array.getElem?_toList, b3 j hj, sflat_app, sflat_take, ← hnews]
      have htl : ((sflat E).take (k * 3)).length = k * 3 := by rw [List.length_take, sflat_len, hN]; omega
      by_cases hk : j < k * 3
      · rw [a3 j (by omega), hcell j (by omega), List.getElem?_append_left (by rw [htl]; exact hk), List.getElem?_take_of_lt hk]
      · obtain ⟨t, rfl⟩ : ∃ t, j = k * 3 + t := ⟨j - k * 3, by omega⟩
        have h5 := a4 t (by rw [hnl]; omega)
        rw [Nat.zero_add] at h5
        rw [h5, List.getElem?_append_right (by rw [htl]; omega), htl, Nat.add_sub_cancel_left]
    · rw [List.getElem?_eq_none (by rw [List.length_take]; omega), List.getElem?_eq_none (by rw [hlen]; omega)]
  have hkp : Kp [some 47] w (W1.setCells g ((k + M) * 3) [.slice none 0 0, .int .u32 0, .slice none 0 0]) := by
    refine ⟨by rw [b5, a5]; exact Nat.le_refl _, fun b o hb ho => ?_⟩
    have hne : b ≠ g := fun e => by
      rw [e, hc] at hb
      cases hb
      exact ho (show some 47 ∈ [some 47] by decide)
    rw [b6 b hne, a6 b hne]
    exact hb
  have hbw : Below B w (W1.setCells g ((k + M) * 3) [.slice none 0 0, .int .u32 0, .slice none 0 0]) :=
    ⟨b7.trans a7, b8.trans a8, b9.trans a9, by rw [b5, a5]; exact Nat.le_refl _, fun b hb => by rw [b6 b (by omega), a6 b (by omega)]; rfl⟩
  have hfr : ∀ b, (Value.slice (some ⟨g, 0, none⟩) (k + 1 + M) cap).ownBlock ≠ some b → (W1.setCells g ((k + M) * 3) [.slice none 0 0, .int .u32 0, .slice none 0 0]).heap[b]? = w.heap[b]? := fun b hb => by
    have hne : b ≠ g := fun e => hb (by rw [e]; rfl)
    rw [b6 b hne, a6 b hne]
    rfl
  have HF := Lib.hid (And.intro hfin (And.intro hkp (And.intro hbw hfr)))
  have HW := Lib.hid hW1
  have s1 := Lib.hid hnl
  have HCL := Lib.hid hcl
  obtain ⟨i0, hi, hz1⟩ : ∃ i0, Tryd.prog.info? 47 = some i0 ∧ i0.size = 3 := by
    have h := info47
    cases hx : Tryd.prog.info? 47 with
    | none => rw [hx] at h; cases h
    | some i => rw [hx] at h; exact ⟨i, rfl, by simpa using h⟩
  clear hcl hfin hkp hbw hfr a1 a2 a3 a4 a5 a6 a7 a8 a9 b1 b2 b3 b4 b5 b6 b7 b8 b9 hwc hwc1 hget hnews hcell h4 h3 hc hown hW1 hnl
  have hkc : k ≤ cap := by omega
  have hkc1 : k + 1 ≤ cap := by omega
  have hx0 : (0 : Int) ≤ (k : Int) + 1 := by omega
  have hx1 : (k : Int) + 1 ≤ (k : Int) + 1 + (M : Int) := by omega
  go_enter Tryd.func32, Tryd.ntmps32
  go_wp2
  go_region_law (refine step_append_room rfl (.tmp 22) (.tmp 25) 36 rfl 47 i0 3 Tryd.underlying36 hi hz1 g 0 k cap (by simp [Act.eval, Act.put]) A M (cap - (k + 1)) news (by simp [Act.eval, Act.put]) s1.out hsrc.out s2.out (by omega) s3.out ?_; rw [← HW.out])
  all_goals (
    have hne : ¬ (cap = k + M) := by omega
    have hsub : k + 1 + M - (k + M) = 1 := by omega
    have hy0 : (0 : Int) ≤ (k : Int) + (M : Int) := by omega
    have hy1 : (k : Int) + (M : Int) ≤ (k : Int) + 1 + (M : Int) := by omega
    have hy2 : k + 1 + M ≤ cap := h1
    have hcl := HCL.out
    go_wp2
    go_ret
    exact ⟨_, rfl, HF.out.1, HF.out.2.1, HF.out.2.2.1, HF.out.2.2.2, rfl⟩)
end Go.Proofs.YteojlnbonhipbaaDoor
