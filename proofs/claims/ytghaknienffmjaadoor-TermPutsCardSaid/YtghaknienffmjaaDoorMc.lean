/- Numbers copied; two terms compared. -/
import Derived.Test.YtghaknienffmjaaDoorMb
namespace Go.Proofs.YtghaknienffmjaaDoor
open Go.RowKit
theorem nums_own {w : World} {B : Nat} {v : Value} {zs : List Int} (h : w.ownsRow B 3 1 v zs.length (zs.map (Value.int .i64))) : ∃ ao cap, v = .slice ao zs.length cap ∧ Nums w ao zs ∧ ∀ a, ao = some a → B ≤ a.block := by
  obtain ⟨hl, ⟨rfl, h0⟩ | ⟨g, cap, cur, rfl, hg, hc, h1, h2, h3, h4⟩⟩ := h
  · obtain rfl : zs = [] := List.length_eq_zero_iff.1 h0
    exact ⟨none, 0, rfl, ⟨fun j hj => absurd hj (Nat.not_lt_zero _)⟩, fun a ha => by cases ha⟩
  · refine ⟨_, cap, rfl, ⟨fun j hj => ⟨g, 0, rfl, (Array.getElem?_eq_some_iff.1 hc).1, ?_⟩⟩, fun a ha => by cases ha; exact hg⟩
    rw [Nat.zero_add, cell_of_row w g j cur 3 (0, 0) hc]
    have h5 : cur[j]? = (cur.toList.take (zs.length * 1))[j]? := by rw [List.getElem?_take_of_lt (by omega), Array.getElem?_toList]
    rw [h5, h4, List.getElem?_map, List.getElem?_eq_getElem hj, List.getD_eq_getElem?_getD, List.getElem?_eq_getElem hj]
    rfl
/-- slices.Clone of numbers. -/
theorem clone_nums (ao : Option Addr) (cap : Nat) (zs : List Int) (w : World) (hN : Nums w ao zs) (hL : zs.length ≤ 1048576) :
    Calls Tryd.prog 22 #[.slice ao zs.length cap] w fun e w' => ∃ ao' cap', e = .returned (.slice ao' zs.length cap') ∧ Nums w' ao' zs ∧ (∀ a, ao' = some a → w.heap.size ≤ a.block) ∧ Below w.heap.size w w' := by
  by_cases h0 : zs = []
  · subst h0
    cases ao with
    | none =>
      refine (Tryd.slices_Clone_int_nil 0 cap w).mono ?_
      rintro e w' ⟨rfl, rfl⟩
      exact ⟨none, 0, rfl, ⟨fun j hj => absurd hj (Nat.not_lt_zero _)⟩, (fun a ha => by cases ha), Below.refl _ _⟩
    | some a =>
      refine (Tryd.slices_Clone_int_zero a cap w).mono ?_
      rintro e w' ⟨v', rfl, hown, -, hbl⟩
      obtain ⟨ao', cap', rfl, h1, h2⟩ := nums_own (zs := []) hown
      exact ⟨ao', cap', rfl, h1, h2, hbl⟩
  · obtain ⟨b, off, rfl, hb, -⟩ := hN.at_ 0 (List.length_pos_iff.2 h0)
    refine (Tryd.slices_Clone_int b off zs.length cap zs w (Nat.le_refl _) (by omega) (fun j hj => ?_)).mono ?_
    · obtain ⟨b', off', h1, h2, h3⟩ := hN.at_ j hj
      cases h1
      exact h3
    · rintro e w' ⟨v', rfl, hown, -, hbl⟩
      rw [List.take_length] at hown
      obtain ⟨ao', cap', rfl, h1, h2⟩ := nums_own hown
      exact ⟨ao', cap', rfl, h1, h2, hbl⟩
theorem boxed_both (w : World) (k o s n k' o' s' n' : Value) : Boxed w.heap.size k o s n ((w.alloc (.cells #[k, o, s, n] 25)).alloc (.cells #[k', o', s', n'] 25)) ∧ Boxed (w.heap.size + 1) k' o' s' n' ((w.alloc (.cells #[k, o, s, n] 25)).alloc (.cells #[k', o', s', n'] 25)) := by
  refine ⟨(Boxed.new w k o s n).on (Joins.below_alloc1 _ _) (by simp), ?_⟩
  have h := Boxed.new (w.alloc (.cells #[k, o, s, n] 25)) k' o' s' n'
  rwa [show (w.alloc (.cells #[k, o, s, n] 25)).heap.size = w.heap.size + 1 by simp] at h
set_option maxHeartbeats 4000000 in
theorem same_no (k n k' n' : Int) (L L' : Nat) (s s' : ByteArray) (ao ao' : Option Addr) (cap cap' : Nat) (w : World) (hne : ¬ (k = k' ∧ n = n' ∧ s.toList = s'.toList ∧ L = L')) :
    Calls Tryd.prog 10 #[.agg #[.int .u8 k, .slice ao L cap, .string s, .int .i64 n], .agg #[.int .u8 k', .slice ao' L' cap', .string s', .int .i64 n']] w fun e w' =>
      e = .returned (.bool false) ∧ Below w.heap.size w w' := by
  obtain ⟨hx, hy⟩ := boxed_both w (.int .u8 k) (.slice ao L cap) (.string s) (.int .i64 n) (.int .u8 k') (.slice ao' L' cap') (.string s') (.int .i64 n')
  have a0 := hx.c0
  have a1 := hx.c1
  have a2 := hx.c2
  have a3 := hx.c3
  have b0 := hy.c0
  have b1 := hy.c1
  have b2 := hy.c2
  have b3 := hy.c3
  have HN := Lib.hid hne
  clear hx hy hne
  by_cases hk : k = k'
  · by_cases hn : n = n'
    · by_cases hs : s.toList = s'.toList
      · have hl : ¬ L = L' := fun e => HN.out ⟨hk, hn, hs, e⟩
        have hl2 : ((L : Int) != L') = true := by simp; omega
        subst hk hn
        go_enter Tryd.func10, Tryd.ntmps10
        go_wp2
        go_ret
        exact ⟨rfl, Joins.below_alloc2 _ _ _⟩
      · subst hk hn
        go_enter Tryd.func10, Tryd.ntmps10
        go_wp2
        go_ret
        exact ⟨rfl, Joins.below_alloc2 _ _ _⟩
    · subst hk
      go_enter Tryd.func10, Tryd.ntmps10
      go_wp2
      go_ret
      exact ⟨rfl, Joins.below_alloc2 _ _ _⟩
  · go_enter Tryd.func10, Tryd.ntmps10
    go_wp2
    go_ret
    exact ⟨rfl, Joins.below_alloc2 _ _ _⟩
set_option maxHeartbeats 4000000 in
theorem same_of (k n : Int) (of of' : List Int) (s : ByteArray) (ao ao' : Option Addr) (cap cap' : Nat) (w : World) (hN : Nums w ao of) (hN' : Nums w ao' of') (hL : of.length = of'.length) (hLb : of.length ≤ 1048576) :
    Calls Tryd.prog 10 #[.agg #[.int .u8 k, .slice ao of.length cap, .string s, .int .i64 n], .agg #[.int .u8 k, .slice ao' of.length cap', .string s, .int .i64 n]] w fun e w' =>
      e = .returned (.bool (decide (of = of'))) ∧ Below w.heap.size w w' := by
  obtain ⟨L, hLd⟩ : ∃ L, L = of.length := ⟨_, rfl⟩
  rw [← hLd] at hL hLb ⊢
  obtain ⟨hx, hy⟩ := boxed_both w (.int .u8 k) (.slice ao L cap) (.string s) (.int .i64 n) (.int .u8 k) (.slice ao' L cap') (.string s) (.int .i64 n)
  have hb0 : Below w.heap.size w ((w.alloc (.cells #[.int .u8 k, .slice ao L cap, .string s, .int .i64 n] 25)).alloc (.cells #[.int .u8 k, .slice ao' L cap', .string s, .int .i64 n] 25)) := Joins.below_alloc2 _ _ _
  have hsz : w.heap.size + 2 ≤ ((w.alloc (.cells #[.int .u8 k, .slice ao L cap, .string s, .int .i64 n] 25)).alloc (.cells #[.int .u8 k, .slice ao' L cap', .string s, .int .i64 n] 25)).heap.size := by simp
  have a0 := hx.c0
  have a1 := hx.c1
  have a2 := hx.c2
  have a3 := hx.c3
  have b0 := hy.c0
  have b1 := hy.c1
  have b2 := hy.c2
  have b3 := hy.c3
  have HX := Lib.hid hx
  have HY := Lib.hid hy
  have HB := Lib.hid hb0
  have HSZ := Lib.hid hsz
  have HL := Lib.hid hL
  have HL2 := Lib.hid hLd
  clear hx hy hb0 hL hLd hsz
  go_enter Tryd.func10, Tryd.ntmps10
  go_wp2
  clear a0 a1 a2 a3 b0 b1 b2 b3
  generalize (w.alloc (.cells #[.int .u8 k, .slice ao L cap, .string s, .int .i64 n] 25)).alloc (.cells #[.int .u8 k, .slice ao' L cap', .string s, .int .i64 n] 25) = w2 at *
  go_loopw [5] (fun i wr => ∃ j : Nat, i = .int .i64 j ∧ j ≤ L ∧ Hid (of.take j = of'.take j) ∧ Below w2.heap.size w2 wr)
    (fun i _ => L - (intOf i).toNat)
  case atStart => exact ⟨0, rfl, Nat.zero_le _, rfl, Below.refl _ _⟩
  case round =>
    obtain ⟨j, rfl, hj, HE, hbr⟩ := hrel
    have hxr := HX.out.on hbr HX.out.lt
    have hyr := HY.out.on hbr HY.out.lt
    have a1 := hxr.c1
    have b1 := hyr.c1
    clear hxr hyr
    by_cases hjL : j < L
    · obtain ⟨b, off, rfl, hbl, hcell⟩ := hN.at_ j (by rw [← HL2.out]; exact hjL)
      obtain ⟨b', off', rfl, hbl', hcell'⟩ := hN'.at_ j (by rw [← HL.out]; exact hjL)
      have hc1 : wr.cell? ⟨b, off + j, none⟩ = some (.int .i64 (of.getD j 0)) := (hbr.cell (p := ⟨b, off + j, none⟩) (by have := HSZ.out; show b < _; omega)).trans ((HB.out.cell (p := ⟨b, off + j, none⟩) hbl).trans hcell)
      have hc2 : wr.cell? ⟨b', off' + j, none⟩ = some (.int .i64 (of'.getD j 0)) := (hbr.cell (p := ⟨b', off' + j, none⟩) (by have := HSZ.out; show b' < _; omega)).trans ((HB.out.cell (p := ⟨b', off' + j, none⟩) hbl').trans hcell')
      have hj1 : (j : Int) < L := by omega
      have HT : Hid (of.getD j 0 = of'.getD j 0 → of.take (j + 1) = of'.take (j + 1)) := fun h => by
        have h1 : j < of.length := by rw [← HL2.out]; exact hjL
        have h2 : j < of'.length := by rw [← HL.out]; exact hjL
        rw [List.getD_eq_getElem?_getD, List.getD_eq_getElem?_getD, List.getElem?_eq_getElem h1, List.getElem?_eq_getElem h2] at h
        rw [List.take_add_one, List.take_add_one, HE.out, List.getElem?_eq_getElem h1, List.getElem?_eq_getElem h2]
        simp at h
        rw [h]
      have HF : Hid (of.getD j 0 ≠ of'.getD j 0 → of ≠ of') := fun h e => h (by rw [e])
      generalize of.getD j 0 = x at *
      generalize of'.getD j 0 = y at *
      clear hcell hcell'
      go_wp2
      go_quiet (fail)
      go_wp2
      · rename_i hxy
        go_ret
        have h1 : of ≠ of' := HF.out (by simpa using hxy)
        exact ⟨by simp [h1], HB.out.trans ((hbr.mono HB.out.size).trans (Below.mono (below_drewN _ _) (Nat.le_trans HB.out.size hbr.size)))⟩
      · rename_i hxy
        have h1 : x = y := by simpa using hxy
        exact ⟨⟨j + 1, rfl, by omega, HT.out h1, hbr.trans ((below_drewN _ _).mono hbr.size)⟩, by simp [intOf]; omega⟩
    · obtain rfl : j = L := by omega
      have hj1 : ¬ (j : Int) < j := by omega
      have HO : Hid (of = of') := by
        have h := HE.out
        rw [List.take_of_length_le (by rw [← HL2.out]; exact Nat.le_refl _), List.take_of_length_le (by rw [← HL.out]; exact Nat.le_refl _)] at h
        exact h
      go_wp2
      go_ret
      exact ⟨by simp [HO.out], HB.out.trans (hbr.mono HB.out.size)⟩
/-- Are two terms one? -/
theorem same_any (k n k' n' : Int) (of of' : List Int) (s s' : ByteArray) (ao ao' : Option Addr) (cap cap' : Nat) (w : World) (hN : Nums w ao of) (hN' : Nums w ao' of') (hLb : of.length ≤ 1048576) :
    Calls Tryd.prog 10 #[.agg #[.int .u8 k, .slice ao of.length cap, .string s, .int .i64 n], .agg #[.int .u8 k', .slice ao' of'.length cap', .string s', .int .i64 n']] w fun e w' =>
      e = .returned (.bool (decide (k = k' ∧ n = n' ∧ s = s' ∧ of = of'))) ∧ Below w.heap.size w w' := by
  by_cases h : k = k' ∧ n = n' ∧ s.toList = s'.toList ∧ of.length = of'.length
  · obtain ⟨rfl, rfl, h3, h4⟩ := h
    obtain rfl : s = s' := Go.WideShapes.bytes_inj (by rw [← ByteArray.toList_eq, ← ByteArray.toList_eq]; exact h3)
    rw [← h4]
    refine (same_of k n of of' s ao ao' cap cap' w hN hN' h4 hLb).mono fun e w' ⟨h1, h2⟩ => ⟨h1.trans ?_, h2⟩
    congr 3
    simp
  · refine (same_no k n k' n' of.length of'.length s s' ao ao' cap cap' w h).mono fun e w' ⟨h1, h2⟩ => ⟨h1.trans ?_, h2⟩
    have h3 : ¬ (k = k' ∧ n = n' ∧ s = s' ∧ of = of') := fun ⟨a, b, c, d⟩ => h ⟨a, b, by rw [c], by rw [d]⟩
    rw [decide_eq_false h3]
end Go.Proofs.YtghaknienffmjaaDoor
