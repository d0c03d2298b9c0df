/- The document's example: 'awake'. -/
import Derived.Test.YteojlnbonhipbaaDoorZc
namespace Go.Proofs.YteojlnbonhipbaaDoor
open Go.RowKit Go.Maps
theorem by_one (w : World) (c : Nat) (b : UInt8) (fr : Nat × Nat) (h : w.heap[c]? = some (.cells #[.int .u8 (b.toNat : Int)] 5 fr)) : By w (some ⟨c, 0, none⟩) [b] := By.row (fr := fr) h
theorem go_add {σ : Type} (I : PI σ) (of : List UInt8) : ∀ (j i : Nat) (x : σ × List UInt8 × Nat × List Sk), go I of (j + i) x = go I of i (go I of j x)
  | 0, i, x => by rw [Nat.zero_add]; rfl
  | j + 1, i, (s, K, n, S) => by
    rw [show j + 1 + i = (j + i) + 1 by omega]
    simp only [go]
    exact go_add I of j i _
theorem ks_key {σ : Type} (I : PI σ) (of : List UInt8) : ∀ (j : Nat) (s : σ) (K : List UInt8) (n : Nat), I.ok j s K → ∀ y ∈ ks I of j s K n, y.key.length = 32
  | 0, _, _, _, _ => fun y hy => absurd hy (List.not_mem_nil)
  | j + 1, s, K, n, h => fun y hy => by
    simp only [ks, List.mem_cons] at hy
    rcases hy with rfl | hy
    · exact I.len1 j s K h
    · exact ks_key I of j _ _ _ (I.next j s K h) y hy
/-- The key of a mark. -/
def kS : List UInt8 := [107]
set_option maxRecDepth 20000 in
set_option maxHeartbeats 16000000 in
theorem awake_any (w : World) : Calls Tryd.prog 7 #[] w fun e w' => e = .returned (.bool true) ∧ Below w.heap.size w w' := by
  have hop := open_terms w 1 (by decide) (by decide)
  have HOP := Lib.hid hop
  clear hop
  go_enter Tryd.func7, Tryd.ntmps7
  go_wp2_with (first
    | (go_at_call 8; refine HOP.out.mono ?_; rintro e w1 ⟨pb, tb, ko, rfl, hP1, hy1, hb1⟩; have HP1 := Lib.hid (And.intro hP1 (And.intro hy1 hb1)); clear hP1 hy1 hb1; have kc := kconst ((w1.alloc (.cells #[.slice ko 32 32, .int .u32 0] 27)).alloc (.cells #[.slice none 0 0] 38)) #[.int .u8 107] 1 1 (w1.heap.size + 1 + 1) (by simp))
    | (go_at_call 11; refine Hid.out ?_))
  refine Lib.hid ?_
  obtain ⟨hP1, hy1, hb1⟩ := HP1.out
  have hB := hb1.size
  have b1 := Joins.below_alloc1 w1 (.cells #[.slice ko 32 32, .int .u32 0] 27)
  have r1 := heap_alloc_new w1 (.cells #[.slice ko 32 32, .int .u32 0] 27)
  have b2 := Joins.below_alloc1 (w1.alloc (.cells #[.slice ko 32 32, .int .u32 0] 27)) (.cells #[.slice none 0 0] 38)
  have hst := st_new (w1.alloc (.cells #[.slice ko 32 32, .int .u32 0] 27)) w.heap.size (Nat.le_trans hB b1.size)
  have b3 := Joins.below_alloc1 ((w1.alloc (.cells #[.slice ko 32 32, .int .u32 0] 27)).alloc (.cells #[.slice none 0 0] 38)) (.cells #[.int .u8 107] 5 (1, 2))
  have r3 := heap_alloc_new ((w1.alloc (.cells #[.slice ko 32 32, .int .u32 0] 27)).alloc (.cells #[.slice none 0 0] 38)) (.cells #[.int .u8 107] 5 (1, 2))
  rw [show (w1.alloc (.cells #[.slice ko 32 32, .int .u32 0] 27)).heap.size = w1.heap.size + 1 by simp] at hst
  rw [show ((w1.alloc (.cells #[.slice ko 32 32, .int .u32 0] 27)).alloc (.cells #[.slice none 0 0] 38)).heap.size = w1.heap.size + 1 + 1 by simp] at r3
  have b13 := (b1.trans (b2.mono b1.size)).trans (b3.mono (Nat.le_trans b1.size b2.size))
  have rc := (b3.block w1.heap.size (by simp; omega)).trans ((b2.block w1.heap.size (by simp)).trans r1)
  have hst3 := hst.on b3
  have hP3 := hP1.on b13
  have hy3 := hy1.kp (Kp.of_below [] b13) (List.not_mem_nil)
  have hk3 := by_one _ _ 107 (1, 2) r3
  have hbw := hb1.trans (b13.mono hB)
  have ok4 : piT.ok 4 (tb, 1, [atm 1]) (keyB 0) := ⟨0, (show 0 < 1 by decide), rfl, (show 1 + 2 * 4 ≤ 99 by decide)⟩
  have ok2 : piT.ok 2 (tb, 1, [atm 1]) (keyB 0) := ⟨0, (show 0 < 1 by decide), rfl, (show 1 + 2 * 2 ≤ 99 by decide)⟩
  have ha : Calls Tryd.prog 11 #[.pointer (some ⟨pb, 0, none⟩), .agg #[.slice ko 32 32, .int .u32 0], .slice (some ⟨w1.heap.size + 1 + 1, 0, none⟩) 1 1, .int .u32 2, .pointer (some ⟨w1.heap.size + 1, 0, none⟩)] _ _ := ahead_any piT _ w.heap.size pb (w1.heap.size + 1) 0 2 (tb, 1, [atm 1]) (keyB 0) kS [] ko (some ⟨w1.heap.size + 1 + 1, 0, none⟩) 32 1 hP3 ok2 hst3 (by decide) hy3 hk3 (by decide) hbw.size (by decide) (by decide)
  have g2 := go_ks piT kS 2 (tb, 1, [atm 1]) (keyB 0) 0 [] (fun y hy => absurd hy (List.not_mem_nil)) (by decide)
  have g4 := go_ks piT kS 4 (tb, 1, [atm 1]) (keyB 0) 0 [] (fun y hy => absurd hy (List.not_mem_nil)) (by decide)
  have okx := ok_go piT kS 2 2 (tb, 1, [atm 1]) (keyB 0) 0 [] ok4
  rw [show 4 = 2 + 2 from rfl, go_add] at g4
  obtain ⟨S4, hS4⟩ : ∃ S4, S4 = ks piT kS (2 + 2) (tb, 1, [atm 1]) (keyB 0) 0 := ⟨_, rfl⟩
  have hl4 : S4.length = 4 := by rw [hS4]; exact ks_len _ _ _ _ _ _
  have hi4 : idxS S4 kS 3 = 3 := by rw [hS4]; exact ks_idxS piT kS 4 3 _ _ 0 (by decide)
  have hkl4 : ∀ y ∈ S4, y.key.length = 32 := by
    rw [hS4]
    exact ks_key piT kS 4 _ _ 0 ok4
  rw [← hS4, List.nil_append] at g4
  rw [List.nil_append] at g2
  have hl2 : (go piT kS 2 ((tb, 1, [atm 1]), keyB 0, 0, [])).2.2.2.length ≤ 32 := by rw [g2.1, ks_len]; decide
  have hn2 := g2.2
  generalize go piT kS 2 ((tb, 1, [atm 1]), keyB 0, 0, []) = x2 at *
  obtain ⟨s2, K2, n2, S2⟩ := x2
  dsimp only at *
  obtain rfl : n2 = 2 := by omega
  have HA := Lib.hid ha
  have HG := Lib.hid (And.intro g4.1 (And.intro okx (And.intro hl2 (And.intro hl4 (And.intro hi4 hkl4)))))
  have HB3 := Lib.hid (And.intro hbw rc)
  have hsz1 : w1.heap.size + 1 < (((w1.alloc (.cells #[.slice ko 32 32, .int .u32 0] 27)).alloc (.cells #[.slice none 0 0] 38)).alloc (.cells #[.int .u8 107] 5 (1, 2))).heap.size := by simp
  clear ha g2 g4 okx hl2 hl4 hi4 hkl4 hS4 hP3 hy3 hk3 hst3 hst b13 b1 b2 b3 r1 r3 rc hbw hP1 hy1 hb1 HP1 HOP ok2 ok4 kc hn2
  generalize ((w1.alloc (.cells #[.slice ko 32 32, .int .u32 0] 27)).alloc (.cells #[.slice none 0 0] 38)).alloc (.cells #[.int .u8 107] 5 (1, 2)) = w3 at *
  go_wp2_with (go_at_call 11; refine HA.out.mono ?_; rintro e w4 ⟨fo, fc, rfl, hy4, hfc, hP4, hS4, hb4, hk4⟩; refine Hid.out ?_)
  refine Lib.hid ?_
  have rc4 := hk4.cells HB3.out.2 (show some 27 ∉ CK by decide)
  have f0 : w4.frozen? ⟨w1.heap.size, 0, none⟩ = false := by simp [World.frozen?, rc4]
  have d0 : w4.cell? ⟨w1.heap.size, 0, none⟩ = some (.slice ko 32 32) := by rw [cell_of_row _ _ _ _ _ _ rc4]; rfl
  have q1 := heap_setCell_same w4 w1.heap.size 0 _ 27 (.slice fo 32 fc) rc4
  have f1 : (w4.setCell ⟨w1.heap.size, 0, none⟩ (.slice fo 32 fc)).frozen? ⟨w1.heap.size, 1, none⟩ = false := by simp [World.frozen?, q1]
  have d1 : (w4.setCell ⟨w1.heap.size, 0, none⟩ (.slice fo 32 fc)).cell? ⟨w1.heap.size, 1, none⟩ = some (.int .u32 0) := by rw [cell_of_row _ _ _ _ _ _ q1]; rfl
  have q2 := heap_setCell_same _ w1.heap.size 1 _ 27 (.int .u32 2) q1
  have k1 := Kp.set (i := 0) rc4 (.slice fo 32 fc)
  have k2 := Kp.set (i := 1) q1 (.int .u32 2)
  have hsz5 : ((w4.setCell ⟨w1.heap.size, 0, none⟩ (.slice fo 32 fc)).setCell ⟨w1.heap.size, 1, none⟩ (.int .u32 2)).heap.size = w4.heap.size := by simp [World.setCell]
  have kc2 := kconst ((w4.setCell ⟨w1.heap.size, 0, none⟩ (.slice fo 32 fc)).setCell ⟨w1.heap.size, 1, none⟩ (.int .u32 2)) #[.int .u8 107] 1 1 w4.heap.size hsz5.symm
  have e0 : ((w4.setCell ⟨w1.heap.size, 0, none⟩ (.slice fo 32 fc)).setCell ⟨w1.heap.size, 1, none⟩ (.int .u32 2)).cell? ⟨w1.heap.size, 0, none⟩ = some (.slice fo 32 fc) := by rw [cell_of_row _ _ _ _ _ _ q2]; rfl
  have e1 : ((w4.setCell ⟨w1.heap.size, 0, none⟩ (.slice fo 32 fc)).setCell ⟨w1.heap.size, 1, none⟩ (.int .u32 2)).cell? ⟨w1.heap.size, 1, none⟩ = some (.int .u32 2) := by rw [cell_of_row _ _ _ _ _ _ q2]; rfl
  have bs : Below w.heap.size w4 ((w4.setCell ⟨w1.heap.size, 0, none⟩ (.slice fo 32 fc)).setCell ⟨w1.heap.size, 1, none⟩ (.int .u32 2)) := ((Below.refl w.heap.size w4).setCell (p := ⟨w1.heap.size, 0, none⟩) hB _).setCell (p := ⟨w1.heap.size, 1, none⟩) hB _
  have bs1 : Below w.heap.size w4 (w4.setCell ⟨w1.heap.size, 0, none⟩ (.slice fo 32 fc)) := (Below.refl w.heap.size w4).setCell (p := ⟨w1.heap.size, 0, none⟩) hB _
  have bs2 : Below w.heap.size (w4.setCell ⟨w1.heap.size, 0, none⟩ (.slice fo 32 fc)) ((w4.setCell ⟨w1.heap.size, 0, none⟩ (.slice fo 32 fc)).setCell ⟨w1.heap.size, 1, none⟩ (.int .u32 2)) := (Below.refl w.heap.size _).setCell (p := ⟨w1.heap.size, 1, none⟩) hB _
  have b5 := Joins.below_alloc1 ((w4.setCell ⟨w1.heap.size, 0, none⟩ (.slice fo 32 fc)).setCell ⟨w1.heap.size, 1, none⟩ (.int .u32 2)) (.cells #[.int .u8 107] 5 (1, 2))
  have r5 := heap_alloc_new ((w4.setCell ⟨w1.heap.size, 0, none⟩ (.slice fo 32 fc)).setCell ⟨w1.heap.size, 1, none⟩ (.int .u32 2)) (.cells #[.int .u8 107] 5 (1, 2))
  rw [hsz5] at r5
  have hP5 := piT.on (piT.kp (piT.kp hP4 k1 bs1 (by decide)) k2 bs2 (by decide)) b5
  have hS5 := ((hS4.kp k1 (by decide)).kp k2 (by decide)).on b5
  have hy5 := ((hy4.kp k1 (by decide)).kp k2 (by decide)).kp (Kp.of_below [] b5) (List.not_mem_nil)
  have rc5 := (b5.block _ (Array.getElem?_eq_some_iff.1 q2).1).trans q2
  have hw4 : w.heap.size ≤ w4.heap.size := Nat.le_trans HB3.out.1.size hb4.size
  have hbw5 := ((HB3.out.1.trans hb4).trans bs).trans (b5.mono (by rw [hsz5]; exact hw4))
  have ha : Calls Tryd.prog 11 #[.pointer (some ⟨pb, 0, none⟩), .agg #[.slice fo 32 fc, .int .u32 2], .slice (some ⟨w4.heap.size, 0, none⟩) 1 1, .int .u32 4, .pointer (some ⟨w1.heap.size + 1, 0, none⟩)] _ _ := ahead_any piT _ w.heap.size pb (w1.heap.size + 1) 2 2 s2 K2 kS S2 fo (some ⟨w4.heap.size, 0, none⟩) fc 1 hP5 HG.out.2.1 hS5 HG.out.2.2.1 hy5 (by_one _ _ 107 (1, 2) r5) (by decide) hbw5.size (by decide) (by decide)
  rw [HG.out.1] at ha
  have HA2 := Lib.hid ha
  have HB5 := Lib.hid (And.intro hbw5 rc5)
  clear ha hbw5 rc5 hw4 hy5 hS5 hP5 r5 b5 bs2 bs1 bs k2 k1 q2 q1 rc4 hb4 hk4 hS4 hP4 hfc hy4 HA hsz5
  go_wp2_with (first
    | (go_at_call 11; refine HA2.out.mono ?_; rintro e w6 ⟨ho, hc, rfl, hy6, hfc, hP6, hS6, hb6, hk6⟩; have kc3 := kconst (w6.alloc (.cells #[.slice ho 32 hc, .int .u32 4] 27)) #[.int .u8 107] 1 1 (w6.heap.size + 1) (by simp); have H6 := Lib.hid (And.intro hS6 (And.intro hb6 hk6)); clear hS6 hb6 hk6 hP6 hy6 hfc)
    | (go_at_call 13; refine Hid.out ?_))
  refine Lib.hid ?_
  obtain ⟨hS6, hb6, hk6⟩ := H6.out
  have b7 := Joins.below_alloc2 w6 (.cells #[.slice ho 32 hc, .int .u32 4] 27) (.cells #[.int .u8 107] 5 (1, 2))
  have r7 := heap_alloc_new (w6.alloc (.cells #[.slice ho 32 hc, .int .u32 4] 27)) (.cells #[.int .u8 107] 5 (1, 2))
  rw [show (w6.alloc (.cells #[.slice ho 32 hc, .int .u32 4] 27)).heap.size = w6.heap.size + 1 by simp] at r7
  have hk3 : 3 < S4.length := by rw [HG.out.2.2.2.1]; decide
  have hkey := HG.out.2.2.2.2.2 S4[3] (List.getElem_mem hk3)
  have hg : Calls Tryd.prog 13 #[.pointer (some ⟨w1.heap.size + 1, 0, none⟩), .slice (some ⟨w6.heap.size + 1, 0, none⟩) 1 1, .int .u32 3] _ _ := get_st_some _ w.heap.size (w1.heap.size + 1) S4 kS (some ⟨w6.heap.size + 1, 0, none⟩) 1 3 3 (hS6.on b7) (by_one _ _ 107 (1, 2) r7).byt (by rw [HG.out.2.2.2.1]; decide) hk3 HG.out.2.2.2.2.1 (by rw [hkey]; decide)
  have rc6 := hk6.cells HB5.out.2 (show some 27 ∉ CK by decide)
  have rc7 := (b7.block _ (Array.getElem?_eq_some_iff.1 rc6).1).trans rc6
  have hw6 : w.heap.size ≤ w6.heap.size := Nat.le_trans HB5.out.1.size hb6.size
  have hbw7 := (HB5.out.1.trans hb6).trans (b7.mono hw6)
  have hS7 := hS6.on b7
  have HGET := Lib.hid hg
  have H7 := Lib.hid (And.intro rc7 (And.intro hbw7 hS7))
  clear hg rc6 rc7 hw6 hbw7 hS7 hS6 hb6 hk6 b7 r7 hkey kc2 kc3
  go_wp2_with (go_at_call 13; refine HGET.out.mono ?_; rintro e w8 ⟨xo, xc, rfl, hy8, hxc, hb8⟩; refine Hid.out ?_)
  refine Lib.hid ?_
  obtain ⟨rc7, hbw7, hS7⟩ := H7.out
  have rc8 := (hb8.block _ (Array.getElem?_eq_some_iff.1 rc7).1).trans rc7
  have e8 : w8.cell? ⟨w1.heap.size, 1, none⟩ = some (.int .u32 2) := by rw [cell_of_row _ _ _ _ _ _ rc8]; rfl
  have hle := len_st w8 w.heap.size (w1.heap.size + 1) S4 (hS7.on hb8)
  rw [HG.out.2.2.2.1] at hle
  have HLE := Lib.hid hle
  have HBF := Lib.hid (hbw7.trans (hb8.mono hbw7.size))
  clear hle rc7 rc8 hbw7 hS7 hb8 hy8 hxc
  go_wp2_with (go_at_call 12; refine HLE.out.mono ?_; rintro e w9 ⟨rfl, hw⟩; obtain rfl := hw.symm)
  go_ret
  exact ⟨rfl, HBF.out⟩
end Go.Proofs.YteojlnbonhipbaaDoor
