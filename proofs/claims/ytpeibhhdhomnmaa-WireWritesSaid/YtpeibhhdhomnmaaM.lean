/- The law's walk: what was laid, and what was read, may be written over. -/
import Derived.Test.YtpeibhhdhomnmaaK
namespace Go.Proofs.Ytpeibhhdhomnmaa
open Go.RowKit
theorem own_lies {w : World} {B : Nat} {v : Value} {l : List UInt8} (h : Own w B v l) : ∃ ao cap, v = .slice ao l.length cap ∧ Lies w B ao l := by
  obtain ⟨-, ⟨rfl, h0⟩ | ⟨g, cap, cur, rfl, hg, hc, h1, h2, h3, h4⟩⟩ := h
  · obtain rfl : l = [] := List.length_eq_zero_iff.1 h0
    exact ⟨none, 0, rfl, lies_nil _ _ _⟩
  · refine ⟨_, cap, rfl, ⟨.inr ⟨g, 0, cur, rfl, hg, hc, fun j hj => ?_⟩⟩⟩
    rw [Nat.zero_add]
    have h5 : cur[j]? = (cur.toList.take (l.length * 1))[j]? := by rw [List.getElem?_take_of_lt (by omega), Array.getElem?_toList]
    rw [h5, h4, Lib.byteCells, List.getElem?_map, List.getElem?_eq_getElem hj, List.getD_eq_getElem?_getD, List.getElem?_eq_getElem hj]
    rfl
/-- One byte of such bytes, written over. -/
theorem Lies.set {w : World} {B g off : Nat} {l : List UInt8} (h : Lies w B (some ⟨g, off, none⟩) l) {j : Nat} (hj : j < l.length) (y : UInt8) :
    Lies (w.setCell ⟨g, off + j, none⟩ (.int .u8 (y.toNat : Nat))) B (some ⟨g, off, none⟩) (l.set j y) ∧ w.grownBy (w.setCell ⟨g, off + j, none⟩ (.int .u8 (y.toNat : Nat))) (some g) := by
  refine ⟨⟨.inr ?_⟩, ⟨rfl, rfl, rfl, by simp [World.setCell], fun k hk hne => Below.heap_setCell _ _ _ _ (fun e => hne (by rw [e]))⟩⟩
  rcases h.at_ with h | ⟨g', off', cur, h1, h2, h3, h4⟩
  · rw [h] at hj; exact absurd hj (Nat.not_lt_zero _)
  · cases h1
    have hlt : off + j < cur.size := (Array.getElem?_eq_some_iff.1 (h4 j hj)).1
    refine ⟨g, off, _, rfl, h2, heap_setCell_same w g (off + j) cur 5 _ h3, fun k hk => ?_⟩
    rw [List.length_set] at hk
    rw [Array.getElem?_setIfInBounds, List.getD_eq_getElem?_getD, List.getElem?_set]
    by_cases e : j = k
    · subst e
      simp [hlt, hj]
    · rw [if_neg (by omega), if_neg e, h4 k hk, List.getD_eq_getElem?_getD]
theorem lies_cell {w : World} {B : Nat} {ao : Option Addr} {l : List UInt8} (h : Lies w B ao l) {j : Nat} (hj : j < l.length) : ∃ g off, ao = some ⟨g, off, none⟩ ∧ B ≤ g ∧ w.cell? ⟨g, off + j, none⟩ = some (.int .u8 (l.getD j 0).toNat) ∧ w.frozen? ⟨g, off + j, none⟩ = false := by
  rcases h.at_ with h | ⟨g, off, cur, h1, h2, h3, h4⟩
  · rw [h] at hj; exact absurd hj (Nat.not_lt_zero _)
  · exact ⟨g, off, h1, h2, by rw [cell_of_row w g _ cur 5 (0, 0) h3]; exact h4 j hj, by simp [World.frozen?, h3]⟩
theorem Lies.on {w w' : World} {B C : Nat} {ao : Option Addr} {l : List UInt8} (h : Lies w B ao l) (hb : Below C w w') (hC : w.heap.size ≤ C) : Lies w' B ao l :=
  h.keep fun g _ hg => hb.block g (Nat.lt_of_lt_of_le (Array.getElem?_eq_some_iff.1 hg).1 hC)
/-- What was laid is read. -/
theorem byS_laid (P : List UInt8) (hP : P.length ≤ 500) : byS (some (be P.length 4 ++ P)) 500 = some (P, []) := by
  have h1 := numS_ok (D := be P.length 4 ++ P) (n := 4) (by omega) (by rw [List.length_append, be_len]; omega)
  rw [List.take_left' (be_len _ _), List.drop_left' (be_len _ _), num_be, Nat.mod_eq_of_lt (by omega)] at h1
  have h2 := byS_some (upS_some (most := 500) h1 (by omega) (by omega)) (Nat.le_refl _)
  rwa [List.take_length, List.drop_length] at h2
set_option maxRecDepth 20000 in
set_option maxHeartbeats 8000000 in
theorem keeps_walk (w : World) (ao : Option Addr) (cap : Nat) (P : List UInt8) (hP : Byt w ao P) :
    Calls Try.prog 5 #[.slice ao P.length cap] w fun e w' => e = .returned (.bool true) ∧ Below w.heap.size w w' := by
  have HP := Lib.hid hP
  clear hP
  obtain ⟨L, hL⟩ : ∃ L, L = P.length := ⟨_, rfl⟩
  have HL := Lib.hid hL
  rw [← hL]
  clear hL
  by_cases hl : 500 < L
  · have hl2 : (500 : Int) < L := by omega
    clear hl
    go_enter Try.func5, Try.ntmps5
    go_wp2_with (first
      | (go_at_call 7; refine (awake_any w).mono ?_; rintro e w1 ⟨rfl, hb1⟩; refine Hid.out ?_))
    refine Lib.hid ?_
    have ha := awake_any w1
    go_wp2_with (go_at_call 7; refine ha.mono ?_; rintro e w2 ⟨rfl, hb2⟩)
    go_ret
    exact ⟨rfl, hb1.trans (hb2.mono hb1.size)⟩
  · have hl2 : ¬ (500 : Int) < L := by omega
    have HLL := Lib.hid (show L ≤ 500 by omega)
    clear hl
    go_enter Try.func5, Try.ntmps5
    have hw8 : ∀ z : UInt8, IntKind.u8.wrap ((z.toNat : Int) + 1) = ((UInt8.ofNat (z.toNat + 1)).toNat : Nat) := fun z => by rw [← u8_byte]; rfl
    have HW8 := Lib.hid hw8
    clear hw8
    go_wp2_with (first
      | (go_at_call 7; refine (awake_any w).mono ?_; rintro e w1 ⟨rfl, hb1⟩; have hP1 := HP.out.on hb1 (Nat.le_refl _))
      | (at_builtin; refine wpList_append_byt rfl _ _ rfl w1.heap.size (.slice none 0 0) [] P ao L cap rfl rfl HL.out (World.ownsRow_nil _ _ _ _) hP1 (by have := HLL.out; have := HL.out; simp; omega) (Nat.le_refl _) ?_; intro vq w2 hown2 hgrow hloc; obtain ⟨aq, cq, hvq, hlq⟩ := own_lies (own_app (l := []) hown2); rw [show (([] : List UInt8) ++ P).length = L from HL.out.symm] at hvq; subst hvq)
      | (go_at_call 10; refine Hid.out ?_))
    refine Lib.hid ?_
    have hb2 : Below w1.heap.size w1 w2 := (Below.refl _ w1).grown hgrow (Nat.le_refl _) (fun k hk => by cases hk)
    have hlq2 : Lies w2 w1.heap.size aq P := hlq
    have hW3 := wr_new w2
    have hb3 : Below w2.heap.size w2 (w2.alloc (.cells #[.slice none 0 0] 28)) := Joins.below_alloc1 _ _
    have hby3 := (hlq2.byt.on hb3 (Nat.le_refl _))
    have hap := apart_old (hlq2.byt) (Nat.le_refl _) hW3
    have hcall := wbytes_any _ _ _ [] P aq cq _ hW3 hby3 hap (by simp) (by have := HLL.out; have := HL.out; simp; omega)
    rw [← HL.out] at hcall
    have HC := Lib.hid hcall
    have hqlt : ∀ k, aq.map (·.block) = some k → w1.heap.size ≤ k ∧ k < w2.heap.size := by
      intro k hk
      cases aq with
      | none => cases hk
      | some a => exact World.ownsRow.lt hown2 k hk
    have HB2 := Lib.hid (And.intro (hb1.trans (hb2.mono hb1.size)) (And.intro hlq2 (And.intro hW3 (And.intro hqlt (And.intro hb1.size hb2.size)))))
    clear hcall hgrow hloc hlq hlq2 hW3 hb3 hby3 hap hown2 hb2 hP1 hb1 hqlt
    go_wp2_with (go_at_call 10; refine HC.out.mono ?_; rintro e w4 ⟨rfl, v4, hW4, hf4⟩; refine Hid.out ?_)
    refine Lib.hid ?_
    obtain ⟨q1, q2, q3, q4, q5, q6⟩ := HB2.out
    have hb3 : Below w2.heap.size w2 (w2.alloc (.cells #[.slice none 0 0] 28)) := Joins.below_alloc1 _ _
    have hb4 := hb3.trans (hf4.below q3 (by simp))
    have hd := wdone_any _ _ _ _ w4 hW4 (by have := HLL.out; have := HL.out; simp [be_len]; omega)
    have hm : ∃ m, m = ([] ++ be L 4 ++ P).length := ⟨_, rfl⟩
    obtain ⟨m, hm⟩ := hm
    have hd2 : Calls Try.prog 14 #[.pointer (some ⟨w2.heap.size, 0, none⟩)] w4 fun e w' => ∃ ab cb, e = .returned (.slice ab m cb) ∧ Hid (Own w' w4.heap.size (.slice ab m cb) (be L 4 ++ P) ∧ Below w4.heap.size w4 w') := by
      refine hd.mono fun e w' ⟨v', h1, h2, h3⟩ => ?_
      obtain ⟨ab, cb, hv, -⟩ := own_byt h2
      rw [← hm] at hv
      subst hv
      exact ⟨ab, cb, h1, h2, h3⟩
    have HB4 := Lib.hid (And.intro (q1.trans (hb4.mono q1.size)) (And.intro (q2.on hb4 (Nat.le_refl _)) (And.intro hb4.size q4)))
    have HM := Lib.hid hm
    clear hd hm hb3 hb4 hW4 hf4 HC
    go_wp2_with (go_at_call 14; refine hd2.mono ?_; rintro e w5 ⟨ab, cb, rfl, HO⟩)
    have HI : Hid (∃ l' : List UInt8, l'.length = L ∧ Lies w5 w1.heap.size aq l' ∧ Own w5 w4.heap.size (.slice ab m cb) (be L 4 ++ P) ∧ Below w.heap.size w w5 ∧ w4.heap.size ≤ w5.heap.size) := by
      obtain ⟨r1, r2, r3, r4⟩ := HB4.out
      exact ⟨P, HL.out.symm, r2.on HO.out.2 (Nat.le_refl _), HO.out.1, r1.trans (HO.out.2.mono r1.size), HO.out.2.size⟩
    have HQ : Hid ((∀ k, aq.map (·.block) = some k → w1.heap.size ≤ k ∧ k < w2.heap.size) ∧ w2.heap.size ≤ w4.heap.size ∧ w.heap.size ≤ w1.heap.size) := ⟨q4, HB4.out.2.2.1, q5⟩
    clear hd2 HO HB4 q1 q2 q3 q4 q5 q6 HB2
    go_loopw [6] (fun i wr => ∃ j : Nat, i = .int .i64 j ∧ j ≤ L ∧ Hid (∃ l' : List UInt8, l'.length = L ∧ Lies wr w1.heap.size aq l' ∧ Own wr w4.heap.size (.slice ab m cb) (be L 4 ++ P) ∧ Below w.heap.size w wr ∧ w4.heap.size ≤ wr.heap.size))
      (fun i _ => L - (intOf i).toNat)
    case atStart => exact ⟨0, rfl, Nat.zero_le _, HI⟩
    case round =>
      obtain ⟨j, rfl, hj, HX⟩ := hrel
      clear HI
      by_cases hjL : j < L
      · obtain ⟨l', hl', h1, h2, h3, h4⟩ := HX.out
        obtain ⟨g, off, rfl, hg, hc, hf⟩ := lies_cell h1 (j := j) (by omega)
        have hs := h1.set (j := j) (by omega) (UInt8.ofNat ((l'.getD j 0).toNat + 1))
        have hz := HW8.out (l'.getD j 0)
        generalize l'.getD j 0 = z at *
        generalize UInt8.ofNat (z.toNat + 1) = z2 at *
        have hj1 : (j : Int) < L := by omega
        have HN : Hid (∃ l' : List UInt8, l'.length = L ∧ Lies (wr.setCell ⟨g, off + j, none⟩ (.int .u8 (z2.toNat : Nat))) w1.heap.size (some ⟨g, off, none⟩) l' ∧ Own (wr.setCell ⟨g, off + j, none⟩ (.int .u8 (z2.toNat : Nat))) w4.heap.size (.slice ab m cb) (be L 4 ++ P) ∧ Below w.heap.size w (wr.setCell ⟨g, off + j, none⟩ (.int .u8 (z2.toNat : Nat))) ∧ w4.heap.size ≤ (wr.setCell ⟨g, off + j, none⟩ (.int .u8 (z2.toNat : Nat))).heap.size) := by
          obtain ⟨k1, k2, k3⟩ := HQ.out
          have k4 := k1 g rfl
          refine ⟨l'.set j z2, by rw [List.length_set]; exact hl', hs.1, h2.kept hs.2 (.inr fun e => ?_), h3.setCell (Nat.le_trans k3 k4.1) _, by simpa [World.setCell] using h4⟩
          have := (World.ownsRow.lt h2 g e).1
          omega
        clear h1 h2 h3 h4 hs hg HX
        go_wp2
        go_roundw
        case rel => exact ⟨j + 1, rfl, hjL, HN⟩
        case measure => simp [intOf]; omega
      · obtain rfl : j = L := by omega
        have hj1 : ¬ (j : Int) < j := by omega
        obtain ⟨l', -, -, h2, h3, h4⟩ := HX.out
        obtain ⟨ab', cb', hv, hbyb⟩ := own_byt h2
        have hm : m = (be j 4 ++ P).length := by rw [HM.out]; rfl
        rw [← hm] at hv
        cases hv
        have hR := read_any ab cb (be j 4 ++ P) wr hbyb (by have := HLL.out; have := HL.out; simp [be_len]; omega)
        rw [← hm] at hR
        have HR := Lib.hid hR
        have HZ := Lib.hid (And.intro h2 (And.intro h3 (And.intro h4 hm)))
        clear hR h2 h3 h4 hbyb HX hm
        go_wp2_with (first
          | (go_at_call 15; refine HR.out.mono ?_; rintro e w6 ⟨b6, rfl, hrd6, hb6⟩; have hY := c17_some w6 _ _ _ (Rp.of hrd6) 500 (by decide) _ _ (by rw [HL.out]; exact byS_laid P (by have := HLL.out; have := HL.out; omega)); rw [← HL.out] at hY)
          | (go_at_call 17; refine hY.mono ?_; rintro e w7 ⟨a7, c7, rfl, hl7, hR7, ht7⟩; refine Hid.out ?_))
        refine Lib.hid ?_
        have hb7 : Below wr.heap.size wr w7 := hb6.trans (ht7.below (Rp.of hrd6) hb6.size)
        have hq1 : (convert 23 9 (.slice a7 j c7)).run Try.prog w7 = .ok (.string ⟨P.toArray⟩) w7 := by
          rw [HL.out]; exact conv_bytes hl7.byt c7
        have hq2 : (convert 23 9 (.slice ao j cap)).run Try.prog w7 = .ok (.string ⟨P.toArray⟩) w7 := by
          rw [HL.out]; exact conv_bytes (HP.out.on (HZ.out.2.1.trans (hb7.mono HZ.out.2.1.size)) (Nat.le_refl _)) cap
        have HI : Hid (∃ l' : List UInt8, l'.length = j ∧ Lies w7 wr.heap.size a7 l' ∧ Below wr.heap.size wr w7) := ⟨P, HL.out.symm, hl7, hb7⟩
        clear hb7 hl7 hR7 ht7 hrd6 hb6 hY HR
        obtain ⟨W, hWr⟩ : ∃ W, W = wr := ⟨_, rfl⟩
        subst hWr
        obtain ⟨S, hS⟩ : ∃ S : ByteArray, S = ⟨P.toArray⟩ := ⟨_, rfl⟩
        rw [← hS] at hq1 hq2
        have HS := Lib.hid hS
        clear hS
        go_wp2_with fail
        go_loopw [8] (fun i w9 => ∃ k : Nat, i = .int .i64 k ∧ k ≤ j ∧ Hid (∃ l' : List UInt8, l'.length = j ∧ Lies w9 W.heap.size a7 l' ∧ Below W.heap.size W w9))
          (fun i _ => j - (intOf i).toNat)
        case atStart => exact ⟨0, rfl, Nat.zero_le _, HI⟩
        case round =>
          obtain ⟨k, rfl, hk, HX⟩ := hrel
          clear HI hq1 hq2
          by_cases hkj : k < j
          · obtain ⟨l', hl', h1, h2⟩ := HX.out
            obtain ⟨g, off, rfl, hg, hc, hf⟩ := lies_cell h1 (j := k) (by omega)
            have hs := h1.set (j := k) (by omega) 0
            generalize l'.getD k 0 = z at *
            have hk1 : (k : Int) < j := by omega
            have HN : Hid (∃ l' : List UInt8, l'.length = j ∧ Lies (wr.setCell ⟨g, off + k, none⟩ (.int .u8 0)) W.heap.size (some ⟨g, off, none⟩) l' ∧ Below W.heap.size W (wr.setCell ⟨g, off + k, none⟩ (.int .u8 0))) :=
              ⟨l'.set k 0, by rw [List.length_set]; exact hl', hs.1, h2.setCell hg _⟩
            clear h1 h2 hs hg HX
            go_wp2
            go_roundw
            case rel => exact ⟨k + 1, rfl, hkj, HN⟩
            case measure => simp [intOf]; omega
          · obtain rfl : k = j := by omega
            have hk1 : ¬ (k : Int) < k := by omega
            obtain ⟨l', -, -, h2⟩ := HX.out
            obtain ⟨z1, z2, z3, z4⟩ := HZ.out
            obtain ⟨ab', cb', hv, hbyb⟩ := own_byt (owns_below z1 h2 (Nat.le_refl _))
            rw [← z4] at hv
            cases hv
            have hR := read_any ab cb (be k 4 ++ P) wr.drew ⟨hbyb.at_⟩ (by have := HLL.out; have := HL.out; simp [be_len]; omega)
            rw [← z4] at hR
            have hbw : Below w.heap.size w wr := z2.trans (h2.mono z2.size)
            have hq2 : ∀ w', Below wr.heap.size wr w' → (convert 23 9 (.slice ao k cap)).run Try.prog w' = .ok (.string S) w' := fun w' hb => by
              rw [HS.out, HL.out]; exact conv_bytes (HP.out.on (hbw.trans (hb.mono hbw.size)) (Nat.le_refl _)) cap
            have hq0 := hq2 wr.drew (Below.refl _ _).drew
            have HR := Lib.hid hR
            have HQ2 := Lib.hid hq2
            have HBW := Lib.hid hbw
            clear hR hq2 hbw h2 hbyb z1 z2 z3 z4 HX HW8
            go_wp2_with fail
            go_region_with (first
              | (go_at_call 15; refine HR.out.mono ?_; rintro e w6 ⟨b6, rfl, hrd6, hb6⟩; have hb6' : Below wr.heap.size wr w6 := (Below.refl _ wr).drew.trans hb6; have hq6 := HQ2.out w6 hb6'; have hY := c17_some w6 _ _ _ (Rp.of hrd6) 500 (by decide) _ _ (by rw [HL.out]; exact byS_laid P (by have := HLL.out; have := HL.out; omega)); rw [← HL.out] at hY)
              | (go_at_call 17; refine hY.mono ?_; rintro e w7 ⟨a8, c8, rfl, hl8, hR8, ht8⟩; have hb8 : Below wr.heap.size wr w7 := hb6'.trans (ht8.below (Rp.of hrd6) hb6'.size); have hq8 := HQ2.out w7 hb8; have hq9 : (convert 23 9 (.slice a8 k c8)).run Try.prog w7 = .ok (.string S) w7 := by (rw [HL.out, HS.out]; exact conv_bytes hl8.byt c8)))
            all_goals (
              go_wp2
              go_ret
              exact ⟨rfl, HBW.out.trans (hb8.mono HBW.out.size)⟩)
end Go.Proofs.Ytpeibhhdhomnmaa
