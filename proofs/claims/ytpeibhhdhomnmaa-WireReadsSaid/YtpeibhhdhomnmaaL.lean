/- The law's walk: any bytes, read in any way: up to the first fault what stands there, behind it nothing. -/
import Derived.Test.YtpeibhhdhomnmaaK
namespace Go.Proofs.Ytpeibhhdhomnmaa
open Go.RowKit
set_option maxRecDepth 20000 in
set_option maxHeartbeats 8000000 in
theorem reads_walk (w : World) (ao aa : Option Addr) (cap ca : Nat) (P A : List UInt8) (hP : Byt w ao P) (hA : Byt w aa A) (hcap : P.length ≤ cap) :
    Calls Try.prog 4 #[.slice ao P.length cap, .slice aa A.length ca] w fun e w' => e = .returned (.bool true) ∧ Below w.heap.size w w' := by
  have HP := Lib.hid hP
  have HA := Lib.hid hA
  clear hP hA
  obtain ⟨L, hL⟩ : ∃ L, L = P.length := ⟨_, rfl⟩
  obtain ⟨M, hM⟩ : ∃ M, M = A.length := ⟨_, rfl⟩
  have HL := Lib.hid (And.intro hL (And.intro hM hcap))
  rw [← hL, ← hM]
  clear hL hM hcap
  by_cases hl : 3000 < L ∨ 60 < M
  · by_cases hl1 : 3000 < L
    · have hl2 : (3000 : Int) < L := by omega
      clear hl hl1
      go_enter Try.func4, Try.ntmps4
      go_wp2_with (first
        | (go_at_call 7; refine (awake_any w).mono ?_; rintro e w1 ⟨rfl, hb1⟩; refine Hid.out ?_))
      refine Lib.hid ?_
      have ha := awake_any w1
      go_wp2_with (go_at_call 7; refine ha.mono ?_; rintro e w2 ⟨rfl, hb2⟩)
      go_ret
      exact ⟨rfl, hb1.trans (hb2.mono hb1.size)⟩
    · have hl2 : ¬ (3000 : Int) < L := by omega
      have hl3 : (60 : Int) < M := by omega
      clear hl hl1
      go_enter Try.func4, Try.ntmps4
      go_wp2_with (first
        | (go_at_call 7; refine (awake_any w).mono ?_; rintro e w1 ⟨rfl, hb1⟩; refine Hid.out ?_))
      refine Lib.hid ?_
      have ha := awake_any w1
      go_wp2_with (go_at_call 7; refine ha.mono ?_; rintro e w2 ⟨rfl, hb2⟩)
      go_ret
      exact ⟨rfl, hb1.trans (hb2.mono hb1.size)⟩
  · have hl2 : ¬ (3000 : Int) < L := by omega
    have hl3 : ¬ (60 : Int) < M := by omega
    have HLL := Lib.hid (show L ≤ 3000 ∧ M ≤ 60 by omega)
    clear hl
    go_enter Try.func4, Try.ntmps4
    go_wp2_with (first
      | (go_at_call 7; refine (awake_any w).mono ?_; rintro e w1 ⟨rfl, hb1⟩)
      | (go_at_call 15; refine Hid.out ?_))
    refine Lib.hid ?_
    have hP1 := HP.out.on hb1 (Nat.le_refl _)
    have hR := read_any ao cap P w1 hP1 (by have := HL.out.1; have := HLL.out.1; omega)
    rw [← HL.out.1] at hR
    have HB1 := Lib.hid hb1
    have HR := Lib.hid hR
    clear hb1 hP1 hR
    go_wp2_with (go_at_call 15; refine HR.out.mono ?_; rintro e w2 ⟨b0, rfl, hrd, hb2⟩)
    have HR2 := Lib.hid (And.intro (HB1.out.trans (hb2.mono HB1.out.size)) (And.intro (Rp.of hrd) hb2.size))
    have HB2 := Lib.hid (HB1.out.size)
    generalize w1.heap.size = B at *
    clear hrd hb2 HR
    go_loopw [6, 7, 8] (fun a b i wr => ∃ (at_ : Nat) (bad : Bool) (i' : Nat), a = .int .i64 at_ ∧ b = .bool bad ∧ i = .int .i64 i' ∧ i' ≤ M ∧ at_ ≤ L ∧ Hid (Rp wr B (some ⟨b0, 0, none⟩) (stS P at_ bad) ∧ Below w.heap.size w wr ∧ B ≤ wr.heap.size))
      (fun _ _ i _ => M - (intOf i).toNat)
    case atStart => exact ⟨0, false, 0, rfl, rfl, rfl, Nat.zero_le _, Nat.zero_le _, HR2.out.2.1, HR2.out.1, HR2.out.2.2⟩
    case round =>
      obtain ⟨at_, bad, i, rfl, rfl, rfl, hi, hat, HX⟩ := hrel
      clear HR2
      by_cases hiM : i < M
      · have hAr := HA.out.on HX.out.2.1 (Nat.le_refl _)
        obtain ⟨ba, oa, rfl, hba, hca⟩ := byt_cell hAr (j := i) (by rw [← HL.out.2.1]; exact hiM)
        have hi1 : (i : Int) < M := by omega
        have hy := (A.getD i 0).toNat_lt
        generalize (A.getD i 0).toNat = y at *
        clear hAr
        have hPr := HP.out.on HX.out.2.1 (Nat.le_refl _)
        have HPr := Lib.hid hPr
        clear hPr
        obtain ⟨d, hd⟩ : ∃ d, d = L - at_ := ⟨_, rfl⟩
        have hDl : (P.drop at_).length = d := by rw [List.length_drop, ← HL.out.1, hd]
        have HD := Lib.hid hDl
        clear hDl
        have hk4 : y % 4 = 0 ∨ y % 4 = 1 ∨ y % 4 = 2 ∨ y % 4 = 3 := by omega
        rcases hk4 with hk | hk | hk | hk
        · as_aux_lemma =>
          obtain ⟨nn, hnn, hn9⟩ : ∃ nn : Nat, (y : Int) / 4 % 9 = nn ∧ nn < 9 := ⟨y / 4 % 9, by omega, by omega⟩
          cases bad with
          | true =>
            have hT := c16_none wr B (some ⟨b0, 0, none⟩) none HX.out.1 nn (numS_none _)
            go_wp2_with (first
              | (go_at_call 16; refine hT.mono ?_; clear hT; rintro e w3 ⟨rfl, hR3, ht3⟩; have hB := bad_any w3 B _ _ hR3)
              | (go_at_call 20; refine hB.mono ?_; rintro e w4 ⟨rfl, rfl⟩))
            go_roundw
            case rel =>
              refine ⟨at_, true, i + 1, rfl, rfl, rfl, hiM, hat, ?_, HX.out.2.1.trans ((ht3.below HX.out.1 HX.out.2.2).mono ?_), Nat.le_trans HX.out.2.2 ht3.grown.size⟩
              · exact hR3
              · exact HB2.out
            case measure => simp [intOf]; omega
          | false =>
            by_cases hs : d < nn
            · have hs1 : (L : Int) - at_ < (nn : Nat) := by omega
              have hT := c16_none wr B (some ⟨b0, 0, none⟩) (some (P.drop at_)) HX.out.1 nn (numS_short (by rw [HD.out]; omega))
              go_wp2_with (first
                | (go_at_call 16; refine hT.mono ?_; clear hT; rintro e w3 ⟨rfl, hR3, ht3⟩; have hB := bad_any w3 B _ _ hR3)
                | (go_at_call 20; refine hB.mono ?_; rintro e w4 ⟨rfl, rfl⟩))
              go_roundw
              case rel =>
                refine ⟨at_, true, i + 1, rfl, rfl, rfl, hiM, hat, ?_, HX.out.2.1.trans ((ht3.below HX.out.1 HX.out.2.2).mono ?_), Nat.le_trans HX.out.2.2 ht3.grown.size⟩
                · exact hR3
                · exact HB2.out
              case measure => simp [intOf]; omega
            · have hs1 : ¬ (L : Int) - at_ < (nn : Nat) := by omega
              have hn8 := numS_ok (D := P.drop at_) (n := nn) (by omega) (by rw [HD.out]; omega)
              have HN8 := Lib.hid hn8
              clear hn8
              go_wp2_with fail
              go_loopw [11, 12] (fun x c w9 => ∃ j : Nat, x = .int .u64 (num ((P.drop at_).take j) : Nat) ∧ c = .int .i64 j ∧ j ≤ nn ∧ w9 = wr)
                (fun _ c _ => nn - (intOf c).toNat)
              case atStart => exact ⟨0, rfl, rfl, Nat.zero_le _, rfl⟩
              case round =>
                obtain ⟨j, rfl, rfl, hj, rfl⟩ := hrel
                by_cases hjn : j < nn
                · have hjd : j < d := by omega
                  obtain ⟨bp, op, rfl, hbp, hcp⟩ := byt_cell HPr.out (j := at_ + j) (by rw [← HL.out.1]; omega)
                  have hgd : (P.drop at_).getD j 0 = P.getD (at_ + j) 0 := by rw [List.getD_eq_getElem?_getD, List.getD_eq_getElem?_getD, List.getElem?_drop]
                  obtain ⟨X, z, h1, h2, h3, h4, h5, h6⟩ := num_step (P.drop at_) j (by rw [HD.out]; omega) (by omega)
                  rw [hgd] at h2
                  rw [h1]
                  rw [h2] at hcp
                  have H3 := Lib.hid h3
                  have H6 := Lib.hid h6
                  have hjn1 : (j : Int) < (nn : Nat) := by omega
                  clear h1 h2 h3 h6 hgd
                  go_wp2
                  go_roundw
                  case rel => exact ⟨j + 1, by rw [H3.out, ← H6.out]; rfl, rfl, hjn, trivial⟩
                  case measure => simp [intOf]; omega
                · have hjn1 : ¬ (j : Int) < (nn : Nat) := by omega
                  have hjn2 : j = nn := by omega
                  generalize hX : num ((P.drop at_).take j) = X
                  have hN : numS (some (P.drop at_)) (nn : Nat) = some (X, P.drop (at_ + nn)) := by rw [← hX, hjn2, HN8.out, List.drop_drop]
                  have HN := Lib.hid hN
                  clear hN hX hjn2 HN8
                  have hT := c16_some wr B (some ⟨b0, 0, none⟩) (some (P.drop at_)) HX.out.1 nn X _ HN.out
                  go_wp2_with (first
                    | (go_at_call 16; refine hT.mono ?_; clear hT; rintro e w3 ⟨rfl, hR3, ht3⟩; have hB := bad_any w3 B _ _ hR3)
                    | (go_at_call 20; refine hB.mono ?_; rintro e w4 ⟨rfl, rfl⟩))
                  go_roundw
                  case rel =>
                    refine ⟨at_ + nn, false, i + 1, rfl, rfl, rfl, hiM, by omega, ?_, HX.out.2.1.trans ((ht3.below HX.out.1 HX.out.2.2).mono ?_), Nat.le_trans HX.out.2.2 ht3.grown.size⟩
                    · exact hR3
                    · exact HB2.out
                  case measure => simp [intOf]; omega
        · as_aux_lemma =>
          cases bad with
          | true =>
            have hT := c17_none wr B (some ⟨b0, 0, none⟩) none HX.out.1 y (by omega) (byS_none (upS_none _ (numS_none _)))
            go_wp2_with (first
              | (go_at_call 17; refine hT.mono ?_; clear hT; rintro e w3 ⟨aq, cq, rfl, hR3, ht3⟩; have hB := bad_any w3 B _ _ hR3)
              | (go_at_call 20; refine hB.mono ?_; rintro e w4 ⟨rfl, rfl⟩))
            go_roundw
            case rel =>
              refine ⟨at_, true, i + 1, rfl, rfl, rfl, hiM, hat, ?_, HX.out.2.1.trans ((ht3.below HX.out.1 HX.out.2.2).mono ?_), Nat.le_trans HX.out.2.2 ht3.grown.size⟩
              · exact hR3
              · exact HB2.out
            case measure => simp [intOf]; omega
          | false =>
            by_cases hs : d < 4
            · have hs1 : (L : Int) - at_ < (4 : Nat) := by omega
              have hT := c17_none wr B (some ⟨b0, 0, none⟩) (some (P.drop at_)) HX.out.1 y (by omega) (byS_none (upS_none _ (numS_short (by rw [HD.out]; omega))))
              go_wp2_with (first
                | (go_at_call 17; refine hT.mono ?_; clear hT; rintro e w3 ⟨aq, cq, rfl, hR3, ht3⟩; have hB := bad_any w3 B _ _ hR3)
                | (go_at_call 20; refine hB.mono ?_; rintro e w4 ⟨rfl, rfl⟩))
              go_roundw
              case rel =>
                refine ⟨at_, true, i + 1, rfl, rfl, rfl, hiM, hat, ?_, HX.out.2.1.trans ((ht3.below HX.out.1 HX.out.2.2).mono ?_), Nat.le_trans HX.out.2.2 ht3.grown.size⟩
                · exact hR3
                · exact HB2.out
              case measure => simp [intOf]; omega
            · have hs1 : ¬ (L : Int) - at_ < (4 : Nat) := by omega
              have hn8 := numS_ok (D := P.drop at_) (n := 4) (by omega) (by rw [HD.out]; omega)
              have HN8 := Lib.hid hn8
              clear hn8
              go_wp2_with fail
              go_loopw [11, 12] (fun x c w9 => ∃ j : Nat, x = .int .u64 (num ((P.drop at_).take j) : Nat) ∧ c = .int .i64 j ∧ j ≤ 4 ∧ w9 = wr)
                (fun _ c _ => 4 - (intOf c).toNat)
              case atStart => exact ⟨0, rfl, rfl, Nat.zero_le _, rfl⟩
              case round =>
                obtain ⟨j, rfl, rfl, hj, rfl⟩ := hrel
                by_cases hjn : j < 4
                · have hjd : j < d := by omega
                  obtain ⟨bp, op, rfl, hbp, hcp⟩ := byt_cell HPr.out (j := at_ + j) (by rw [← HL.out.1]; omega)
                  have hgd : (P.drop at_).getD j 0 = P.getD (at_ + j) 0 := by rw [List.getD_eq_getElem?_getD, List.getD_eq_getElem?_getD, List.getElem?_drop]
                  obtain ⟨X, z, h1, h2, h3, h4, h5, h6⟩ := num_step (P.drop at_) j (by rw [HD.out]; omega) (by omega)
                  rw [hgd] at h2
                  rw [h1]
                  rw [h2] at hcp
                  have H3 := Lib.hid h3
                  have H6 := Lib.hid h6
                  have hjn1 : (j : Int) < (4 : Nat) := by omega
                  clear h1 h2 h3 h6 hgd
                  go_wp2
                  go_roundw
                  case rel => exact ⟨j + 1, by rw [H3.out, ← H6.out]; rfl, rfl, hjn, trivial⟩
                  case measure => simp [intOf]; omega
                · have hjn1 : ¬ (j : Int) < (4 : Nat) := by omega
                  have hjn2 : j = 4 := by omega
                  generalize hX : num ((P.drop at_).take j) = X
                  have hN : numS (some (P.drop at_)) (4 : Nat) = some (X, P.drop (at_ + 4)) := by rw [← hX, hjn2, HN8.out, List.drop_drop]
                  have HN := Lib.hid hN
                  clear hN hX hjn2 HN8
                  obtain ⟨d2, hd2⟩ : ∃ d2 : Nat, (L : Int) - ((at_ : Int) + 4) = d2 := ⟨d - 4, by omega⟩
                  by_cases hy1 : y < X
                  · skip
                    have hT := c17_none wr B (some ⟨b0, 0, none⟩) (some (P.drop at_)) HX.out.1 y (by omega) (byS_none (upS_over HN.out (by omega)))
                    go_wp2_with (first
                      | (go_at_call 17; refine hT.mono ?_; clear hT; rintro e w3 ⟨aq, cq, rfl, hR3, ht3⟩; have hB := bad_any w3 B _ _ hR3)
                      | (go_at_call 20; refine hB.mono ?_; rintro e w4 ⟨rfl, rfl⟩))
                    go_roundw
                    case rel =>
                      refine ⟨at_ + 4, true, i + 1, rfl, rfl, rfl, hiM, by omega, ?_, HX.out.2.1.trans ((ht3.below HX.out.1 HX.out.2.2).mono ?_), Nat.le_trans HX.out.2.2 ht3.grown.size⟩
                      · exact hR3
                      · exact HB2.out
                    case measure => simp [intOf]; omega
                  · have hup := upS_some (most := y) HN.out (by omega) (by omega)
                    have hdl : (P.drop (at_ + 4)).length = d2 := by rw [List.length_drop, ← HL.out.1]; omega
                    by_cases hs2 : d2 < X
                    · have hbs := byS_short hup (by rw [hdl]; exact hs2)
                      clear hup hdl
                      have hT := c17_none wr B (some ⟨b0, 0, none⟩) (some (P.drop at_)) HX.out.1 y (by omega) hbs
                      go_wp2_with (first
                        | (go_at_call 17; refine hT.mono ?_; clear hT; rintro e w3 ⟨aq, cq, rfl, hR3, ht3⟩; have hB := bad_any w3 B _ _ hR3)
                        | (go_at_call 20; refine hB.mono ?_; rintro e w4 ⟨rfl, rfl⟩))
                      go_roundw
                      case rel =>
                        refine ⟨at_ + 4, true, i + 1, rfl, rfl, rfl, hiM, by omega, ?_, HX.out.2.1.trans ((ht3.below HX.out.1 HX.out.2.2).mono ?_), Nat.le_trans HX.out.2.2 ht3.grown.size⟩
                        · exact hR3
                        · exact HB2.out
                      case measure => simp [intOf]; omega
                    · have hbs := byS_some hup (by rw [hdl]; omega)
                      have hql : ((P.drop (at_ + 4)).take X).length = X := by rw [List.length_take, hdl]; omega
                      have hT := c17_some wr B (some ⟨b0, 0, none⟩) (some (P.drop at_)) HX.out.1 y (by omega) _ _ hbs
                      rw [hql] at hT
                      clear hup hdl hbs
                      have hT2 : Calls Try.prog 17 #[.pointer (some ⟨b0, 0, none⟩), .int .i64 y] wr fun e w' => ∃ a c, e = .returned (.slice a X c) ∧ Hid (Byt w' a ((P.drop (at_ + 4)).take X) ∧ Rp w' B (some ⟨b0, 0, none⟩) (some (P.drop (at_ + 4 + X))) ∧ Tch wr (some ⟨b0, 0, none⟩) w' ∧ Byt w' (if cap = at_ + 4 then ao else ao.map (·.add ((at_ + 4) * 1))) ((P.drop (at_ + 4)).take X)) := by
                        refine hT.mono fun e w' ⟨a, c, h1, h2, h3, h4⟩ => ⟨a, c, h1, h2.byt, ?_, h4, (HP.out.on (HX.out.2.1.trans ((h4.below HX.out.1 HX.out.2.2).mono HB2.out)) (Nat.le_refl _)).cut (at_ + 4) X cap (by rw [← HL.out.1]; omega) HL.out.2.2⟩
                        rw [List.drop_drop] at h3
                        exact h3
                      have hct := run_cutC ao L cap (at_ + 4) (at_ + 4 + X) (by omega) (by have := HL.out; omega)
                      rw [Nat.add_sub_cancel_left] at hct
                      have hct2 : ∀ w, (Instr.slice 23 (.slice ao L cap) (some (.int .i64 ((at_ : Int) + 4))) (some (.int .i64 ((at_ : Int) + 4 + (X : Int)))) none).run Try.prog w = .ok (.slice (if cap = at_ + 4 then ao else ao.map (·.add ((at_ + 4) * 1))) X (cap - (at_ + 4))) w := hct
                      clear hct hT
                      generalize (if cap = at_ + 4 then ao else ao.map (·.add ((at_ + 4) * 1))) = a2 at *
                      generalize cap - (at_ + 4) = c2 at *
                      go_wp2_with (go_at_call 17; refine hT2.mono ?_; clear hT2; rintro e w3 ⟨aq, cq, rfl, HQ⟩; have hq1 := fun n => conv_bytes (HQ.out.1.on (below_drewN w3 n) (Nat.le_refl _)) cq; have hq2 := fun n => conv_bytes (HQ.out.2.2.2.on (below_drewN w3 n) (Nat.le_refl _)) c2; rw [hql] at hq1 hq2; generalize (⟨((P.drop (at_ + 4)).take X).toArray⟩ : ByteArray) = S at *)
                      go_quiet (fail)
                      have hR3 := HQ.out.2.1.onb (below_drewN w3 nq) (Nat.le_refl _)
                      have ht3 := HQ.out.2.2.1.trans (tch_drewN w3 b0 nq)
                      have hB := bad_any _ B _ _ hR3
                      go_wp2_with (go_at_call 20; refine hB.mono ?_; rintro e w4 ⟨rfl, rfl⟩)
                      go_roundw
                      case rel =>
                        refine ⟨at_ + 4 + X, false, i + 1, rfl, rfl, rfl, hiM, by omega, ?_, HX.out.2.1.trans ((ht3.below HX.out.1 HX.out.2.2).mono ?_), Nat.le_trans HX.out.2.2 ht3.grown.size⟩
                        · exact hR3
                        · exact HB2.out
                      case measure => simp [intOf]; omega
        · as_aux_lemma =>
          cases bad with
          | true =>
            have hT := c18_none wr B (some ⟨b0, 0, none⟩) none HX.out.1 (upS_none _ (numS_none _))
            go_wp2_with (first
              | (go_at_call 18; refine hT.mono ?_; clear hT; rintro e w3 ⟨rfl, hR3, ht3⟩; have hB := bad_any w3 B _ _ hR3)
              | (go_at_call 20; refine hB.mono ?_; rintro e w4 ⟨rfl, rfl⟩))
            go_roundw
            case rel =>
              refine ⟨at_, true, i + 1, rfl, rfl, rfl, hiM, hat, ?_, HX.out.2.1.trans ((ht3.below HX.out.1 HX.out.2.2).mono ?_), Nat.le_trans HX.out.2.2 ht3.grown.size⟩
              · exact hR3
              · exact HB2.out
            case measure => simp [intOf]; omega
          | false =>
            by_cases hs : d < 1
            · have hs1 : (L : Int) - at_ < (1 : Nat) := by omega
              have hT := c18_none wr B (some ⟨b0, 0, none⟩) (some (P.drop at_)) HX.out.1 (upS_none _ (numS_short (by rw [HD.out]; omega)))
              go_wp2_with (first
                | (go_at_call 18; refine hT.mono ?_; clear hT; rintro e w3 ⟨rfl, hR3, ht3⟩; have hB := bad_any w3 B _ _ hR3)
                | (go_at_call 20; refine hB.mono ?_; rintro e w4 ⟨rfl, rfl⟩))
              go_roundw
              case rel =>
                refine ⟨at_, true, i + 1, rfl, rfl, rfl, hiM, hat, ?_, HX.out.2.1.trans ((ht3.below HX.out.1 HX.out.2.2).mono ?_), Nat.le_trans HX.out.2.2 ht3.grown.size⟩
                · exact hR3
                · exact HB2.out
              case measure => simp [intOf]; omega
            · have hs1 : ¬ (L : Int) - at_ < (1 : Nat) := by omega
              have hn8 := numS_ok (D := P.drop at_) (n := 1) (by omega) (by rw [HD.out]; omega)
              have HN8 := Lib.hid hn8
              clear hn8
              go_wp2_with fail
              go_loopw [11, 12] (fun x c w9 => ∃ j : Nat, x = .int .u64 (num ((P.drop at_).take j) : Nat) ∧ c = .int .i64 j ∧ j ≤ 1 ∧ w9 = wr)
                (fun _ c _ => 1 - (intOf c).toNat)
              case atStart => exact ⟨0, rfl, rfl, Nat.zero_le _, rfl⟩
              case round =>
                obtain ⟨j, rfl, rfl, hj, rfl⟩ := hrel
                by_cases hjn : j < 1
                · have hjd : j < d := by omega
                  obtain ⟨bp, op, rfl, hbp, hcp⟩ := byt_cell HPr.out (j := at_ + j) (by rw [← HL.out.1]; omega)
                  have hgd : (P.drop at_).getD j 0 = P.getD (at_ + j) 0 := by rw [List.getD_eq_getElem?_getD, List.getD_eq_getElem?_getD, List.getElem?_drop]
                  obtain ⟨X, z, h1, h2, h3, h4, h5, h6⟩ := num_step (P.drop at_) j (by rw [HD.out]; omega) (by omega)
                  rw [hgd] at h2
                  rw [h1]
                  rw [h2] at hcp
                  have H3 := Lib.hid h3
                  have H6 := Lib.hid h6
                  have hjn1 : (j : Int) < (1 : Nat) := by omega
                  clear h1 h2 h3 h6 hgd
                  go_wp2
                  go_roundw
                  case rel => exact ⟨j + 1, by rw [H3.out, ← H6.out]; rfl, rfl, hjn, trivial⟩
                  case measure => simp [intOf]; omega
                · have hjn1 : ¬ (j : Int) < (1 : Nat) := by omega
                  have hjn2 : j = 1 := by omega
                  generalize hX : num ((P.drop at_).take j) = X
                  have hN : numS (some (P.drop at_)) (1 : Nat) = some (X, P.drop (at_ + 1)) := by rw [← hX, hjn2, HN8.out, List.drop_drop]
                  have HN := Lib.hid hN
                  clear hN hX hjn2 HN8
                  by_cases hy1 : 1 < X
                  · skip
                    have hT := c18_none wr B (some ⟨b0, 0, none⟩) (some (P.drop at_)) HX.out.1 (upS_over HN.out (by omega))
                    go_wp2_with (first
                      | (go_at_call 18; refine hT.mono ?_; clear hT; rintro e w3 ⟨rfl, hR3, ht3⟩; have hB := bad_any w3 B _ _ hR3)
                      | (go_at_call 20; refine hB.mono ?_; rintro e w4 ⟨rfl, rfl⟩))
                    go_roundw
                    case rel =>
                      refine ⟨at_ + 1, true, i + 1, rfl, rfl, rfl, hiM, by omega, ?_, HX.out.2.1.trans ((ht3.below HX.out.1 HX.out.2.2).mono ?_), Nat.le_trans HX.out.2.2 ht3.grown.size⟩
                      · exact hR3
                      · exact HB2.out
                    case measure => simp [intOf]; omega
                  · have hup := upS_some (most := 1) HN.out (by omega) (by omega)
                    have hbe : ((X : Int) == 1) = (X == 1) := by
                      by_cases e : X = 1
                      · subst e; rfl
                      · rw [beq_eq_false_iff_ne.2 e, beq_eq_false_iff_ne.2 (show ¬ (X : Int) = 1 by omega)]
                    have hT := c18_some wr B (some ⟨b0, 0, none⟩) (some (P.drop at_)) HX.out.1 X _ hup
                    clear hup
                    generalize (X == 1) = bb at *
                    go_wp2_with (first
                      | (go_at_call 18; refine hT.mono ?_; clear hT; rintro e w3 ⟨rfl, hR3, ht3⟩; have hB := bad_any w3 B _ _ hR3)
                      | (go_at_call 20; refine hB.mono ?_; rintro e w4 ⟨rfl, rfl⟩))
                    go_roundw
                    case rel =>
                      refine ⟨at_ + 1, false, i + 1, rfl, rfl, rfl, hiM, by omega, ?_, HX.out.2.1.trans ((ht3.below HX.out.1 HX.out.2.2).mono ?_), Nat.le_trans HX.out.2.2 ht3.grown.size⟩
                      · exact hR3
                      · exact HB2.out
                    case measure => simp [intOf]; omega
        · as_aux_lemma =>
          cases bad with
          | true =>
            have hT := c22_none wr B (some ⟨b0, 0, none⟩) none HX.out.1 y (by omega) (upS_none _ (numS_none _))
            go_wp2_with (first
              | (go_at_call 22; refine hT.mono ?_; clear hT; rintro e w3 ⟨rfl, hR3, ht3⟩; have hB := bad_any w3 B _ _ hR3)
              | (go_at_call 20; refine hB.mono ?_; rintro e w4 ⟨rfl, rfl⟩))
            go_roundw
            case rel =>
              refine ⟨at_, true, i + 1, rfl, rfl, rfl, hiM, hat, ?_, HX.out.2.1.trans ((ht3.below HX.out.1 HX.out.2.2).mono ?_), Nat.le_trans HX.out.2.2 ht3.grown.size⟩
              · exact hR3
              · exact HB2.out
            case measure => simp [intOf]; omega
          | false =>
            by_cases hs : d < 2
            · have hs1 : (L : Int) - at_ < (2 : Nat) := by omega
              have hT := c22_none wr B (some ⟨b0, 0, none⟩) (some (P.drop at_)) HX.out.1 y (by omega) (upS_none _ (numS_short (by rw [HD.out]; omega)))
              go_wp2_with (first
                | (go_at_call 22; refine hT.mono ?_; clear hT; rintro e w3 ⟨rfl, hR3, ht3⟩; have hB := bad_any w3 B _ _ hR3)
                | (go_at_call 20; refine hB.mono ?_; rintro e w4 ⟨rfl, rfl⟩))
              go_roundw
              case rel =>
                refine ⟨at_, true, i + 1, rfl, rfl, rfl, hiM, hat, ?_, HX.out.2.1.trans ((ht3.below HX.out.1 HX.out.2.2).mono ?_), Nat.le_trans HX.out.2.2 ht3.grown.size⟩
                · exact hR3
                · exact HB2.out
              case measure => simp [intOf]; omega
            · have hs1 : ¬ (L : Int) - at_ < (2 : Nat) := by omega
              have hn8 := numS_ok (D := P.drop at_) (n := 2) (by omega) (by rw [HD.out]; omega)
              have HN8 := Lib.hid hn8
              clear hn8
              go_wp2_with fail
              go_loopw [11, 12] (fun x c w9 => ∃ j : Nat, x = .int .u64 (num ((P.drop at_).take j) : Nat) ∧ c = .int .i64 j ∧ j ≤ 2 ∧ w9 = wr)
                (fun _ c _ => 2 - (intOf c).toNat)
              case atStart => exact ⟨0, rfl, rfl, Nat.zero_le _, rfl⟩
              case round =>
                obtain ⟨j, rfl, rfl, hj, rfl⟩ := hrel
                by_cases hjn : j < 2
                · have hjd : j < d := by omega
                  obtain ⟨bp, op, rfl, hbp, hcp⟩ := byt_cell HPr.out (j := at_ + j) (by rw [← HL.out.1]; omega)
                  have hgd : (P.drop at_).getD j 0 = P.getD (at_ + j) 0 := by rw [List.getD_eq_getElem?_getD, List.getD_eq_getElem?_getD, List.getElem?_drop]
                  obtain ⟨X, z, h1, h2, h3, h4, h5, h6⟩ := num_step (P.drop at_) j (by rw [HD.out]; omega) (by omega)
                  rw [hgd] at h2
                  rw [h1]
                  rw [h2] at hcp
                  have H3 := Lib.hid h3
                  have H6 := Lib.hid h6
                  have hjn1 : (j : Int) < (2 : Nat) := by omega
                  clear h1 h2 h3 h6 hgd
                  go_wp2
                  go_roundw
                  case rel => exact ⟨j + 1, by rw [H3.out, ← H6.out]; rfl, rfl, hjn, trivial⟩
                  case measure => simp [intOf]; omega
                · have hjn1 : ¬ (j : Int) < (2 : Nat) := by omega
                  have hjn2 : j = 2 := by omega
                  generalize hX : num ((P.drop at_).take j) = X
                  have hN : numS (some (P.drop at_)) (2 : Nat) = some (X, P.drop (at_ + 2)) := by rw [← hX, hjn2, HN8.out, List.drop_drop]
                  have HN := Lib.hid hN
                  clear hN hX hjn2 HN8
                  by_cases hy1 : y < X
                  · skip
                    have hT := c22_none wr B (some ⟨b0, 0, none⟩) (some (P.drop at_)) HX.out.1 y (by omega) (upS_over HN.out (by omega))
                    go_wp2_with (first
                      | (go_at_call 22; refine hT.mono ?_; clear hT; rintro e w3 ⟨rfl, hR3, ht3⟩; have hB := bad_any w3 B _ _ hR3)
                      | (go_at_call 20; refine hB.mono ?_; rintro e w4 ⟨rfl, rfl⟩))
                    go_roundw
                    case rel =>
                      refine ⟨at_ + 2, true, i + 1, rfl, rfl, rfl, hiM, by omega, ?_, HX.out.2.1.trans ((ht3.below HX.out.1 HX.out.2.2).mono ?_), Nat.le_trans HX.out.2.2 ht3.grown.size⟩
                      · exact hR3
                      · exact HB2.out
                    case measure => simp [intOf]; omega
                  · have hup := upS_some (most := y) HN.out (by omega) (by omega)
                    have hT := c22_some wr B (some ⟨b0, 0, none⟩) (some (P.drop at_)) HX.out.1 y (by omega) X _ hup
                    go_wp2_with (first
                      | (go_at_call 22; refine hT.mono ?_; clear hT; rintro e w3 ⟨rfl, hR3, ht3⟩; have hB := bad_any w3 B _ _ hR3)
                      | (go_at_call 20; refine hB.mono ?_; rintro e w4 ⟨rfl, rfl⟩))
                    go_roundw
                    case rel =>
                      refine ⟨at_ + 2, false, i + 1, rfl, rfl, rfl, hiM, by omega, ?_, HX.out.2.1.trans ((ht3.below HX.out.1 HX.out.2.2).mono ?_), Nat.le_trans HX.out.2.2 ht3.grown.size⟩
                      · exact hR3
                      · exact HB2.out
                    case measure => simp [intOf]; omega
      · obtain rfl : i = M := by omega
        have hi1 : ¬ (i : Int) < i := by omega
        cases bad with
        | true =>
          have hLf := left_any wr B _ none HX.out.1
          have hEn := end_any wr B _ none HX.out.1
          go_wp2_with (first
            | (go_at_call 21; refine hLf.mono ?_; rintro e w4 ⟨rfl, rfl⟩)
            | (go_at_call 19; refine hEn.mono ?_; rintro e w5 ⟨rfl, rfl⟩))
          go_ret
          exact ⟨rfl, HX.out.2.1⟩
        | false =>
          have hLf := left_any wr B _ (some (P.drop at_)) HX.out.1
          have hEn := end_any wr B _ (some (P.drop at_)) HX.out.1
          obtain ⟨d, hd, hdi⟩ : ∃ d : Nat, d = L - at_ ∧ (L : Int) - at_ = (d : Nat) := ⟨_, rfl, by omega⟩
          have hDl : (P.drop at_).length = d := by rw [List.length_drop, ← HL.out.1, hd]
          have hdec : decide (some (P.drop at_) = some []) = ((d : Int) == 0) := by
            rw [← hDl]
            cases P.drop at_ with
            | nil => rfl
            | cons x l => simp; omega
          rw [Option.getD_some, hDl] at hLf
          rw [hdec] at hEn
          clear hdec hDl hd
          go_wp2_with (first
            | (go_at_call 21; refine hLf.mono ?_; rintro e w4 ⟨rfl, rfl⟩)
            | (go_at_call 19; refine hEn.mono ?_; rintro e w5 ⟨rfl, rfl⟩))
          go_ret
          exact ⟨rfl, HX.out.2.1⟩
end Go.Proofs.Ytpeibhhdhomnmaa
