/- The walk of the reference's Seal. -/
import Derived.Test.YticoefnojgaplaaAz
namespace Go.Proofs.Yticoefnojgaplaa
open Go.RowKit
theorem zs_more (j : Nat) : zs j ++ [0] = zs (j + 1) := by
  unfold zs
  rw [List.replicate_succ']
theorem fit_take32 (P : List Int) (h : 32 ≤ P.length) : fit (P.take 32) 32 = fit P 32 := by
  unfold fit zs
  rw [List.take_take, List.length_take, Nat.min_self, Nat.min_eq_left h, Nat.sub_self, show 32 - P.length = 0 by omega]
theorem rtag_cut (w : World) (g c : Nat) (BL TD : List Int) (hbl : BL.length = 64) (hB : Slc w (.slice (some ⟨g, 0, none⟩) 32 c) (BL.take 32)) (a2 : Option Addr) (c2 : Nat) (hT : Slc w (.slice a2 TD.length c2) TD) (hl : TD.length ≤ 10000) :
    Calls Try.prog 14 #[.slice (some ⟨g, 0, none⟩) 32 c, .slice a2 TD.length c2] w fun e w' => ∃ v', e = .returned v' ∧ Slc w' v' (Po.tag (fit BL 32) TD) ∧ Below w.heap.size w w' := by
  have h32 : (BL.take 32).length = 32 := by rw [List.length_take, hbl]; rfl
  have h := rtag_any w (some ⟨g, 0, none⟩) c (BL.take 32) (by rw [h32]; exact hB) a2 c2 TD hT hl
  rw [h32, fit_take32 BL (by omega)] at h
  exact h
theorem own_cut {B : Nat} {w : World} {v : Value} {l : List Int} (h : Own B w v l) (hl : l.length = 64) : ∃ g c, v = .slice (some ⟨g, 0, none⟩) 64 c ∧ 64 ≤ c ∧ Slc w (.slice (some ⟨g, 0, none⟩) 32 c) (l.take 32) := by
  obtain ⟨g, cap, cur, h1, h2, h3, h4, h5, h6⟩ := h.block (by rw [hl]; decide)
  rw [hl] at h1 h4
  have hs := h.slc
  rw [h1] at hs
  have hc := slc_cut hs 0 32 (by decide) (by decide)
  rw [sliced_whole g 32 cap (by omega), List.drop_zero] at hc
  exact ⟨g, cap, h1, h4, hc⟩
set_option maxRecDepth 100000 in
set_option maxHeartbeats 2000000 in
theorem rseal_any (w : World) (ak : Option Addr) (ck : Nat) (K : List Int) (hK : Slc w (.slice ak K.length ck) K) (an : Option Addr) (cn : Nat) (N : List Int) (hN : Slc w (.slice an N.length cn) N) (aw : Option Addr) (cw : Nat) (W : List Int) (hW : Slc w (.slice aw W.length cw) W) (ap : Option Addr) (cp : Nat) (P : List Int) (hP : Slc w (.slice ap P.length cp) P) (hlw : W.length ≤ 2000) (hlp : P.length ≤ 2000) :
    Calls Try.prog 17 #[.slice ak K.length ck, .slice an N.length cn, .slice aw W.length cw, .slice ap P.length cp] w fun e w' => ∃ v', e = .returned v' ∧ Own w.heap.size w' v' (Ch.seald (fit K 32) (fit N 12) W P) ∧ Below w.heap.size w w' := by
  have hst := rstream_any w ak ck K hK 1 an cn N hN ap cp P hP (by omega)
  have hsl := Ch.stream_length (fit K 32) 1 (fit N 12) P
  have HSD : Hid (Ch.stream (fit K 32) 1 (fit N 12) P ++ Ch.stag (fit K 32) (fit N 12) W (Ch.stream (fit K 32) 1 (fit N 12) P) = Ch.seald (fit K 32) (fit N 12) W P) := rfl
  generalize Ch.stream (fit K 32) 1 (fit N 12) P = C at *
  have HSL : Hid (C.length ≤ 2000) := by show _ ≤ _; omega
  have HBK := Lib.hid (fun wq (hb : Below w.heap.size w wq) => rBlock_own wq ak ck K (hK.below hb (Nat.le_refl _)) 0 w32_zero an cn N (hN.below hb (Nat.le_refl _)))
  have HTL : Hid ((Ch.stag (fit K 32) (fit N 12) W C).length = 16) := Bt.le_length _ _
  have HTG : Hid (Po.tag (fit (Ch.block (Ch.st (fit K 32) 0 (fit N 12))) 32) (Ch.told W C) = Ch.stag (fit K 32) (fit N 12) W C) := rfl
  have HTD : Hid (Ch.toldk W C 2 ++ Bt.le W.length 8 ++ Bt.le C.length 8 = Ch.told W C) := rfl
  have HTDL := Lib.hid (Ch.told_le W C)
  have HBL := Lib.hid (Ch.block_length (Ch.st (fit K 32) 0 (fit N 12)))
  have HLW := Lib.hid hlw
  have HW := Lib.hid hW
  have HST := Lib.hid hst
  clear hK hN hW hP hlw hlp hst hsl
  generalize Ch.stag (fit K 32) (fit N 12) W C = TG at *
  generalize Ch.block (Ch.st (fit K 32) 0 (fit N 12)) = BL at *
  go_enter Try.func17, Try.ntmps17
  go_wp2_with (first
    | ((with_reducible refine append_slc (o := ⟨some 19, _, _, _, _, _⟩) rfl (.tmp 17) (.tmp 18) rfl w5.heap.size (.slice none 0 0) [] rfl ?_ (.slice aw W.length cw) W rfl ?_ ?_ w5 ?_ ?_); exact Own.nil w5 (Nat.le_refl _); exact HW.out.below BW5.out (Nat.le_refl _); exact (by have h1 := HLW.out; simp; omega); exact Below.refl _ _; intro v6 w6 hv hb; have OM6 := Lib.hid hv; have BM6 := Lib.hid hb; clear hv hb)
    | (go_at_call 12; refine HST.out.mono ?_; rintro e w5 ⟨v5, rfl, hv, hb⟩; have OW5 := Lib.hid hv; have BW5 := Lib.hid hb; clear hv hb; obtain ⟨a5, c5, rfl⟩ := OW5.out.form))
  have M0 : Hid (Own w5.heap.size w6 v6 (W ++ zs 0)) := by show Own _ _ _ _; rw [show zs 0 = [] from rfl, List.append_nil]; exact OM6.out
  go_loopw [10] (fun v wr => ∃ j : Nat, j ≤ Ch.gap W.length ∧ Hid (Own w5.heap.size wr v (W ++ zs j)) ∧ Hid (Below w5.heap.size w5 wr)) (fun v _ => W.length + 16 - slen v)
  case atStart => exact ⟨0, by omega, M0, BM6⟩
  case round =>
    clear M0 OM6 BM6
    obtain ⟨j, hj, OM, BM⟩ := hrel
    obtain ⟨av, cv, rfl⟩ := OM.out.form
    have hlm : (W ++ zs j).length = W.length + j := by simp [zs]
    have hg15 := Ch.gap_lt W.length
    have HGL := Lib.hid hg15
    obtain ⟨r, hr⟩ : ∃ r : Nat, (((W ++ zs j).length : Nat) : Int) % 16 = (r : Int) := ⟨(W ++ zs j).length % 16, by omega⟩
    by_cases hr0 : r = 0
    · have hjg : j = Ch.gap W.length := by unfold Ch.gap at *; omega
      subst hjg
      subst hr0
      have hr9 : (((W ++ zs (Ch.gap W.length)).length : Nat) : Int) % 16 = 0 := hr
      clear hr
      have HT1 : Hid ((Ch.toldk W C 1).length = W.length + Ch.gap W.length) := hlm
      have HT1m : Hid ((W.length + Ch.gap W.length) % 16 = 0) := by show _ = _; unfold Ch.gap; omega
      have HT1e : Hid (W ++ zs (Ch.gap W.length) = Ch.toldk W C 1) := rfl
      rw [HT1e.out] at OM hr9 ⊢
      have HT2e : Hid (Ch.toldk W C 1 ++ C ++ zs (Ch.gap C.length) = Ch.toldk W C 2) := rfl
      clear hlm HT1e
      generalize Ch.toldk W C 1 = T1 at *
      go_wp2_with ((with_reducible refine append_slc (o := ⟨some 29, _, _, _, _, _⟩) rfl (.tmp 27) (.tmp 28) rfl w5.heap.size (.slice av T1.length cv) T1 rfl OM.out (.slice a5 C.length c5) C rfl ?_ ?_ w5 BM.out ?_); exact (OW5.out.below BM.out).slc; exact (by have h1 := HLW.out; have h2 := HSL.out; have h3 := HT1.out; have h4 := HGL.out; omega); intro v7 w7 hv hb; have OM7 := Lib.hid hv; have BM7 := Lib.hid hb; clear hv hb)
      have M1 : Hid (Own w5.heap.size w7 v7 (T1 ++ C ++ zs 0)) := by show Own _ _ _ _; rw [show zs 0 = [] from rfl, List.append_nil]; exact OM7.out
      clear OM BM OM7
      go_loopw [10] (fun v wr => ∃ j : Nat, j ≤ Ch.gap C.length ∧ Hid (Own w5.heap.size wr v (T1 ++ C ++ zs j)) ∧ Hid (Below w5.heap.size w5 wr)) (fun v _ => W.length + C.length + 40 - slen v)
      case atStart => exact ⟨0, by omega, M1, BM7⟩
      case round =>
        clear M1 BM7
        obtain ⟨j, hj, OM, BM⟩ := hrel
        obtain ⟨av, cv, rfl⟩ := OM.out.form
        have hlm : (T1 ++ C ++ zs j).length = W.length + Ch.gap W.length + C.length + j := by simp [zs, HT1.out]; omega
        have hg16 := Ch.gap_lt C.length
        have HGL2 := Lib.hid hg16
        obtain ⟨r, hr2⟩ : ∃ r : Nat, (((T1 ++ C ++ zs j).length : Nat) : Int) % 16 = (r : Int) := ⟨(T1 ++ C ++ zs j).length % 16, by omega⟩
        by_cases hr0 : r = 0
        · have hjg : j = Ch.gap C.length := by have h1 := HT1m.out; unfold Ch.gap at *; omega
          subst hjg
          subst hr0
          have hr3 : (((T1 ++ C ++ zs (Ch.gap C.length)).length : Nat) : Int) % 16 = 0 := hr2
          clear hr2
          have HLT2 : Hid ((Ch.toldk W C 2).length ≤ 5000) := by show _ ≤ _; rw [← HT2e.out]; have h1 := HLW.out; have h2 := HSL.out; omega
          rw [HT2e.out] at OM hr3 ⊢
          clear hlm HT2e HT1 HT1m
          generalize Ch.toldk W C 2 = T2 at *
          go_wp2_with fail
          rw [hr3]
          clear hr3
          have OMs := OM
          have BMs := BM
          clear OM BM
          go_loopw [10, 11] (fun v i wr => ∃ j : Nat, j ≤ 8 ∧ i = .int .i64 j ∧ Hid (Own w5.heap.size wr v (T2 ++ Bt.le W.length j)) ∧ Hid (Below w5.heap.size w5 wr)) (fun _ i _ => 8 - (intOf i).toNat)
          case atStart => exact ⟨0, by omega, rfl, by show Own _ _ _ _; rw [show Bt.le W.length 0 = [] from rfl, List.append_nil]; exact OMs.out, BMs⟩
          case round =>
            clear OMs BMs
            obtain ⟨j, hj, rfl, OM, BM⟩ := hrel
            obtain ⟨av, cv, rfl⟩ := OM.out.form
            by_cases hlt : j < 8
            · have HLE : Hid ((T2 ++ Bt.le W.length j).length ≤ 10000000000000) := by
                show _ ≤ _
                have h1 := HLT2.out
                rw [List.length_append, Bt.le_length]
                omega
              have HMORE : Hid (T2 ++ Bt.le W.length j ++ [((W.length / 2 ^ (8 * j) % 2 ^ 8 : Nat) : Int)] = T2 ++ Bt.le W.length (j + 1)) := by show _ = _; rw [Bt.le_more W.length j, List.append_assoc]
              have HW8 : Hid (W8 ((W.length / 2 ^ (8 * j) % 2 ^ 8 : Nat) : Int)) := by
                have := Nat.mod_lt (W.length / 2 ^ (8 * j)) (show 0 < 2 ^ 8 by decide)
                show W8 _
                unfold W8
                omega
              have hcast : (W.length : Int) / 2 ^ (8 * j) % 256 = ((W.length / 2 ^ (8 * j) % 2 ^ 8 : Nat) : Int) := by simp
              have hq0 : 0 ≤ (W.length : Int) / 2 ^ (8 * j) := Int.ediv_nonneg (by omega) (Int.le_of_lt (Int.pow_pos (by decide)))
              have hx1 : (W.length : Int) ≤ 2000 := by have := HLW.out; omega
              have hq1 : (W.length : Int) / 2 ^ (8 * j) ≤ 2000 := Int.le_trans (Int.ediv_le_self _ (by omega)) hx1
              generalize T2 ++ Bt.le W.length j = ys at *
              generalize hq : (W.length : Int) / 2 ^ (8 * j) = q at *
              have HCAST := Lib.hid hcast
              clear hcast
              go_wp2_with (first
                | ((with_reducible refine append_byte (o := ⟨some 50, _, _, _, _, _⟩) rfl (.tmp 41) (.tmp 49) rfl w5.heap.size (.slice av ys.length cv) ys rfl OM.out (q % 256) ?_ rfl ?_ w5 BM.out ?_); exact (by rw [HCAST.out]; exact HW8.out); exact HLE.out; intro v7 w7 hv hb; have OM7 := Lib.hid hv; have BM7 := Lib.hid hb; clear hv hb)
                | (with_reducible refine build_byte (o := ⟨some 49, _, _, _, _, _⟩) rfl (.tmp 48) rfl (q % 256) rfl ?_))
              go_roundw
              case rel => exact ⟨j + 1, by omega, by go_num, by show Own _ _ _ _; rw [← HMORE.out, ← HCAST.out]; exact OM7.out, BM7⟩
              case measure => simp [intOf]; omega
            · have hj8 : ((j : Nat) : Int) = 8 := by omega
              rw [hj8]
              clear hj8
              obtain rfl : j = 8 := by omega
              have HLT3 : Hid ((T2 ++ Bt.le W.length 8).length ≤ 5008) := by show _ ≤ _; rw [List.length_append, Bt.le_length]; have := HLT2.out; omega
              go_wp2_with fail
              have OMs := OM
              have BMs := BM
              clear OM BM
              go_loopw [10, 12] (fun v i wr => ∃ j : Nat, j ≤ 8 ∧ i = .int .i64 j ∧ Hid (Own w5.heap.size wr v ((T2 ++ Bt.le W.length 8) ++ Bt.le C.length j)) ∧ Hid (Below w5.heap.size w5 wr)) (fun _ i _ => 8 - (intOf i).toNat)
              case atStart => exact ⟨0, by omega, rfl, by show Own _ _ _ _; rw [show Bt.le C.length 0 = [] from rfl, List.append_nil]; exact OMs.out, BMs⟩
              case round =>
                clear OMs BMs
                obtain ⟨j, hj, rfl, OM, BM⟩ := hrel
                obtain ⟨av, cv, rfl⟩ := OM.out.form
                by_cases hlt : j < 8
                · have HLE : Hid (((T2 ++ Bt.le W.length 8) ++ Bt.le C.length j).length ≤ 10000000000000) := by
                    show _ ≤ _
                    have h1 := HLT3.out
                    rw [List.length_append, Bt.le_length]
                    omega
                  have HMORE : Hid ((T2 ++ Bt.le W.length 8) ++ Bt.le C.length j ++ [((C.length / 2 ^ (8 * j) % 2 ^ 8 : Nat) : Int)] = (T2 ++ Bt.le W.length 8) ++ Bt.le C.length (j + 1)) := by show _ = _; rw [Bt.le_more C.length j, List.append_assoc]
                  have HW8 : Hid (W8 ((C.length / 2 ^ (8 * j) % 2 ^ 8 : Nat) : Int)) := by
                    have := Nat.mod_lt (C.length / 2 ^ (8 * j)) (show 0 < 2 ^ 8 by decide)
                    show W8 _
                    unfold W8
                    omega
                  have hcast : (C.length : Int) / 2 ^ (8 * j) % 256 = ((C.length / 2 ^ (8 * j) % 2 ^ 8 : Nat) : Int) := by simp
                  have hq0 : 0 ≤ (C.length : Int) / 2 ^ (8 * j) := Int.ediv_nonneg (by omega) (Int.le_of_lt (Int.pow_pos (by decide)))
                  have hx1 : (C.length : Int) ≤ 2000 := by have := HSL.out; omega
                  have hq1 : (C.length : Int) / 2 ^ (8 * j) ≤ 2000 := Int.le_trans (Int.ediv_le_self _ (by omega)) hx1
                  generalize (T2 ++ Bt.le W.length 8) ++ Bt.le C.length j = ys at *
                  generalize hq : (C.length : Int) / 2 ^ (8 * j) = q at *
                  have HCAST := Lib.hid hcast
                  clear hcast
                  go_wp2_with (first
                    | ((with_reducible refine append_byte (o := ⟨some 64, _, _, _, _, _⟩) rfl (.tmp 55) (.tmp 63) rfl w5.heap.size (.slice av ys.length cv) ys rfl OM.out (q % 256) ?_ rfl ?_ w5 BM.out ?_); exact (by rw [HCAST.out]; exact HW8.out); exact HLE.out; intro v7 w7 hv hb; have OM7 := Lib.hid hv; have BM7 := Lib.hid hb; clear hv hb)
                    | (with_reducible refine build_byte (o := ⟨some 63, _, _, _, _, _⟩) rfl (.tmp 62) rfl (q % 256) rfl ?_))
                  go_roundw
                  case rel => exact ⟨j + 1, by omega, by go_num, by show Own _ _ _ _; rw [← HMORE.out, ← HCAST.out]; exact OM7.out, BM7⟩
                  case measure => simp [intOf]; omega
                · have hj8 : ((j : Nat) : Int) = 8 := by omega
                  rw [hj8]
                  clear hj8
                  obtain rfl : j = 8 := by omega
                  have hcut : ∀ g c w, 64 ≤ c → (Instr.slice 22 (.slice (some ⟨g, 0, none⟩) 64 c) none (some (.int .i64 32)) none).run Try.prog w = .ok (.slice (some ⟨g, 0, none⟩) 32 c) w := fun g c w hc => run_cut64 g c 32 (by decide) hc w
                  have HTDx : Hid (T2 ++ Bt.le W.length 8 ++ Bt.le C.length 8 = Ch.told W C) := HTD.out
                  rw [HTDx.out] at OM ⊢
                  have HRT : Hid (∀ wq g c, Slc wq (.slice (some ⟨g, 0, none⟩) 32 c) (BL.take 32) → Slc wq (.slice av (Ch.told W C).length cv) (Ch.told W C) → Calls Try.prog 14 #[.slice (some ⟨g, 0, none⟩) 32 c, .slice av (Ch.told W C).length cv] wq fun e w' => ∃ v', e = .returned v' ∧ Slc w' v' TG ∧ Below wq.heap.size wq w') := fun wq g c hB hT => by rw [← HTG.out]; exact rtag_cut wq g c BL (Ch.told W C) HBL.out hB av cv hT (by have h1 := HTDL.out; have h2 := HLW.out; have h3 := HSL.out; omega)
                  have HBW := Lib.hid (BW5.out.trans (BM.out.mono BW5.out.size))
                  clear HTD HTDx HTG HLT2 HLT3
                  generalize Ch.told W C = TD at *
                  go_wp2_with (first
                    | ((with_reducible refine append_slc (o := ⟨some 72, _, _, _, _, _⟩) rfl (.tmp 65) (.tmp 71) rfl w.heap.size (.slice a5 C.length c5) C rfl OC9.out v9 TG rfl OT9.out ?_ w BW9.out ?_); exact (by have h1 := HSL.out; have h2 := HTL.out; omega); intro v10 w10 hv hb; have OW10 := Lib.hid hv; have BW10 := Lib.hid hb; clear hv hb)
                    | (go_at_call 14; refine (HRT.out w8 g8 c8 OB8.out OT8.out.slc).mono ?_; rintro e w9 ⟨v9, rfl, hv, hb⟩; have OT9 := Lib.hid hv; have OC9 := Lib.hid (OC8.out.below hb); have BW9 := Lib.hid (BW8.out.trans (hb.mono BW8.out.size)); clear hv hb)
                    | (go_at_call 10; refine (HBK.out wr HBW.out).mono ?_; rintro e w8 ⟨v8, rfl, hv, hb⟩; obtain ⟨g8, c8, rfl, hc8, hs8⟩ := own_cut hv HBL.out; have OB8 := Lib.hid hs8; have OT8 := Lib.hid (OM.out.below hb); have OC8 := Lib.hid ((OW5.out.below BM.out).below hb); have BW8 := Lib.hid (HBW.out.trans (hb.mono HBW.out.size)); clear hv hb hs8))
                  go_ret
                  exact ⟨_, rfl, by rw [← HSD.out]; exact OW10.out, BW10.out⟩
        · have hj1 : j + 1 ≤ Ch.gap C.length := by have h1 := HT1m.out; unfold Ch.gap at *; omega
          have HM1 : Hid (T1 ++ C ++ zs j ++ [0] = T1 ++ C ++ zs (j + 1)) := by show _ = _; rw [List.append_assoc (T1 ++ C), zs_more]
          have HLE : Hid ((T1 ++ C ++ zs j).length ≤ 10000000000000) := by show _ ≤ _; have := HLW.out; have := HSL.out; omega
          have HML : Hid ((T1 ++ C ++ zs j).length < W.length + C.length + 40) := by show _ < _; omega
          have hr1 : ¬ (r : Int) = 0 := by omega
          clear hlm
          generalize T1 ++ C ++ zs j = M at *
          go_wp2_with (first
            | ((with_reducible refine append_byte (o := ⟨some 36, _, _, _, _, _⟩) rfl (.tmp 34) (.tmp 35) rfl w5.heap.size (.slice av M.length cv) M rfl OM.out 0 ?_ rfl ?_ w5 BM.out ?_); exact ⟨by decide, by decide⟩; exact HLE.out; intro v7 w7 hv hb; have OM7 := Lib.hid hv; have BM7 := Lib.hid hb; clear hv hb)
            | (with_reducible refine build_byte (o := ⟨some 35, _, _, _, _, _⟩) rfl (.const (.int .u8 0)) rfl 0 rfl ?_))
          go_roundw
          case rel => exact ⟨j + 1, hj1, by show Own _ _ _ _; rw [← HM1.out]; exact OM7.out, BM7⟩
          case measure =>
            obtain ⟨a7, c7, h7⟩ := OM7.out.form
            rw [h7]
            have h8 := HML.out
            have h9 := HGL.out
            show W.length + C.length + 40 - (M ++ [0]).length < W.length + C.length + 40 - M.length
            rw [List.length_append, List.length_singleton]
            omega
    · have hj1 : j + 1 ≤ Ch.gap W.length := by unfold Ch.gap at *; omega
      have HM1 : Hid (W ++ zs j ++ [0] = W ++ zs (j + 1)) := by show _ = _; rw [List.append_assoc, zs_more]
      have HLE : Hid ((W ++ zs j).length ≤ 10000000000000) := by show _ ≤ _; have := HLW.out; omega
      have HML : Hid ((W ++ zs j).length = W.length + j ∧ (W ++ zs (j + 1)).length = W.length + j + 1) := ⟨hlm, by simp [zs]; omega⟩
      have hr1 : ¬ (r : Int) = 0 := by omega
      clear hlm
      generalize W ++ zs j = M at *
      go_wp2_with (first
        | ((with_reducible refine append_byte (o := ⟨some 26, _, _, _, _, _⟩) rfl (.tmp 24) (.tmp 25) rfl w5.heap.size (.slice av M.length cv) M rfl OM.out 0 ?_ rfl ?_ w5 BM.out ?_); exact ⟨by decide, by decide⟩; exact HLE.out; intro v7 w7 hv hb; have OM7 := Lib.hid hv; have BM7 := Lib.hid hb; clear hv hb)
        | (with_reducible refine build_byte (o := ⟨some 25, _, _, _, _, _⟩) rfl (.const (.int .u8 0)) rfl 0 rfl ?_))
      go_roundw
      case rel => exact ⟨j + 1, hj1, by show Own _ _ _ _; rw [← HM1.out]; exact OM7.out, BM7⟩
      case measure =>
        obtain ⟨a7, c7, h7⟩ := OM7.out.form
        rw [h7]
        have h8 := HML.out
        have h9 := HGL.out
        show W.length + 16 - (M ++ [0]).length < W.length + 16 - M.length
        rw [List.length_append, List.length_singleton]
        omega
end Go.Proofs.Yticoefnojgaplaa
