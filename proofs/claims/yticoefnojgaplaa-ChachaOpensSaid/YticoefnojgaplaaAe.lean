/- The walk of the reference's Tag. -/
import Derived.Test.YticoefnojgaplaaAd
namespace Go.Proofs.Yticoefnojgaplaa
open Go.RowKit

/-- What lies where while the reference makes a tag. -/
structure RtL (w : World) (gr gp : Nat) (K : List Int) (wr : World) : Prop where
  kk : Blk wr w.heap.size .u8 5 K
  rr : Blk wr gr .u8 5 (cl (K.take 16) ms)
  pp : Nv wr (.slice (some ⟨gp, 0, none⟩) 5 5) Po.P 5
  bb : Below w.heap.size w wr
theorem RtL.below {w wr w' : World} {gr gp : Nat} {K : List Int} (h : RtL w gr gp K wr) (hb : Below wr.heap.size wr w') : RtL w gr gp K w' :=
  ⟨h.kk.other (hb.block _ h.kk.lt), h.rr.other (hb.block _ h.rr.lt), h.pp.below hb (Nat.le_refl _), h.bb.trans (hb.mono h.bb.size)⟩
theorem fit_take {K : List Int} (hl : K.length = 32) : fit K 16 = K.take 16 := by
  unfold fit zs
  rw [show 16 - K.length = 0 by omega]
  exact List.append_nil _
theorem p_words : Nt.val [4294967291, 4294967295, 4294967295, 4294967295, 3] = Po.P := by decide

set_option maxRecDepth 100000 in
set_option maxHeartbeats 2000000 in
theorem rtag_any (w : World) (ak : Option Addr) (ck : Nat) (K : List Int) (hK : Slc w (.slice ak K.length ck) K) (ap : Option Addr) (cp : Nat) (Q : List Int) (hQ : Slc w (.slice ap Q.length cp) Q) (hq : Q.length ≤ 10000) :
    Calls Try.prog 14 #[.slice ak K.length ck, .slice ap Q.length cp] w fun e w' => ∃ v', e = .returned v' ∧ Slc w' v' (Po.tag (fit K 32) Q) ∧ Below w.heap.size w w' := by
  have HF1 : Hid (Calls Try.prog 20 #[.slice ak K.length ck, .int .i64 32] w fun e w' => e = .returned (.slice (some ⟨w.heap.size, 0, none⟩) 32 32) ∧ Blk w' w.heap.size .u8 5 (fit K 32) ∧ Below w.heap.size w w') := fit_any w ak ck K hK 32 (by decide)
  have HQ := Lib.hid hQ
  have hq8 : Hid (∀ x ∈ Q, W8 x) := by obtain ⟨_, _, _, _, h, _⟩ := hQ; exact h
  have hk8 : ∀ x ∈ K, W8 x := by obtain ⟨_, _, _, _, h, _⟩ := hK; exact h
  have H8 := Lib.hid (fit_W8 hk8 32)
  have HL := Lib.hid (fit_length K 32)
  clear hK hQ hk8
  generalize fit K 32 = KK at *
  have HF2 : Hid (∀ w1, Blk w1 w.heap.size .u8 5 KK → Calls Try.prog 20 #[.slice (some ⟨w.heap.size, 0, none⟩) 32 32, .int .i64 16] w1 fun e w' => e = .returned (.slice (some ⟨w1.heap.size, 0, none⟩) 16 16) ∧ Blk w' w1.heap.size .u8 5 (KK.take 16) ∧ Below w1.heap.size w1 w') := by
    intro w1 h1
    have hS := slc_blk h1 HL.out H8.out
    rw [← fit_take HL.out]
    have h2 := fit_any w1 (some ⟨w.heap.size, 0, none⟩) 32 KK (by rw [HL.out]; exact hS) 16 (by decide)
    rw [HL.out] at h2
    exact h2
  have HRL : Hid ((KK.take 16).length = 16) := by show _ = _; rw [List.length_take, HL.out]; rfl
  have HR8 : Hid (∀ x ∈ KK.take 16, W8 x) := fun x hx => H8.out x (List.mem_of_mem_take hx)
  go_enter Try.func14, Try.ntmps14
  go_wp2_with (first
    | (go_at_call 20; refine (HF2.out w1 K1.out).mono ?_; rintro e w2 ⟨rfl, hb1, hb2⟩; have R2 : Hid (Blk w2 w1.heap.size .u8 5 (clk (KK.take 16) 0)) := (by rw [clk_zero]; exact hb1); have K2 := Lib.hid (K1.out.other (hb2.block _ K1.out.lt)); have B2 := Lib.hid (B1.out.trans (hb2.mono B1.out.size)); have HG := Lib.hid K1.out.lt; clear hb1 hb2 B1 K1)
    | (go_at_call 20; refine HF1.out.mono ?_; rintro e w1 ⟨rfl, hb1, hb2⟩; have K1 := Lib.hid hb1; have B1 := Lib.hid hb2; clear hb1 hb2))
  clear HF1 HF2
  generalize w1.heap.size = gr at *
  go_loopw [6] (fun i wr => ∃ k : Nat, k ≤ 16 ∧ i = .int .i64 k ∧ Hid (Blk wr gr .u8 5 (clk (KK.take 16) k)) ∧ Hid (Blk wr w.heap.size .u8 5 KK) ∧ Hid (Below w.heap.size w wr)) (fun i _ => 16 - (intOf i).toNat)
  case atStart => exact ⟨0, by omega, rfl, R2, K2, B2⟩
  case round =>
    clear R2 K2 B2
    obtain ⟨k, hk, rfl, RB, KB, BW⟩ := hrel
    by_cases hlt : k < 16
    · have hx8 : W8 ((KK.take 16).getD k 0) := by
        have hm : (KK.take 16).getD k 0 ∈ KK.take 16 := by rw [List.getD_eq_getElem?_getD, List.getElem?_eq_getElem (by rw [HRL.out]; exact hlt)]; exact List.getElem_mem _
        exact HR8.out _ hm
      have c1 := RB.out.cell k (by rw [clk_length _ HRL.out k hk]; exact hlt)
      rw [clk_get _ HRL.out k hlt] at c1
      have f1 := RB.out.free k
      have hmore := clk_more _ HRL.out k hlt
      have hsame := clk_same _ HRL.out k hlt
      rw [cl_get HRL.out k hlt] at hmore hsame
      have hoth := fun v => heap_setCell_other wr ⟨gr, k, none⟩ w.heap.size v (by have := HG.out; simp; omega)
      have HOTH := Lib.hid hoth
      have hgr := HG.out
      clear hoth
      by_cases h3 : k % 4 = 3
      · rw [ms_3 k hlt h3, and_15 hx8] at hmore
        have HSET : Hid (Blk (wr.setCell ⟨gr, k, none⟩ (.int .u8 ((KK.take 16).getD k 0 % 16))) gr .u8 5 (clk (KK.take 16) (k + 1))) := by show Blk _ _ _ _ _; rw [← hmore]; exact RB.out.set k _
        obtain ⟨x0, x1⟩ := hx8
        clear hmore hsame
        generalize (KK.take 16).getD k 0 = x at *
        go_wp2
        go_roundw
        case rel => exact ⟨k + 1, by omega, by go_num, HSET, KB.out.other (HOTH.out _), BW.out.setCell (Nat.le_of_lt hgr) _⟩
        case measure => simp [intOf]; omega
      · by_cases h0 : k % 4 = 0 ∧ 0 < k
        · rw [ms_0 k hlt h0.1 h0.2, and_252 hx8] at hmore
          have HSET : Hid (Blk (wr.setCell ⟨gr, k, none⟩ (.int .u8 ((KK.take 16).getD k 0 - (KK.take 16).getD k 0 % 4))) gr .u8 5 (clk (KK.take 16) (k + 1))) := by show Blk _ _ _ _ _; rw [← hmore]; exact RB.out.set k _
          obtain ⟨x0, x1⟩ := hx8
          obtain ⟨h00, h01⟩ := h0
          clear hmore hsame
          generalize (KK.take 16).getD k 0 = x at *
          go_wp2
          go_region
          all_goals go_wp2
          all_goals go_roundw
          case rel => exact ⟨k + 1, by omega, by go_num, HSET, KB.out.other (HOTH.out _), (BW.out.setCell (Nat.le_of_lt hgr) _).drew⟩
          case measure => simp [intOf]; omega
        · rw [ms_e k hlt h3 h0, and_255 hx8] at hsame
          have hsm := hsame rfl
          have RB2 : Hid (Blk wr gr .u8 5 (clk (KK.take 16) (k + 1))) := by show Blk _ _ _ _ _; rw [← hsm]; exact RB.out
          clear hmore hsame hsm hx8 c1 f1
          by_cases hk0 : k = 0
          · subst hk0
            go_wp2
            go_roundw
            case rel => exact ⟨1, by omega, by go_num, RB2, KB, BW⟩
            case measure => simp [intOf]
          · have h00 : k % 4 ≠ 0 := by omega
            go_wp2
            go_roundw
            case rel => exact ⟨k + 1, by omega, by go_num, RB2, KB, BW⟩
            case measure => simp [intOf]; omega
    · have hk16 : ((k : Nat) : Int) = 16 := by omega
      rw [hk16]
      clear hk16
      obtain rfl : k = 16 := by omega
      have P0 : Hid (Blk wr gr .u8 5 (cl (KK.take 16) ms)) := by show Blk _ _ _ _ _; rw [← clk_all _ HRL.out]; exact RB.out
      have FAC := Lib.hid (fac_low H8.out HL.out)
      have CL16 := Lib.hid (cl_length _ HRL.out)
      have CL8 := Lib.hid (cl_W8 HR8.out ms)
      clear RB HRL HR8 HG
      go_wp2_with fail
      have hpb : Blk (wr.alloc (.cells #[.int .u32 4294967291, .int .u32 4294967295, .int .u32 4294967295, .int .u32 4294967295, .int .u32 3] 23)) wr.heap.size .u32 23 [4294967291, 4294967295, 4294967295, 4294967295, 3] := heap_alloc_new wr _
      have hba : Below wr.heap.size wr (wr.alloc (.cells #[.int .u32 4294967291, .int .u32 4294967295, .int .u32 4294967295, .int .u32 4294967295, .int .u32 3] 23)) := (Below.refl _ _).alloc (Nat.le_refl _) _
      have RT : Hid (RtL w gr wr.heap.size KK (wr.alloc (.cells #[.int .u32 4294967291, .int .u32 4294967295, .int .u32 4294967295, .int .u32 4294967295, .int .u32 3] 23))) :=
        ⟨KB.out.other (hba.block _ KB.out.lt), P0.out.other (hba.block _ P0.out.lt), ⟨_, num_blk hpb rfl (by unfold Nt.Ws W32; decide), p_words, fun _ => by decide, Nat.le_refl _⟩, BW.out.trans (hba.mono BW.out.size)⟩
      clear hpb hba KB P0 BW
      have A0 : Hid (Nv (wr.alloc (.cells #[.int .u32 4294967291, .int .u32 4294967295, .int .u32 4294967295, .int .u32 4294967295, .int .u32 3] 23)) (.slice none 0 0) (Po.acc KK Q 0) 5) := by
        obtain ⟨l, a1, a2, a3, a4⟩ := Nv.zero (wr.alloc (.cells #[.int .u32 4294967291, .int .u32 4294967295, .int .u32 4294967295, .int .u32 4294967295, .int .u32 3] 23))
        exact ⟨l, a1, a2, a3, Nat.le_trans a4 (by decide)⟩
      generalize wr.heap.size = gp at *
      go_loopw [8, 9] (fun u i wr => ∃ (k : Nat) (I : Int), 16 * (k : Int) = I ∧ 16 * k < Q.length + 16 ∧ i = .int .i64 I ∧ Hid (Nv wr u (Po.acc KK Q k) 5) ∧ Hid (RtL w gr gp KK wr)) (fun _ i _ => (Q.length + 16 : Nat) - (intOf i).toNat)
      case atStart => exact ⟨0, 0, by omega, by omega, rfl, A0, RT⟩
      case round =>
        clear A0 RT
        obtain ⟨k, I, hI, hk, rfl, HU, RT⟩ := hrel
        by_cases hlt : 16 * k < Q.length
        · have hmx : ∀ (H : Int) (hi : Nat), H = hi → 16 * k < hi → hi ≤ Q.length → hi - 16 * k = min 16 (Q.length - 16 * k) → ∃ b off c, (∀ wq, (Instr.slice 22 (.slice ap Q.length cp) (some (.int .i64 I)) (some (.int .i64 H)) none).run Try.prog wq = .ok (.slice (some ⟨b, off, none⟩) ((Q.drop (16 * k)).take 16).length c) wq) ∧ Hid (At wr .u8 b off ((Q.drop (16 * k)).take 16)) := by
            intro H hi hH h1 h2 h3
            have hS := slc_cut (HQ.out.below RT.out.bb (Nat.le_refl _)) (16 * k) hi (by omega) h2
            have hbe : (Q.drop (16 * k)).take (hi - 16 * k) = (Q.drop (16 * k)).take 16 := by
              rw [h3, ← List.length_drop, ← List.take_eq_take_min]
            rw [hbe] at hS
            have hc : hi ≤ cp := by
              obtain ⟨_, _, hv, hc, _⟩ := HQ.out
              simp only [Value.slice.injEq] at hv
              obtain ⟨-, -, rfl⟩ := hv
              omega
            have hrun := fun wq => run_cut ap Q.length cp (16 * k) hi (by omega) hc I H (by omega) hH wq
            obtain ⟨a', c', hv, _, _, hm⟩ := hS
            rw [hv] at hrun
            rcases hm with hm | ⟨b, off, rfl, _, hat⟩
            · have := congrArg List.length hm
              rw [List.length_take, List.length_drop] at this
              simp at this
              omega
            · exact ⟨b, off, c', hrun, hat⟩
          have hb8 : ∀ x ∈ (Q.drop (16 * k)).take 16, W8 x := fun x hx => hq8.out x (List.mem_of_mem_drop (List.mem_of_mem_take hx))
          have hbl : ((Q.drop (16 * k)).take 16).length ≤ 16 := by rw [List.length_take]; omega
          have hacc : (Po.acc KK Q k + Po.blkv ((Q.drop (16 * k)).take 16)) * (Bt.low (cl (KK.take 16) ms) : Nat) % Po.P = Po.acc KK Q (k + 1) := by rw [← FAC.out]; rfl
          have hkk : k + 1 = k + 1 := rfl
          generalize (Q.drop (16 * k)).take 16 = blk at *
          have hlow : Bt.low (blk ++ [1]) = Bt.low blk + 256 ^ blk.length := by
            rw [Bt.low_append]; simp
          have HL1 : Hid (∀ w4 v2, Own wr.heap.size w4 v2 (blk ++ [1]) → Calls Try.prog 35 #[v2] w4 fun e w' => ∃ v', e = .returned v' ∧ Nv w' v' (Po.blkv blk) 5 ∧ Below w4.heap.size w4 w') := by
            intro w4 v2 h
            have h2 := low_nv w4 v2 _ h.slc 5 (by rw [List.length_append]; show (blk.length + 1 + 3) / 4 ≤ 5; omega) (by rw [List.length_append]; show blk.length + 1 ≤ _; omega)
            rw [hlow] at h2
            exact h2
          have HP : Hid (∀ w5 v3, Below wr.heap.size wr w5 → Nv w5 v3 (Po.blkv blk) 5 → Calls Try.prog 34 #[u8, v3] w5 fun e w' => ∃ v', e = .returned v' ∧ Nv w' v' (Po.acc KK Q k + Po.blkv blk) 11 ∧ Below w5.heap.size w5 w') := fun w5 v3 hb h => plus_nv w5 u8 v3 _ _ 5 5 (HU.out.below hb (Nat.le_refl _)) h (by decide) (by decide)
          have HL2 : Hid (∀ w6, Below wr.heap.size wr w6 → Calls Try.prog 35 #[.slice (some ⟨gr, 0, none⟩) 16 16] w6 fun e w' => ∃ v', e = .returned v' ∧ Nv w' v' (Bt.low (cl (KK.take 16) ms) : Nat) 4 ∧ Below w6.heap.size w6 w') := fun w6 hb => low_nv w6 _ _ (slc_blk (RT.out.below hb).rr CL16.out CL8.out) 4 (by rw [CL16.out]; decide) (by rw [CL16.out]; decide)
          generalize Po.acc KK Q k + Po.blkv blk = X at *
          generalize ((Bt.low (cl (KK.take 16) ms) : Nat) : Int) = Y at *
          have HTM : Hid (∀ w7 v v', Nv w7 v X 11 → Nv w7 v' Y 4 → Calls Try.prog 33 #[v, v'] w7 fun e w' => ∃ v2, e = .returned v2 ∧ Nv w' v2 (X * Y) 15 ∧ Below w7.heap.size w7 w') := fun w7 v v' h1 h2 => times_nv w7 v v' X Y 11 4 h1 h2 (by decide) (by decide)
          have HMD : Hid (∀ w8 v, Below wr.heap.size wr w8 → Nv w8 v (X * Y) 15 → Calls Try.prog 32 #[v, .slice (some ⟨gp, 0, none⟩) 5 5] w8 fun e w' => ∃ v2, e = .returned v2 ∧ Nv w' v2 (Po.acc KK Q (k + 1)) 5 ∧ Below w8.heap.size w8 w') := by
            intro w8 v hb h
            rw [← hacc]
            exact mod_nv w8 v _ (X * Y) Po.P 15 5 h (RT.out.below hb).pp (by decide) (by decide) (by decide)
          have HB8 := Lib.hid hb8
          have HBL := Lib.hid hbl
          clear hb8 hbl hacc hlow hkk HU
          by_cases hfull : 16 * k + 16 ≤ Q.length
          · obtain ⟨b, off, c, hcut, hat⟩ := hmx (I + 16) (16 * k + 16) (by omega) (by omega) (by omega) (by omega)
            clear hmx
            go_wp2_with (first
              | (go_at_call 32; refine (HMD.out w8 v6 B8.out N6.out).mono ?_; rintro e w9 ⟨v7, rfl, hv, hb⟩; have N7 := Lib.hid hv; have B9 := Lib.hid (B8.out.trans (hb.mono B8.out.size)); clear hv hb)
              | (go_at_call 33; refine (HTM.out w7 v4 v5 N47.out N5.out).mono ?_; rintro e w8 ⟨v6, rfl, hv, hb⟩; have N6 := Lib.hid hv; have B8 := Lib.hid (B7.out.trans (hb.mono B7.out.size)); clear hv hb)
              | (go_at_call 35; refine (HL2.out w6 B6.out).mono ?_; rintro e w7 ⟨v5, rfl, hv, hb⟩; have N5 := Lib.hid hv; have N47 := Lib.hid (N4.out.below hb (Nat.le_refl _)); have B7 := Lib.hid (B6.out.trans (hb.mono B6.out.size)); clear hv hb)
              | (go_at_call 34; refine (HP.out w5 v3 B5.out N3.out).mono ?_; rintro e w6 ⟨v4, rfl, hv, hb⟩; have N4 := Lib.hid hv; have B6 := Lib.hid (B5.out.trans (hb.mono B5.out.size)); clear hv hb)
              | (go_at_call 35; refine (HL1.out w4 v2 OW2.out).mono ?_; rintro e w5 ⟨v3, rfl, hv, hb⟩; have N3 := Lib.hid hv; have B5 := Lib.hid (B4.out.trans (hb.mono B4.out.size)); clear hv hb)
              | ((with_reducible refine append_byte (o := ⟨some 74, _, _, _, _, _⟩) rfl (.tmp 72) (.tmp 73) rfl wr.heap.size (.slice av blk.length cv) blk rfl OW1.out 1 ?_ rfl ?_ wr B3.out ?_); exact (by unfold W8; omega); exact (Nat.le_trans HBL.out (by decide)); intro v2 w4 hv hb; have OW2 := Lib.hid hv; have B4 := Lib.hid hb; clear hv hb)
              | ((with_reducible refine append_bytes (o := ⟨some 71, _, _, _, _, _⟩) rfl (.tmp 66) (.tmp 70) rfl rfl b off c blk rfl hat.out HB8.out ?_ ?_); exact (Nat.le_trans HBL.out (by decide)); intro v1 w3 hv hb; have OW1 := Lib.hid hv; have B3 := Lib.hid hb; clear hv hb; obtain ⟨av, cv, rfl⟩ := OW1.out.form))
            go_roundw
            case rel => exact ⟨k + 1, I + 16, by omega, by omega, rfl, N7, RT.out.below B9.out⟩
            case measure => simp [intOf]; omega
          · obtain ⟨b, off, c, hcut, hat⟩ := hmx ((Q.length : Int)) (Q.length) (by omega) (by omega) (by omega) (by omega)
            clear hmx
            go_wp2_with (first
              | (go_at_call 32; refine (HMD.out w8 v6 B8.out N6.out).mono ?_; rintro e w9 ⟨v7, rfl, hv, hb⟩; have N7 := Lib.hid hv; have B9 := Lib.hid (B8.out.trans (hb.mono B8.out.size)); clear hv hb)
              | (go_at_call 33; refine (HTM.out w7 v4 v5 N47.out N5.out).mono ?_; rintro e w8 ⟨v6, rfl, hv, hb⟩; have N6 := Lib.hid hv; have B8 := Lib.hid (B7.out.trans (hb.mono B7.out.size)); clear hv hb)
              | (go_at_call 35; refine (HL2.out w6 B6.out).mono ?_; rintro e w7 ⟨v5, rfl, hv, hb⟩; have N5 := Lib.hid hv; have N47 := Lib.hid (N4.out.below hb (Nat.le_refl _)); have B7 := Lib.hid (B6.out.trans (hb.mono B6.out.size)); clear hv hb)
              | (go_at_call 34; refine (HP.out w5 v3 B5.out N3.out).mono ?_; rintro e w6 ⟨v4, rfl, hv, hb⟩; have N4 := Lib.hid hv; have B6 := Lib.hid (B5.out.trans (hb.mono B5.out.size)); clear hv hb)
              | (go_at_call 35; refine (HL1.out w4 v2 OW2.out).mono ?_; rintro e w5 ⟨v3, rfl, hv, hb⟩; have N3 := Lib.hid hv; have B5 := Lib.hid (B4.out.trans (hb.mono B4.out.size)); clear hv hb)
              | ((with_reducible refine append_byte (o := ⟨some 74, _, _, _, _, _⟩) rfl (.tmp 72) (.tmp 73) rfl wr.heap.size (.slice av blk.length cv) blk rfl OW1.out 1 ?_ rfl ?_ wr B3.out ?_); exact (by unfold W8; omega); exact (Nat.le_trans HBL.out (by decide)); intro v2 w4 hv hb; have OW2 := Lib.hid hv; have B4 := Lib.hid hb; clear hv hb)
              | ((with_reducible refine append_bytes (o := ⟨some 71, _, _, _, _, _⟩) rfl (.tmp 66) (.tmp 70) rfl rfl b off c blk rfl hat.out HB8.out ?_ ?_); exact (Nat.le_trans HBL.out (by decide)); intro v1 w3 hv hb; have OW1 := Lib.hid hv; have B3 := Lib.hid hb; clear hv hb; obtain ⟨av, cv, rfl⟩ := OW1.out.form))
            go_roundw
            case rel => exact ⟨k + 1, I + 16, by omega, by omega, rfl, N7, RT.out.below B9.out⟩
            case measure => simp [intOf]; omega
        · have hkk : k = (Q.length + 15) / 16 := by omega
          have HU2 : Hid (Nv wr u8 (Po.acc KK Q ((Q.length + 15) / 16)) 5) := by show Nv _ _ _ _; rw [← hkk]; exact HU.out
          clear HU hkk
          have ha0 := HU2.out.nonneg
          obtain ⟨X, hX⟩ := Int.eq_ofNat_of_zero_le (show 0 ≤ Po.acc KK Q ((Q.length + 15) / 16) + (Bt.low (KK.drop 16) : Nat) by omega)
          have HTAG := Lib.hid (tag_of HL.out hX.symm ha0)
          have hS := slc_from (slc_blk RT.out.kk HL.out H8.out) 16 (by decide)
          have hcut := run_cutL (some ⟨w.heap.size, 0, none⟩) 32 32 16 (by decide) 16 rfl
          generalize sliced (some ⟨w.heap.size, 0, none⟩) 16 32 32 1 = sv at *
          have hdl : (KK.drop 16).length = 16 := by rw [List.length_drop, HL.out]
          have HL1 : Hid (Calls Try.prog 35 #[sv] wr fun e w' => ∃ v', e = .returned v' ∧ Nv w' v' (Bt.low (KK.drop 16) : Nat) 4 ∧ Below wr.heap.size wr w') := low_nv wr sv _ hS 4 (by rw [hdl]; decide) (by rw [hdl]; decide)
          have HP : Hid (∀ w5 v3, Below wr.heap.size wr w5 → Nv w5 v3 (Bt.low (KK.drop 16) : Nat) 4 → Calls Try.prog 34 #[u8, v3] w5 fun e w' => ∃ v', e = .returned v' ∧ Nv w' v' (X : Int) 10 ∧ Below w5.heap.size w5 w') := by
            intro w5 v3 hb h
            have h2 := plus_nv w5 u8 v3 _ _ 5 4 (HU2.out.below hb (Nat.le_refl _)) h (by decide) (by decide)
            rw [hX] at h2
            exact h2
          have HBY : Hid (∀ w6 v4, Nv w6 v4 (X : Int) 10 → Calls Try.prog 36 #[v4, .int .i64 16] w6 fun e w' => e = .returned (.slice (some ⟨w6.heap.size, 0, none⟩) 16 16) ∧ Blk w' w6.heap.size .u8 5 (Bt.le X 16) ∧ Below w6.heap.size w6 w') := fun w6 v4 h => bytes_nv w6 v4 X 10 16 h (by decide) (by decide)
          clear hS hdl hX ha0 HU2
          go_wp2_with (first
            | (go_at_call 36; refine (HBY.out w6 v4 N4.out).mono ?_; rintro e w7 ⟨rfl, hv, hb⟩; have N7 := Lib.hid hv; have B7 := Lib.hid (B6.out.trans (hb.mono B6.out.size)); clear hv hb)
            | (go_at_call 34; refine (HP.out w5 v3 B5.out N3.out).mono ?_; rintro e w6 ⟨v4, rfl, hv, hb⟩; have N4 := Lib.hid hv; have B6 := Lib.hid (B5.out.trans (hb.mono B5.out.size)); clear hv hb)
            | (go_at_call 35; refine HL1.out.mono ?_; rintro e w5 ⟨v3, rfl, hv, hb⟩; have N3 := Lib.hid hv; have B5 := Lib.hid hb; clear hv hb))
          go_ret
          refine ⟨_, rfl, ?_, RT.out.bb.trans (B7.out.mono RT.out.bb.size)⟩
          have h7 := N7.out
          rw [HTAG.out] at h7
          exact slc_blk h7 (by rw [← HTAG.out, Bt.le_length]) (by rw [← HTAG.out]; exact Bt.le_W8 X 16)
end Go.Proofs.Yticoefnojgaplaa
