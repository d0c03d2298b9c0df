/- The walk of the reference's Stream. -/
import Derived.Test.YticoefnojgaplaaAu
namespace Go.Proofs.Yticoefnojgaplaa
open Go.RowKit

/-- The block at hand: 64 bytes, apart from what is made. -/
def Bs (w : World) (v b : Value) (l : List Int) : Prop := ∃ g c cur, b = .slice (some ⟨g, 0, none⟩) 64 c ∧ w.heap[g]? = some (.cells cur 5 (0, 0)) ∧ (∀ t, t < 64 → cur[t]? = some (.int .u8 (l.getD t 0))) ∧ v.ownBlock ≠ some g
theorem own_bs {B : Nat} {w : World} {b v : Value} {l : List Int} (h : Own B w b l) (hbl : l.length = 64) (hB : ∀ g, v.ownBlock = some g → g < B) : ∃ g c cur, b = .slice (some ⟨g, 0, none⟩) 64 c ∧ w.heap[g]? = some (.cells cur 5 (0, 0)) ∧ (∀ t, t < 64 → cur[t]? = some (.int .u8 (l.getD t 0))) ∧ v.ownBlock ≠ some g := by
  obtain ⟨g, cap, cur, h1, h2, h3, h4, h5, h6⟩ := h.block (by rw [hbl]; decide)
  rw [hbl] at h1 h4 h6
  refine ⟨g, cap, cur, h1, h3, fun t ht => ?_, fun hg => ?_⟩
  · have e : (cur.toList.take 64)[t]? = some (.int .u8 (l.getD t 0)) := by rw [h6]; simp [hbl, ht]
    rw [List.getElem?_take_of_lt ht] at e
    simpa using e
  · have := hB g hg
    omega
set_option maxRecDepth 100000 in
set_option maxHeartbeats 2000000 in
theorem rstream_any (w : World) (ak : Option Addr) (ck : Nat) (K : List Int) (hK : Slc w (.slice ak K.length ck) K) (n : Int) (an : Option Addr) (cn : Nat) (N : List Int) (hN : Slc w (.slice an N.length cn) N) (ap : Option Addr) (cp : Nat) (P : List Int) (hP : Slc w (.slice ap P.length cp) P) (hl : P.length ≤ 100000) :
    Calls Try.prog 12 #[.slice ak K.length ck, .int .u32 n, .slice an N.length cn, .slice ap P.length cp] w fun e w' => ∃ v', e = .returned v' ∧ Own w.heap.size w' v' (Ch.stream (fit K 32) n (fit N 12) P) ∧ Below w.heap.size w w' := by
  have HP := Lib.hid hP
  have HBL : Hid (∀ wq j, Below w.heap.size w wq → Calls Try.prog 10 #[.slice ak K.length ck, .int .u32 (Ch.cnt n j), .slice an N.length cn] wq fun e w' => ∃ v', e = .returned v' ∧ Own wq.heap.size w' v' (Ch.block (Ch.st (fit K 32) (Ch.cnt n j) (fit N 12))) ∧ Below wq.heap.size wq w') := fun wq j hb => rBlock_own wq ak ck K (hK.below hb (Nat.le_refl _)) _ (Ch.cnt_W n j) an cn N (hN.below hb (Nat.le_refl _))
  have HL := Lib.hid hl
  have HO0 : Hid (Own w.heap.size w (.slice none 0 0) (Ch.strk (fit K 32) n (fit N 12) P 0)) := Own.nil w (Nat.le_refl _)
  have HB0 : Hid (Below w.heap.size w w) := Below.refl _ _
  clear hK hN hP hl
  generalize fit K 32 = KK at *
  generalize fit N 12 = NN at *
  go_enter Try.func12, Try.ntmps12
  go_wp2_with fail
  go_loopw [9, 10, 11] (fun v b i wr => ∃ k : Nat, k ≤ P.length ∧ i = .int .i64 k ∧ Hid (Own w.heap.size wr v (Ch.strk KK n NN P k)) ∧ Hid (Below w.heap.size w wr) ∧ Hid (k = 0 ∨ Bs wr v b (Ch.block (Ch.st KK (Ch.cnt n ((k - 1) / 64)) NN)))) (fun _ _ i _ => P.length - (intOf i).toNat)
  case atStart => exact ⟨0, by omega, rfl, HO0, HB0, Or.inl rfl⟩
  case round =>
    clear HO0 HB0
    obtain ⟨k, hk, rfl, OW, BW, BX⟩ := hrel
    obtain ⟨av, cv, rfl⟩ := OW.out.form
    by_cases hlt : k < P.length
    · obtain ⟨b1, o1, rfl, hb1, hc1, hcap1⟩ := slc_cell HP.out _ hlt
      have hk1 : k ≤ 100000 := by have := HL.out; omega
      have HLE : Hid ((Ch.strk KK n NN P k).length ≤ 10000000000000) := by show _ ≤ _; rw [Ch.strk_length]; omega
      have HSX : Hid (Ch.xr8 (P.getD k 0) ((Ch.block (Ch.st KK (Ch.cnt n (k / 64)) NN)).getD (k % 64) 0) = Ch.sx KK n NN P k) := rfl
      by_cases h0 : k % 64 = 0
      · obtain ⟨j, hj⟩ : ∃ j, j = k / 64 := ⟨_, rfl⟩
        have hq : (k : Int) / 64 = (j : Int) := by omega
        have h01 : (k : Int) % 64 = 0 := by omega
        have hj1 : j ≤ 100000 := by omega
        have HCN : Hid (∀ wq, Below w.heap.size w wq → Calls Try.prog 10 #[.slice ak K.length ck, .int .u32 ((n + (j : Int)) % 4294967296), .slice an N.length cn] wq fun e w' => ∃ v', e = .returned v' ∧ Own wq.heap.size w' v' (Ch.block (Ch.st KK (Ch.cnt n j) NN)) ∧ Below wq.heap.size wq w') := fun wq hb => by rw [← IntKind.wrap_u32]; exact HBL.out wq j hb
        rw [← hj] at HSX
        have HBBL := Lib.hid (Ch.block_length (Ch.st KK (Ch.cnt n j) NN))
        have HJ := Lib.hid hj
        clear hj HBL BX
        generalize hBB : Ch.block (Ch.st KK (Ch.cnt n j) NN) = BB at *
        have HBB := Lib.hid hBB
        clear hBB
        have HNB : Hid (∀ g, (Value.slice av (Ch.strk KK n NN P k).length cv).ownBlock = some g → g < wr.heap.size) := fun g hg => (OW.out.ne_block g hg).1
        go_wp2_with (go_at_call 10; refine (HCN.out wr BW.out).mono ?_; rintro e w5 ⟨v5, rfl, hv, hb⟩; obtain ⟨g3, c3, cur3, rfl, hh3, hc3, hne3⟩ := own_bs hv HBBL.out HNB.out; have OW5 := Lib.hid (OW.out.below hb); have BW5 := Lib.hid (BW.out.trans (hb.mono BW.out.size)); have H3 := Lib.hid hh3; have C3 := Lib.hid hc3; have NE := Lib.hid hne3; clear hb hv hh3 hc3 hne3)
        clear HCN HNB OW BW
        have OW := OW5
        have BW := BW5
        clear OW5 BW5 hq h01 hj1 h0
        have HCA : Hid (b1 < w5.heap.size ∧ w5.cell? ⟨b1, o1 + k, none⟩ = some (.int .u8 (P.getD k 0))) := ⟨Nat.lt_of_lt_of_le hb1 BW.out.size, (BW.out.cell (p := ⟨b1, o1 + k, none⟩) hb1).trans hc1⟩
        have HCB : Hid (g3 < w5.heap.size ∧ w5.cell? ⟨g3, 0 + k % 64, none⟩ = some (.int .u8 (BB.getD (k % 64) 0))) := ⟨lt_of_block H3.out, by rw [cell_of_row w5 g3 _ _ 5 (0, 0) H3.out, Nat.zero_add]; exact C3.out _ (Nat.mod_lt _ (by decide))⟩
        clear hc1 hb1 hcap1
        refine Grow.region_rest (by kernel_rfl) 12 (fun i => List.getD (Grow.Spec.is (.slice av (Ch.strk KK n NN P k).length cv) :: Grow.Spec.is (.slice (some ⟨b1, o1, none⟩) P.length cp) :: Grow.Spec.is (.int .i64 (k : Nat)) :: Grow.Spec.is (.pointer (some ⟨b1, o1 + k, none⟩)) :: Grow.Spec.is (.int .u8 (P.getD k 0)) :: Grow.Spec.is (.slice (some ⟨g3, 0, none⟩) 64 c3) :: Grow.Spec.is (.int .i64 (k : Nat)) :: Grow.Spec.is (.int .i64 ((k % 64 : Nat) : Int)) :: Grow.Spec.is (.pointer (some ⟨g3, 0 + k % 64, none⟩)) :: Grow.Spec.is (.int .u8 (BB.getD (k % 64) 0)) :: Grow.Spec.is (.int .u8 (Ch.xr8 (P.getD k 0) (BB.getD (k % 64) 0))) :: Grow.newByte w5 (Ch.xr8 (P.getD k 0) (BB.getD (k % 64) 0)) :: []) i (Grow.Spec.is undef)) (by kernel_rfl) ⟨
          Grow.h2_move (Or.inl rfl) _ (Or.inl rfl) (fun a wx hk => by have e : a.eval (.tmp 9) = _ := hk.rest 9 (by kernel_rfl); rw [e]; rfl),
          Grow.h2_move (Or.inl rfl) _ (Or.inl rfl) (fun a wx hk => by have e : a.eval (.tmp 3) = _ := hk.rest 3 (by kernel_rfl); rw [e]; rfl),
          Grow.h2_move (Or.inl rfl) _ (Or.inl rfl) (fun a wx hk => by have e : a.eval (.tmp 11) = _ := hk.rest 11 (by kernel_rfl); rw [e]; rfl),
          Grow.h2_idx22 (Or.inl rfl) 1 30 2 31 b1 o1 P.length cp k hlt rfl (by kernel_rfl) (by kernel_rfl) rfl rfl rfl,
          Grow.h2_load5 (Or.inl rfl) 3 32 b1 (o1 + k) (P.getD k 0) rfl (by kernel_rfl) rfl HCA.out.1 HCA.out.2 rfl,
          Grow.h2_move (Or.inl rfl) _ (Or.inl rfl) (fun a wx hk => by have e : a.eval (.tmp 10) = _ := hk.rest 10 (by kernel_rfl); rw [e]; rfl),
          Grow.h2_move (Or.inl rfl) _ (Or.inl rfl) (fun a wx hk => by have e : a.eval (.tmp 11) = _ := hk.rest 11 (by kernel_rfl); rw [e]; rfl),
          Grow.h2_rem64 (Or.inl rfl) 6 35 k rfl (by kernel_rfl) rfl rfl,
          Grow.h2_idx22 (Or.inl rfl) 5 34 7 36 g3 0 64 c3 (k % 64) (Nat.mod_lt _ (by decide)) rfl (by kernel_rfl) (by kernel_rfl) rfl rfl rfl,
          Grow.h2_load5 (Or.inl rfl) 8 37 g3 (0 + k % 64) (BB.getD (k % 64) 0) rfl (by kernel_rfl) rfl HCB.out.1 HCB.out.2 rfl,
          Grow.h2_xor5 (Or.inl rfl) 4 33 9 38 _ _ rfl (by kernel_rfl) (by kernel_rfl) rfl rfl rfl,
          Grow.h2_build1 (Or.inl rfl) 10 39 _ rfl (by kernel_rfl) rfl rfl,
          trivial⟩ ?_
        intro a1 w6 hb1 hts hk1 hdf hfr
        have ea : a1.eval (.tmp 29) = .slice av (Ch.strk KK n NN P k).length cv := hk1 0 29 (by decide) rfl
        obtain ⟨gy, ey, hgy, hcy⟩ : ∃ g, a1.eval (.tmp 40) = .slice (some ⟨g, 0, none⟩) 1 1 ∧ w5.heap.size ≤ g ∧ w6.heap[g]? = some (.cells #[.int .u8 (Ch.xr8 (P.getD k 0) (BB.getD (k % 64) 0))] 5 (0, 0)) := hk1 11 40 (by decide) rfl
        refine ⟨rfl, Grow.wp_append_byte (.tmp 29) (.tmp 40) rfl w.heap.size (.slice av (Ch.strk KK n NN P k).length cv) (Ch.strk KK n NN P k) ea (OW.out.below hb1) _ (Ch.xr8_W _ _) gy ey hcy HLE.out ?_⟩
        intro v7 w7 hv7 hg7 hat7
        refine ⟨rfl, Grow.wp_assign 9 (.tmp 41) rfl rfl ?_⟩
        have e41 : (a1.put (some 41) v7).eval (.tmp 41) = v7 := Grow.eval_put_eq (by rw [hts]; exact Nat.le_of_ble_eq_true rfl)
        have hlt3 : g3 < w6.heap.size := Nat.lt_of_lt_of_le HCB.out.1 hb1.size
        have OW7 : Hid (Own w.heap.size w7 v7 (Ch.strk KK n NN P (k + 1))) := by show Own _ _ _ _; rw [Ch.strk, ← HSX.out]; exact hv7
        have BW7 : Hid (Below w.heap.size w w7) := below_grown2 (BW.out.trans (hb1.mono BW.out.size)) (OW.out.below hb1) hg7
        have H37 : Hid (w7.heap[g3]? = some (.cells cur3 5 (0, 0))) := (hg7.block g3 hlt3 (Ne.symm NE.out)).trans ((hb1.block _ HCB.out.1).trans H3.out)
        have NE7 : Hid (v7.ownBlock ≠ some g3) := by
          rcases hat7 with h | h
          · show _ ≠ _; rw [h]; exact NE.out
          · show _ ≠ _; rw [h]; intro hh; simp at hh; omega
        have ha := Grow.act_after hts hdf hfr
        rw [show Grow.dsts _ 12 = [29, 30, 31, 32, 33, 34, 35, 36, 37, 38, 39, 40] from by kernel_rfl] at ha
        rw [e41]
        simp only [Grow.putAll] at ha
        generalize a1.eval (.tmp 29) = u29 at ha
        generalize a1.eval (.tmp 30) = u30 at ha
        generalize a1.eval (.tmp 31) = u31 at ha
        generalize a1.eval (.tmp 32) = u32 at ha
        generalize a1.eval (.tmp 33) = u33 at ha
        generalize a1.eval (.tmp 34) = u34 at ha
        generalize a1.eval (.tmp 35) = u35 at ha
        generalize a1.eval (.tmp 36) = u36 at ha
        generalize a1.eval (.tmp 37) = u37 at ha
        generalize a1.eval (.tmp 38) = u38 at ha
        generalize a1.eval (.tmp 39) = u39 at ha
        generalize a1.eval (.tmp 40) = u40 at ha
        simp [Act.put] at ha
        clear hk1 hts hdf hfr ea ey hcy hgy e41 hv7 hg7 hat7 hlt3 hb1 HCA HCB H3 OW BW NE
        subst ha
        unfold Grow.wpSeq
        go_wp2_with fail
        go_roundw
        case rel => exact ⟨k + 1, by omega, by go_num, OW7, BW7, by show _ ∨ _; rw [Nat.add_sub_cancel, ← HJ.out, HBB.out]; exact Or.inr ⟨g3, c3, cur3, rfl, H37.out, C3.out, NE7.out⟩⟩
        case measure => simp [intOf]; omega
      · have HBX : Hid (Bs wr (.slice av (Ch.strk KK n NN P k).length cv) u10 (Ch.block (Ch.st KK (Ch.cnt n (k / 64)) NN))) := by
          rcases BX.out with h | h
          · omega
          · rw [show (k - 1) / 64 = k / 64 by omega] at h; exact h
        clear BX HBL
        generalize hBB : Ch.block (Ch.st KK (Ch.cnt n (k / 64)) NN) = BB at *
        have HBB := Lib.hid hBB
        clear hBB
        obtain ⟨g3, c3, cur3, rfl, hh3, hc3, hne3⟩ := HBX.out
        have H3 := Lib.hid hh3
        have C3 := Lib.hid hc3
        have NE := Lib.hid hne3
        have h01 : ¬ (k : Int) % 64 = 0 := by omega
        clear HBX hh3 hc3 hne3 h0
        go_wp2_with fail
        clear h01
        have HCA : Hid (b1 < wr.heap.size ∧ wr.cell? ⟨b1, o1 + k, none⟩ = some (.int .u8 (P.getD k 0))) := ⟨Nat.lt_of_lt_of_le hb1 BW.out.size, (BW.out.cell (p := ⟨b1, o1 + k, none⟩) hb1).trans hc1⟩
        have HCB : Hid (g3 < wr.heap.size ∧ wr.cell? ⟨g3, 0 + k % 64, none⟩ = some (.int .u8 (BB.getD (k % 64) 0))) := ⟨lt_of_block H3.out, by rw [cell_of_row wr g3 _ _ 5 (0, 0) H3.out, Nat.zero_add]; exact C3.out _ (Nat.mod_lt _ (by decide))⟩
        clear hc1 hb1 hcap1
        refine Grow.region_rest (by kernel_rfl) 12 (fun i => List.getD (Grow.Spec.is (.slice av (Ch.strk KK n NN P k).length cv) :: Grow.Spec.is (.slice (some ⟨b1, o1, none⟩) P.length cp) :: Grow.Spec.is (.int .i64 (k : Nat)) :: Grow.Spec.is (.pointer (some ⟨b1, o1 + k, none⟩)) :: Grow.Spec.is (.int .u8 (P.getD k 0)) :: Grow.Spec.is (.slice (some ⟨g3, 0, none⟩) 64 c3) :: Grow.Spec.is (.int .i64 (k : Nat)) :: Grow.Spec.is (.int .i64 ((k % 64 : Nat) : Int)) :: Grow.Spec.is (.pointer (some ⟨g3, 0 + k % 64, none⟩)) :: Grow.Spec.is (.int .u8 (BB.getD (k % 64) 0)) :: Grow.Spec.is (.int .u8 (Ch.xr8 (P.getD k 0) (BB.getD (k % 64) 0))) :: Grow.newByte wr (Ch.xr8 (P.getD k 0) (BB.getD (k % 64) 0)) :: []) i (Grow.Spec.is undef)) (by kernel_rfl) ⟨
          Grow.h2_move (Or.inl rfl) _ (Or.inl rfl) (fun a wx hk => by have e : a.eval (.tmp 9) = _ := hk.rest 9 (by kernel_rfl); rw [e]; rfl),
          Grow.h2_move (Or.inl rfl) _ (Or.inl rfl) (fun a wx hk => by have e : a.eval (.tmp 3) = _ := hk.rest 3 (by kernel_rfl); rw [e]; rfl),
          Grow.h2_move (Or.inl rfl) _ (Or.inl rfl) (fun a wx hk => by have e : a.eval (.tmp 11) = _ := hk.rest 11 (by kernel_rfl); rw [e]; rfl),
          Grow.h2_idx22 (Or.inl rfl) 1 30 2 31 b1 o1 P.length cp k hlt rfl (by kernel_rfl) (by kernel_rfl) rfl rfl rfl,
          Grow.h2_load5 (Or.inl rfl) 3 32 b1 (o1 + k) (P.getD k 0) rfl (by kernel_rfl) rfl HCA.out.1 HCA.out.2 rfl,
          Grow.h2_move (Or.inl rfl) _ (Or.inl rfl) (fun a wx hk => by have e : a.eval (.tmp 10) = _ := hk.rest 10 (by kernel_rfl); rw [e]; rfl),
          Grow.h2_move (Or.inl rfl) _ (Or.inl rfl) (fun a wx hk => by have e : a.eval (.tmp 11) = _ := hk.rest 11 (by kernel_rfl); rw [e]; rfl),
          Grow.h2_rem64 (Or.inl rfl) 6 35 k rfl (by kernel_rfl) rfl rfl,
          Grow.h2_idx22 (Or.inl rfl) 5 34 7 36 g3 0 64 c3 (k % 64) (Nat.mod_lt _ (by decide)) rfl (by kernel_rfl) (by kernel_rfl) rfl rfl rfl,
          Grow.h2_load5 (Or.inl rfl) 8 37 g3 (0 + k % 64) (BB.getD (k % 64) 0) rfl (by kernel_rfl) rfl HCB.out.1 HCB.out.2 rfl,
          Grow.h2_xor5 (Or.inl rfl) 4 33 9 38 _ _ rfl (by kernel_rfl) (by kernel_rfl) rfl rfl rfl,
          Grow.h2_build1 (Or.inl rfl) 10 39 _ rfl (by kernel_rfl) rfl rfl,
          trivial⟩ ?_
        intro a1 w6 hb1 hts hk1 hdf hfr
        have ea : a1.eval (.tmp 29) = .slice av (Ch.strk KK n NN P k).length cv := hk1 0 29 (by decide) rfl
        obtain ⟨gy, ey, hgy, hcy⟩ : ∃ g, a1.eval (.tmp 40) = .slice (some ⟨g, 0, none⟩) 1 1 ∧ wr.heap.size ≤ g ∧ w6.heap[g]? = some (.cells #[.int .u8 (Ch.xr8 (P.getD k 0) (BB.getD (k % 64) 0))] 5 (0, 0)) := hk1 11 40 (by decide) rfl
        refine ⟨rfl, Grow.wp_append_byte (.tmp 29) (.tmp 40) rfl w.heap.size (.slice av (Ch.strk KK n NN P k).length cv) (Ch.strk KK n NN P k) ea (OW.out.below hb1) _ (Ch.xr8_W _ _) gy ey hcy HLE.out ?_⟩
        intro v7 w7 hv7 hg7 hat7
        refine ⟨rfl, Grow.wp_assign 9 (.tmp 41) rfl rfl ?_⟩
        have e41 : (a1.put (some 41) v7).eval (.tmp 41) = v7 := Grow.eval_put_eq (by rw [hts]; exact Nat.le_of_ble_eq_true rfl)
        have hlt3 : g3 < w6.heap.size := Nat.lt_of_lt_of_le HCB.out.1 hb1.size
        have OW7 : Hid (Own w.heap.size w7 v7 (Ch.strk KK n NN P (k + 1))) := by show Own _ _ _ _; rw [Ch.strk, ← HSX.out]; exact hv7
        have BW7 : Hid (Below w.heap.size w w7) := below_grown2 (BW.out.trans (hb1.mono BW.out.size)) (OW.out.below hb1) hg7
        have H37 : Hid (w7.heap[g3]? = some (.cells cur3 5 (0, 0))) := (hg7.block g3 hlt3 (Ne.symm NE.out)).trans ((hb1.block _ HCB.out.1).trans H3.out)
        have NE7 : Hid (v7.ownBlock ≠ some g3) := by
          rcases hat7 with h | h
          · show _ ≠ _; rw [h]; exact NE.out
          · show _ ≠ _; rw [h]; intro hh; simp at hh; omega
        have ha := Grow.act_after hts hdf hfr
        rw [show Grow.dsts _ 12 = [29, 30, 31, 32, 33, 34, 35, 36, 37, 38, 39, 40] from by kernel_rfl] at ha
        rw [e41]
        simp only [Grow.putAll] at ha
        generalize a1.eval (.tmp 29) = u29 at ha
        generalize a1.eval (.tmp 30) = u30 at ha
        generalize a1.eval (.tmp 31) = u31 at ha
        generalize a1.eval (.tmp 32) = u32 at ha
        generalize a1.eval (.tmp 33) = u33 at ha
        generalize a1.eval (.tmp 34) = u34 at ha
        generalize a1.eval (.tmp 35) = u35 at ha
        generalize a1.eval (.tmp 36) = u36 at ha
        generalize a1.eval (.tmp 37) = u37 at ha
        generalize a1.eval (.tmp 38) = u38 at ha
        generalize a1.eval (.tmp 39) = u39 at ha
        generalize a1.eval (.tmp 40) = u40 at ha
        simp [Act.put] at ha
        clear hk1 hts hdf hfr ea ey hcy hgy e41 hv7 hg7 hat7 hlt3 hb1 HCA HCB H3 OW BW NE
        subst ha
        unfold Grow.wpSeq
        go_wp2_with fail
        go_roundw
        case rel => exact ⟨k + 1, by omega, by go_num, OW7, BW7, by show _ ∨ _; rw [Nat.add_sub_cancel, HBB.out]; exact Or.inr ⟨g3, c3, cur3, rfl, H37.out, C3.out, NE7.out⟩⟩
        case measure => simp [intOf]; omega
    · obtain rfl : k = P.length := by omega
      go_wp2_with fail
      go_ret
      exact ⟨_, rfl, OW.out, BW.out⟩
end Go.Proofs.Yticoefnojgaplaa
