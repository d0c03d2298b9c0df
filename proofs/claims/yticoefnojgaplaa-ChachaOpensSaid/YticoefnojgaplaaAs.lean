/- The walk of Stream. -/
import Derived.Test.YticoefnojgaplaaAr
namespace Go.Proofs.Yticoefnojgaplaa
open Go.RowKit

theorem block_form (w : World) (S : List Int) (hl : S.length = 16) (hok : Ch.Ok S) :
    Calls Try.prog 19 #[.agg (S.map (Value.int .u32)).toArray] w fun e w' => ∃ g c cur, e = .returned (.slice (some ⟨g, 0, none⟩) 64 c) ∧ w.heap.size ≤ g ∧ w'.heap[g]? = some (.cells cur 5 (0, 0)) ∧ 64 ≤ c ∧ (∀ t, t < 64 → cur[t]? = some (.int .u8 ((Ch.block S).getD t 0))) ∧ Below w.heap.size w w' := by
  refine (block_any w S hl hok).mono ?_
  rintro e w' ⟨v', rfl, hv, hb⟩
  have hbl := Ch.block_length S
  obtain ⟨g, cap, cur, h1, h2, h3, h4, h5, h6⟩ := hv.block (by rw [hbl]; decide)
  rw [hbl] at h1 h4 h6
  refine ⟨g, cap, cur, by rw [h1], h2, h3, h4, fun t ht => ?_, hb⟩
  have e : (cur.toList.take 64)[t]? = some (.int .u8 ((Ch.block S).getD t 0)) := by rw [h6]; simp [hbl, ht]
  rw [List.getElem?_take_of_lt ht] at e
  simpa using e
theorem sb_at (K : List Int) (n : Int) (N : List Int) (j t : Nat) (ht : t < 64) : Ch.sb K n N (64 * j + t) = (Ch.block (Ch.st K (Ch.cnt n j) N)).getD t 0 := by
  unfold Ch.sb
  rw [show (64 * j + t) / 64 = j by omega, show (64 * j + t) % 64 = t by omega]
theorem run_cut64 (g c m : Nat) (hm : m ≤ 64) (hc : 64 ≤ c) (w : World) : (Instr.slice 22 (.slice (some ⟨g, 0, none⟩) 64 c) none (some (.int .i64 (m : Int))) none).run Try.prog w = .ok (.slice (some ⟨g, 0, none⟩) m c) w := by
  rw [run_cutH _ 64 c m (by omega) _ rfl, sliced_whole g m c (by omega)]
set_option maxRecDepth 100000 in
set_option maxHeartbeats 1000000 in
theorem stream_any (w : World) (ak : Option Addr) (ck : Nat) (K : List Int) (hK : Slc w (.slice ak K.length ck) K) (n : Int) (hn : W32 n) (an : Option Addr) (cn : Nat) (N : List Int) (hN : Slc w (.slice an N.length cn) N) (ap : Option Addr) (cp : Nat) (P : List Int) (hP : Slc w (.slice ap P.length cp) P) (hl : P.length ≤ 100000) :
    Calls Try.prog 11 #[.slice ak K.length ck, .int .u32 n, .slice an N.length cn, .slice ap P.length cp] w fun e w' => ∃ v', e = .returned v' ∧ Own w.heap.size w' v' (Ch.stream (fit K 32) n (fit N 12) P) ∧ Below w.heap.size w w' := by
  have HP := Lib.hid hP
  have h8 : Hid (∀ x ∈ P, W8 x) := by obtain ⟨_, _, _, _, h, _⟩ := hP; exact h
  have hk8 : ∀ x ∈ K, W8 x := by obtain ⟨_, _, _, _, h, _⟩ := hK; exact h
  have hn8 : ∀ x ∈ N, W8 x := by obtain ⟨_, _, _, _, h, _⟩ := hN; exact h
  have H8 := Lib.hid (fit_W8 hk8 32)
  have N8 := Lib.hid (fit_W8 hn8 12)
  have hmk := fun w => run_mk8 w P.length P.length rfl (by omega)
  have hb0 : Below w.heap.size w (w.alloc (.cells ((zs P.length).map (Value.int .u8)).toArray 5)) := (Below.refl _ _).alloc (Nat.le_refl _) _
  have hst := start_any (w.alloc (.cells ((zs P.length).map (Value.int .u8)).toArray 5)) ak ck K (hK.below hb0 (Nat.le_refl _)) n hn an cn N (hN.below hb0 (Nat.le_refl _))
  have HO0 : Hid (Blk (w.alloc (.cells ((zs P.length).map (Value.int .u8)).toArray 5)) w.heap.size .u8 5 (zs P.length)) := heap_alloc_new w _
  have HB0 := Lib.hid hb0
  have HZS := Lib.hid (Ch.stro_zero (fit K 32) n (fit N 12) P)
  have HCZ := Lib.hid (Ch.cnt_zero hn)
  have HL := Lib.hid hl
  clear hK hN hP hk8 hn8 hb0 hl
  generalize fit K 32 = KK at *
  generalize fit N 12 = NN at *
  have HSZ : Hid ((Try.prog.info? 37).map (·.size) = some ((Ch.st KK n NN).map (Value.int .u32)).toArray.size) := by show _ = _; rw [i37]; simp [Ch.st_length]
  have HEQ : Hid (((List.replicate 16 (0 : Int)).map (Value.int .u32)).toArray.size = ((Ch.st KK n NN).map (Value.int .u32)).toArray.size) := by show _ = _; simp [Ch.st_length]
  unfold wv at hst
  have HST := Lib.hid hst
  clear hst
  go_enter Try.func11, Try.ntmps11
  go_wp2_with (first
    | ((with_reducible refine wpList_store_row (o := ⟨none, _, _, _, _, _⟩) rfl 37 (.tmp 10) (.tmp 20) rfl w1.heap.size ((Ch.st KK n NN).map (Value.int .u32)).toArray rfl rfl 37 ((List.replicate 16 (0 : Int)).map (Value.int .u32)).toArray ?_ ?_ ?_ ?_ ?_); exact heap_alloc_new w1 (.cells ((List.replicate 16 (0 : Int)).map (Value.int .u32)).toArray 37); exact HSZ.out; exact HEQ.out; exact words_one _; rw [World.setRow_alloc_new])
    | (go_at_call 18; refine HST.out.mono ?_; rintro e w1 ⟨rfl, hb⟩; have B1 := Lib.hid (HB0.out.trans (hb.mono HB0.out.size)); have O1 := Lib.hid (HO0.out.other (hb.block _ HO0.out.lt)); clear hb))
  have T0 : Hid (StS w w.heap.size w1.heap.size (Ch.stro KK n NN P 0) (Ch.st KK (Ch.cnt n 0) NN) (w1.alloc (.cells ((Ch.st KK n NN).map (Value.int .u32)).toArray 37))) := by
    show StS _ _ _ _ _ _
    rw [HZS.out, HCZ.out]
    exact ⟨O1.out.other (Below.heap_alloc _ _ _ O1.out.lt), heap_alloc_new w1 _, ⟨Nat.le_refl _, O1.out.lt⟩, B1.out.alloc B1.out.size _⟩
  clear hmk HO0 HB0 HCZ HSZ HEQ HST B1 O1 HZS
  generalize w1.alloc (.cells ((Ch.st KK n NN).map (Value.int .u32)).toArray 37) = w2 at *
  generalize w1.heap.size = g2 at *
  go_loopw [11] (fun i wr => ∃ a j : Nat, Hid (a = 64 * j) ∧ a ≤ P.length + 63 ∧ i = .int .i64 a ∧ Hid (StS w w.heap.size g2 (Ch.stro KK n NN P (min a P.length)) (Ch.st KK (Ch.cnt n j) NN) wr)) (fun i _ => P.length - (intOf i).toNat)
  case atStart => exact ⟨0, 0, rfl, by omega, rfl, by rw [Nat.zero_min]; exact T0⟩
  case round =>
    clear T0
    obtain ⟨a, j, HA, ha, rfl, T⟩ := hrel
    by_cases hlt : a < P.length
    · obtain ⟨r, hr⟩ : ∃ r, r = P.length - a := ⟨_, rfl⟩
      obtain ⟨m, hm⟩ : ∃ m, m = min r 64 := ⟨_, rfl⟩
      have hsub : (P.length : Int) - (a : Int) = (r : Int) := by omega
      have hwr : wrap64 (r : Int) = (r : Int) := by have := HL.out; unfold wrap64; omega
      have hif : (if (r : Int) < 64 then (r : Int) else 64) = (m : Int) := by split <;> omega
      have HM : Hid (m ≤ 64 ∧ a + m ≤ P.length ∧ min a P.length = a ∧ min (a + 64) P.length = a + m) := ⟨by omega, by omega, by omega, by omega⟩
      rw [HM.out.2.2.1] at T
      have HSL : Hid ((Ch.st KK (Ch.cnt n j) NN).length = 16) := Ch.st_length _ _ _
      have HBL := Lib.hid (block_form wr (Ch.st KK (Ch.cnt n j) NN) HSL.out (Ch.st_ok H8.out (Ch.cnt_W n j) N8.out))
      have HSZ : Hid ((Try.prog.info? 37).map (·.size) = some ((Ch.st KK (Ch.cnt n j) NN).map (Value.int .u32)).toArray.size) := by show _ = _; rw [i37]; simp [Ch.st_length]
      have HSB := Lib.hid (fun t (ht : t < 64) => sb_at KK n NN j t ht)
      have HG := Lib.hid (Ch.st_get12 KK (Ch.cnt n j) NN)
      have HS12 := Lib.hid (Ch.st_set12 KK (Ch.cnt n j) (Ch.ad (Ch.cnt n j) 1) NN)
      rw [Ch.cnt_more] at HS12
      have hcut := fun g c w (hc : 64 ≤ c) => run_cut64 g c m HM.out.1 hc w
      clear hr hm
      generalize Ch.st KK (Ch.cnt n j) NN = S at *
      go_wp2_with (first
        | ((with_reducible refine wpList_load_row (o := ⟨some 27, _, _, _, _, _⟩) rfl 37 (.tmp 10) rfl g2 rfl 37 (S.map (Value.int .u32)).toArray (0, 0) _ ?_ Try.underlying37 rfl ?_ ?_); exact T.out.ss; exact HSZ.out)
        | (go_at_call 19; refine HBL.out.mono ?_; rintro e w4 ⟨g3, c3, cur3, rfl, hg3, hh3, hc3, ht3, hb⟩; have T4 := Lib.hid (T.out.below hb); have H3 := Lib.hid hh3; have C3 := Lib.hid ht3; have G3 := Lib.hid (Nat.lt_of_lt_of_le T.out.ss.lt hg3); clear hb hh3 ht3 hg3))
      go_loopw [36] (fun i wr => ∃ t : Nat, t ≤ m ∧ i = .int .i64 t ∧ Hid (StS w w.heap.size g2 (Ch.stro KK n NN P (a + t)) S wr) ∧ Hid (wr.heap[g3]? = some (.cells cur3 5 (0, 0)))) (fun i _ => m - (intOf i).toNat)
      case atStart => exact ⟨0, by omega, rfl, T4, H3⟩
      case round =>
        clear T4 H3 hcut hif hwr hsub HBL HSZ T
        obtain ⟨t, ht, rfl, TI, HI⟩ := hrel
        have hm64 : m ≤ 64 := HM.out.1
        have ham : a + m ≤ P.length := HM.out.2.1
        by_cases hlt2 : t < m
        · have hq : a + t < P.length := by omega
          have hq1 : a + t ≤ 100000 := by have := HL.out; omega
          have ha1 : a ≤ 100000 := by omega
          have ht64 : t < 64 := by omega
          obtain ⟨b1, o1, rfl, hb1, hc1, hcap1⟩ := slc_cell HP.out _ hq
          have hca := (TI.out.bb.cell (p := ⟨b1, o1 + (a + t), none⟩) hb1).trans hc1
          have hcb : wr.cell? ⟨g3, t, none⟩ = some (.int .u8 ((Ch.block S).getD t 0)) := by
            rw [cell_of_row wr g3 t _ 5 (0, 0) HI.out]
            exact C3.out t ht64
          have hco := TI.out.oo.cell (a + t) (by rw [Ch.stro_length _ _ _ _ _ (by omega)]; exact hq)
          have hfo := TI.out.oo.free (a + t)
          have hsx : Ch.xr8 (P.getD (a + t) 0) ((Ch.block S).getD t 0) = Ch.sx KK n NN P (a + t) := by
            unfold Ch.sx
            rw [HA.out, HSB.out t ht64]
          have hset : StS w w.heap.size g2 (Ch.stro KK n NN P (a + (t + 1))) S (wr.setCell ⟨w.heap.size, a + t, none⟩ (.int .u8 (bits .xor .u8 (P.getD (a + t) 0) ((Ch.block S).getD t 0)))) := by
            have h := TI.out.putO (a + t) (Ch.xr8 (P.getD (a + t) 0) ((Ch.block S).getD t 0))
            rw [show (Ch.stro KK n NN P (a + t)).set (a + t) (Ch.xr8 (P.getD (a + t) 0) ((Ch.block S).getD t 0)) = Ch.stro KK n NN P (a + (t + 1)) from by rw [hsx]; exact Ch.stro_more _ _ _ _ _ hq] at h
            exact h
          have hne : w.heap.size ≠ g3 := by have h1 := TI.out.ne.2; have h2 := G3.out; omega
          have hkeep : (wr.setCell ⟨w.heap.size, a + t, none⟩ (.int .u8 (bits .xor .u8 (P.getD (a + t) 0) ((Ch.block S).getD t 0)))).heap[g3]? = some (.cells cur3 5 (0, 0)) := (heap_setCell_other _ _ _ _ (by simp; omega)).trans HI.out
          have HSET := Lib.hid hset
          have HKEEP := Lib.hid hkeep
          have hsum : (a : Int) + (t : Int) = ((a + t : Nat) : Int) := by omega
          clear hset hkeep hsx hc1 hne hcap1
          generalize P.getD (a + t) 0 = xa at *
          generalize (Ch.block S).getD t 0 = xb at *
          generalize (Ch.stro KK n NN P (a + t)).getD (a + t) 0 = xo at *
          generalize hqq : a + t = q at *
          clear hqq
          go_wp2
          go_roundw
          case rel => exact ⟨t + 1, by omega, by go_num, HSET, HKEEP⟩
          case measure => simp [intOf]; omega
        · obtain rfl : t = m := by omega
          have c12 := TI.out.ss.cell 12 (by rw [HSL.out]; decide)
          rw [HG.out] at c12
          have f12 := TI.out.ss.free 12
          have hset : StS w w.heap.size g2 (Ch.stro KK n NN P (a + t)) (Ch.st KK (Ch.cnt n (j + 1)) NN) (wr.setCell ⟨g2, 12, none⟩ (.int .u32 (IntKind.u32.wrap (Ch.cnt n j + 1)))) := by
            have h := TI.out.putS 12 (Ch.ad (Ch.cnt n j) 1)
            rw [show S.set 12 (Ch.ad (Ch.cnt n j) 1) = Ch.st KK (Ch.cnt n (j + 1)) NN from by rw [Ch.cnt_more]; exact HS12.out] at h
            exact h
          have HSET := Lib.hid hset
          clear hset HS12
          have ha1 : a ≤ 100000 := by have := HL.out; omega
          generalize Ch.cnt n j = x at *
          go_wp2
          go_roundw
          case rel => exact ⟨a + 64, j + 1, by show _ = _; rw [HA.out]; omega, by omega, by go_num, by rw [HM.out.2.2.2]; exact HSET⟩
          case measure => simp [intOf]; omega
    · rw [show min a P.length = P.length by omega, Ch.stro_all] at T
      have HOW := Lib.hid (T.out.oo.own (Nat.le_refl _) (Ch.strk_W8 _ _ _ _ _) (by rw [Ch.stream_length]; have := HL.out; omega))
      rw [Ch.stream_length] at HOW
      go_wp2
      go_ret
      exact ⟨_, rfl, HOW.out, T.out.bb⟩
end Go.Proofs.Yticoefnojgaplaa
