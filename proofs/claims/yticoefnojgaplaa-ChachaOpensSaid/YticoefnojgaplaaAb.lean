/- The reference's Mod: bit by bit. -/
import Derived.Test.YticoefnojgaplaaAa
namespace Go.Proofs.Yticoefnojgaplaa
open Go.RowKit

theorem half_pow (X : Int) (t : Nat) : X / 2 ^ (t + 1) = X / 2 ^ t / 2 := by
  have h := Int.pow_pos (n := 2) (m := t) (by decide)
  rw [Int.pow_succ, Int.ediv_ediv, if_neg (by omega), Int.sub_zero]
set_option maxRecDepth 100000 in
set_option maxHeartbeats 1000000 in
theorem mod_nv (w : World) (va vb : Value) (X M : Int) (LA K : Nat) (ha : Nv w va X LA) (hm : Nv w vb M K) (hLA : LA ≤ 100000) (hK : K ≤ 40000) (h0 : 0 < M) :
    Calls Try.prog 32 #[va, vb] w fun e w' => ∃ v', e = .returned v' ∧ Nv w' v' (X % M) K ∧ Below w.heap.size w w' := by
  have HA := Lib.hid ha
  have HM := Lib.hid hm
  have HX := Lib.hid ha.nonneg
  have HMK := Lib.hid hm.lt
  have HL := Lib.hid (len_nv w va X LA ha hLA)
  clear ha hm
  go_enter Try.func32, Try.ntmps32
  go_wp2_with (go_at_call 42; refine HL.out.mono ?_; rintro e w1 ⟨n, rfl, hn1, hn2, hw⟩; obtain rfl := hw.symm; clear hw; have HN := Lib.hid hn1; clear hn1)
  clear HL
  go_loopw [5, 6] (fun u i wr => ∃ (j : Nat) (I : Int), I + 1 = j ∧ j ≤ n ∧ i = .int .i64 I ∧ Hid (Nv wr u (X / 2 ^ j % M) K) ∧ Hid (Below w.heap.size w wr)) (fun _ i _ => (intOf i + 1).toNat)
  case atStart =>
    refine ⟨n, (n : Int) - 1, by omega, Nat.le_refl _, rfl, ?_, Below.refl _ _⟩
    show Nv _ _ _ _
    rw [Int.ediv_eq_zero_of_lt HX.out HN.out, Int.zero_emod]
    obtain ⟨l, a1, a2, a3, a4⟩ := Nv.zero w
    exact ⟨l, a1, a2, a3, Nat.le_trans a4 (Nat.zero_le _)⟩
  case round =>
    obtain ⟨j, I, hI, hjn, rfl, HU, BW⟩ := hrel
    by_cases hj : 0 < j
    · obtain ⟨t, rfl⟩ : ∃ t, j = t + 1 := ⟨j - 1, by omega⟩
      have hit : I = (t : Int) := by omega
      have HBIT := fun wq (hb : Below w.heap.size w wq) => bit_nv wq va X LA t I hit (HA.out.below hb (Nat.le_refl _)) hLA (by omega)
      clear hit
      have hst := mod_step (x := X / 2 ^ t) (q := X / 2 ^ t / 2) (m := M) (s := X / 2 ^ t / 2 % M) (b := X / 2 ^ t % 2) h0 (by omega) rfl (by omega) (by omega)
      have hbb : X / 2 ^ t % 2 = 0 ∨ X / 2 ^ t % 2 = 1 := by omega
      have HUS : Hid (Nv wr u5 (X / 2 ^ t / 2 % M) K) := by show Nv _ _ _ _; rw [← half_pow]; exact HU.out
      clear HU HN
      generalize X / 2 ^ t / 2 % M = s at *
      generalize X / 2 ^ t % 2 = b at *
      generalize hY : X / 2 ^ t % M = Y at *
      have HY := Lib.hid hY
      clear hY
      obtain ⟨hs0, hsM, hlt, hge⟩ := hst
      have HP1 := Lib.hid (plus_nv wr u5 u5 s s K K HUS.out HUS.out (by omega) (by omega))
      have hcl := fun (T : Int) (L : Nat) (hL : L ≤ 1000000) (hT : T < M) w2 u2 (h : Nv w2 u2 T L) (hb : Below w.heap.size w w2) => (cmp_nv w2 u2 vb T M L K h (HM.out.below hb (Nat.le_refl _)) hL (by omega)).mono (R' := fun e w' => ∃ r : Int, e = .returned (.int .i64 r) ∧ r < 0 ∧ Below w2.heap.size w2 w') (by rintro e w' ⟨r, rfl, h1, h2⟩; exact ⟨r, rfl, h1.2 hT, h2⟩)
      have hcg := fun (T : Int) (L : Nat) (hL : L ≤ 1000000) (hT : M ≤ T) w2 u2 (h : Nv w2 u2 T L) (hb : Below w.heap.size w w2) => (cmp_nv w2 u2 vb T M L K h (HM.out.below hb (Nat.le_refl _)) hL (by omega)).mono (R' := fun e w' => ∃ r : Int, e = .returned (.int .i64 r) ∧ 0 ≤ r ∧ Below w2.heap.size w2 w') (by rintro e w' ⟨r, rfl, h1, h2⟩; exact ⟨r, rfl, by have := h1.1; omega, h2⟩)
      have hls := fun (T : Int) (L : Nat) (hL : L ≤ 100000) (hT : M ≤ T) w2 u2 (h : Nv w2 u2 T L) (hb : Below w.heap.size w w2) => less_nv w2 u2 vb T M L K h (HM.out.below hb (Nat.le_refl _)) hL hT
      rcases hbb with rfl | rfl
      · have HB := Lib.hid HBIT
        clear HBIT
        have HP1 : Hid (Calls Try.prog 34 #[u5, u5] wr fun e w' => ∃ v', e = .returned v' ∧ Nv w' v' (s + s + 0) (K + K + 1) ∧ Below wr.heap.size wr w') := by rw [Int.add_zero]; exact HP1
        by_cases hge2 : M ≤ (s + s + 0)
        · have HC := Lib.hid (hcg (s + s + 0) (K + K + 1) (by omega) hge2)
          have HS := Lib.hid (hls (s + s + 0) (K + K + 1) (by omega) hge2)
          obtain ⟨hr, hrM⟩ := hge hge2
          have HR := Lib.hid hr
          have HRM := Lib.hid hrM
          clear hcl hcg hls hlt hge hge2 hr hrM hs0 hsM h0
          go_wp2_with (first
          | (go_at_call 45; refine (HS.out w3 v1 (HN1.out.below HBC.out (Nat.le_refl _)) HB3.out).mono ?_; rintro e w4 ⟨v4, rfl, hv, hb⟩; have HN4 := Lib.hid hv; have HB4 := Lib.hid (HB3.out.trans (hb.mono HB3.out.size)); clear hv hb)
          | (go_at_call 44; refine (HC.out w1 v1 HN1.out HB1.out).mono ?_; rintro e w3 ⟨r, rfl, hr, hb⟩; have HBC := Lib.hid hb; have HB3 := Lib.hid (HB1.out.trans (hb.mono HB1.out.size)); clear hb)
          | (go_at_call 43; refine (HB.out w1 HB1.out).mono ?_; rintro e w9 ⟨rfl, hw⟩; obtain rfl := hw.symm; clear hw)
          | (go_at_call 34; refine HP1.out.mono ?_; rintro e w1 ⟨v1, rfl, hv, hb⟩; have HN1 := Lib.hid hv; have HB1 := Lib.hid (BW.out.trans (hb.mono BW.out.size)); clear hv hb))
          go_roundw
          case rel => exact ⟨t, I - 1, by omega, by omega, by go_num, (show Nv _ _ _ _ by rw [HY.out, ← HR.out]; exact HN4.out.shrink (Int.lt_trans HRM.out HMK.out)), HB4.out⟩
          case measure => simp [intOf]; omega
        · have HC := Lib.hid (hcl (s + s + 0) (K + K + 1) (by omega) (by omega))
          have hr := hlt (by omega)
          have hrM : (s + s + 0) < M := by omega
          have HR := Lib.hid hr
          have HRM := Lib.hid hrM
          clear hcl hcg hls hlt hge hge2 hr hrM hs0 hsM h0
          go_wp2_with (first
          | (go_at_call 44; refine (HC.out w1 v1 HN1.out HB1.out).mono ?_; rintro e w3 ⟨r, rfl, hr, hb⟩; have HBC := Lib.hid hb; have HB3 := Lib.hid (HB1.out.trans (hb.mono HB1.out.size)); clear hb)
          | (go_at_call 43; refine (HB.out w1 HB1.out).mono ?_; rintro e w9 ⟨rfl, hw⟩; obtain rfl := hw.symm; clear hw)
          | (go_at_call 34; refine HP1.out.mono ?_; rintro e w1 ⟨v1, rfl, hv, hb⟩; have HN1 := Lib.hid hv; have HB1 := Lib.hid (BW.out.trans (hb.mono BW.out.size)); clear hv hb))
          go_roundw
          case rel => exact ⟨t, I - 1, by omega, by omega, by go_num, (show Nv _ _ _ _ by rw [HY.out, ← HR.out]; exact (HN1.out.below HBC.out (Nat.le_refl _)).shrink (Int.lt_trans HRM.out HMK.out)), HB3.out⟩
          case measure => simp [intOf]; omega
      · have HB := Lib.hid HBIT
        clear HBIT
        have HP2 : Hid (∀ w1 u1, Nv w1 u1 (s + s) (K + K + 1) → Calls Try.prog 34 #[u1, .slice (some ⟨w1.heap.size, 0, none⟩) 1 1] (w1.alloc (.cells #[.int .u32 1] 23)) fun e w' => ∃ v', e = .returned v' ∧ Nv w' v' (s + s + 1) (K + K + 1 + 1 + 1) ∧ Below w1.heap.size w1 w') := by
          intro w1 u1 h1
          have hba : Below w1.heap.size w1 (w1.alloc (.cells #[.int .u32 1] 23)) := (Below.refl _ _).alloc (Nat.le_refl _) _
          have hone : Nv (w1.alloc (.cells #[.int .u32 1] 23)) (.slice (some ⟨w1.heap.size, 0, none⟩) 1 1) 1 1 := by
            have hblk : Blk (w1.alloc (.cells #[.int .u32 1] 23)) w1.heap.size .u32 23 [1] := heap_alloc_new w1 _
            exact ⟨[1], num_blk hblk rfl (by unfold Nt.Ws W32; decide), rfl, fun _ => by decide, Nat.le_refl _⟩
          refine (plus_nv _ _ _ (s + s) 1 (K + K + 1) 1 (h1.below hba (Nat.le_refl _)) hone (by omega) (by decide)).mono ?_
          rintro e w' ⟨v', rfl, h2, h3⟩
          exact ⟨v', rfl, h2, hba.trans (h3.mono hba.size)⟩
        by_cases hge2 : M ≤ (s + s + 1)
        · have HC := Lib.hid (hcg (s + s + 1) (K + K + 1 + 1 + 1) (by omega) hge2)
          have HS := Lib.hid (hls (s + s + 1) (K + K + 1 + 1 + 1) (by omega) hge2)
          obtain ⟨hr, hrM⟩ := hge hge2
          have HR := Lib.hid hr
          have HRM := Lib.hid hrM
          clear hcl hcg hls hlt hge hge2 hr hrM hs0 hsM h0
          go_wp2_with (first
          | (go_at_call 45; refine (HS.out w3 v2 (HN2.out.below HBC.out (Nat.le_refl _)) HB3.out).mono ?_; rintro e w4 ⟨v4, rfl, hv, hb⟩; have HN4 := Lib.hid hv; have HB4 := Lib.hid (HB3.out.trans (hb.mono HB3.out.size)); clear hv hb)
          | (go_at_call 44; refine (HC.out w2 v2 HN2.out HB2.out).mono ?_; rintro e w3 ⟨r, rfl, hr, hb⟩; have HBC := Lib.hid hb; have HB3 := Lib.hid (HB2.out.trans (hb.mono HB2.out.size)); clear hb)
          | (go_at_call 34; refine (HP2.out w1 v1 HN1.out).mono ?_; rintro e w2 ⟨v2, rfl, hv, hb⟩; have HN2 := Lib.hid hv; have HB2 := Lib.hid (HB1.out.trans (hb.mono HB1.out.size)); clear hv hb)
          | (go_at_call 43; refine (HB.out w1 HB1.out).mono ?_; rintro e w9 ⟨rfl, hw⟩; obtain rfl := hw.symm; clear hw)
          | (go_at_call 34; refine HP1.out.mono ?_; rintro e w1 ⟨v1, rfl, hv, hb⟩; have HN1 := Lib.hid hv; have HB1 := Lib.hid (BW.out.trans (hb.mono BW.out.size)); clear hv hb))
          go_roundw
          case rel => exact ⟨t, I - 1, by omega, by omega, by go_num, (show Nv _ _ _ _ by rw [HY.out, ← HR.out]; exact HN4.out.shrink (Int.lt_trans HRM.out HMK.out)), HB4.out⟩
          case measure => simp [intOf]; omega
        · have HC := Lib.hid (hcl (s + s + 1) (K + K + 1 + 1 + 1) (by omega) (by omega))
          have hr := hlt (by omega)
          have hrM : (s + s + 1) < M := by omega
          have HR := Lib.hid hr
          have HRM := Lib.hid hrM
          clear hcl hcg hls hlt hge hge2 hr hrM hs0 hsM h0
          go_wp2_with (first
          | (go_at_call 44; refine (HC.out w2 v2 HN2.out HB2.out).mono ?_; rintro e w3 ⟨r, rfl, hr, hb⟩; have HBC := Lib.hid hb; have HB3 := Lib.hid (HB2.out.trans (hb.mono HB2.out.size)); clear hb)
          | (go_at_call 34; refine (HP2.out w1 v1 HN1.out).mono ?_; rintro e w2 ⟨v2, rfl, hv, hb⟩; have HN2 := Lib.hid hv; have HB2 := Lib.hid (HB1.out.trans (hb.mono HB1.out.size)); clear hv hb)
          | (go_at_call 43; refine (HB.out w1 HB1.out).mono ?_; rintro e w9 ⟨rfl, hw⟩; obtain rfl := hw.symm; clear hw)
          | (go_at_call 34; refine HP1.out.mono ?_; rintro e w1 ⟨v1, rfl, hv, hb⟩; have HN1 := Lib.hid hv; have HB1 := Lib.hid (BW.out.trans (hb.mono BW.out.size)); clear hv hb))
          go_roundw
          case rel => exact ⟨t, I - 1, by omega, by omega, by go_num, (show Nv _ _ _ _ by rw [HY.out, ← HR.out]; exact (HN2.out.below HBC.out (Nat.le_refl _)).shrink (Int.lt_trans HRM.out HMK.out)), HB3.out⟩
          case measure => simp [intOf]; omega
    · obtain rfl : j = 0 := by omega
      have HF : Hid (X / 2 ^ 0 % M = X % M) := by show _ = _; rw [Int.pow_zero, Int.ediv_one]
      rw [HF.out] at HU
      clear HF HN
      go_wp2
      go_ret
      exact ⟨_, rfl, HU.out, BW.out⟩
end Go.Proofs.Yticoefnojgaplaa
