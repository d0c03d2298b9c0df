/- Layer 6, a part of the proof: Ya Yb Yc Yd Ye Yf Yg Yh Yk Yi Ym Yn. -/
import Derived.Test.YtiinmdleechcgaaDoorQF3
import Derived.Test.YtiinmdleechcgaaDoorQR1
import Derived.Test.YtiinmdleechcgaaDoorQH2
import Derived.Test.YtiinmdleechcgaaDoorQN2
namespace Go.Proofs.YtiinmdleechcgaaDoor
open Go.RowKit

/-- A number in so many words. -/
def Nv (w : World) (v : Value) (x : Int) (L : Nat) : Prop := ∃ l, Num w v l ∧ Nt.val l = x ∧ Nt.Neat l ∧ l.length ≤ L
theorem Nv.below {w w' : World} {v : Value} {x : Int} {L B : Nat} (h : Nv w v x L) (hb : Below B w w') (hB : w.heap.size ≤ B) : Nv w' v x L := by
  obtain ⟨l, h1, h2⟩ := h
  exact ⟨l, h1.below hb hB, h2⟩
theorem Nv.nonneg {w : World} {v : Value} {x : Int} {L : Nat} (h : Nv w v x L) : 0 ≤ x := by
  obtain ⟨l, ⟨_, _, _, _, h8, _⟩, rfl, _⟩ := h
  exact Nt.val_nonneg h8
theorem Nv.lt {w : World} {v : Value} {x : Int} {L : Nat} (h : Nv w v x L) : x < Nt.pw L := by
  obtain ⟨l, ⟨_, _, _, _, h8, _⟩, rfl, _, hl⟩ := h
  exact Int.lt_of_lt_of_le (Nt.val_lt h8) (Nt.pw_le hl)
theorem Nv.shrink {w : World} {v : Value} {x : Int} {L K : Nat} (h : Nv w v x L) (hx : x < Nt.pw K) : Nv w v x K := by
  obtain ⟨l, h1, rfl, hn, _⟩ := h
  obtain ⟨_, _, _, _, h8, _⟩ := id h1
  refine ⟨l, h1, rfl, hn, ?_⟩
  apply Decidable.byContradiction
  intro hk
  have h2 := Nt.neat_le hn h8 (by omega)
  have h3 := Nt.pw_le (m := K) (n := l.length - 1) (by omega)
  omega
theorem Nv.zero (w : World) : Nv w (.slice none 0 0) 0 0 := ⟨[], ⟨none, 0, rfl, Nat.le_refl _, Nt.Ws.nil, Or.inl rfl⟩, rfl, fun h => (Nat.lt_irrefl _ h).elim, Nat.le_refl _⟩
theorem plus_nv (w : World) (u v : Value) (x y : Int) (L M : Nat) (hu : Nv w u x L) (hv : Nv w v y M) (hL : L ≤ 100000) (hM : M ≤ 100000) : Calls Tryd.prog 14 #[u, v] w fun e w' => ∃ v', e = .returned v' ∧ Nv w' v' (x + y) (L + M + 1) ∧ Below w.heap.size w w' := by
  obtain ⟨a, h1, rfl, _, h2⟩ := hu
  obtain ⟨b, h3, rfl, _, h4⟩ := hv
  refine (plusn_any w u v a b h1 h3 (by omega) (by omega)).mono ?_
  rintro e w' ⟨v', l, rfl, hn, hv, hne, hl, hb⟩
  exact ⟨v', rfl, ⟨l, hn, hv, hne, by omega⟩, hb⟩
theorem times_nv (w : World) (u v : Value) (x y : Int) (L M : Nat) (hu : Nv w u x L) (hv : Nv w v y M) (hL : L ≤ 100000) (hM : M ≤ 100000) : Calls Tryd.prog 15 #[u, v] w fun e w' => ∃ v', e = .returned v' ∧ Nv w' v' (x * y) (L + M) ∧ Below w.heap.size w w' := by
  obtain ⟨a, h1, rfl, _, h2⟩ := hu
  obtain ⟨b, h3, rfl, _, h4⟩ := hv
  obtain ⟨aa, ca, rfl⟩ := num_form h1
  obtain ⟨ab, cb, rfl⟩ := num_form h3
  refine (times_probe w aa ab ca cb a b h1 h3 (by omega) (by omega)).mono ?_
  rintro e w' ⟨v', l, rfl, hn, hv, hne, hl, hb⟩
  exact ⟨v', rfl, ⟨l, hn, hv, hne, by omega⟩, hb⟩
theorem less_nv (w : World) (u v : Value) (x y : Int) (L M : Nat) (hu : Nv w u x L) (hv : Nv w v y M) (hL : L ≤ 100000) (hle : y ≤ x) : Calls Tryd.prog 40 #[u, v] w fun e w' => ∃ v', e = .returned v' ∧ Nv w' v' (x - y) L ∧ Below w.heap.size w w' := by
  obtain ⟨a, h1, rfl, _, h2⟩ := hu
  obtain ⟨b, h3, rfl, _, h4⟩ := hv
  refine (lessn_any w u v a b h1 h3 (by omega) hle).mono ?_
  rintro e w' ⟨v', l, rfl, hn, hv, hne, hl, hb⟩
  exact ⟨v', rfl, ⟨l, hn, hv, hne, by omega⟩, hb⟩
theorem cmp_nv (w : World) (u v : Value) (x y : Int) (L M : Nat) (hu : Nv w u x L) (hv : Nv w v y M) (hL : L ≤ 1000000) (hM : M ≤ 1000000) : Calls Tryd.prog 39 #[u, v] w fun e w' => ∃ r : Int, e = .returned (.int .i64 r) ∧ (r < 0 ↔ x < y) ∧ Below w.heap.size w w' := by
  obtain ⟨a, h1, rfl, _, h2⟩ := hu
  obtain ⟨b, h3, rfl, _, h4⟩ := hv
  refine (cmp_any w u v a b h1 h3 (by omega) (by omega)).mono ?_
  rintro e w' ⟨r, rfl, _, h, hb⟩
  exact ⟨r, rfl, h, hb⟩
theorem bit_nv (w : World) (u : Value) (x : Int) (L n : Nat) (i : Int) (hi : i = n) (hu : Nv w u x L) (hL : L ≤ 100000) (hn : n ≤ 10000000) : Calls Tryd.prog 33 #[u, .int .i64 i] w fun e w' => e = .returned (.int .u32 (x / 2 ^ n % 2)) ∧ w' = w := by
  obtain ⟨a, h1, rfl, _, h2⟩ := hu
  obtain ⟨_, _, _, _, h8, _⟩ := id h1
  rw [← Nt.bit_val h8]
  exact bit_at w u a n i hi h1 (by omega) hn
theorem len_nv (w : World) (u : Value) (x : Int) (L : Nat) (hu : Nv w u x L) (hL : L ≤ 100000) : Calls Tryd.prog 36 #[u] w fun e w' => ∃ m : Nat, e = .returned (.int .i64 m) ∧ x < 2 ^ m ∧ m ≤ 32 * L ∧ w' = w := by
  obtain ⟨a, h1, rfl, _, h2⟩ := hu
  refine (len_any w u a h1 (by omega)).mono ?_
  rintro e w' ⟨m, rfl, h3, _, h4, rfl⟩
  exact ⟨m, rfl, h3, by omega, rfl⟩
theorem low_nv (w : World) (u : Value) (p : List Int) (h : Slc w u p) (L : Nat) (hL : (p.length + 3) / 4 ≤ L) (hp : p.length ≤ 100000) : Calls Tryd.prog 30 #[u] w fun e w' => ∃ v', e = .returned v' ∧ Nv w' v' (Bt.low p : Nat) L ∧ Below w.heap.size w w' := by
  refine (low_any w u p h hp).mono ?_
  rintro e w' ⟨v', l, rfl, hn, hv, hne, hl, hb⟩
  exact ⟨v', rfl, ⟨l, hn, hv, hne, by omega⟩, hb⟩

/-- One bit more of a remainder. -/
theorem mod_step {x m q s b : Int} (h0 : 0 < m) (hx : x = 2 * q + b) (hs : s = q % m) (hb : 0 ≤ b) (hb1 : b ≤ 1) : 0 ≤ s ∧ s < m ∧ (s + s + b < m → s + s + b = x % m) ∧ (m ≤ s + s + b → s + s + b - m = x % m ∧ s + s + b - m < m) := by
  have h1 := Int.emod_nonneg q (Int.ne_of_gt h0)
  have h2 := Int.emod_lt_of_pos q h0
  have h3 := Int.mul_ediv_add_emod q m
  rw [← hs] at h1 h2 h3
  have e : x = s + s + b + m * (2 * (q / m)) := by rw [hx, Int.mul_left_comm]; omega
  have e2 : x % m = (s + s + b) % m := by rw [e, Int.add_mul_emod_self_left]
  refine ⟨h1, h2, fun h => ?_, fun h => ⟨?_, by omega⟩⟩
  · rw [e2, Int.emod_eq_of_lt (by omega) h]
  · rw [e2, ← Int.sub_emod_right, Int.emod_eq_of_lt (by omega) (by omega)]
end Go.Proofs.YtiinmdleechcgaaDoor
namespace Go.Proofs.YtiinmdleechcgaaDoor
open Go.RowKit

theorem half_pow (X : Int) (t : Nat) : X / 2 ^ (t + 1) = X / 2 ^ t / 2 := by
  have h := Int.pow_pos (n := 2) (m := t) (by decide)
  rw [Int.pow_succ, Int.ediv_ediv, if_neg (by omega), Int.sub_zero]
set_option maxRecDepth 100000 in
set_option maxHeartbeats 1000000 in
theorem mod_nv (w : World) (va vb : Value) (X M : Int) (LA K : Nat) (ha : Nv w va X LA) (hm : Nv w vb M K) (hLA : LA ≤ 100000) (hK : K ≤ 40000) (h0 : 0 < M) :
    Calls Tryd.prog 13 #[va, vb] w fun e w' => ∃ v', e = .returned v' ∧ Nv w' v' (X % M) K ∧ Below w.heap.size w w' := by
  have HA := Lib.hid ha
  have HM := Lib.hid hm
  have HX := Lib.hid ha.nonneg
  have HMK := Lib.hid hm.lt
  have HL := Lib.hid (len_nv w va X LA ha hLA)
  clear ha hm
  go_enter Tryd.func13, Tryd.ntmps13
  go_wp2_with (go_at_call 36; refine HL.out.mono ?_; rintro e w1 ⟨n, rfl, hn1, hn2, hw⟩; obtain rfl := hw.symm; clear hw; have HN := Lib.hid hn1; clear hn1)
  clear HL
  go_loopw [5, 6] (fun u i wr => ∃ (j : Nat) (I : Int), I + 1 = j ∧ j ≤ n ∧ i = .int .i64 I ∧ Hid (Nv wr u (X / 2 ^ j % M) K) ∧ Hid (Below w.heap.size w wr)) (fun _ i _ => (intOf i + 1).toNat)
  case atStart =>
    refine ⟨n, (n : Int) - 1, by omega, Nat.le_refl _, rfl, ?_, Below.refl _ _⟩
    show Nv _ _ _ _
    rw [Int.ediv_eq_zero_of_lt HX.out HN.out, Int.zero_emod]
    obtain ⟨l, a1, a2, a3, a4⟩ := Nv.zero w
    exact ⟨l, a1, a2, a3, Nat.le_trans a4 (Nat.zero_le _)⟩
  case round =>
    obtain ⟨j, I, hI, hjn, rfl, HU, BW⟩ := hrel
    by_cases hj : 0 < j
    · obtain ⟨t, rfl⟩ : ∃ t, j = t + 1 := ⟨j - 1, by omega⟩
      have hit : I = (t : Int) := by omega
      have HBIT := fun wq (hb : Below w.heap.size w wq) => bit_nv wq va X LA t I hit (HA.out.below hb (Nat.le_refl _)) hLA (by omega)
      clear hit
      have hst := mod_step (x := X / 2 ^ t) (q := X / 2 ^ t / 2) (m := M) (s := X / 2 ^ t / 2 % M) (b := X / 2 ^ t % 2) h0 (by omega) rfl (by omega) (by omega)
      have hbb : X / 2 ^ t % 2 = 0 ∨ X / 2 ^ t % 2 = 1 := by omega
      have HUS : Hid (Nv wr u5 (X / 2 ^ t / 2 % M) K) := by show Nv _ _ _ _; rw [← half_pow]; exact HU.out
      clear HU HN
      generalize X / 2 ^ t / 2 % M = s at *
      generalize X / 2 ^ t % 2 = b at *
      generalize hY : X / 2 ^ t % M = Y at *
      have HY := Lib.hid hY
      clear hY
      obtain ⟨hs0, hsM, hlt, hge⟩ := hst
      have HP1 := Lib.hid (plus_nv wr u5 u5 s s K K HUS.out HUS.out (by omega) (by omega))
      have hcl := fun (T : Int) (L : Nat) (hL : L ≤ 1000000) (hT : T < M) w2 u2 (h : Nv w2 u2 T L) (hb : Below w.heap.size w w2) => (cmp_nv w2 u2 vb T M L K h (HM.out.below hb (Nat.le_refl _)) hL (by omega)).mono (R' := fun e w' => ∃ r : Int, e = .returned (.int .i64 r) ∧ r < 0 ∧ Below w2.heap.size w2 w') (by rintro e w' ⟨r, rfl, h1, h2⟩; exact ⟨r, rfl, h1.2 hT, h2⟩)
      have hcg := fun (T : Int) (L : Nat) (hL : L ≤ 1000000) (hT : M ≤ T) w2 u2 (h : Nv w2 u2 T L) (hb : Below w.heap.size w w2) => (cmp_nv w2 u2 vb T M L K h (HM.out.below hb (Nat.le_refl _)) hL (by omega)).mono (R' := fun e w' => ∃ r : Int, e = .returned (.int .i64 r) ∧ 0 ≤ r ∧ Below w2.heap.size w2 w') (by rintro e w' ⟨r, rfl, h1, h2⟩; exact ⟨r, rfl, by have := h1.1; omega, h2⟩)
      have hls := fun (T : Int) (L : Nat) (hL : L ≤ 100000) (hT : M ≤ T) w2 u2 (h : Nv w2 u2 T L) (hb : Below w.heap.size w w2) => less_nv w2 u2 vb T M L K h (HM.out.below hb (Nat.le_refl _)) hL hT
      rcases hbb with rfl | rfl
      · have HB := Lib.hid HBIT
        clear HBIT
        have HP1 : Hid (Calls Tryd.prog 14 #[u5, u5] wr fun e w' => ∃ v', e = .returned v' ∧ Nv w' v' (s + s + 0) (K + K + 1) ∧ Below wr.heap.size wr w') := by rw [Int.add_zero]; exact HP1
        by_cases hge2 : M ≤ (s + s + 0)
        · have HC := Lib.hid (hcg (s + s + 0) (K + K + 1) (by omega) hge2)
          have HS := Lib.hid (hls (s + s + 0) (K + K + 1) (by omega) hge2)
          obtain ⟨hr, hrM⟩ := hge hge2
          have HR := Lib.hid hr
          have HRM := Lib.hid hrM
          clear hcl hcg hls hlt hge hge2 hr hrM hs0 hsM h0
          go_wp2_with (first
          | (go_at_call 40; refine (HS.out w3 v1 (HN1.out.below HBC.out (Nat.le_refl _)) HB3.out).mono ?_; rintro e w4 ⟨v4, rfl, hv, hb⟩; have HN4 := Lib.hid hv; have HB4 := Lib.hid (HB3.out.trans (hb.mono HB3.out.size)); clear hv hb)
          | (go_at_call 39; refine (HC.out w1 v1 HN1.out HB1.out).mono ?_; rintro e w3 ⟨r, rfl, hr, hb⟩; have HBC := Lib.hid hb; have HB3 := Lib.hid (HB1.out.trans (hb.mono HB1.out.size)); clear hb)
          | (go_at_call 33; refine (HB.out w1 HB1.out).mono ?_; rintro e w9 ⟨rfl, hw⟩; obtain rfl := hw.symm; clear hw)
          | (go_at_call 14; refine HP1.out.mono ?_; rintro e w1 ⟨v1, rfl, hv, hb⟩; have HN1 := Lib.hid hv; have HB1 := Lib.hid (BW.out.trans (hb.mono BW.out.size)); clear hv hb))
          go_roundw
          case rel => exact ⟨t, I - 1, by omega, by omega, by go_num, (show Nv _ _ _ _ by rw [HY.out, ← HR.out]; exact HN4.out.shrink (Int.lt_trans HRM.out HMK.out)), HB4.out⟩
          case measure => simp [intOf]; omega
        · have HC := Lib.hid (hcl (s + s + 0) (K + K + 1) (by omega) (by omega))
          have hr := hlt (by omega)
          have hrM : (s + s + 0) < M := by omega
          have HR := Lib.hid hr
          have HRM := Lib.hid hrM
          clear hcl hcg hls hlt hge hge2 hr hrM hs0 hsM h0
          go_wp2_with (first
          | (go_at_call 39; refine (HC.out w1 v1 HN1.out HB1.out).mono ?_; rintro e w3 ⟨r, rfl, hr, hb⟩; have HBC := Lib.hid hb; have HB3 := Lib.hid (HB1.out.trans (hb.mono HB1.out.size)); clear hb)
          | (go_at_call 33; refine (HB.out w1 HB1.out).mono ?_; rintro e w9 ⟨rfl, hw⟩; obtain rfl := hw.symm; clear hw)
          | (go_at_call 14; refine HP1.out.mono ?_; rintro e w1 ⟨v1, rfl, hv, hb⟩; have HN1 := Lib.hid hv; have HB1 := Lib.hid (BW.out.trans (hb.mono BW.out.size)); clear hv hb))
          go_roundw
          case rel => exact ⟨t, I - 1, by omega, by omega, by go_num, (show Nv _ _ _ _ by rw [HY.out, ← HR.out]; exact (HN1.out.below HBC.out (Nat.le_refl _)).shrink (Int.lt_trans HRM.out HMK.out)), HB3.out⟩
          case measure => simp [intOf]; omega
      · have HB := Lib.hid HBIT
        clear HBIT
        have HP2 : Hid (∀ w1 u1, Nv w1 u1 (s + s) (K + K + 1) → Calls Tryd.prog 14 #[u1, .slice (some ⟨w1.heap.size, 0, none⟩) 1 1] (w1.alloc (.cells #[.int .u32 1] 61)) fun e w' => ∃ v', e = .returned v' ∧ Nv w' v' (s + s + 1) (K + K + 1 + 1 + 1) ∧ Below w1.heap.size w1 w') := by
          intro w1 u1 h1
          have hba : Below w1.heap.size w1 (w1.alloc (.cells #[.int .u32 1] 61)) := (Below.refl _ _).alloc (Nat.le_refl _) _
          have hone : Nv (w1.alloc (.cells #[.int .u32 1] 61)) (.slice (some ⟨w1.heap.size, 0, none⟩) 1 1) 1 1 := by
            have hblk : Blk (w1.alloc (.cells #[.int .u32 1] 61)) w1.heap.size .u32 61 [1] := heap_alloc_new w1 _
            exact ⟨[1], num_blk hblk rfl (by unfold Nt.Ws W32; decide), rfl, fun _ => by decide, Nat.le_refl _⟩
          refine (plus_nv _ _ _ (s + s) 1 (K + K + 1) 1 (h1.below hba (Nat.le_refl _)) hone (by omega) (by decide)).mono ?_
          rintro e w' ⟨v', rfl, h2, h3⟩
          exact ⟨v', rfl, h2, hba.trans (h3.mono hba.size)⟩
        by_cases hge2 : M ≤ (s + s + 1)
        · have HC := Lib.hid (hcg (s + s + 1) (K + K + 1 + 1 + 1) (by omega) hge2)
          have HS := Lib.hid (hls (s + s + 1) (K + K + 1 + 1 + 1) (by omega) hge2)
          obtain ⟨hr, hrM⟩ := hge hge2
          have HR := Lib.hid hr
          have HRM := Lib.hid hrM
          clear hcl hcg hls hlt hge hge2 hr hrM hs0 hsM h0
          go_wp2_with (first
          | (go_at_call 40; refine (HS.out w3 v2 (HN2.out.below HBC.out (Nat.le_refl _)) HB3.out).mono ?_; rintro e w4 ⟨v4, rfl, hv, hb⟩; have HN4 := Lib.hid hv; have HB4 := Lib.hid (HB3.out.trans (hb.mono HB3.out.size)); clear hv hb)
          | (go_at_call 39; refine (HC.out w2 v2 HN2.out HB2.out).mono ?_; rintro e w3 ⟨r, rfl, hr, hb⟩; have HBC := Lib.hid hb; have HB3 := Lib.hid (HB2.out.trans (hb.mono HB2.out.size)); clear hb)
          | (go_at_call 14; refine (HP2.out w1 v1 HN1.out).mono ?_; rintro e w2 ⟨v2, rfl, hv, hb⟩; have HN2 := Lib.hid hv; have HB2 := Lib.hid (HB1.out.trans (hb.mono HB1.out.size)); clear hv hb)
          | (go_at_call 33; refine (HB.out w1 HB1.out).mono ?_; rintro e w9 ⟨rfl, hw⟩; obtain rfl := hw.symm; clear hw)
          | (go_at_call 14; refine HP1.out.mono ?_; rintro e w1 ⟨v1, rfl, hv, hb⟩; have HN1 := Lib.hid hv; have HB1 := Lib.hid (BW.out.trans (hb.mono BW.out.size)); clear hv hb))
          go_roundw
          case rel => exact ⟨t, I - 1, by omega, by omega, by go_num, (show Nv _ _ _ _ by rw [HY.out, ← HR.out]; exact HN4.out.shrink (Int.lt_trans HRM.out HMK.out)), HB4.out⟩
          case measure => simp [intOf]; omega
        · have HC := Lib.hid (hcl (s + s + 1) (K + K + 1 + 1 + 1) (by omega) (by omega))
          have hr := hlt (by omega)
          have hrM : (s + s + 1) < M := by omega
          have HR := Lib.hid hr
          have HRM := Lib.hid hrM
          clear hcl hcg hls hlt hge hge2 hr hrM hs0 hsM h0
          go_wp2_with (first
          | (go_at_call 39; refine (HC.out w2 v2 HN2.out HB2.out).mono ?_; rintro e w3 ⟨r, rfl, hr, hb⟩; have HBC := Lib.hid hb; have HB3 := Lib.hid (HB2.out.trans (hb.mono HB2.out.size)); clear hb)
          | (go_at_call 14; refine (HP2.out w1 v1 HN1.out).mono ?_; rintro e w2 ⟨v2, rfl, hv, hb⟩; have HN2 := Lib.hid hv; have HB2 := Lib.hid (HB1.out.trans (hb.mono HB1.out.size)); clear hv hb)
          | (go_at_call 33; refine (HB.out w1 HB1.out).mono ?_; rintro e w9 ⟨rfl, hw⟩; obtain rfl := hw.symm; clear hw)
          | (go_at_call 14; refine HP1.out.mono ?_; rintro e w1 ⟨v1, rfl, hv, hb⟩; have HN1 := Lib.hid hv; have HB1 := Lib.hid (BW.out.trans (hb.mono BW.out.size)); clear hv hb))
          go_roundw
          case rel => exact ⟨t, I - 1, by omega, by omega, by go_num, (show Nv _ _ _ _ by rw [HY.out, ← HR.out]; exact (HN2.out.below HBC.out (Nat.le_refl _)).shrink (Int.lt_trans HRM.out HMK.out)), HB3.out⟩
          case measure => simp [intOf]; omega
    · obtain rfl : j = 0 := by omega
      have HF : Hid (X / 2 ^ 0 % M = X % M) := by show _ = _; rw [Int.pow_zero, Int.ediv_one]
      rw [HF.out] at HU
      clear HF HN
      go_wp2
      go_ret
      exact ⟨_, rfl, HU.out, BW.out⟩
end Go.Proofs.YtiinmdleechcgaaDoor
namespace Go.Proofs.YtiinmdleechcgaaDoor
open Go.RowKit
theorem ba1 (w : World) (o : Obj) : Below w.heap.size w (w.alloc o) := (Below.refl _ _).alloc (Nat.le_refl _) o
theorem Nn.nv {w : World} {v : Value} {N : Int} (h : Nn w v N) {L : Nat} (hN : N < Nt.pw L) : Nv w v N L := by
  obtain ⟨l, h1, h2, h3, h4⟩ := h
  exact Nv.shrink ⟨l, h1, h2, h3, h4⟩ hN
theorem Nv.nn {w : World} {v : Value} {N : Int} {L : Nat} (h : Nv w v N L) (hL : L ≤ 20000) : Nn w v N := by
  obtain ⟨l, h1, h2, h3, h4⟩ := h
  exact ⟨l, h1, h2, h3, Nat.le_trans h4 hL⟩
/-- A number of one word, made. -/
theorem nn_lit (w : World) (c : Int) (h0 : 0 < c) (h1 : c ≤ 4294967295) : Nn (w.alloc (.cells #[.int .u32 c] 61)) (.slice (some ⟨w.heap.size, 0, none⟩) 1 1) c := by
  have hblk : Blk (w.alloc (.cells #[.int .u32 c] 61)) w.heap.size .u32 61 [c] := heap_alloc_new w _
  refine ⟨[c], num_blk hblk rfl (fun x hx => by rw [List.mem_singleton] at hx; rw [hx]; unfold W32; omega), by simp [Nt.val], ?_, by simp⟩
  have : c ≠ 0 := by omega
  simp [Nt.Neat, this]
set_option maxHeartbeats 2000000 in
theorem rd_any (w : World) : Calls Tryd.prog 35 #[] w fun e w' => ∃ v D, e = .returned v ∧ Nn w' v D ∧ Ed.Cg D Ed.dd ∧ (0 ≤ D ∧ D < Ed.q) ∧ Below w.heap.size w w' := by
  have h1 := Grow.c_small (w := w) (n := 121665) (by decide) (by decide)
  go_enter Tryd.func35, Tryd.ntmps35
  go_wp2_with (go_at_call 64; refine h1.mono ?_; rintro e w1 ⟨v1, rfl, hn1, hb1⟩; refine Hid.out ?_)
  refine Lib.hid ?_
  have h2 := c_rsub (Nn.nil w1) hn1 (by decide)
  go_wp2_with (go_at_call 63; refine h2.mono ?_; rintro e w2 ⟨v2, rfl, hn2, hb2⟩; refine Hid.out ?_)
  refine Lib.hid ?_
  have h3 := Grow.c_small (w := w2) (n := 121666) (by decide) (by decide)
  go_wp2_with (go_at_call 64; refine h3.mono ?_; rintro e w3 ⟨v3, rfl, hn3, hb3⟩; refine Hid.out ?_)
  refine Lib.hid ?_
  have h4 := Grow.c_rinv hn3
  go_wp2_with (go_at_call 31; refine h4.mono ?_; rintro e w4 ⟨v4, rfl, hn4, hb4⟩; refine Hid.out ?_)
  refine Lib.hid ?_
  have h5 := Grow.c_rmul (Nn.below (Nn.below hn2 hb3) hb4) hn4
  have hB4 := ((hb1.trans (hb2.mono hb1.size)).trans (hb3.mono (Nat.le_trans hb1.size hb2.size))).trans (hb4.mono (Nat.le_trans (Nat.le_trans hb1.size hb2.size) hb3.size))
  have HB4 := Lib.hid hB4
  clear hn1 hn2 hn3 hn4 hb1 hb2 hb3 hb4 h1 h2 h3 h4 hB4
  go_wp2_with (go_at_call 32; refine h5.mono ?_; rintro e w5 ⟨v5, rfl, hn5, hb5⟩; have HN := Lib.hid hn5; have HB5 := Lib.hid (HB4.out.trans (hb5.mono HB4.out.size)); obtain ⟨a5, n5, c5, rfl⟩ := Nn.form hn5; clear hn5 hb5)
  go_ret
  refine ⟨_, _, rfl, HN.out, ?_, by rw [q_P]; exact ⟨Int.emod_nonneg _ (by decide), Int.emod_lt_of_pos _ (by decide)⟩, HB5.out⟩
  refine (cgP _).trans ?_
  refine ((cgP _).mul (cgP _)).trans ?_
  exact (Ed.Cg.of_eq (by rw [Int.zero_sub])).trans (Ed.d_ref rfl)
set_option maxHeartbeats 2000000 in
theorem rorigin_any (w : World) : Calls Tryd.prog 34 #[] w fun e w' => ∃ a b c, e = .returned (.agg #[a, b, c]) ∧ Nn w' a 0 ∧ Nn w' b 1 ∧ Nn w' c 1 ∧ Below w.heap.size w w' := by
  have key : ∀ X : Array Value, Nn (((w.alloc (.cells X 33)).alloc (.cells #[.int .u32 1] 61)).alloc (.cells #[.int .u32 1] 61)) (.slice (some ⟨w.heap.size + 1, 0, none⟩) 1 1) 1 ∧ Nn (((w.alloc (.cells X 33)).alloc (.cells #[.int .u32 1] 61)).alloc (.cells #[.int .u32 1] 61)) (.slice (some ⟨w.heap.size + 1 + 1, 0, none⟩) 1 1) 1 ∧ Below w.heap.size w (((w.alloc (.cells X 33)).alloc (.cells #[.int .u32 1] 61)).alloc (.cells #[.int .u32 1] 61)) ∧ (((w.alloc (.cells X 33)).alloc (.cells #[.int .u32 1] 61)).alloc (.cells #[.int .u32 1] 61)).heap[w.heap.size]? = some (.cells X 33 (0, 0)) := by
    intro X
    have hs : (w.alloc (.cells X 33)).heap.size = w.heap.size + 1 := by simp
    have hs2 : ((w.alloc (.cells X 33)).alloc (.cells #[.int .u32 1] 61)).heap.size = w.heap.size + 1 + 1 := by simp
    have h1 := nn_lit (w.alloc (.cells X 33)) 1 (by decide) (by decide)
    have h2 := nn_lit ((w.alloc (.cells X 33)).alloc (.cells #[.int .u32 1] 61)) 1 (by decide) (by decide)
    rw [hs] at h1
    rw [hs2] at h2
    have hb1 := ba1 w (.cells X 33)
    have hb2 := ba1 (w.alloc (.cells X 33)) (.cells #[.int .u32 1] 61)
    have hb3 := ba1 ((w.alloc (.cells X 33)).alloc (.cells #[.int .u32 1] 61)) (.cells #[.int .u32 1] 61)
    refine ⟨Nn.below h1 hb3, h2, hb1.trans ((hb2.trans (hb3.mono hb2.size)).mono hb1.size), ?_⟩
    exact (hb3.block _ (by rw [hs2]; omega)).trans ((hb2.block _ (by rw [hs]; omega)).trans (heap_alloc_new w _))
  go_enter Tryd.func34, Tryd.ntmps34
  go_wp2
  obtain ⟨k1, k2, k3, k4⟩ := key #[.slice none 0 0, .slice (some ⟨w.heap.size + 1, 0, none⟩) 1 1, .slice (some ⟨w.heap.size + 1 + 1, 0, none⟩) 1 1]
  exact bodyPost_ret (results_cell_row Tryd.results34 _ _ w.heap.size 33 _ (0, 0) _ rfl k4 Tryd.underlying33 rfl i33) rfl ⟨_, _, _, rfl, Nn.nil _, k1, k2, k3⟩
def nnL : List Int := [1559614445, 1477600026, 2734136534, 350157278, 0, 0, 0, 268435456]
set_option maxHeartbeats 2000000 in
theorem c_N (w : World) : Calls Tryd.prog 16 #[] w fun e w' => ∃ v, e = .returned v ∧ Nn w' v (Ed.nn : Int) ∧ Below w.heap.size w w' := by
  have hblk : Blk (w.alloc (.cells (nnL.map (Value.int .u32)).toArray 61)) w.heap.size .u32 61 nnL := heap_alloc_new w _
  have hn : Nn (w.alloc (.cells (nnL.map (Value.int .u32)).toArray 61)) (.slice (some ⟨w.heap.size, 0, none⟩) 8 8) (Ed.nn : Int) :=
    ⟨nnL, num_blk hblk rfl (by unfold Nt.Ws W32; decide), by decide +kernel, by unfold Nt.Neat; decide, by decide⟩
  have hb := ba1 w (.cells (nnL.map (Value.int .u32)).toArray 61)
  have HN := Lib.hid (And.intro hn hb)
  clear hblk hn hb
  go_enter Tryd.func16, Tryd.ntmps16
  go_wp2
  go_ret
  exact ⟨_, rfl, HN.out.1, HN.out.2⟩
end Go.Proofs.YtiinmdleechcgaaDoor
namespace Go.Proofs.YtiinmdleechcgaaDoor
open Go.RowKit

namespace Nt
theorem half_two2 (x y z : Int) : (x + B * (y + B * z)) / 4 % B = (x + y * 4294967296) / 4 % B := by
  unfold B; omega
theorem down2_more {a O : List Int} {k : Nat} {t : Int} (ha : Ws a) (hO : O.length = k) (ht : t = (a.getD k 0 + a.getD (k + 1) 0 * 4294967296) / 4 % B) (h : val O = val a / 4 % pw k) :
    val (O ++ [t]) = val a / 4 % pw (k + 1) := by
  have e : val [t] = t := by simp [val]
  have e2 : val a / 4 / pw k = val (a.drop k) / 4 := by
    rw [Int.ediv_ediv_of_nonneg (by decide), Int.mul_comm, ← Int.ediv_ediv_of_nonneg (Int.le_of_lt (pw_pos k)), val_high ha]
  rw [val_append, hO, e, h, ht, ← half_two2 _ _ (val (a.drop (k + 2))), ← drop_word, ← drop_word, ← e2, pw_succ, Int.mul_comm B, emod_two _ _ (pw_pos k)]
theorem down2_end {a O : List Int} {k : Nat} (ha : Ws a) (hk : a.length ≤ k) (h : val O = val a / 4 % pw k) : val O = val a / 4 := by
  rw [h]
  have h0 := val_nonneg ha
  exact Int.emod_eq_of_lt (Int.ediv_nonneg h0 (by decide)) (Int.lt_of_le_of_lt (Int.ediv_le_self _ h0) (Int.lt_of_lt_of_le (val_lt ha) (pw_le hk)))
end Nt

set_option maxRecDepth 100000 in
set_option maxHeartbeats 1000000 in
theorem down2_any (w : World) (va : Value) (a : List Int) (ha : Num w va a) (hla : a.length ≤ 100000) :
    Calls Tryd.prog 83 #[va, .int .i64 2] w fun e w' => ∃ v' l, e = .returned v' ∧ Num w' v' l ∧ Nt.val l = Nt.val a / 4 ∧ Nt.Neat l ∧ l.length ≤ a.length ∧ Below w.heap.size w w' := by
  obtain ⟨aa, ca, rfl⟩ := num_form ha
  have HA := Lib.hid ha
  have hwa : Hid (Nt.Ws a) := by obtain ⟨_, _, _, _, h, _⟩ := ha; exact h
  clear ha
  go_enter Tryd.func83, Tryd.ntmps83
  go_wp2_with fail
  go_loopw [5, 6] (fun v i wr => ∃ (k : Nat) (O : List Int), k ≤ a.length ∧ i = .int .i64 (k : Nat) ∧ O.length = k ∧ Hid (Nt.Ws O) ∧ Hid (Mine .u32 61 w wr v O) ∧ Hid (Nt.val O = Nt.val a / 4 % Nt.pw k)) (fun _ i _ => a.length - (intOf i).toNat)
  case atStart => exact ⟨0, [], Nat.zero_le _, rfl, rfl, Nt.Ws.nil, Mine.nil _ _ _, by show _ = _; rw [Nt.pw_zero]; simp [Nt.val, Int.emod_one]⟩
  case round =>
    obtain ⟨k, O, hk, rfl, hO, WO, MO, VO⟩ := hrel
    obtain ⟨a5, c5, rfl⟩ := MO.out.form
    rw [hO]
    have hda : 0 ≤ a.getD k 0 ∧ a.getD k 0 ≤ 4294967295 := hwa.out.getD _
    have hdb : 0 ≤ a.getD (k + 1) 0 ∧ a.getD (k + 1) 0 ≤ 4294967295 := hwa.out.getD _
    have MO2 : Hid (Mine .u32 61 w wr (.slice a5 k c5) O) := by have := MO.out; rw [hO] at this; exact this
    have HOL := Lib.hid hO
    by_cases hla2 : k < a.length
    · have hmore := fun t ht => Nt.down2_more (t := t) hwa.out hO ht VO.out
      unfold Nt.B at hmore
      have HMORE := Lib.hid hmore
      clear hmore hO MO VO
      obtain ⟨da0, da1⟩ := hda
      obtain ⟨db0, db1⟩ := hdb
      by_cases hlb2 : k + 1 < a.length
      · obtain ⟨b1, o1, he, hb1, hc1, hcap1⟩ := num_cell HA.out _ hla2
        obtain ⟨b2, o2, he2, hb2, hc2, hcap2⟩ := num_cell HA.out _ hlb2
        obtain rfl := he
        injection he2 with he3
        injection he3 with he4 he5
        subst he4
        subst he5
        have hc1' := (MO2.out.2.cell (p := ⟨b1, o1 + k, none⟩) hb1).trans hc1
        have hc2' := (MO2.out.2.cell (p := ⟨b1, o1 + (k + 1), none⟩) hb2).trans hc2
        clear hc1 hc2 HA
        have hor := Nt.or_words da0 da1 db0 db1
        generalize a.getD k 0 = xa at *
        generalize a.getD (k + 1) 0 = xb at *
        have hws : Hid (Nt.Ws (O ++ [(xa + xb * 4294967296) / 4 % 4294967296])) := WO.out.snoc (x := (xa + xb * 4294967296) / 4 % 4294967296) (by unfold W32; omega)
        have hol : Hid ((O ++ [(xa + xb * 4294967296) / 4 % 4294967296]).length = k + 1) := by show _ = _; rw [List.length_append, HOL.out]; rfl
        have HV := Lib.hid (HMORE.out _ rfl)
        clear HMORE WO
        go_wp2_with ((with_reducible refine append_word (o := ⟨some 42, _, _, _, _, _⟩) rfl (.tmp 35) (.tmp 41) rfl w (.slice a5 k c5) O rfl ?_ ((xa + xb * 4294967296) / 4 % 4294967296) rfl ?_ ?_); exact MO2.out; exact (by have := HOL.out; omega); intro u6 w5 hp2; have HP3 := Lib.hid hp2; clear hp2)
        go_roundw
        case rel => exact ⟨k + 1, O ++ [(xa + xb * 4294967296) / 4 % 4294967296], by omega, by go_num, hol.out, hws, HP3, HV⟩
        case measure => simp [intOf]; omega
      · obtain ⟨b1, o1, rfl, hb1, hc1, hcap1⟩ := num_cell HA.out _ hla2
        have hc1' := (MO2.out.2.cell (p := ⟨b1, o1 + k, none⟩) hb1).trans hc1
        have hz : a.getD (k + 1) 0 = 0 := by simp [List.getD_eq_getElem?_getD, List.getElem?_eq_none (show a.length ≤ k + 1 by omega)]
        rw [hz, Int.zero_mul, Int.add_zero] at HMORE
        clear hc1 HA hz db0 db1
        generalize a.getD k 0 = xa at *
        have hws : Hid (Nt.Ws (O ++ [xa / 4])) := WO.out.snoc (x := xa / 4) (by unfold W32; omega)
        have hol : Hid ((O ++ [xa / 4]).length = k + 1) := by show _ = _; rw [List.length_append, HOL.out]; rfl
        have HV := Lib.hid (HMORE.out (xa / 4) (by omega))
        clear HMORE WO
        go_wp2_with ((with_reducible refine append_word (o := ⟨some 42, _, _, _, _, _⟩) rfl (.tmp 35) (.tmp 41) rfl w (.slice a5 k c5) O rfl ?_ (xa / 4) rfl ?_ ?_); exact MO2.out; exact (by have := HOL.out; omega); intro u6 w5 hp2; have HP3 := Lib.hid hp2; clear hp2)
        go_roundw
        case rel => exact ⟨k + 1, O ++ [xa / 4], by omega, by go_num, hol.out, hws, HP3, HV⟩
        case measure => simp [intOf]; omega
    · have HVC := Lib.hid (Nt.down2_end hwa.out (show a.length ≤ k by omega) VO.out)
      have HLC : Hid (O.length ≤ 1000000) := by show _ ≤ _; omega
      clear VO hda hdb HA hO
      go_wp2_with (go_at_call 41; refine (trim_any _ _ _ (MO2.out.num WO.out) HLC.out).mono ?_; rintro e w1 ⟨v1, rfl, h2, h3⟩; have H2 := Lib.hid h2; have H3 := Lib.hid h3; clear h2 h3)
      go_ret
      refine ⟨_, _, rfl, H2.out, ?_, Nt.neat_trim _, ?_, MO2.out.2.trans (H3.out.mono MO2.out.2.size)⟩
      · rw [Nt.val_trim]; exact HVC.out
      · rw [Nt.length_trim]
        refine Nat.le_trans (Nt.cut_le _ _) ?_
        rw [HOL.out]
        exact hk

namespace Nt
theorem half_two3 (x y z : Int) : (x + B * (y + B * z)) / 8 % B = (x + y * 4294967296) / 8 % B := by
  unfold B; omega
theorem down3_more {a O : List Int} {k : Nat} {t : Int} (ha : Ws a) (hO : O.length = k) (ht : t = (a.getD k 0 + a.getD (k + 1) 0 * 4294967296) / 8 % B) (h : val O = val a / 8 % pw k) :
    val (O ++ [t]) = val a / 8 % pw (k + 1) := by
  have e : val [t] = t := by simp [val]
  have e2 : val a / 8 / pw k = val (a.drop k) / 8 := by
    rw [Int.ediv_ediv_of_nonneg (by decide), Int.mul_comm, ← Int.ediv_ediv_of_nonneg (Int.le_of_lt (pw_pos k)), val_high ha]
  rw [val_append, hO, e, h, ht, ← half_two3 _ _ (val (a.drop (k + 2))), ← drop_word, ← drop_word, ← e2, pw_succ, Int.mul_comm B, emod_two _ _ (pw_pos k)]
theorem down3_end {a O : List Int} {k : Nat} (ha : Ws a) (hk : a.length ≤ k) (h : val O = val a / 8 % pw k) : val O = val a / 8 := by
  rw [h]
  have h0 := val_nonneg ha
  exact Int.emod_eq_of_lt (Int.ediv_nonneg h0 (by decide)) (Int.lt_of_le_of_lt (Int.ediv_le_self _ h0) (Int.lt_of_lt_of_le (val_lt ha) (pw_le hk)))
end Nt

set_option maxRecDepth 100000 in
set_option maxHeartbeats 1000000 in
theorem down3_any (w : World) (va : Value) (a : List Int) (ha : Num w va a) (hla : a.length ≤ 100000) :
    Calls Tryd.prog 83 #[va, .int .i64 3] w fun e w' => ∃ v' l, e = .returned v' ∧ Num w' v' l ∧ Nt.val l = Nt.val a / 8 ∧ Nt.Neat l ∧ l.length ≤ a.length ∧ Below w.heap.size w w' := by
  obtain ⟨aa, ca, rfl⟩ := num_form ha
  have HA := Lib.hid ha
  have hwa : Hid (Nt.Ws a) := by obtain ⟨_, _, _, _, h, _⟩ := ha; exact h
  clear ha
  go_enter Tryd.func83, Tryd.ntmps83
  go_wp2_with fail
  go_loopw [5, 6] (fun v i wr => ∃ (k : Nat) (O : List Int), k ≤ a.length ∧ i = .int .i64 (k : Nat) ∧ O.length = k ∧ Hid (Nt.Ws O) ∧ Hid (Mine .u32 61 w wr v O) ∧ Hid (Nt.val O = Nt.val a / 8 % Nt.pw k)) (fun _ i _ => a.length - (intOf i).toNat)
  case atStart => exact ⟨0, [], Nat.zero_le _, rfl, rfl, Nt.Ws.nil, Mine.nil _ _ _, by show _ = _; rw [Nt.pw_zero]; simp [Nt.val, Int.emod_one]⟩
  case round =>
    obtain ⟨k, O, hk, rfl, hO, WO, MO, VO⟩ := hrel
    obtain ⟨a5, c5, rfl⟩ := MO.out.form
    rw [hO]
    have hda : 0 ≤ a.getD k 0 ∧ a.getD k 0 ≤ 4294967295 := hwa.out.getD _
    have hdb : 0 ≤ a.getD (k + 1) 0 ∧ a.getD (k + 1) 0 ≤ 4294967295 := hwa.out.getD _
    have MO2 : Hid (Mine .u32 61 w wr (.slice a5 k c5) O) := by have := MO.out; rw [hO] at this; exact this
    have HOL := Lib.hid hO
    by_cases hla2 : k < a.length
    · have hmore := fun t ht => Nt.down3_more (t := t) hwa.out hO ht VO.out
      unfold Nt.B at hmore
      have HMORE := Lib.hid hmore
      clear hmore hO MO VO
      obtain ⟨da0, da1⟩ := hda
      obtain ⟨db0, db1⟩ := hdb
      by_cases hlb2 : k + 1 < a.length
      · obtain ⟨b1, o1, he, hb1, hc1, hcap1⟩ := num_cell HA.out _ hla2
        obtain ⟨b2, o2, he2, hb2, hc2, hcap2⟩ := num_cell HA.out _ hlb2
        obtain rfl := he
        injection he2 with he3
        injection he3 with he4 he5
        subst he4
        subst he5
        have hc1' := (MO2.out.2.cell (p := ⟨b1, o1 + k, none⟩) hb1).trans hc1
        have hc2' := (MO2.out.2.cell (p := ⟨b1, o1 + (k + 1), none⟩) hb2).trans hc2
        clear hc1 hc2 HA
        have hor := Nt.or_words da0 da1 db0 db1
        generalize a.getD k 0 = xa at *
        generalize a.getD (k + 1) 0 = xb at *
        have hws : Hid (Nt.Ws (O ++ [(xa + xb * 4294967296) / 8 % 4294967296])) := WO.out.snoc (x := (xa + xb * 4294967296) / 8 % 4294967296) (by unfold W32; omega)
        have hol : Hid ((O ++ [(xa + xb * 4294967296) / 8 % 4294967296]).length = k + 1) := by show _ = _; rw [List.length_append, HOL.out]; rfl
        have HV := Lib.hid (HMORE.out _ rfl)
        clear HMORE WO
        go_wp2_with ((with_reducible refine append_word (o := ⟨some 42, _, _, _, _, _⟩) rfl (.tmp 35) (.tmp 41) rfl w (.slice a5 k c5) O rfl ?_ ((xa + xb * 4294967296) / 8 % 4294967296) rfl ?_ ?_); exact MO2.out; exact (by have := HOL.out; omega); intro u6 w5 hp2; have HP3 := Lib.hid hp2; clear hp2)
        go_roundw
        case rel => exact ⟨k + 1, O ++ [(xa + xb * 4294967296) / 8 % 4294967296], by omega, by go_num, hol.out, hws, HP3, HV⟩
        case measure => simp [intOf]; omega
      · obtain ⟨b1, o1, rfl, hb1, hc1, hcap1⟩ := num_cell HA.out _ hla2
        have hc1' := (MO2.out.2.cell (p := ⟨b1, o1 + k, none⟩) hb1).trans hc1
        have hz : a.getD (k + 1) 0 = 0 := by simp [List.getD_eq_getElem?_getD, List.getElem?_eq_none (show a.length ≤ k + 1 by omega)]
        rw [hz, Int.zero_mul, Int.add_zero] at HMORE
        clear hc1 HA hz db0 db1
        generalize a.getD k 0 = xa at *
        have hws : Hid (Nt.Ws (O ++ [xa / 8])) := WO.out.snoc (x := xa / 8) (by unfold W32; omega)
        have hol : Hid ((O ++ [xa / 8]).length = k + 1) := by show _ = _; rw [List.length_append, HOL.out]; rfl
        have HV := Lib.hid (HMORE.out (xa / 8) (by omega))
        clear HMORE WO
        go_wp2_with ((with_reducible refine append_word (o := ⟨some 42, _, _, _, _, _⟩) rfl (.tmp 35) (.tmp 41) rfl w (.slice a5 k c5) O rfl ?_ (xa / 8) rfl ?_ ?_); exact MO2.out; exact (by have := HOL.out; omega); intro u6 w5 hp2; have HP3 := Lib.hid hp2; clear hp2)
        go_roundw
        case rel => exact ⟨k + 1, O ++ [xa / 8], by omega, by go_num, hol.out, hws, HP3, HV⟩
        case measure => simp [intOf]; omega
    · have HVC := Lib.hid (Nt.down3_end hwa.out (show a.length ≤ k by omega) VO.out)
      have HLC : Hid (O.length ≤ 1000000) := by show _ ≤ _; omega
      clear VO hda hdb HA hO
      go_wp2_with (go_at_call 41; refine (trim_any _ _ _ (MO2.out.num WO.out) HLC.out).mono ?_; rintro e w1 ⟨v1, rfl, h2, h3⟩; have H2 := Lib.hid h2; have H3 := Lib.hid h3; clear h2 h3)
      go_ret
      refine ⟨_, _, rfl, H2.out, ?_, Nt.neat_trim _, ?_, MO2.out.2.trans (H3.out.mono MO2.out.2.size)⟩
      · rw [Nt.val_trim]; exact HVC.out
      · rw [Nt.length_trim]
        refine Nat.le_trans (Nt.cut_le _ _) ?_
        rw [HOL.out]
        exact hk

end Go.Proofs.YtiinmdleechcgaaDoor
namespace Go.Proofs.YtiinmdleechcgaaDoor
open Go.RowKit
theorem c_P (w : World) : Calls Tryd.prog 61 #[] w fun e w' => ∃ v, e = .returned v ∧ Nn w' v Fe.P ∧ Below w.heap.size w w' := by
  refine (p_any w).mono ?_
  rintro e w' ⟨v, rfl, h, hb⟩
  exact ⟨v, rfl, ⟨Nt.prime, h, Nt.prime_P, by unfold Nt.Neat; decide, by decide⟩, hb⟩
theorem c_plus {w : World} {u v : Value} {N M : Int} (hu : Nn w u N) (hv : Nn w v M) (hN : N < Nt.pw 1000) (hM : M < Nt.pw 1000) : Calls Tryd.prog 14 #[u, v] w fun e w' => ∃ v, e = .returned v ∧ Nn w' v (N + M) ∧ Below w.heap.size w w' := by
  refine (plus_nv w u v N M 1000 1000 (hu.nv hN) (hv.nv hM) (by decide) (by decide)).mono ?_
  rintro e w' ⟨v', rfl, h, hb⟩
  exact ⟨v', rfl, h.nn (by decide), hb⟩
theorem c_times {w : World} {u v : Value} {N M : Int} (hu : Nn w u N) (hv : Nn w v M) (hN : N < Nt.pw 1000) (hM : M < Nt.pw 1000) : Calls Tryd.prog 15 #[u, v] w fun e w' => ∃ v, e = .returned v ∧ Nn w' v (N * M) ∧ Below w.heap.size w w' := by
  refine (times_nv w u v N M 1000 1000 (hu.nv hN) (hv.nv hM) (by decide) (by decide)).mono ?_
  rintro e w' ⟨v', rfl, h, hb⟩
  exact ⟨v', rfl, h.nn (by decide), hb⟩
theorem c_cmp {w : World} {u v : Value} {N M : Int} (hu : Nn w u N) (hv : Nn w v M) : Calls Tryd.prog 39 #[u, v] w fun e w' => ∃ r : Int, e = .returned (.int .i64 r) ∧ (r = 0 ↔ N = M) ∧ Below w.heap.size w w' := by
  obtain ⟨l, h1, rfl, h3, h4⟩ := hu
  obtain ⟨k, k1, rfl, k3, k4⟩ := hv
  refine (cmp_any w u v l k h1 k1 (by omega) (by omega)).mono ?_
  rintro e w' ⟨r, rfl, h5, h6, hb⟩
  exact ⟨r, rfl, by omega, hb⟩
theorem c_down2 {w : World} {u : Value} {N : Int} (hu : Nn w u N) : Calls Tryd.prog 83 #[u, .int .i64 2] w fun e w' => ∃ v, e = .returned v ∧ Nn w' v (N / 4) ∧ Below w.heap.size w w' := by
  obtain ⟨l, h1, rfl, h3, h4⟩ := hu
  refine (down2_any w u l h1 (by omega)).mono ?_
  rintro e w' ⟨v', r, rfl, r1, r2, r3, r4, hb⟩
  exact ⟨v', rfl, ⟨r, r1, r2, r3, by omega⟩, hb⟩
theorem c_down3 {w : World} {u : Value} {N : Int} (hu : Nn w u N) : Calls Tryd.prog 83 #[u, .int .i64 3] w fun e w' => ∃ v, e = .returned v ∧ Nn w' v (N / 8) ∧ Below w.heap.size w w' := by
  obtain ⟨l, h1, rfl, h3, h4⟩ := hu
  refine (down3_any w u l h1 (by omega)).mono ?_
  rintro e w' ⟨v', r, rfl, r1, r2, r3, r4, hb⟩
  exact ⟨v', rfl, ⟨r, r1, r2, r3, by omega⟩, hb⟩
theorem P_big : Fe.P < Nt.pw 1000 := by decide +kernel
theorem P3_8 : (Fe.P + 3) / 8 = (((Nm.PN + 3) / 8 : Nat) : Int) := by decide
theorem P_4 : Fe.P / 4 = ((Nm.PN / 4 : Nat) : Int) := by decide
/-- What the reference takes for a root. -/
def rrt (a : Int) : Int := if (a ^ ((Nm.PN + 3) / 8) % Fe.P) * (a ^ ((Nm.PN + 3) / 8) % Fe.P) % Fe.P = a then a ^ ((Nm.PN + 3) / 8) % Fe.P else (a ^ ((Nm.PN + 3) / 8) % Fe.P) * (2 ^ (Nm.PN / 4) % Fe.P) % Fe.P
set_option maxRecDepth 100000 in
set_option maxHeartbeats 2000000 in
theorem rroot_any (w : World) (u : Value) (a : Int) (hu : Nn w u a) : Calls Tryd.prog 68 #[u] w fun e w' => ∃ v, e = .returned v ∧ Nn w' v (rrt a) ∧ Below w.heap.size w w' := by
  obtain ⟨X, hX⟩ : ∃ X, X = a ^ ((Nm.PN + 3) / 8) % Fe.P := ⟨_, rfl⟩
  obtain ⟨R, hR⟩ : ∃ R, R = rrt a := ⟨_, rfl⟩
  have HR := Lib.hid hR
  rw [← hR]
  clear hR
  obtain ⟨ua, un, uc, rfl⟩ := Nn.form hu
  have HX := Lib.hid hX
  clear hX
  go_enter Tryd.func68, Tryd.ntmps68
  go_wp2_with (go_at_call 61; refine Hid.out ?_)
  refine Lib.hid ?_
  have hc1 := c_P w
  refine hc1.mono ?_
  clear hc1
  rintro e w1 ⟨v1, rfl, hn1, hb1⟩
  have hB1 := hb1
  replace hu := Nn.below hu hb1
  clear hb1
  go_wp2_with (go_at_call 14; refine Hid.out ?_)
  refine Lib.hid ?_
  have hl2 := nn_lit w1 3 (by decide) (by decide)
  have hlb2 := ba1 w1 (.cells #[.int .u32 3] 61)
  have hB2 := hB1.trans (hlb2.mono hB1.size)
  clear hB1
  replace hu := Nn.below hu hlb2
  replace hn1 := Nn.below hn1 hlb2
  clear hlb2
  have hc3 := c_plus hn1 hl2 P_big (by decide +kernel)
  refine hc3.mono ?_
  clear hc3
  rintro e w3 ⟨v3, rfl, hn3, hb3⟩
  have hB3 := hB2.trans (hb3.mono hB2.size)
  clear hB2
  replace hu := Nn.below hu hb3
  replace hn1 := Nn.below hn1 hb3
  replace hl2 := Nn.below hl2 hb3
  clear hb3
  go_wp2_with (go_at_call 83; refine Hid.out ?_)
  refine Lib.hid ?_
  have hc4 := c_down3 hn3
  refine hc4.mono ?_
  clear hc4
  rintro e w4 ⟨v4, rfl, hn4, hb4⟩
  have hB4 := hB3.trans (hb4.mono hB3.size)
  clear hB3
  replace hu := Nn.below hu hb4
  replace hn1 := Nn.below hn1 hb4
  replace hl2 := Nn.below hl2 hb4
  replace hn3 := Nn.below hn3 hb4
  clear hb4
  rw [P3_8] at hn4
  clear hn1 hl2 hn3
  go_wp2_with (go_at_call 60; refine Hid.out ?_)
  refine Lib.hid ?_
  have hc5 := Grow.c_rpow hu hn4
  refine hc5.mono ?_
  clear hc5
  rintro e w5 ⟨v5, rfl, hn5, hb5⟩
  have hB5 := hB4.trans (hb5.mono hB4.size)
  clear hB4
  replace hu := Nn.below hu hb5
  replace hn4 := Nn.below hn4 hb5
  clear hb5
  rw [← HX.out] at hn5
  clear hn4
  go_wp2_with (go_at_call 32; refine Hid.out ?_)
  refine Lib.hid ?_
  have hc6 := Grow.c_rmul hn5 hn5
  refine hc6.mono ?_
  clear hc6
  rintro e w6 ⟨v6, rfl, hn6, hb6⟩
  have hB6 := hB5.trans (hb6.mono hB5.size)
  clear hB5
  replace hu := Nn.below hu hb6
  replace hn5 := Nn.below hn5 hb6
  clear hb6
  go_wp2_with (go_at_call 39; refine Hid.out ?_)
  refine Lib.hid ?_
  have hc7 := c_cmp hn6 hu
  refine hc7.mono ?_
  clear hc7
  rintro e w7 ⟨r7, rfl, hr7, hb7⟩
  have hB7 := hB6.trans (hb7.mono hB6.size)
  clear hB6
  replace hu := Nn.below hu hb7
  replace hn5 := Nn.below hn5 hb7
  replace hn6 := Nn.below hn6 hb7
  clear hb7
  have HB := Lib.hid hB7
  have HNX := Lib.hid hn5
  clear hu
  by_cases hq : X * X % Fe.P = a
  · have hr0 : r7 = 0 := hr7.2 hq
    have HFI : Hid (R = X) := by show _ = _; rw [HR.out, HX.out, rrt, if_pos (by rw [← HX.out]; exact hq)]
    subst hr0
    obtain ⟨xa, xn, xc, rfl⟩ := Nn.form HNX.out
    clear hr7 hq
    go_wp2_with fail
    go_ret
    exact ⟨_, rfl, by rw [HFI.out]; exact HNX.out, HB.out⟩
  · have hr0 : ¬ r7 = 0 := fun h => hq (hr7.1 h)
    have HFI : Hid (R = X * (2 ^ (Nm.PN / 4) % Fe.P) % Fe.P) := by show _ = _; rw [HR.out, HX.out, rrt, if_neg (by rw [← HX.out]; exact hq)]
    clear hr7 hq
    have hx0 := HNX.out
    go_wp2_with (go_at_call 61; refine Hid.out ?_)
    refine Lib.hid ?_
    have hl8 := nn_lit w7 2 (by decide) (by decide)
    have hlb8 := ba1 w7 (.cells #[.int .u32 2] 61)
    have hB8 := hlb8
    replace hx0 := Nn.below hx0 hlb8
    clear hlb8
    have hc9 := c_P (w7.alloc (.cells #[.int .u32 2] 61))
    refine hc9.mono ?_
    clear hc9
    rintro e w9 ⟨v9, rfl, hn9, hb9⟩
    have hB9 := hB8.trans (hb9.mono hB8.size)
    clear hB8
    replace hx0 := Nn.below hx0 hb9
    replace hl8 := Nn.below hl8 hb9
    clear hb9
    go_wp2_with (go_at_call 83; refine Hid.out ?_)
    refine Lib.hid ?_
    have hc10 := c_down2 hn9
    refine hc10.mono ?_
    clear hc10
    rintro e w10 ⟨v10, rfl, hn10, hb10⟩
    have hB10 := hB9.trans (hb10.mono hB9.size)
    clear hB9
    replace hx0 := Nn.below hx0 hb10
    replace hl8 := Nn.below hl8 hb10
    replace hn9 := Nn.below hn9 hb10
    clear hb10
    rw [P_4] at hn10
    go_wp2_with (go_at_call 60; refine Hid.out ?_)
    refine Lib.hid ?_
    have hc11 := Grow.c_rpow hl8 hn10
    refine hc11.mono ?_
    clear hc11
    rintro e w11 ⟨v11, rfl, hn11, hb11⟩
    have hB11 := hB10.trans (hb11.mono hB10.size)
    clear hB10
    replace hx0 := Nn.below hx0 hb11
    replace hl8 := Nn.below hl8 hb11
    replace hn9 := Nn.below hn9 hb11
    replace hn10 := Nn.below hn10 hb11
    clear hb11
    go_wp2_with (go_at_call 32; refine Hid.out ?_)
    refine Lib.hid ?_
    have hc12 := Grow.c_rmul hx0 hn11
    refine hc12.mono ?_
    clear hc12
    rintro e w12 ⟨v12, rfl, hn12, hb12⟩
    have hB12 := hB11.trans (hb12.mono hB11.size)
    clear hB11
    replace hx0 := Nn.below hx0 hb12
    replace hl8 := Nn.below hl8 hb12
    replace hn9 := Nn.below hn9 hb12
    replace hn10 := Nn.below hn10 hb12
    replace hn11 := Nn.below hn11 hb12
    clear hb12
    have HN9 := Lib.hid hn12
    have HB9 := Lib.hid (HB.out.trans (hB12.mono HB.out.size))
    obtain ⟨xa, xn, xc, rfl⟩ := Nn.form hn12
    go_wp2_with fail
    go_ret
    exact ⟨_, rfl, by rw [HFI.out]; exact HN9.out, HB9.out⟩
end Go.Proofs.YtiinmdleechcgaaDoor
namespace Go.Proofs.YtiinmdleechcgaaDoor
open Go.RowKit
theorem c_bytes {w : World} {u : Value} {N : Nat} (hu : Nn w u (N : Int)) (hN : N < 2 ^ 255) : Calls Tryd.prog 17 #[u, .int .i64 32] w fun e w' => e = .returned (.slice (some ⟨w.heap.size, 0, none⟩) 32 32) ∧ Blk w' w.heap.size .u8 5 (Bt.row 8 32 N 255) ∧ Below w.heap.size w w' := by
  obtain ⟨l, h1, h2, h3, h4⟩ := hu
  refine (outb_any w u l 32 h1 (by omega) (by decide)).mono ?_
  rintro e w' ⟨rfl, hb, hB⟩
  have hw : Nt.Ws l := by obtain ⟨_, _, _, _, h, _⟩ := h1; exact h
  exact ⟨rfl, by rw [← Nt.bytes_row hw h2 hN]; exact hb, hB⟩
/-- A coordinate, out of the fraction. -/
theorem r3_part {X Z c : Int} (hZ : Ed.Nz Z) (hz0 : 0 ≤ Z) (hc : Ed.Cg X (c * Z)) (hb : 0 ≤ c ∧ c < Ed.q) : X * (Z ^ (Nm.PN - 2) % Fe.P) % Fe.P = c := by
  have hz : Z % (Nm.PN : Int) ≠ 0 := by
    intro h
    exact hZ (Ed.Cg.of_mod (by show Z % (Nm.PN : Int) = 0 % (Nm.PN : Int); rw [h]; decide))
  have h1 : Ed.Cg (Z * Z ^ (Nm.PN - 2)) 1 := Ed.Cg.of_mod (by show _ % (Nm.PN : Int) = _; rw [Nm.inv_one hz0 hz]; decide)
  have h2 : Ed.Cg (X * (Z ^ (Nm.PN - 2) % Fe.P)) c := by
    refine (hc.mul (cgP _)).trans ?_
    exact (Ed.Cg.of_eq (Int.mul_assoc _ _ _)).trans (((Ed.Cg.refl c).mul h1).trans (Ed.Cg.of_eq (Int.mul_one c)))
  have h3 := h2.mod
  rw [q_P] at h3 hb
  rw [h3, Int.emod_eq_of_lt hb.1 hb.2]
theorem q_small : Ed.q < 2 ^ 255 := by decide
set_option maxRecDepth 100000 in
set_option maxHeartbeats 2000000 in
theorem rtold_any (w : World) (v : Value) (P : Ed.Pt) (hP : P.Good) (h : Rq w v P) : Calls Tryd.prog 10 #[v] w fun e w' => ∃ g, e = .returned (.slice (some ⟨g, 0, none⟩) 32 32) ∧ Blk w' g .u8 5 (encL P) ∧ w.heap.size ≤ g ∧ Below w.heap.size w w' := by
  obtain ⟨a, b, c, X, Y, Z, rfl, ha, hb, hc, hR⟩ := h
  have hgx := hP.x
  have hgy := hP.y
  have HXX := Lib.hid (r3_part hR.z hR.zr.1 hR.x hgx)
  have HYY := Lib.hid (r3_part hR.z hR.zr.1 hR.y hgy)
  obtain ⟨nx, hnx⟩ : ∃ n : Nat, P.x = n := ⟨P.x.toNat, by omega⟩
  obtain ⟨ny, hny⟩ : ∃ n : Nat, P.y = n := ⟨P.y.toNat, by omega⟩
  have hqs := q_small
  have hny2 : ny < 2 ^ 255 := by
    have h1 : (ny : Int) < 2 ^ 255 := by omega
    exact_mod_cast h1
  have hrow : rowL P = Bt.row 8 32 ny 255 := by unfold rowL; rw [hny]; rfl
  obtain ⟨aa, an, ac, rfl⟩ := Nn.form ha
  obtain ⟨ba, bn, bc, rfl⟩ := Nn.form hb
  obtain ⟨ca, cn, cc, rfl⟩ := Nn.form hc
  obtain ⟨v31, hv31, hv0, hv1⟩ := rowL_31 P
  have HROW := Lib.hid hrow
  have HNX := Lib.hid hnx
  have HNY := Lib.hid (And.intro hny hny2)
  have HV := Lib.hid (And.intro hv31 (And.intro hv0 hv1))
  clear hgx hgy hqs hny2 hrow hnx hny hv31 hv0 hv1 hR
  have hbb := ba1 w (.cells #[.slice aa an ac, .slice ba bn bc, .slice ca cn cc] 33)
  have hrow0 := heap_alloc_new w (.cells #[.slice aa an ac, .slice ba bn bc, .slice ca cn cc] 33)
  replace ha := Nn.below ha hbb
  replace hb := Nn.below hb hbb
  replace hc := Nn.below hc hbb
  have x0 : (w.alloc (.cells #[.slice aa an ac, .slice ba bn bc, .slice ca cn cc] 33)).cell? ⟨w.heap.size, 0, none⟩ = some (.slice aa an ac) := by rw [cell_of_row _ _ _ _ _ _ hrow0]; rfl
  have x1 : (w.alloc (.cells #[.slice aa an ac, .slice ba bn bc, .slice ca cn cc] 33)).cell? ⟨w.heap.size, 1, none⟩ = some (.slice ba bn bc) := by rw [cell_of_row _ _ _ _ _ _ hrow0]; rfl
  have x2 : (w.alloc (.cells #[.slice aa an ac, .slice ba bn bc, .slice ca cn cc] 33)).cell? ⟨w.heap.size, 2, none⟩ = some (.slice ca cn cc) := by rw [cell_of_row _ _ _ _ _ _ hrow0]; rfl
  go_enter Tryd.func10, Tryd.ntmps10
  go_wp2_with (go_at_call 31; refine Hid.out ?_)
  refine Lib.hid ?_
  have hlt := (Array.getElem?_eq_some_iff.1 hrow0).1
  generalize w.alloc (.cells #[.slice aa an ac, .slice ba bn bc, .slice ca cn cc] 33) = w0 at *
  refine (Grow.c_rinv hc).mono ?_
  rintro e w1 ⟨v1, rfl, hn1, hb1⟩
  obtain ⟨za, zn, zc, rfl⟩ := Nn.form hn1
  replace ha := Nn.below ha hb1
  replace hb := Nn.below hb hb1
  have y0 := (hb1.cell (p := ⟨w.heap.size, 0, none⟩) hlt).trans x0
  have y1 := (hb1.cell (p := ⟨w.heap.size, 1, none⟩) hlt).trans x1
  have hB1 := hbb.trans (hb1.mono hbb.size)
  have hlt1 : w.heap.size < w1.heap.size := Nat.lt_of_lt_of_le hlt hb1.size
  clear x0 x1 x2 hc hrow0 hbb hb1 hlt
  go_wp2_with (go_at_call 32; refine Hid.out ?_)
  refine Lib.hid ?_
  refine (Grow.c_rmul ha hn1).mono ?_
  rintro e w2 ⟨v2, rfl, hn2, hb2⟩
  rw [HXX.out, HNX.out] at hn2
  replace hb := Nn.below hb hb2
  replace hn1 := Nn.below hn1 hb2
  have x1 := (hb2.cell (p := ⟨w.heap.size, 1, none⟩) hlt1).trans y1
  have hB2 := hB1.trans (hb2.mono hB1.size)
  clear y0 y1 ha hb2 hB1
  obtain ⟨xa, xn, xc, rfl⟩ := Nn.form hn2
  go_wp2_with (go_at_call 32; refine Hid.out ?_)
  refine Lib.hid ?_
  refine (Grow.c_rmul hb hn1).mono ?_
  rintro e w3 ⟨v3, rfl, hn3, hb3⟩
  rw [HYY.out, HNY.out.1] at hn3
  replace hn2 := Nn.below hn2 hb3
  have hB3 := hB2.trans (hb3.mono hB2.size)
  clear x1 hb hn1 hb3 hB2 hlt1
  obtain ⟨ya, yn, yc, rfl⟩ := Nn.form hn3
  go_wp2_with (go_at_call 17; refine Hid.out ?_)
  refine Lib.hid ?_
  refine (c_bytes hn3 HNY.out.2).mono ?_
  rintro e w4 ⟨rfl, hblk, hb4⟩
  replace hn2 := Nn.below hn2 hb4
  have hB4 := hB3.trans (hb4.mono hB3.size)
  have hg3 := hB3.size
  clear hn3 hb4 hB3
  rw [← HROW.out] at hblk
  obtain ⟨g, hg⟩ : ∃ g, g = w3.heap.size := ⟨_, rfl⟩
  rw [← hg] at hblk hg3 ⊢
  have HBLK := Lib.hid hblk
  have HB4 := Lib.hid hB4
  have HG3 := Lib.hid hg3
  have hbit := c_bit hn2 0 (by decide)
  have hcell : w4.cell? ⟨g, 31, none⟩ = some (.int .u8 v31) := by
    have hl : (rowL P).length = 32 := by rw [HROW.out]; simp [Bt.row]
    rw [cell_of_row _ _ _ _ _ _ hblk, ← HV.out.1]
    simp [List.getD_eq_getElem?_getD, hl]
  have hfz : w4.frozen? ⟨g, 31, none⟩ = false := by
    have hblk2 : w4.heap[g]? = some (.cells ((rowL P).map (Value.int .u8)).toArray 5 (0, 0)) := hblk
    simp [World.frozen?, hblk2]
  have hb0 : Bt.bit nx 0 = nx % 2 := by unfold Bt.bit; rw [Nat.pow_zero, Nat.div_one]
  rw [hb0] at hbit
  obtain ⟨hv0, hv1⟩ := HV.out.2
  clear hn2 hblk hB4 hg hg3 hb0
  by_cases hodd : nx % 2 = 1
  · have HE : Hid (encL P = (rowL P).set 31 (v31 + 128)) := by
      show _ = _
      unfold encL
      rw [HV.out.1, if_pos (by rw [HNX.out]; omega)]
    have hbv : ((nx % 2 : Nat) : Int) = 1 := by omega
    rw [hbv] at hbit
    clear hodd hbv
    go_wp2_with (go_at_call 33; refine hbit.mono ?_; rintro e w5 ⟨rfl, hw⟩; obtain rfl := hw.symm)
    go_ret
    refine ⟨g, rfl, ?_, HG3.out, HB4.out.setCell (p := ⟨g, 31, none⟩) HG3.out _⟩
    rw [HE.out]
    have h9 := heap_setCell_same w4 g 31 _ 5 (.int .u8 (v31 + 128)) HBLK.out
    show _ = _
    rw [h9, List.map_set]
    simp
  · have HE : Hid (encL P = rowL P) := by
      show _ = _
      unfold encL
      rw [if_neg (by rw [HNX.out]; omega)]
    have hbv : ((nx % 2 : Nat) : Int) = 0 := by omega
    rw [hbv] at hbit
    clear hodd hbv
    go_wp2_with (go_at_call 33; refine hbit.mono ?_; rintro e w5 ⟨rfl, hw⟩; obtain rfl := hw.symm)
    go_ret
    exact ⟨g, rfl, by rw [HE.out]; exact HBLK.out, HG3.out, HB4.out⟩
end Go.Proofs.YtiinmdleechcgaaDoor
namespace Go.Proofs.YtiinmdleechcgaaDoor
open Go.RowKit
theorem pmI (a e : Nat) (h : e < 2 ^ 255) : (a : Int) ^ e % Fe.P = ((Nm.pm Nm.PN 255 a e : Nat) : Int) := by
  rw [Nm.pm_eq Nm.PN 255 a e h, Int.natCast_emod, Int.natCast_pow, Fe.P_PN]
theorem e_inv : Nm.PN - 2 < 2 ^ 255 := by decide
def sXX : Nat := Ed.Bx * Ed.Bx % Nm.PN
def sM : Nat := (Ed.ddN * (Ed.By * Ed.By % Nm.PN) % Nm.PN + 1) % Nm.PN
def sT : Nat := (Ed.By * Ed.By % Nm.PN - 1) % Nm.PN
theorem s_y : (4 : Int) * ((5 : Int) ^ (Nm.PN - 2) % Fe.P) % Fe.P = (Ed.By : Int) := by
  rw [show (5 : Int) = ((5 : Nat) : Int) from rfl, pmI 5 _ e_inv]
  decide +kernel
theorem s_yy : (Ed.By : Int) * (Ed.By : Int) % Fe.P = ((Ed.By * Ed.By % Nm.PN : Nat) : Int) := by decide +kernel
theorem s_t : (((Ed.By * Ed.By % Nm.PN : Nat) : Int) - 1) % Fe.P = (sT : Int) := by decide +kernel
theorem s_m : (Ed.dd * ((Ed.By * Ed.By % Nm.PN : Nat) : Int) % Fe.P + 1) % Fe.P = (sM : Int) := by decide +kernel
theorem s_xx : (sT : Int) * ((sM : Int) ^ (Nm.PN - 2) % Fe.P) % Fe.P = (sXX : Int) := by
  rw [pmI _ _ e_inv]
  decide +kernel
theorem s_sq : decide ((sXX : Int) = 0 ∨ (sXX : Int) ^ ((Nm.PN - 1) / 2) % Fe.P = 1) = true := by
  rw [pmI _ _ (by decide)]
  exact decide_eq_true (.inr (by decide +kernel))
theorem s_rt : rrt (sXX : Int) = ((Nm.PN - Ed.Bx : Nat) : Int) := by
  unfold rrt
  rw [pmI _ _ (by decide), if_pos (by decide +kernel)]
  decide +kernel
theorem s_neg : (0 - ((Nm.PN - Ed.Bx : Nat) : Int)) % Fe.P = (Ed.Bx : Int) := by decide +kernel
theorem s_odd : Bt.bit (Nm.PN - Ed.Bx) 0 = 1 := by decide +kernel
theorem s_even : Bt.bit Ed.Bx 0 = 0 := by decide +kernel
theorem s_enc : encL Ed.B = Bt.row 8 32 Ed.By 255 := by
  unfold encL rowL
  rw [if_neg (by decide +kernel)]
  rfl
theorem s_31 : ∃ v : Int, (Bt.row 8 32 Ed.By 255).getD 31 0 = v ∧ v < 128 := ⟨_, rfl, by decide +kernel⟩
theorem s_of : ((Bt.low (Bt.row 8 32 Ed.By 255) % 2 ^ 255 : Nat) : Int) % Fe.P = (Ed.By : Int) := by decide +kernel
theorem results_cell_tmp_row {P : Program} {fn : Func} {p u : Tmp} {ty : TypeId} (h : fn.results = #[.cell p ty, .tmp u]) (tmps : Array Value) (w : World) (g : Nat) (t : TypeId) (cs : Array Value) (fr : Nat × Nat) (d : TypeDesc)
    (hp : tmps.getD p undef = .pointer (some ⟨g, 0, none⟩)) (hg : w.heap[g]? = some (.cells cs t fr))
    (hu : P.underlying ty = some d) (hd : (match d with | .struct _ | .array _ _ => true | _ => false) = true) (hi : (P.info? ty).map (·.size) = some cs.size) :
    (results fn tmps).run P w = .ok (.tuple #[.agg cs, tmps.getD u undef]) w := by
  rw [results_cell_tmp h, hp]
  simp [asAddr, run_loadVar_row w g t ty cs fr d hg hu hd hi]
theorem dd_of {D : Int} (h : Ed.Cg D Ed.dd) (h0 : 0 ≤ D ∧ D < Ed.q) : D = Ed.dd := by
  have h1 := h.mod
  rw [Int.emod_eq_of_lt h0.1 h0.2, Int.emod_eq_of_lt (by decide) (by decide)] at h1
  exact h1
set_option maxRecDepth 100000 in
set_option maxHeartbeats 4000000 in
theorem ron_B (w : World) (g : Nat) (hg : Blk w g .u8 5 (Bt.row 8 32 Ed.By 255)) : Calls Tryd.prog 38 #[.slice (some ⟨g, 0, none⟩) 32 32] w fun e w' => ∃ a b c, e = .returned (.tuple #[.agg #[a, b, c], .bool true]) ∧ Nn w' a (Ed.Bx : Int) ∧ Nn w' b (Ed.By : Int) ∧ Nn w' c 1 ∧ Below w.heap.size w w' := by
  have hb0 := ba1 w (.cells rz 33)
  have hrz := heap_alloc_new w (.cells rz 33)
  have hlt : g < w.heap.size := hg.lt
  have hg0 : Blk (w.alloc (.cells rz 33)) g .u8 5 (Bt.row 8 32 Ed.By 255) := hg.other (hb0.block _ hlt)
  go_enter Tryd.func38, Tryd.ntmps38
  go_wp2_with (go_at_call 66; refine Hid.out ?_)
  refine Lib.hid ?_
  change Calls _ _ _ (w.alloc (.cells rz 33)) _
  generalize w.alloc (.cells rz 33) = w0 at *
  have hslc := slc_lie hg0 (by simp [Bt.row]) (Nat.le_refl 32) (Bt.row_W8 Ed.By)
  refine (of_32 w0 (some ⟨g, 0, none⟩) 32 _ (by simp [Bt.row]) hslc).mono ?_
  rintro e w1 ⟨v1, l1, rfl, q1, q2, q3, q4, hb1⟩
  have hn1 : Nn w1 v1 (Ed.By : Int) := ⟨l1, q1, by rw [q2, s_of], q3, by omega⟩
  have hgb := hg0.lt
  have hG1 : Blk w1 g .u8 5 (Bt.row 8 32 Ed.By 255) := hg0.other (hb1.block _ hgb)
  have hrz1 := (hb1.block _ (lt_of_block hrz)).trans hrz
  have hB1 := hb0.trans (hb1.mono hb0.size)
  have HBLK := Lib.hid hG1
  have HRZ := Lib.hid hrz1
  have HB1 := Lib.hid hB1
  obtain ⟨ya, yn, yc, rfl⟩ := Nn.form hn1
  have HLT := Lib.hid hlt
  clear hslc q1 q2 q3 q4 hb1 hgb hG1 hrz1 hB1 hg0 hrz hb0 hg hlt
  go_wp2_with (go_at_call 32; refine Hid.out ?_)
  refine Lib.hid ?_
  refine (Grow.c_rmul hn1 hn1).mono ?_
  rintro e w2 ⟨v2, rfl, hn2, hb2⟩
  rw [s_yy] at hn2
  replace hn1 := Nn.below hn1 hb2
  have HB2 := Lib.hid (hb2)
  obtain ⟨qa, qn, qc, rfl⟩ := Nn.form hn2
  clear hb2
  go_wp2_with (go_at_call 63; refine Hid.out ?_)
  refine Lib.hid ?_
  have hl3 := nn_lit w2 1 (by decide) (by decide)
  have hb3 := ba1 w2 (.cells #[.int .u32 1] 61)
  replace hn1 := Nn.below hn1 hb3
  replace hn2 := Nn.below hn2 hb3
  have HB3 := Lib.hid hb3
  clear hb3
  refine (c_rsub hn2 hl3 (by decide)).mono ?_
  rintro e w4 ⟨v4, rfl, hn4, hb4⟩
  rw [s_t] at hn4
  replace hn1 := Nn.below hn1 hb4
  replace hn2 := Nn.below hn2 hb4
  have HB4 := Lib.hid hb4
  clear hb4 hl3
  go_wp2_with (go_at_call 35; refine Hid.out ?_)
  refine Lib.hid ?_
  refine (rd_any w4).mono ?_
  rintro e w5 ⟨v5, D, rfl, hn5, hd5, hd6, hb5⟩
  obtain rfl := dd_of hd5 hd6
  replace hn1 := Nn.below hn1 hb5
  replace hn2 := Nn.below hn2 hb5
  replace hn4 := Nn.below hn4 hb5
  have HB5 := Lib.hid hb5
  clear hb5 hd5 hd6
  go_wp2_with (go_at_call 32; refine Hid.out ?_)
  refine Lib.hid ?_
  refine (Grow.c_rmul hn5 hn2).mono ?_
  rintro e w6 ⟨v6, rfl, hn6, hb6⟩
  replace hn1 := Nn.below hn1 hb6
  replace hn4 := Nn.below hn4 hb6
  have HB6 := Lib.hid hb6
  clear hb6 hn2 hn5
  go_wp2_with (go_at_call 65; refine Hid.out ?_)
  refine Lib.hid ?_
  have hl7 := nn_lit w6 1 (by decide) (by decide)
  have hb7 := ba1 w6 (.cells #[.int .u32 1] 61)
  replace hn1 := Nn.below hn1 hb7
  replace hn4 := Nn.below hn4 hb7
  replace hn6 := Nn.below hn6 hb7
  have HB7 := Lib.hid hb7
  clear hb7
  refine (c_radd hn6 hl7).mono ?_
  rintro e w8 ⟨v8, rfl, hn8, hb8⟩
  rw [s_m] at hn8
  replace hn1 := Nn.below hn1 hb8
  replace hn4 := Nn.below hn4 hb8
  have HB8 := Lib.hid hb8
  clear hb8 hl7 hn6
  go_wp2_with (go_at_call 31; refine Hid.out ?_)
  refine Lib.hid ?_
  refine (Grow.c_rinv hn8).mono ?_
  rintro e w9 ⟨v9, rfl, hn9, hb9⟩
  replace hn1 := Nn.below hn1 hb9
  replace hn4 := Nn.below hn4 hb9
  have HB9 := Lib.hid hb9
  clear hb9 hn8
  go_wp2_with (go_at_call 32; refine Hid.out ?_)
  refine Lib.hid ?_
  refine (Grow.c_rmul hn4 hn9).mono ?_
  rintro e w10 ⟨v10, rfl, hn10, hb10⟩
  rw [s_xx] at hn10
  replace hn1 := Nn.below hn1 hb10
  have hB10 : Below w.heap.size w w10 := by
    have a2 := HB1.out.trans (HB2.out.mono HB1.out.size)
    have a3 := a2.trans (HB3.out.mono a2.size)
    have a4 := a3.trans (HB4.out.mono a3.size)
    have a5 := a4.trans (HB5.out.mono a4.size)
    have a6 := a5.trans (HB6.out.mono a5.size)
    have a7 := a6.trans (HB7.out.mono a6.size)
    have a8 := a7.trans (HB8.out.mono a7.size)
    have a9 := a8.trans (HB9.out.mono a8.size)
    exact a9.trans (hb10.mono a9.size)
  have hU : Below w1.heap.size w1 w10 := by
    have a3 := HB2.out.trans (HB3.out.mono HB2.out.size)
    have a4 := a3.trans (HB4.out.mono a3.size)
    have a5 := a4.trans (HB5.out.mono a4.size)
    have a6 := a5.trans (HB6.out.mono a5.size)
    have a7 := a6.trans (HB7.out.mono a6.size)
    have a8 := a7.trans (HB8.out.mono a7.size)
    have a9 := a8.trans (HB9.out.mono a8.size)
    exact a9.trans (hb10.mono a9.size)
  have HBLK10 : Hid (Blk w10 g .u8 5 (Bt.row 8 32 Ed.By 255)) := HBLK.out.other (hU.block _ HBLK.out.lt)
  have HRZ10 : Hid (w10.heap[w.heap.size]? = some (.cells rz 33 (0, 0))) := (hU.block _ (lt_of_block HRZ.out)).trans HRZ.out
  have HB10 := Lib.hid hB10
  obtain ⟨xa, xn, xc, rfl⟩ := Nn.form hn10
  clear hb10 hB10 hU hn4 hn9 HB1 HB2 HB3 HB4 HB5 HB6 HB7 HB8 HB9 HBLK HRZ
  go_wp2_with (go_at_call 67; refine Hid.out ?_)
  refine Lib.hid ?_
  refine (Grow.c_rsquare hn10).mono ?_
  rintro e w11 ⟨v11, rfl, hv11, hb11⟩
  rw [s_sq] at hv11
  subst hv11
  replace hn1 := Nn.below hn1 hb11
  replace hn10 := Nn.below hn10 hb11
  have HB11 := Lib.hid hb11
  clear hb11
  go_wp2_with (go_at_call 68; refine Hid.out ?_)
  refine Lib.hid ?_
  refine (rroot_any w11 _ _ hn10).mono ?_
  rintro e w12 ⟨v12, rfl, hn12, hb12⟩
  rw [s_rt] at hn12
  replace hn1 := Nn.below hn1 hb12
  obtain ⟨v31, h31, h31b⟩ := s_31
  have hB12 : Below w.heap.size w w12 := by
    have a2 := HB10.out.trans (HB11.out.mono HB10.out.size)
    exact a2.trans (hb12.mono a2.size)
  have hU : Below w10.heap.size w10 w12 := HB11.out.trans (hb12.mono HB11.out.size)
  have hblk12 : Blk w12 g .u8 5 (Bt.row 8 32 Ed.By 255) := HBLK10.out.other (hU.block _ HBLK10.out.lt)
  have hrz12 : w12.heap[w.heap.size]? = some (.cells rz 33 (0, 0)) := (hU.block _ (lt_of_block HRZ10.out)).trans HRZ10.out
  have hc31 : w12.cell? ⟨g, 31, none⟩ = some (.int .u8 v31) := by
    have hl : (Bt.row 8 32 Ed.By 255).length = 32 := by simp [Bt.row]
    rw [cell_of_row _ _ _ _ _ _ hblk12, ← h31]
    simp [List.getD_eq_getElem?_getD, hl]
  have h31c : decide ((128 : Int) ≤ v31) = false := decide_eq_false (by omega)
  have HBLK12 := Lib.hid hblk12
  have HRZ12 := Lib.hid hrz12
  have HB12 := Lib.hid hB12
  have hbit := c_bit hn12 0 (by decide)
  rw [s_odd] at hbit
  obtain ⟨ra, rn, rc, rfl⟩ := Nn.form hn12
  clear hb12 hU hblk12 hrz12 hB12 h31 h31b HBLK10 HRZ10 HB10 HB11 hn10
  go_wp2_with (first
    | (go_at_call 63; refine Hid.out ?_)
    | (go_at_call 33; refine hbit.mono ?_; rintro e wb ⟨rfl, hw⟩; obtain rfl := hw.symm; clear hw))
  refine Lib.hid ?_
  refine (c_rsub (Nn.nil w12) hn12 (by decide)).mono ?_
  rintro e w13 ⟨v13, rfl, hn13, hb13⟩
  rw [s_neg] at hn13
  replace hn1 := Nn.below hn1 hb13
  have hbit2 := fun wq (h : Nn wq v13 (Ed.Bx : Int)) => c_bit (N := Ed.Bx) h 0 (by decide)
  rw [s_even] at hbit2
  obtain ⟨sa, sn, sc, rfl⟩ := Nn.form hn13
  have HB13 := Lib.hid hb13
  clear hbit hn12 hc31 hb13
  have hU13 : Below w12.heap.size w12 w13 := HB13.out
  have hblk13 : Blk w13 g .u8 5 (Bt.row 8 32 Ed.By 255) := HBLK12.out.other (hU13.block _ HBLK12.out.lt)
  have hrz13 : w13.heap[w.heap.size]? = some (.cells rz 33 (0, 0)) := (hU13.block _ (lt_of_block HRZ12.out)).trans HRZ12.out
  have hB13 : Below w.heap.size w w13 := HB12.out.trans (HB13.out.mono HB12.out.size)
  have hl14 := nn_lit w13 1 (by decide) (by decide)
  have hb14 := ba1 w13 (.cells #[.int .u32 1] 61)
  have hs14 : (w13.alloc (.cells #[.int .u32 1] 61)).heap.size = w13.heap.size + 1 := by simp
  have hb15 := hb14.trans ((ba1 (w13.alloc (.cells #[.int .u32 1] 61)) (.cells #[.slice sa sn sc, .slice ya yn yc, .slice (some ⟨w13.heap.size, 0, none⟩) 1 1] 33)).mono hb14.size)
  have hrow15 := heap_alloc_new (w13.alloc (.cells #[.int .u32 1] 61)) (.cells #[.slice sa sn sc, .slice ya yn yc, .slice (some ⟨w13.heap.size, 0, none⟩) 1 1] 33)
  rw [hs14] at hrow15
  have hx15 := Nn.below hn13 hb15
  have hy15 := Nn.below hn1 hb15
  have hz15 := Nn.below hl14 (ba1 (w13.alloc (.cells #[.int .u32 1] 61)) (.cells #[.slice sa sn sc, .slice ya yn yc, .slice (some ⟨w13.heap.size, 0, none⟩) 1 1] 33))
  have HBL := Lib.hid (hblk13.other (hb15.block _ hblk13.lt))
  have HRZ := Lib.hid ((hb15.block _ (lt_of_block hrz13)).trans hrz13)
  have HB15 := Lib.hid (hB13.trans (hb15.mono hB13.size))
  go_upto_region 13 with fail
  change Code.wp _ _ _ _ ((w13.alloc (.cells #[.int .u32 1] 61)).alloc (.cells #[.slice sa sn sc, .slice ya yn yc, .slice (some ⟨w13.heap.size, 0, none⟩) 1 1] 33))
  have HROW := Lib.hid hrow15
  have HX := Lib.hid hx15
  have HY := Lib.hid hy15
  have HZ := Lib.hid hz15
  generalize (w13.alloc (.cells #[.int .u32 1] 61)).alloc (.cells #[.slice sa sn sc, .slice ya yn yc, .slice (some ⟨w13.heap.size, 0, none⟩) 1 1] 33) = wq at *
  generalize w13.heap.size = oneB at *
  clear hU13 hblk13 hrz13 hB13 hl14 hb14 hs14 hb15 hrow15 hx15 hy15 hz15 HB13 hn1 hn13 HBLK12 HRZ12 HB12
  have hD : Below wq.heap.size wq wq.drew := ⟨rfl, rfl, rfl, Nat.le_refl _, fun _ _ => rfl⟩
  have hrqd : Rq wq.drew (.agg #[.slice sa sn sc, .slice ya yn yc, .slice (some ⟨oneB, 0, none⟩) 1 1]) Ed.B :=
    ⟨_, _, _, (Ed.Bx : Int), (Ed.By : Int), 1, rfl, Nn.below HX.out hD, Nn.below HY.out hD, Nn.below HZ.out hD, Ed.R3.flat Ed.B_good⟩
  have hb1 := hbit2 wq.drew (Nn.below HX.out hD)
  have ht1 := rtold_any wq.drew _ Ed.B Ed.B_good hrqd
  rw [s_enc] at ht1
  have hcp : ∀ wz, Below wq.heap.size wq wz → (convert 22 9 (.slice (some ⟨g, 0, none⟩) 32 32)).run Tryd.prog wz = .ok (.string (strOfNums (Bt.row 8 32 Ed.By 255))) wz := fun wz hbz =>
    conv_slc (slc_lie (HBL.out.other (hbz.block _ HBL.out.lt)) (by simp [Bt.row]) (Nat.le_refl 32) (Bt.row_W8 Ed.By))
  have hc2 : ∀ wz g2, Blk wz g2 .u8 5 (Bt.row 8 32 Ed.By 255) → (convert 22 9 (.slice (some ⟨g2, 0, none⟩) 32 32)).run Tryd.prog wz = .ok (.string (strOfNums (Bt.row 8 32 Ed.By 255))) wz := fun wz g2 hbz =>
    conv_slc (slc_lie hbz (by simp [Bt.row]) (Nat.le_refl 32) (Bt.row_W8 Ed.By))
  have hcp0 := hcp wq.drew hD
  have HCP := Lib.hid hcp
  have HC2 := Lib.hid hc2
  have hrowq := HROW.out
  generalize strOfNums (Bt.row 8 32 Ed.By 255) = S at *
  clear hcp hc2 hrqd hbit2
  have x0 : wq.cell? ⟨oneB + 1, 0, none⟩ = some (.slice sa sn sc) := by rw [cell_of_row _ _ _ _ _ _ hrowq]; rfl
  have x1 : wq.cell? ⟨oneB + 1, 1, none⟩ = some (.slice ya yn yc) := by rw [cell_of_row _ _ _ _ _ _ hrowq]; rfl
  have x2 : wq.cell? ⟨oneB + 1, 2, none⟩ = some (.slice (some ⟨oneB, 0, none⟩) 1 1) := by rw [cell_of_row _ _ _ _ _ _ hrowq]; rfl
  go_region_with (first
    | (go_at_call 33; refine hb1.mono ?_; rintro e wb ⟨rfl, hw⟩; obtain rfl := hw.symm; clear hw)
    | (go_at_call 10; refine ht1.mono ?_; rintro e wt ⟨g2, rfl, hbk, hg2, hbt⟩; have hcv1 := HC2.out wt g2 hbk; have hcv2 := HCP.out wt (hD.trans hbt); have HBT := Lib.hid (hD.trans hbt); clear hbk hg2 hbt))
  all_goals (
    have hrowt := (HBT.out.block _ (lt_of_block hrowq)).trans hrowq
    have hrzt := (HBT.out.block _ (lt_of_block HRZ.out)).trans HRZ.out
    have hone : (#[.slice sa sn sc, .slice ya yn yc, .slice (some ⟨oneB, 0, none⟩) 1 1] : Array Value).all (·.oneCell') = true := rp_one _ _ _ rfl rfl rfl
    have HXT := Lib.hid (And.intro (Nn.below HX.out HBT.out) (And.intro (Nn.below HY.out HBT.out) (Nn.below HZ.out HBT.out)))
    have HONE := Lib.hid hone
    clear hone x0 x1 x2 hb1 ht1 hcp0 hcv1 hcv2
    go_wp2_with (first
      | ((with_reducible refine wpList_load_row (o := ⟨some 64, _, _, _, _, _⟩) rfl 33 (.tmp 9) rfl (oneB + 1) rfl 33 _ (0, 0) _ hrowt Tryd.underlying33 rfl ?_ ?_); exact i33)
      | ((with_reducible refine wpList_store_row (o := ⟨none, _, _, _, _, _⟩) rfl 33 (.tmp 2) (.tmp 64) rfl w.heap.size #[.slice sa sn sc, .slice ya yn yc, .slice (some ⟨oneB, 0, none⟩) 1 1] rfl rfl 33 _ hrzt ?_ ?_ ?_ ?_); exact i33; exact rfl; exact HONE.out))
    have hS := setRow_heap wt w.heap.size _ #[.slice sa sn sc, .slice ya yn yc, .slice (some ⟨oneB, 0, none⟩) 1 1] 33 _ hrzt
    exact bodyPost_ret (results_cell_tmp_row Tryd.results38 _ _ w.heap.size 33 _ (0, 0) _ rfl hS Tryd.underlying33 rfl i33) rfl ⟨_, _, _, rfl, nn_set hrzt rz_noint HXT.out.1, nn_set hrzt rz_noint HXT.out.2.1, nn_set hrzt rz_noint HXT.out.2.2, below_setRow (HB15.out.trans (HBT.out.mono HB15.out.size)) (Nat.le_refl _) _⟩)
end Go.Proofs.YtiinmdleechcgaaDoor
namespace Go.Proofs.YtiinmdleechcgaaDoor
open Go.RowKit
theorem Rq.set {w : World} {g : Nat} {C R : Array Value} {t : TypeId} {v : Value} {P : Ed.Pt} (hg : w.heap[g]? = some (.cells C t (0, 0))) (hC : ∀ (j : Nat) (n : Int), C[j]? ≠ some (.int .u32 n)) (h : Rq w v P) : Rq (w.setRow g R) v P := by
  obtain ⟨a, b, c, X, Y, Z, rfl, h1, h2, h3, h4⟩ := h
  exact ⟨a, b, c, X, Y, Z, rfl, nn_set hg hC h1, nn_set hg hC h2, nn_set hg hC h3, h4⟩
theorem Rq.agg {w : World} {v : Value} {P : Ed.Pt} (h : Rq w v P) : ∃ a b c, v = .agg #[a, b, c] ∧ (∀ (j : Nat) (n : Int), (#[a, b, c] : Array Value)[j]? ≠ some (.int .u32 n)) ∧ (#[a, b, c] : Array Value).all (·.oneCell') = true := by
  obtain ⟨a, b, c, X, Y, Z, rfl, h1, h2, h3, h4⟩ := h
  exact ⟨a, b, c, rfl, rp_noint h1 h2 h3, rp_one a b c h1.one h2.one h3.one⟩
theorem c_len {w : World} {u : Value} {N : Int} (hu : Nn w u N) : Calls Tryd.prog 36 #[u] w fun e w' => ∃ m : Nat, e = .returned (.int .i64 m) ∧ N < 2 ^ m ∧ m ≤ 640000 ∧ w' = w := by
  obtain ⟨l, h1, rfl, h3, h4⟩ := hu
  refine (len_any w u l h1 (by omega)).mono ?_
  rintro e w' ⟨m, rfl, h5, _, h6, rfl⟩
  exact ⟨m, rfl, h5, by omega, rfl⟩
/-- What the loop keeps. -/
structure TM (w wr : World) (pb ob : Nat) (pv ov : Array Value) (vn vd : Value) (N : Nat) (D : Int) (P Q : Ed.Pt) : Prop where
  pk : wr.heap[pb]? = some (.cells pv 33 (0, 0))
  ok : wr.heap[ob]? = some (.cells ov 33 (0, 0))
  rk : wr.heap[w.heap.size + 1]? = some (.cells rz 33 (0, 0))
  ne : pb ≠ ob
  ne2 : w.heap.size + 1 ≠ ob
  lo : w.heap.size ≤ ob
  rp : Rq wr (.agg pv) P
  ro : Rq wr (.agg ov) Q
  nd : Nn wr vd D
  nn : Nn wr vn N
  be : Below w.heap.size w wr
section
variable {w wr w6 : World} {pb ob N : Nat} {pv ov : Array Value} {vn vd : Value} {D : Int} {P Q R : Ed.Pt}
theorem TM.on (h : TM w wr pb ob pv ov vn vd N D P Q) (hb : Below wr.heap.size wr w6) : TM w w6 pb ob pv ov vn vd N D P Q :=
  ⟨(hb.block _ (lt_of_block h.pk)).trans h.pk, (hb.block _ (lt_of_block h.ok)).trans h.ok, (hb.block _ (lt_of_block h.rk)).trans h.rk, h.ne, h.ne2, h.lo, h.rp.below hb, h.ro.below hb, h.nd.below hb, h.nn.below hb, h.be.trans (hb.mono h.be.size)⟩
theorem TM.put (h : TM w wr pb ob pv ov vn vd N D P Q) {rv : Array Value} (hr : Rq wr (.agg rv) R) : TM w (wr.setRow ob rv) pb ob pv rv vn vd N D P R := by
  obtain ⟨a, b, c, he, hno, _⟩ := h.ro.agg
  injection he with he
  subst he
  refine ⟨(setRow_other _ _ _ _ h.ne).trans h.pk, setRow_heap wr ob _ rv 33 _ h.ok, (setRow_other _ _ _ _ h.ne2).trans h.rk, h.ne, h.ne2, h.lo, h.rp.set h.ok hno, hr.set h.ok hno, nn_set h.ok hno h.nd, nn_set h.ok hno h.nn, below_setRow h.be h.lo _⟩
end
theorem i33s : (Tryd.prog.info? 33).map (·.size) = some 3 := i33
theorem half_bit (N t : Nat) : N / 2 ^ t = N / 2 ^ (t + 1) + N / 2 ^ (t + 1) + N / 2 ^ t % 2 := by
  rw [Nat.pow_succ, ← Nat.div_div_eq_div_mul]
  omega
set_option maxRecDepth 100000 in
set_option maxHeartbeats 4000000 in
theorem rtimes_any (w : World) (vp vn : Value) (P : Ed.Pt) (hP : P.Good) (N : Nat) (h : Rq w vp P) (hn : Nn w vn (N : Int)) : Calls Tryd.prog 11 #[vp, vn] w fun e w' => ∃ v, e = .returned v ∧ Rq w' v (Ed.mul N P) ∧ Below w.heap.size w w' := by
  obtain ⟨p0, p1, p2, rfl, hpno, hpone⟩ := h.agg
  obtain ⟨na, nn, nc, rfl⟩ := Nn.form hn
  have HP := Lib.hid hP
  have hb1 := ba1 w (.cells #[p0, p1, p2] 33)
  have hb2 := hb1.trans ((ba1 (w.alloc (.cells #[p0, p1, p2] 33)) (.cells rz 33)).mono hb1.size)
  have hp1 : ((w.alloc (.cells #[p0, p1, p2] 33)).alloc (.cells rz 33)).heap[w.heap.size]? = some (.cells #[p0, p1, p2] 33 (0, 0)) := ((ba1 (w.alloc (.cells #[p0, p1, p2] 33)) (.cells rz 33)).block _ (by simp)).trans (heap_alloc_new w _)
  have hr1 : ((w.alloc (.cells #[p0, p1, p2] 33)).alloc (.cells rz 33)).heap[w.heap.size + 1]? = some (.cells rz 33 (0, 0)) := by
    have h := heap_alloc_new (w.alloc (.cells #[p0, p1, p2] 33)) (.cells rz 33)
    simpa using h
  have HB2 := Lib.hid hb2
  have HP1 := Lib.hid hp1
  have HR1 := Lib.hid hr1
  have HQ := Lib.hid (h.below hb2)
  have HN := Lib.hid (Nn.below hn hb2)
  clear hP h hn hb1 hb2 hp1 hr1
  go_enter Tryd.func11, Tryd.ntmps11
  go_wp2_with (go_at_call 34; refine Hid.out ?_)
  refine Lib.hid ?_
  change Calls _ _ _ ((w.alloc (.cells #[p0, p1, p2] 33)).alloc (.cells rz 33)) _
  generalize (w.alloc (.cells #[p0, p1, p2] 33)).alloc (.cells rz 33) = w2 at *
  refine (rorigin_any w2).mono ?_
  rintro e w3 ⟨oa, ob, oc, rfl, h0a, h0b, h0c, hb3⟩
  have hrq3 : Rq w3 (.agg #[oa, ob, oc]) Ed.O := ⟨oa, ob, oc, 0, 1, 1, rfl, h0a, h0b, h0c, Ed.R3.origin⟩
  have hone3 := rp_one oa ob oc h0a.one h0b.one h0c.one
  have hba := ba1 w3 (.cells #[.slice none 0 0, .slice none 0 0, .slice none 0 0] 33)
  have hz4 := heap_alloc_new w3 (.cells #[.slice none 0 0, .slice none 0 0, .slice none 0 0] 33)
  have HRQ3 := Lib.hid (hrq3.below hba)
  have HONE3 := Lib.hid hone3
  have HBA := Lib.hid (hb3.trans (hba.mono hb3.size))
  have HB3 := Lib.hid hb3
  have HZ4 := Lib.hid hz4
  have HS4 : Hid (w3.heap.size < (w3.alloc (.cells #[.slice none 0 0, .slice none 0 0, .slice none 0 0] 33)).heap.size) := by show _ < _; simp
  clear h0a h0b h0c hb3 hrq3 hone3 hba hz4
  go_wp2_with (first
    | ((with_reducible refine wpList_store_row (o := ⟨none, _, _, _, _, _⟩) rfl 33 (.tmp 5) (.tmp 8) rfl w3.heap.size #[oa, ob, oc] rfl rfl 33 _ HZ4.out ?_ ?_ ?_ ?_); exact i33; exact rfl; exact HONE3.out)
    | (go_at_call 35; refine Hid.out ?_))
  refine Lib.hid ?_
  rw [World.setRow_alloc_new]
  have hq5 : Rq (w3.alloc (.cells #[oa, ob, oc] 33)) (.agg #[oa, ob, oc]) Ed.O := by
    have h := HRQ3.out.set (R := #[oa, ob, oc]) HZ4.out rz_noint
    rw [World.setRow_alloc_new] at h
    exact h
  have hba5 := ba1 w3 (.cells #[oa, ob, oc] 33)
  have hb3' := HB3.out
  have hob := heap_alloc_new w3 (.cells #[oa, ob, oc] 33)
  have hbw5 := hb3'.trans (hba5.mono hb3'.size)
  have hpb : (w3.alloc (.cells #[oa, ob, oc] 33)).heap[w.heap.size]? = some (.cells #[p0, p1, p2] 33 (0, 0)) := (hbw5.block _ (lt_of_block HP1.out)).trans HP1.out
  have hqp := HQ.out.below hbw5
  have hnn := Nn.below HN.out hbw5
  have hbt := HB2.out.trans (hbw5.mono HB2.out.size)
  have hrk5 : (w3.alloc (.cells #[oa, ob, oc] 33)).heap[w.heap.size + 1]? = some (.cells rz 33 (0, 0)) := (hbw5.block _ (lt_of_block HR1.out)).trans HR1.out
  have hsz3 : w.heap.size + 1 < w3.heap.size := Nat.lt_of_lt_of_le (lt_of_block HR1.out) hb3'.size
  obtain ⟨gb, hgb⟩ : ∃ gb, gb = w3.heap.size := ⟨_, rfl⟩
  rw [← hgb] at hob ⊢
  have hne : w.heap.size ≠ gb := by omega
  have hlo : w.heap.size ≤ gb := by omega
  have hne2 : w.heap.size + 1 ≠ gb := by omega
  clear HRQ3 HZ4 HBA HS4 HONE3 hba5 hb3' hbw5 HQ HN HB3 HP1 HR1 hsz3 hgb HB2
  generalize w3.alloc (.cells #[oa, ob, oc] 33) = w5 at *
  refine (rd_any w5).mono ?_
  rintro e w6 ⟨vd, D, rfl, hnd, hcd, -, hb6⟩
  have T0 : TM w w6 w.heap.size gb #[p0, p1, p2] #[oa, ob, oc] (.slice na nn nc) vd N D P Ed.O :=
    ⟨(hb6.block _ (lt_of_block hpb)).trans hpb, (hb6.block _ (lt_of_block hob)).trans hob, (hb6.block _ (lt_of_block hrk5)).trans hrk5, hne, hne2, hlo, hqp.below hb6, hq5.below hb6, hnd, Nn.below hnn hb6, hbt.trans (hb6.mono hbt.size)⟩
  obtain ⟨da, dn, dc, rfl⟩ := Nn.form hnd
  have HT := Lib.hid T0
  have HCD := Lib.hid hcd
  clear hpb hob hrk5 hne hne2 hlo hqp hq5 hnd hnn hbt hb6 T0 hcd
  go_wp2_with (go_at_call 36; refine (c_len HT.out.nn).mono ?_; rintro e w7 ⟨m, rfl, hm1, hm2, hw⟩; obtain rfl := hw.symm; have HM := Lib.hid hm1; clear hm1 hw)
  go_loopw [7] (fun i wr => ∃ (j : Nat) (I : Int) (ov : Array Value), I + 1 = j ∧ j ≤ m ∧ i = .int .i64 I ∧ Hid (TM w wr w.heap.size gb #[p0, p1, p2] ov (.slice na nn nc) (.slice da dn dc) N D P (Ed.mul (N / 2 ^ j) P))) (fun i _ => (intOf i + 1).toNat)
  case atStart =>
    refine ⟨m, (m : Int) - 1, #[oa, ob, oc], by omega, Nat.le_refl _, rfl, ?_⟩
    have h0 : N / 2 ^ m = 0 := Nat.div_eq_of_lt (by have := HM.out; exact_mod_cast this)
    rw [h0]
    exact HT.out
  case round =>
    obtain ⟨j, I, ov, hI, hjm, rfl, HT⟩ := hrel
    by_cases hj : 0 < j
    · obtain ⟨t, rfl⟩ : ∃ t, j = t + 1 := ⟨j - 1, by omega⟩
      have hit : I = (t : Int) := by omega
      obtain ⟨o0, o1, o2, hoe, hono, hoone⟩ := HT.out.ro.agg
      injection hoe with hoe
      subst hoe
      subst hit
      have HS1 := Lib.hid (rsum_any wr (.agg #[o0, o1, o2]) (.agg #[o0, o1, o2]) (.slice da dn dc) D (Ed.mul (N / 2 ^ (t + 1)) P) (Ed.mul (N / 2 ^ (t + 1)) P) (Ed.mul_good HP.out _) (Ed.mul_good HP.out _) HCD.out HT.out.nd HT.out.ro HT.out.ro)
      have HBIT := fun wq (h : Nn wq (.slice na nn nc) (N : Int)) => c_bit h t (by omega)
      have hstep := half_bit N t
      have hob := HT.out.ok
      clear hono hoone
      go_wp2_with (first
        | ((with_reducible refine wpList_load_row (o := ⟨some 17, _, _, _, _, _⟩) rfl 33 (.tmp 5) rfl gb rfl 33 _ (0, 0) _ hob Tryd.underlying33 rfl ?_ ?_); exact i33)
        | ((with_reducible refine wpList_load_row (o := ⟨some 18, _, _, _, _, _⟩) rfl 33 (.tmp 5) rfl gb rfl 33 _ (0, 0) _ hob Tryd.underlying33 rfl ?_ ?_); exact i33)
        | (go_at_call 37; refine Hid.out ?_))
      refine Lib.hid ?_
      refine HS1.out.mono ?_
      rintro e w8 ⟨v8, rfl, hq8, hb8⟩
      obtain ⟨r0, r1, r2, rfl, hrno, hrone⟩ := hq8.agg
      have T8 := HT.out.on hb8
      have hok8 := T8.ok
      have T9 := Lib.hid (T8.put hq8)
      have HONE := Lib.hid hrone
      clear hob HS1 HT hb8 hq8 hrno hrone T8
      go_wp2_with (first
        | ((with_reducible refine wpList_store_row (o := ⟨none, _, _, _, _, _⟩) rfl 33 (.tmp 5) (.tmp 20) rfl gb #[r0, r1, r2] rfl rfl 33 _ hok8 ?_ ?_ ?_ ?_); exact i33; exact rfl; exact HONE.out)
        | (go_at_call 33; refine Hid.out ?_))
      refine Lib.hid ?_
      generalize w8.setRow gb #[r0, r1, r2] = w9 at *
      have hbit := HBIT w9 T9.out.nn
      have hbe : Bt.bit N t = N / 2 ^ t % 2 := rfl
      rw [hbe] at hbit
      by_cases hodd : N / 2 ^ t % 2 = 1
      · rw [hodd] at hbit
        have hmul : Ed.mul (N / 2 ^ t) P = Ed.add (Ed.add (Ed.mul (N / 2 ^ (t + 1)) P) (Ed.mul (N / 2 ^ (t + 1)) P)) P := by
          rw [hstep, hodd, ← Ed.mul_add HP.out]
          rfl
        have hgood := Ed.mul_good HP.out (N / 2 ^ (t + 1))
        have HS2 := Lib.hid (rsum_any w9 (.agg #[r0, r1, r2]) (.agg #[p0, p1, p2]) (.slice da dn dc) D _ P (Ed.add_good hgood hgood) HP.out HCD.out T9.out.nd T9.out.ro T9.out.rp)
        have HMUL := Lib.hid hmul
        have hob := T9.out.ok
        have hpb := T9.out.pk
        clear hok8 hmul hgood hodd hstep HBIT hbe
        go_wp2_with (first
          | ((with_reducible refine wpList_load_row (o := ⟨some 25, _, _, _, _, _⟩) rfl 33 (.tmp 5) rfl gb rfl 33 _ (0, 0) _ hob Tryd.underlying33 rfl ?_ ?_); exact i33)
          | ((with_reducible refine wpList_load_row (o := ⟨some 26, _, _, _, _, _⟩) rfl 33 (.tmp 2) rfl w.heap.size rfl 33 _ (0, 0) _ hpb Tryd.underlying33 rfl ?_ ?_); exact i33)
          | (go_at_call 37; refine Hid.out ?_)
          | (go_at_call 33; refine hbit.mono ?_; rintro e wb ⟨rfl, hw⟩; obtain rfl := hw.symm; clear hw))
        refine Lib.hid ?_
        refine HS2.out.mono ?_
        rintro e w10 ⟨v10, rfl, hq10, hb10⟩
        obtain ⟨s0, s1, s2, rfl, hsno, hsone⟩ := hq10.agg
        have T10 := T9.out.on hb10
        have hok10 := T10.ok
        have T11 := Lib.hid (T10.put hq10)
        have HONE2 := Lib.hid hsone
        clear hob hpb HS2 hb10 hq10 hsno hsone T10 T9 hbit HONE
        go_wp2_with ((with_reducible refine wpList_store_row (o := ⟨none, _, _, _, _, _⟩) rfl 33 (.tmp 5) (.tmp 28) rfl gb #[s0, s1, s2] rfl rfl 33 _ hok10 ?_ ?_ ?_ ?_); exact i33; exact rfl; exact HONE2.out)
        go_roundw
        case rel => exact ⟨t, (t : Int) - 1, #[s0, s1, s2], by omega, by omega, by go_num, by rw [HMUL.out]; exact T11.out⟩
        case measure => simp [intOf]
      · have hodd0 : N / 2 ^ t % 2 = 0 := by omega
        rw [hodd0] at hbit
        have hmul : Ed.mul (N / 2 ^ t) P = Ed.add (Ed.mul (N / 2 ^ (t + 1)) P) (Ed.mul (N / 2 ^ (t + 1)) P) := by
          rw [hstep, hodd0, Nat.add_zero, ← Ed.mul_add HP.out]
        have HMUL := Lib.hid hmul
        clear hok8 hmul hodd hodd0 hstep HBIT hbe
        go_wp2_with (go_at_call 33; refine hbit.mono ?_; rintro e wb ⟨rfl, hw⟩; obtain rfl := hw.symm; clear hw)
        go_roundw
        case rel => exact ⟨t, (t : Int) - 1, #[r0, r1, r2], by omega, by omega, by go_num, by rw [HMUL.out]; exact T9.out⟩
        case measure => simp [intOf]
    · obtain rfl : j = 0 := by omega
      obtain ⟨o0, o1, o2, hoe, hono, hoone⟩ := HT.out.ro.agg
      injection hoe with hoe
      subst hoe
      have hob := HT.out.ok
      have hrk := HT.out.rk
      have hneg : ¬ (0 : Int) ≤ I := by omega
      have HONE := Lib.hid hoone
      clear hoone hono
      go_wp2_with (first
        | ((with_reducible refine wpList_load_row (o := ⟨some 29, _, _, _, _, _⟩) rfl 33 (.tmp 5) rfl gb rfl 33 _ (0, 0) _ hob Tryd.underlying33 rfl ?_ ?_); exact i33)
        | ((with_reducible refine wpList_store_row (o := ⟨none, _, _, _, _, _⟩) rfl 33 (.tmp 4) (.tmp 29) rfl (w.heap.size + 1) #[o0, o1, o2] rfl rfl 33 _ hrk ?_ ?_ ?_ ?_); exact i33; exact rfl; exact HONE.out))
      have hq := HT.out.ro.set (R := #[o0, o1, o2]) hrk rz_noint
      rw [Nat.pow_zero, Nat.div_one] at hq
      have hS := setRow_heap wr (w.heap.size + 1) _ #[o0, o1, o2] 33 _ hrk
      exact bodyPost_ret (results_cell_row Tryd.results11 _ _ (w.heap.size + 1) 33 _ (0, 0) _ rfl hS Tryd.underlying33 rfl i33) rfl ⟨_, rfl, hq, below_setRow HT.out.be (Nat.le_succ _) _⟩
end Go.Proofs.YtiinmdleechcgaaDoor
namespace Go.Proofs.YtiinmdleechcgaaDoor
open Go.RowKit
set_option maxRecDepth 100000 in
set_option maxHeartbeats 2000000 in
theorem rstart_any (w : World) : Calls Tryd.prog 12 #[] w fun e w' => ∃ v, e = .returned v ∧ Rq w' v Ed.B ∧ Below w.heap.size w w' := by
  have hb0 := ba1 w (.cells #[.slice none 0 0, .slice none 0 0, .slice none 0 0] 33)
  have hr0 := heap_alloc_new w (.cells #[.slice none 0 0, .slice none 0 0, .slice none 0 0] 33)
  have HR0 := Lib.hid hr0
  have HB0 := Lib.hid hb0
  have hs0 : (w.alloc (.cells #[.slice none 0 0, .slice none 0 0, .slice none 0 0] 33)).heap.size = w.heap.size + 1 := by simp
  have HS0 := Lib.hid hs0
  clear hr0 hb0 hs0
  go_enter Tryd.func12, Tryd.ntmps12
  go_wp2_with (go_at_call 31; refine Hid.out ?_)
  refine Lib.hid ?_
  generalize w.alloc (.cells #[.slice none 0 0, .slice none 0 0, .slice none 0 0] 33) = w0 at *
  have h4 := nn_lit w0 4 (by decide) (by decide)
  have b4 := ba1 w0 (.cells #[.int .u32 4] 61)
  have hs4 : (w0.alloc (.cells #[.int .u32 4] 61)).heap.size = w0.heap.size + 1 := by simp
  have h5 := nn_lit (w0.alloc (.cells #[.int .u32 4] 61)) 5 (by decide) (by decide)
  have b5 := ba1 (w0.alloc (.cells #[.int .u32 4] 61)) (.cells #[.int .u32 5] 61)
  rw [hs4] at h5
  replace h4 := Nn.below h4 b5
  have HB5 := Lib.hid (b4.trans (b5.mono b4.size))
  rw [HS0.out] at h4 h5
  clear b4 b5 hs4
  generalize (w0.alloc (.cells #[.int .u32 4] 61)).alloc (.cells #[.int .u32 5] 61) = w2 at *
  refine (Grow.c_rinv h5).mono ?_
  rintro e w3 ⟨v3, rfl, hn3, hb3⟩
  replace h4 := Nn.below h4 hb3
  have HB3 := Lib.hid hb3
  clear h5 hb3
  go_wp2_with (go_at_call 32; refine Hid.out ?_)
  refine Lib.hid ?_
  refine (Grow.c_rmul h4 hn3).mono ?_
  rintro e w4 ⟨v4, rfl, hn4, hb4⟩
  rw [s_y] at hn4
  have HB4 := Lib.hid hb4
  clear h4 hn3 hb4
  go_wp2_with (go_at_call 17; refine Hid.out ?_)
  refine Lib.hid ?_
  refine (c_bytes (N := Ed.By) hn4 (by decide)).mono ?_
  rintro e w5 ⟨rfl, hblk, hb5⟩
  have HB6 := Lib.hid hb5
  have HBK := Lib.hid hblk
  clear hn4 hb5 hblk
  go_wp2_with (go_at_call 38; refine Hid.out ?_)
  refine Lib.hid ?_
  refine (ron_B w5 _ HBK.out).mono ?_
  rintro e w6 ⟨a, b, c, rfl, ha, hb, hc, hb6⟩
  have hbx : Below w.heap.size w w6 := by
    have a1 := HB0.out.trans (HB5.out.mono HB0.out.size)
    have a2 := a1.trans (HB3.out.mono a1.size)
    have a3 := a2.trans (HB4.out.mono a2.size)
    have a4 := a3.trans (HB6.out.mono a3.size)
    exact a4.trans (hb6.mono a4.size)
  have hr6 : w6.heap[w.heap.size]? = some (.cells #[.slice none 0 0, .slice none 0 0, .slice none 0 0] 33 (0, 0)) := by
    have a1 := HB5.out
    have a2 := a1.trans (HB3.out.mono a1.size)
    have a3 := a2.trans (HB4.out.mono a2.size)
    have a4 := a3.trans (HB6.out.mono a3.size)
    have a5 := a4.trans (hb6.mono a4.size)
    exact (a5.block _ (lt_of_block HR0.out)).trans HR0.out
  have ba := ba1 w6 (.cells #[a, b, c] 33)
  have hq7 : Rq (w6.alloc (.cells #[a, b, c] 33)) (.agg #[a, b, c]) Ed.B := ⟨a, b, c, (Ed.Bx : Int), (Ed.By : Int), 1, rfl, Nn.below ha ba, Nn.below hb ba, Nn.below hc ba, Ed.R3.flat Ed.B_good⟩
  have hone := rp_one a b c ha.one hb.one hc.one
  have hz6 := heap_alloc_new w6 (.cells #[.slice none 0 0, .slice none 0 0, .slice none 0 0] 33)
  have hr7 := (ba.block _ (lt_of_block hr6)).trans hr6
  have hz7 := heap_alloc_new w6 (.cells #[a, b, c] 33)
  have HB7 := Lib.hid (hbx.trans (ba.mono hbx.size))
  have HQ7 := Lib.hid hq7
  have HONE := Lib.hid hone
  have HZ6 := Lib.hid hz6
  have HR7 := Lib.hid hr7
  have HZ7 := Lib.hid hz7
  clear HB0 HB5 HB3 HB4 HB6 HBK HR0 ha hb hc hb6 hbx hr6 ba hq7 hone hz6 hr7 hz7
  go_upto_region 2 with ((with_reducible refine wpList_store_row (o := ⟨none, _, _, _, _, _⟩) rfl 33 (.tmp 1) (.tmp 10) rfl w6.heap.size #[a, b, c] rfl rfl 33 _ HZ6.out ?_ ?_ ?_ ?_); exact i33; exact rfl; exact HONE.out)
  rw [World.setRow_alloc_new]
  generalize w6.alloc (.cells #[a, b, c] 33) = w7 at *
  generalize w6.heap.size = gb at *
  have hz := HZ7.out
  have hr := HR7.out
  go_wp2_with (first
    | ((with_reducible refine wpList_load_row (o := ⟨some 12, _, _, _, _, _⟩) rfl 33 (.tmp 1) rfl gb rfl 33 _ (0, 0) _ hz Tryd.underlying33 rfl ?_ ?_); exact i33)
    | ((with_reducible refine wpList_store_row (o := ⟨none, _, _, _, _, _⟩) rfl 33 (.tmp 0) (.tmp 12) rfl w.heap.size #[a, b, c] rfl rfl 33 _ hr ?_ ?_ ?_ ?_); exact i33; exact rfl; exact HONE.out))
  have hS := setRow_heap w7 w.heap.size _ #[a, b, c] 33 _ hr
  exact bodyPost_ret (results_cell_row Tryd.results12 _ _ w.heap.size 33 _ (0, 0) _ rfl hS Tryd.underlying33 rfl i33) rfl ⟨_, rfl, HQ7.out.set hr rz_noint, below_setRow HB7.out (Nat.le_refl _) _⟩
end Go.Proofs.YtiinmdleechcgaaDoor
namespace Go.Proofs.YtiinmdleechcgaaDoor
open Go.RowKit
/-- A row that may be written as far as it goes. -/
def Free (n : Nat) (fz : Nat × Nat) : Prop := ∀ k, k < n → ¬ (fz.1 ≤ k ∧ k < fz.2)
/-- Cells written one behind the other into such a row. -/
theorem put_cells (g o : Nat) (t : TypeId) (fz : Nat × Nat) : ∀ (vs : List Value) (i : Nat) (cur : Array Value) (w : World), w.heap[g]? = some (.cells cur t fz) → Free cur.size fz → o + i + vs.length ≤ cur.size → (∀ v ∈ vs, v.oneCell' = true) →
    ∃ cur', (storeCells ⟨g, o, none⟩ vs i).run Tryd.prog w = .ok () (w.setRow g cur') ∧ cur'.size = cur.size ∧ (∀ k, k < o + i → cur'[k]? = cur[k]?) ∧ ∀ k, k < vs.length → cur'[o + i + k]? = vs[k]?
  | [], i, cur, w, hg, _, _, _ => ⟨cur, by rw [setRow_self w g cur t fz hg]; rfl, rfl, fun _ _ => rfl, fun k hk => absurd hk (Nat.not_lt_zero _)⟩
  | v :: rest, i, cur, w, hg, hf, hl, h1 => by
    have hi : o + i < cur.size := by simp at hl; omega
    have hat : (⟨g, o, none⟩ : Addr).add i = ⟨g, o + i, none⟩ := by unfold Addr.add; split <;> simp_all
    have hc : w.cell? ⟨g, o + i, none⟩ = some cur[o + i] := by simp [World.cell?, hg, hi]
    have hz : w.frozen? ⟨g, o + i, none⟩ = false := by
      have := hf (o + i) hi
      simp only [World.frozen?, hg, Bool.and_eq_false_iff, decide_eq_false_iff_not]
      omega
    have hst : (store ((⟨g, o, none⟩ : Addr).add i) v).run Tryd.prog w = .ok () (w.setRow g (cur.setIfInBounds (o + i) v)) := by
      rw [hat, run_store Tryd.prog w _ v _ (h1 v (by simp)), hc]
      simp [hz, setCell_eq_setRow w g (o + i) cur t fz v hg]
    obtain ⟨cur', r1, r2, r3, r4⟩ := put_cells g o t fz rest (i + 1) (cur.setIfInBounds (o + i) v) (w.setRow g (cur.setIfInBounds (o + i) v)) (setRow_heap w g cur _ t _ hg) (by simpa using hf) (by simp at hl ⊢; omega) (fun x hx => h1 x (by simp [hx]))
    refine ⟨cur', ?_, by simpa using r2, fun k hk => ?_, fun k hk => ?_⟩
    · simp only [storeCells, Sem.run_bind, hst, Result.andThen_ok, r1, setRow_setRow]
    · rw [r3 k (by omega), Array.getElem?_setIfInBounds_ne (by omega)]
    · cases k with
      | zero =>
        rw [Nat.add_zero, r3 (o + i) (by omega), Array.getElem?_setIfInBounds_self_of_lt hi]
        rfl
      | succ k =>
        have := r4 k (by simpa using hk)
        rw [show o + i + (k + 1) = o + (i + 1) + k by omega, this]
        rfl
/-- The row of bytes that a value has, free to its end. -/
def OwnG (w : World) (B : Nat) (v : Value) (xs : List Int) : Prop := ∃ g cap cur fz, v = .slice (some ⟨g, 0, none⟩) xs.length cap ∧ B ≤ g ∧ w.heap[g]? = some (.cells cur 5 fz) ∧ Free cur.size fz ∧ xs.length ≤ cap ∧ cap ≤ maxLen ∧ cur.size = cap ∧ ∀ k, k < xs.length → cur[k]? = some (.int .u8 (xs.getD k 0))
theorem OwnG.slc {w : World} {B : Nat} {v : Value} {xs : List Int} (h : OwnG w B v xs) (h8 : ∀ x ∈ xs, Sha.Sh.W8 x) : Sha.Slc w v xs := by
  obtain ⟨g, cap, cur, fz, rfl, hB, hg, hf, hc, hm, hs, hk⟩ := h
  refine ⟨_, cap, rfl, hc, h8, Or.inr ⟨g, 0, rfl, (Array.getElem?_eq_some_iff.1 hg).1, fun j hj => ?_⟩⟩
  rw [Nat.zero_add, ← hk j hj]
  simp [World.cell?, hg]
theorem OwnG.on {w w' : World} {B : Nat} {v : Value} {xs : List Int} (h : OwnG w B v xs) (hb : Below w.heap.size w w') : OwnG w' B v xs := by
  obtain ⟨g, cap, cur, fz, h1, hB, hg, h2⟩ := h
  exact ⟨g, cap, cur, fz, h1, hB, (hb.block _ (Array.getElem?_eq_some_iff.1 hg).1).trans hg, h2⟩
theorem ownG_str (w : World) (s : ByteArray) (hcap : grownCap w s.size 0 5 ≤ maxLen) : OwnG (Lib.bytesWorld w 5 s) w.heap.size (.slice (some ⟨w.heap.size, 0, none⟩) s.size (grownCap w s.size 0 5)) (strB s) := by
  have hge := grownCap_ge w s.size 0 5
  have hsz : (Lib.bytesCells w 5 s).size = grownCap w s.size 0 5 := by
    have e : s.data.size = s.size := rfl
    simp [Lib.bytesCells, e]
    omega
  refine ⟨w.heap.size, grownCap w s.size 0 5, _, _, by rw [strB_len], Nat.le_refl _, Lib.bytesWorld_at_new w 5 s, fun k hk => by simp only; omega, by rw [strB_len]; exact hge, hcap, hsz, fun k hk => ?_⟩
  rw [strB_len] at hk
  have h := Lib.bytesWorld_cell w 5 s k hk
  rw [strB_get s k hk]
  simpa [World.cell?, Lib.bytesWorld_at_new] using h
theorem app_G {w : World} {B : Nat} {v : Value} {xs : List Int} (hB : B ≤ w.heap.size) (h : OwnG w B v xs) (ty : TypeId) (u : Value) (M : List Int) (hM : Sha.Slc w u M) (hlen : xs.length + M.length ≤ 1000000) :
    ∃ v' w', (Builtin.append_ #[22, 22] ty #[v, u]).run Tryd.prog w = .ok v' w' ∧ OwnG w' B v' (xs ++ M) ∧ w.grownBy w' v.ownBlock := by
  obtain ⟨i0, hi, hz0, hz1, hz2⟩ := info_parts Sha.info5
  obtain ⟨g, cap, cur, fz, rfl, hBg, hg, hf, hc, hm, hs, hk⟩ := h
  obtain ⟨am, cm, rfl, hMc, h8, hMm⟩ := hM
  cases am with
  | none =>
    obtain rfl : M = [] := by
      rcases hMm with h | ⟨b, off, h, _⟩
      · exact h
      · cases h
    refine ⟨_, w, ?_, ⟨g, cap, cur, fz, by rw [List.append_nil], hBg, hg, hf, by rw [List.append_nil]; exact hc, hm, hs, by rw [List.append_nil]; exact hk⟩, Sha.grown_refl _ _⟩
    simp [Builtin.append_, run_underlying Tryd.underlying22, sizeOf, typeInfo, hi, Builtin.lenOf, Builtin.firstCells, hc, storeCells]
  | some ad =>
    have hsrc : ∀ (j : Nat) (y : Value), (M.map (Value.int .u8))[j]? = some y → w.cell? (ad.add j) = some y := Sha.slc_src (n := M.length) (c := cm) ⟨_, cm, rfl, hMc, h8, hMm⟩
    have hone : ∀ y ∈ M.map (Value.int .u8), y.oneCell' = true := fun y hy => by
      obtain ⟨x, _, rfl⟩ := List.mem_map.1 hy
      rfl
    by_cases hroom : xs.length + M.length ≤ cap
    · obtain ⟨cur', r1, r2, r3, r4⟩ := put_cells g xs.length 5 fz (M.map (Value.int .u8)) 0 cur w hg hf (by rw [List.length_map]; omega) hone
      have hfc := run_firstCells_some (P := Tryd.prog) w 1 M.length ad M.length cm (M.map (Value.int .u8)) (by simp) hsrc
      refine ⟨.slice (some ⟨g, 0, none⟩) (xs.length + M.length) cap, w.setRow g cur', ?_, ⟨g, cap, cur', fz, by rw [List.length_append], hBg, setRow_heap w g cur _ 5 _ hg, by rw [r2]; exact hf, by rw [List.length_append]; exact hroom, hm, by rw [r2]; exact hs, fun k hk2 => ?_⟩, ⟨rfl, rfl, rfl, by simp, fun k _ hne => setRow_other w g k _ (fun e => hne (by simp [Value.ownBlock, e]))⟩⟩
      · simp [Builtin.append_, run_underlying Tryd.underlying22, sizeOf, typeInfo, hi, hz1, Builtin.lenOf, hroom, hfc, Addr.add_lit, r1]
      · rw [List.length_append] at hk2
        by_cases hlt : k < xs.length
        · rw [r3 k (by omega), hk k hlt, List.getD_eq_getElem?_getD, List.getD_eq_getElem?_getD, List.getElem?_append_left hlt]
        · have h5 := r4 (k - xs.length) (by rw [List.length_map]; omega)
          rw [show xs.length + 0 + (k - xs.length) = k by omega] at h5
          rw [h5, List.getElem?_map, List.getD_eq_getElem?_getD, List.getElem?_append_right (by omega), List.getElem?_eq_getElem (by omega)]
          rfl
    · have holds : ∀ (j : Nat) (y : Value), (xs.map (Value.int .u8))[j]? = some y → w.cell? ((⟨g, 0, none⟩ : Addr).add j) = some y := fun j y hy => by
        have hj : j < xs.length := by
          have := (List.getElem?_eq_some_iff.1 hy).1
          simpa using this
        have e : (⟨g, 0, none⟩ : Addr).add j = ⟨g, j, none⟩ := by unfold Addr.add; split <;> simp_all
        rw [e]
        have h6 := hk j hj
        rw [List.getElem?_map, List.getElem?_eq_getElem hj] at hy
        rw [List.getD_eq_getElem?_getD, List.getElem?_eq_getElem hj] at h6
        simp only [World.cell?, hg, h6]
        exact hy
      have hr := run_append_grow (P := Tryd.prog) w 22 ty 5 i0 (.int .u8 0) Tryd.underlying22 hi hz0 ⟨g, 0, none⟩ xs.length cap (xs.map (Value.int .u8)) (by rw [hz1]; simp) holds ad M.length cm (M.map (Value.int .u8)) (by rw [hz1]; simp) hsrc (by omega) (by omega) (growslice_fits (by omega) (by rw [hz2]; omega))
      have hge := grownCap_ge w (xs.length + M.length) cap 5
      have hcm2 : grownCap w (xs.length + M.length) cap 5 ≤ maxLen := grownCap_le_maxLen w (xs.length + M.length) cap 5 (by unfold maxLen; omega)
      have h1 : (Value.int IntKind.u8 0).cells.size = 1 := rfl
      refine ⟨_, _, hr, ⟨w.heap.size, _, _, (0, 0), by rw [List.length_append], hB, heap_alloc_new w.drew _, fun k _ => by simp, by rw [List.length_append]; exact hge, hcm2, ?_, fun k hk2 => ?_⟩, ⟨rfl, rfl, rfl, by simp, fun k hk3 _ => (ba1 w.drew _).block k hk3⟩⟩
      · simp only [Array.size_append, List.size_toArray, List.length_map, size_zeroCells, h1]
        omega
      · rw [List.length_append] at hk2
        rw [Array.getElem?_append_left (by simp; omega)]
        by_cases hlt : k < xs.length
        · rw [Array.getElem?_append_left (by simp; omega), List.getElem?_toArray, List.getElem?_map, List.getElem?_eq_getElem hlt, List.getD_eq_getElem?_getD, List.getElem?_append_left hlt, List.getElem?_eq_getElem hlt]
          rfl
        · rw [Array.getElem?_append_right (by simp; omega), List.getElem?_toArray]
          simp only [List.size_toArray, List.length_map]
          rw [List.getElem?_map, List.getD_eq_getElem?_getD, List.getElem?_append_right (by omega), List.getElem?_eq_getElem (by omega)]
          rfl
end Go.Proofs.YtiinmdleechcgaaDoor
namespace Go.Proofs.YtiinmdleechcgaaDoor
open Go.RowKit
theorem append_G {w : World} {ops : Array Oper} {rest : List Oper} {o : Oper} {a : Act} {Q : Exit → Act → World → Prop} (hgd : o.guard = none) (s x : Operand)
    (ho : o.op = .call { callee := .builtin .append, args := #[s, x], argTypes := #[22, 22] })
    (B : Nat) (v : Value) (xs : List Int) (hs : a.eval s = v) (hB : B ≤ w.heap.size) (hown : OwnG w B v xs) (u : Value) (M : List Int) (hx : a.eval x = u) (hM : Sha.Slc w u M) (hlen : xs.length + M.length ≤ 1000000)
    (h : ∀ v' w', OwnG w' B v' (xs ++ M) → w.grownBy w' v.ownBlock → wpList Tryd.prog ops Q rest (a.put o.dst v') w') :
    wpList Tryd.prog ops Q (o :: rest) a w := by
  refine wpList_plain hgd fun K hK => ?_
  obtain ⟨v', w', hrun, h1, h2⟩ := app_G hB hown o.type u M hM hlen
  unfold Oper.wp
  simp [execOp, ho, resolve, invoke, builtin, hs, hx, hrun, Result.andThen]
  exact hK _ _ (h v' w' h1 h2)
theorem OwnG.form {w : World} {B : Nat} {v : Value} {xs : List Int} (h : OwnG w B v xs) : ∃ g c, v = .slice (some ⟨g, 0, none⟩) xs.length c ∧ B ≤ g := by
  obtain ⟨g, cap, cur, fz, h1, h2, _⟩ := h
  exact ⟨g, cap, h1, h2⟩
theorem OwnG.below {w0 wr w' : World} {B : Nat} {v : Value} {xs : List Int} (h : OwnG wr B v xs) (hb : Below B w0 wr) (hB : B ≤ wr.heap.size) (hg : wr.grownBy w' v.ownBlock) : Below B w0 w' := by
  obtain ⟨g, c, rfl, hBg⟩ := h.form
  exact Below.grown hb hg hB (fun k hk => by simp [Value.ownBlock] at hk; omega)
theorem OwnG.lower {w : World} {B B' : Nat} {v : Value} {xs : List Int} (h : OwnG w B v xs) (hb : B' ≤ B) : OwnG w B' v xs := by
  obtain ⟨g, cap, cur, fz, h1, h2, h3⟩ := h
  exact ⟨g, cap, cur, fz, h1, by omega, h3⟩
theorem ownG_lit (w : World) (B : Nat) (x : Int) (hB : B ≤ w.heap.size) : OwnG (w.alloc (.cells #[.int .u8 x] 5)) B (.slice (some ⟨w.heap.size, 0, none⟩) 1 1) [x] := by
  refine ⟨w.heap.size, 1, #[.int .u8 x], (0, 0), rfl, hB, heap_alloc_new w _, fun k _ => by simp, by simp, by decide, rfl, fun k hk => ?_⟩
  have : k = 0 := by simp at hk; omega
  subst this
  rfl
theorem ownG_row {w : World} {B n : Nat} {v : Value} {xs : List Int} (h : w.ownsRow B 5 1 v n (xs.map (Value.int .u8))) (hn : 0 < n) : OwnG w B v xs := by
  obtain ⟨hl, h2⟩ := h
  rw [List.length_map, Nat.mul_one] at hl
  rcases h2 with ⟨-, h0⟩ | ⟨g, cap, cur, rfl, hBg, hg, hc, hm, hs, ht⟩
  · omega
  · refine ⟨g, cap, cur, (0, 0), by rw [hl], hBg, hg, fun k _ => by simp, by rw [hl]; exact hc, hm, by omega, fun k hk => ?_⟩
    have h5 : cur[k]? = (cur.toList.take (n * 1))[k]? := by rw [List.getElem?_take_of_lt (by omega), Array.getElem?_toList]
    rw [h5, ht, List.getElem?_map, List.getD_eq_getElem?_getD, List.getElem?_eq_getElem hk]
    rfl
theorem meas3 (a N : Nat) (h : a < N) : N - (intOf (.int .i64 ((a : Int) + 1))).toNat < N - (intOf (.int .i64 (a : Int))).toNat := by
  simp [intOf]
  omega
theorem take_more (ls : List (List Int)) (k : Nat) (hk : k < ls.length) : (ls.take (k + 1)).flatten = (ls.take k).flatten ++ ls.getD k [] := by
  rw [List.take_add_one, List.getElem?_eq_getElem hk, List.getD_eq_getElem?_getD, List.getElem?_eq_getElem hk, List.flatten_append]
  simp
theorem take_le (ls : List (List Int)) (k : Nat) : (ls.take k).flatten.length ≤ ls.flatten.length := by
  have h : ls.flatten = (ls.take k).flatten ++ (ls.drop k).flatten := by rw [← List.flatten_append, List.take_append_drop]
  rw [h, List.length_append]
  omega
theorem sha_len (m : List Int) : (Sha.Sh.sha m).length = 32 := by simp [Sha.Sh.sha, Sha.Sh.out, Sha.Sh.outW, Sha.Sh.S.cells]
theorem parts_w8 {w : World} {v : Value} {ls : List (List Int)} (h : Sha.Parts w v ls) : ∀ x ∈ ls.flatten, Sha.Sh.W8 x := by
  intro x hx
  obtain ⟨l, hl, hxl⟩ := List.mem_flatten.1 hx
  obtain ⟨j, hj, rfl⟩ := List.getElem_of_mem hl
  obtain ⟨a, cap, _, _, h4⟩ := h
  rcases h4 with rfl | ⟨b, off, _, _, h7⟩
  · simp at hj
  · obtain ⟨u, _, hs⟩ := h7 j hj
    obtain ⟨_, _, _, _, h8, _⟩ := hs
    rw [List.getD_eq_getElem?_getD, List.getElem?_eq_getElem hj] at h8
    exact h8 x hxl
set_option maxRecDepth 100000 in
set_option maxHeartbeats 4000000 in
theorem rwide_any (w : World) (s : ByteArray) (vp : Value) (ls : List (List Int)) (hP : Sha.Parts w vp ls) (hls : ls.length ≤ 100) (hs : s.size ≤ 100) (hlen : (strB s ++ ls.flatten).length ≤ 900000) :
    Calls Tryd.prog 9 #[.string s, vp] w fun e w' => ∃ v, e = .returned v ∧ Nn w' v ((dg (strB s ++ ls.flatten) : Nat) : Int) ∧ Below w.heap.size w w' := by
  have hPw := parts_w8 hP
  obtain ⟨pa, pc, rfl, hpl, hpp⟩ := id hP
  have hcs := Lib.run_convert_string_bytes (P := Tryd.prog) w 9 22 5 s Tryd.underlying9 Tryd.underlying22 Tryd.underlying5
  have hO0 := ownG_str w s (grownCap_le_maxLen w s.size 0 5 (by unfold maxLen; omega))
  have hb0 := bytesWorld_below w 5 s
  obtain ⟨n, hn⟩ : ∃ n, n = ls.length := ⟨_, rfl⟩
  rw [← hn] at hls ⊢
  have HN := Lib.hid hn
  have HO0 := Lib.hid hO0
  have HB0 := Lib.hid hb0
  have HLEN := Lib.hid hlen
  have HPW := Lib.hid hPw
  have HPP := Lib.hid hpp
  clear hn hO0 hb0 hlen hPw hpp hP hpl
  generalize grownCap w s.size 0 5 = G at *
  generalize Lib.bytesWorld w 5 s = w1 at *
  go_enter Tryd.func9, Tryd.ntmps9
  go_wp2_with fail
  go_loopw [5, 6] (fun v i wr => ∃ k : Nat, i = .int .i64 k ∧ k ≤ n ∧ Hid (OwnG wr w.heap.size v (strB s ++ (ls.take k).flatten) ∧ Below w.heap.size w wr)) (fun _ i _ => n - (intOf i).toNat)
  case atStart => exact ⟨0, rfl, Nat.zero_le _, by simpa using HO0.out, HB0.out⟩
  case round =>
    obtain ⟨k, rfl, hk, HO⟩ := hrel
    obtain ⟨g, c, rfl, hg⟩ := HO.out.1.form
    by_cases hkn : k < n
    · have hkl : k < ls.length := by rw [← HN.out]; exact hkn
      have hk2 : (k : Int) < n := by omega
      obtain ⟨b, off, rfl, hbl, hcell⟩ : ∃ b off, pa = some ⟨b, off, none⟩ ∧ b < w.heap.size ∧ ∀ j, j < ls.length → ∃ u, w.cell? ⟨b, off + j, none⟩ = some u ∧ Sha.Slc w u (ls.getD j []) := by
        rcases HPP.out with rfl | h
        · simp at hkl
        · exact h
      obtain ⟨u, hu, hslc⟩ := hcell k hkl
      have hu2 := (HO.out.2.cell (p := ⟨b, off + k, none⟩) hbl).trans hu
      have hslc2 := hslc.below HO.out.2 (Nat.le_refl _)
      have hmore := take_more ls k hkl
      have hle := take_le ls (k + 1)
      have hlen2 : (strB s ++ (ls.take k).flatten).length + (ls.getD k []).length ≤ 1000000 := by
        have := HLEN.out
        rw [hmore] at hle
        simp only [List.length_append] at *
        omega
      obtain ⟨ua, un, uc, hue⟩ : ∃ a n c, u = .slice a n c := by obtain ⟨a, c, h, _⟩ := hslc; exact ⟨a, _, c, h⟩
      subst hue
      have HM := Lib.hid hmore
      have HS2 := Lib.hid hslc2
      have HL2 := Lib.hid hlen2
      clear hcell hu hslc hslc2 hmore hle hlen2
      generalize ls.getD k [] = M at *
      obtain ⟨xs, hxs⟩ : ∃ xs, xs = strB s ++ (ls.take k).flatten := ⟨_, rfl⟩
      have HXS := Lib.hid hxs
      rw [← hxs] at HO HL2 ⊢
      clear hxs
      go_wp2_with (at_builtin; refine append_G rfl _ _ rfl w.heap.size _ xs rfl HO.out.2.size HO.out.1 _ M rfl HS2.out HL2.out ?_; intro v2 w2 hown2 hgrow2; have HO2 := Lib.hid hown2; have HB2 := Lib.hid (HO.out.1.below HO.out.2 HO.out.2.size hgrow2); clear hown2 hgrow2)
      go_roundw
      case rel => exact ⟨k + 1, rfl, by omega, by rw [HM.out, ← List.append_assoc, ← HXS.out]; exact HO2.out, HB2.out⟩
      case measure => exact meas3 k n hkn
    · obtain rfl : k = n := by omega
      have hk2 : ¬ (k : Int) < k := by omega
      obtain ⟨L, hL⟩ : ∃ L, L = strB s ++ ls.flatten := ⟨_, rfl⟩
      have htk : (ls.take k).flatten = ls.flatten := by rw [HN.out, List.take_length]
      rw [htk, ← hL] at HO
      rw [htk, ← hL]
      have hLl : L.length ≤ 900000 := by rw [hL]; exact HLEN.out
      have hLw : ∀ x ∈ L, Sha.Sh.W8 x := by
        intro x hx
        rw [hL, List.mem_append] at hx
        rcases hx with hx | hx
        · exact strB_w8 s x hx
        · exact HPW.out x hx
      have HLL := Lib.hid hL
      have hSL := HO.out.1.slc hLw
      have HBW := Lib.hid HO.out.2
      have HLW := Lib.hid hLw
      have HLN := Lib.hid hLl
      have hBs := HO.out.2.size
      obtain ⟨ln, hln⟩ : ∃ ln, ln = L.length := ⟨_, rfl⟩
      have HLNN := Lib.hid hln
      rw [← hln] at hSL ⊢
      clear hL htk hLl hLw HO HLEN HPW HPP hcs hln
      have h0 := ownG_lit wr wr.heap.size 0 (Nat.le_refl _)
      have hs0 := hSL.below (ba1 wr (.cells #[.int .u8 0] 5)) (Nat.le_refl _)
      have HS0 := Lib.hid hs0
      have H0 := Lib.hid h0
      have hB0 : wr.heap.size ≤ (wr.alloc (.cells #[.int .u8 0] 5)).heap.size := by simp
      have HSL := Lib.hid hSL
      have HBA0 := Lib.hid (ba1 wr (.cells #[.int .u8 0] 5))
      clear h0 hs0 hSL
      go_wp2_with (first
        | (at_builtin; refine append_G rfl _ _ rfl wr.heap.size _ [0] rfl hB0 H0.out _ L rfl HS0.out (by have := HLN.out; simp; omega) ?_; intro v2 w2 hown2 hgrow2; have HO2 := Lib.hid hown2; have HB2 := Lib.hid (H0.out.below HBA0.out hB0 hgrow2); clear hown2 hgrow2; obtain ⟨g2, c2, rfl, hg2⟩ := HO2.out.form)
        | (go_at_call 29; refine Hid.out ?_))
      refine Lib.hid ?_
      have hw0 : ∀ x ∈ [0] ++ L, Sha.Sh.W8 x := fun x hx => by
        rcases List.mem_append.1 hx with hx | hx
        · rw [List.mem_singleton] at hx; rw [hx]; unfold Sha.Sh.W8; omega
        · exact HLW.out x hx
      have hl0 : ([0] ++ L).length ≤ 1000000 := by have := HLN.out; simp; omega
      refine (Sha.rsum_probe w2 _ _ _ _ (HO2.out.slc hw0) hl0).mono ?_
      rintro e w3 ⟨v3, rfl, hr3, hb3⟩
      have hO3 : OwnG w3 w2.heap.size v3 (Sha.Sh.sha ([0] ++ L)) := ownG_row hr3 (by decide)
      have hb23 := HB2.out.trans (hb3.mono HB2.out.size)
      have hSL3 := HSL.out.below hb23 (Nat.le_refl _)
      obtain ⟨g3, c3, rfl, hg3⟩ := hO3.form
      have HO3 := Lib.hid hO3
      have HB23 := Lib.hid hb23
      have HSL3 := Lib.hid hSL3
      have HS23 := Lib.hid (HB2.out.size)
      clear hw0 hl0 hr3 hb3 hO3 hb23 hSL3 HO2 HB2 hB0 H0 HS0 HBA0
      have h0 := ownG_lit w3 w3.heap.size 1 (Nat.le_refl _)
      have hs0 := HSL3.out.below (ba1 w3 (.cells #[.int .u8 1] 5)) (Nat.le_refl _)
      have HS0 := Lib.hid hs0
      have H0 := Lib.hid h0
      have hB0 : w3.heap.size ≤ (w3.alloc (.cells #[.int .u8 1] 5)).heap.size := by simp
      have HBA0 := Lib.hid (ba1 w3 (.cells #[.int .u8 1] 5))
      clear h0 hs0
      go_wp2_with (first
        | (at_builtin; refine append_G rfl _ _ rfl w3.heap.size _ [1] rfl hB0 H0.out _ L rfl HS0.out (by have := HLN.out; simp; omega) ?_; intro v4 w4 hown4 hgrow4; have HO4 := Lib.hid hown4; have HB4 := Lib.hid (H0.out.below HBA0.out hB0 hgrow4); clear hown4 hgrow4; obtain ⟨g4, c4, rfl, hg4⟩ := HO4.out.form)
        | (go_at_call 29; refine Hid.out ?_))
      refine Lib.hid ?_
      have hw1 : ∀ x ∈ [1] ++ L, Sha.Sh.W8 x := fun x hx => by
        rcases List.mem_append.1 hx with hx | hx
        · rw [List.mem_singleton] at hx; rw [hx]; unfold Sha.Sh.W8; omega
        · exact HLW.out x hx
      have hl1 : ([1] ++ L).length ≤ 1000000 := by have := HLN.out; simp; omega
      refine (Sha.rsum_probe w4 _ _ _ _ (HO4.out.slc hw1) hl1).mono ?_
      rintro e w5 ⟨v5, rfl, hr5, hb5⟩
      have hO5 : OwnG w5 w4.heap.size v5 (Sha.Sh.sha ([1] ++ L)) := ownG_row hr5 (by decide)
      have hb35 := HB4.out.trans (hb5.mono HB4.out.size)
      have hS5 := hO5.slc (Sha.Sh.sha_W _)
      have hO35 := (HO3.out.on hb35).lower (B' := w.heap.size) (by have := HS23.out; omega)
      have hBW5 := (HBW.out.trans (HB23.out.mono hBs)).trans (hb35.mono (Nat.le_trans hBs HB23.out.size))
      obtain ⟨g5, c5, rfl, hg5⟩ := hO5.form
      have HS5 := Lib.hid hS5
      have HO35 := Lib.hid hO35
      have HBW5 := Lib.hid hBW5
      clear hw1 hl1 hr5 hb5 hO5 hb35 hS5 hO35 hBW5 HO4 HB4 hB0 H0 HS0 HBA0 HO3 HB23 HSL3 HS23 HSL
      go_wp2_with (first
        | (at_builtin; refine append_G rfl _ _ rfl w.heap.size _ (Sha.Sh.sha ([0] ++ L)) rfl HBW5.out.size HO35.out _ (Sha.Sh.sha ([1] ++ L)) rfl HS5.out (by rw [sha_len, sha_len]; decide) ?_; intro v6 w6 hown6 hgrow6; have HO6 := Lib.hid hown6; have HB6 := Lib.hid (HO35.out.below HBW5.out HBW5.out.size hgrow6); clear hown6 hgrow6; obtain ⟨g6, c6, rfl, hg6⟩ := HO6.out.form)
        | (go_at_call 30; refine Hid.out ?_))
      refine Lib.hid ?_
      have hwd : Sha.Sh.sha ([0] ++ L) ++ Sha.Sh.sha ([1] ++ L) = Sha.Sh.wide L := rfl
      have hO6 := HO6.out
      rw [hwd] at hO6
      have hw6 : ∀ x ∈ Sha.Sh.wide L, Sha.Sh.W8 x := fun x hx => by
        rcases List.mem_append.1 hx with hx | hx
        · exact Sha.Sh.sha_W _ x hx
        · exact Sha.Sh.sha_W _ x hx
      have hwl : (Sha.Sh.wide L).length = 64 := by rw [← hwd, List.length_append, sha_len, sha_len]
      rw [show (Sha.Sh.sha (0 :: L)).length + (Sha.Sh.sha (1 :: L)).length = (Sha.Sh.wide L).length by rw [hwl, sha_len, sha_len]]
      refine (low_any w6 _ _ (hO6.slc hw6) (by rw [hwl]; decide)).mono ?_
      rintro e w7 ⟨v7, l7, rfl, q1, q2, q3, q4, hb7⟩
      have hn7 : Nn w7 v7 (Bt.low (Sha.Sh.wide L) : Nat) := ⟨l7, q1, q2, q3, by rw [hwl] at q4; omega⟩
      have hlt7 : ((Bt.low (Sha.Sh.wide L) : Nat) : Int) < Nt.pw 100 := by
        have h1 := Bt.low_lt (Sha.Sh.wide L) hw6
        rw [hwl] at h1
        have h2 : (Bt.low (Sha.Sh.wide L) : Int) < ((2 ^ (8 * 64) : Nat) : Int) := by exact_mod_cast h1
        exact Int.lt_of_lt_of_le h2 (by decide +kernel)
      have HB7 := Lib.hid (HB6.out.trans (hb7.mono HB6.out.size))
      have HLT7 := Lib.hid hlt7
      have HDG : Hid (dg L = Bt.low (Sha.Sh.wide L) % Ed.nn) := rfl
      obtain ⟨W0, hW0⟩ : ∃ W0, W0 = Bt.low (Sha.Sh.wide L) := ⟨_, rfl⟩
      rw [← hW0] at hn7 HLT7 HDG
      obtain ⟨a7, n7, c7, rfl⟩ := Nn.form hn7
      clear hwd hO6 hw6 hwl q1 q2 q3 q4 hb7 hlt7 hW0 HO6 HB6 HBW5 HO35 HS5
      go_wp2_with (go_at_call 16; refine Hid.out ?_)
      refine Lib.hid ?_
      refine (c_N w7).mono ?_
      rintro e w8 ⟨v8, rfl, hn8, hb8⟩
      have hn7' := (Nn.below hn7 hb8).nv HLT7.out
      have hn8' := hn8.nv (L := 100) (by decide +kernel)
      have HB8 := Lib.hid (HB7.out.trans (hb8.mono HB7.out.size))
      obtain ⟨a8, n8, c8, rfl⟩ := Nn.form hn8
      have HM8 := Lib.hid (mod_nv w8 _ _ _ _ 100 100 hn7' hn8' (by decide) (by decide) (by decide))
      clear hn7 hn8 hb8 hn7' hn8' HB7 HLT7
      go_wp2_with (go_at_call 13; refine Hid.out ?_)
      refine Lib.hid ?_
      refine HM8.out.mono ?_
      rintro e w9 ⟨v9, rfl, hn9, hb9⟩
      have hnn := hn9.nn (by decide)
      have HN9 := Lib.hid hnn
      have HB9 := Lib.hid (HB8.out.trans (hb9.mono HB8.out.size))
      obtain ⟨a9, n9, c9, rfl⟩ := Nn.form hnn
      clear hn9 hnn hb9 HM8 HB8
      go_wp2_with fail
      go_ret
      refine ⟨_, rfl, ?_, HB9.out⟩
      rw [← HLL.out, HDG.out, Int.natCast_emod]
      exact HN9.out
end Go.Proofs.YtiinmdleechcgaaDoor
namespace Go.Proofs.YtiinmdleechcgaaDoor
open Go.RowKit
/-- What lies where: numbers, bytes. -/
structure Kp (w0 : World) (nums : List (Value × Nat)) (bys : List (Nat × List Int)) (w : World) : Prop where
  nums : ∀ r ∈ nums, Nn w r.1 (r.2 : Int)
  bys : ∀ r ∈ bys, Blk w r.1 .u8 5 r.2
  be : Below w0.heap.size w0 w
section
variable {w0 w w5 : World} {nums : List (Value × Nat)} {bys : List (Nat × List Int)}
theorem Kp.below (h : Kp w0 nums bys w) (hb : Below w.heap.size w w5) : Kp w0 nums bys w5 :=
  ⟨fun r hr => (h.nums r hr).below hb, fun r hr => (h.bys r hr).other (hb.block _ (h.bys r hr).lt), h.be.trans (hb.mono h.be.size)⟩
theorem Kp.num (h : Kp w0 nums bys w) {v : Value} {N : Nat} (hn : Nn w v (N : Int)) : Kp w0 ((v, N) :: nums) bys w := by
  refine ⟨fun r hr => ?_, h.bys, h.be⟩
  rcases List.mem_cons.1 hr with rfl | hr
  · exact hn
  · exact h.nums r hr
theorem Kp.byte (h : Kp w0 nums bys w) {g : Nat} {l : List Int} (hg : Blk w g .u8 5 l) : Kp w0 nums ((g, l) :: bys) w := by
  refine ⟨h.nums, fun r hr => ?_, h.be⟩
  rcases List.mem_cons.1 hr with rfl | hr
  · exact hg
  · exact h.bys r hr
theorem Kp.hd {g : Nat} {l : List Int} (h : Kp w0 nums ((g, l) :: bys) w) : Blk w g .u8 5 l := h.bys (g, l) (List.mem_cons_self ..)
theorem Kp.tl {r : Nat × List Int} (h : Kp w0 nums (r :: bys) w) : Kp w0 nums bys w := ⟨h.nums, fun x hx => h.bys x (List.mem_cons_of_mem _ hx), h.be⟩
theorem Kp.nhd {v : Value} {N : Nat} (h : Kp w0 ((v, N) :: nums) bys w) : Nn w v (N : Int) := h.nums (v, N) (List.mem_cons_self ..)
theorem Kp.ntl {r : Value × Nat} (h : Kp w0 (r :: nums) bys w) : Kp w0 nums bys w := ⟨fun x hx => h.nums x (List.mem_cons_of_mem _ hx), h.bys, h.be⟩
theorem Kp.start {w : World} : Kp w [] [] w := ⟨fun _ h => (List.not_mem_nil h).elim, fun _ h => (List.not_mem_nil h).elim, Below.refl _ _⟩
end
theorem en_row {N : Nat} (h : N < 2 ^ 255) : Bt.row 8 32 N 255 = Sn.en N := by
  unfold Bt.row Sn.en
  refine List.map_congr_left fun j _ => ?_
  unfold Bt.place Sn.by8
  rw [Nat.mod_eq_of_lt h]
  try rfl
theorem rsecret_any (w : World) (vp : Value) (P : List Int) (hP : Sha.Parts w vp [P]) (hl : P.length ≤ 100000) :
    Calls Tryd.prog 9 #[.string ⟨#[115, 101, 99, 114, 101, 116]⟩, vp] w fun e w' => ∃ v, e = .returned v ∧ Nn w' v ((skN P : Nat) : Int) ∧ Below w.heap.size w w' := by
  have h := rwide_any w _ vp [P] hP (by simp) (show ByteArray.size ⟨#[115, 101, 99, 114, 101, 116]⟩ ≤ 100 by decide) (by rw [str_secret]; simp [wSecret]; omega)
  rw [str_secret, List.flatten_cons, List.flatten_nil, List.append_nil] at h
  exact h
theorem rnonce_any (w : World) (vp : Value) (P M : List Int) (hP : Sha.Parts w vp [P, M]) (hl : P.length ≤ 100000) (hm : M.length ≤ 100000) :
    Calls Tryd.prog 9 #[.string ⟨#[110, 111, 110, 99, 101]⟩, vp] w fun e w' => ∃ v, e = .returned v ∧ Nn w' v ((noN P M : Nat) : Int) ∧ Below w.heap.size w w' := by
  have h := rwide_any w _ vp [P, M] hP (by simp) (show ByteArray.size ⟨#[110, 111, 110, 99, 101]⟩ ≤ 100 by decide) (by rw [str_nonce]; simp [wNonce]; omega)
  rw [str_nonce, List.flatten_cons, List.flatten_cons, List.flatten_nil, List.append_nil] at h
  exact h
theorem rchal_any (w : World) (vp : Value) (R A M : List Int) (hP : Sha.Parts w vp [R, A, M]) (hr : R.length ≤ 100000) (hl : A.length ≤ 100000) (hm : M.length ≤ 100000) :
    Calls Tryd.prog 9 #[.string ⟨#[99, 104, 97, 108, 108, 101, 110, 103, 101]⟩, vp] w fun e w' => ∃ v, e = .returned v ∧ Nn w' v ((chN R A M : Nat) : Int) ∧ Below w.heap.size w w' := by
  have h := rwide_any w _ vp [R, A, M] hP (by simp) (show ByteArray.size ⟨#[99, 104, 97, 108, 108, 101, 110, 103, 101]⟩ ≤ 100 by decide) (by rw [str_chal]; simp [wChal]; omega)
  rw [str_chal, List.flatten_cons, List.flatten_cons, List.flatten_cons, List.flatten_nil, List.append_nil] at h
  exact h
theorem parts_two {w : World} {g : Nat} {t : TypeId} {u v : Value} {P M : List Int} (h : w.heap[g]? = some (.cells #[u, v] t (0, 0))) (hu : Slc w u P) (hv : Slc w v M) : Sha.Parts w (.slice (some ⟨g, 0, none⟩) 2 2) [P, M] := by
  refine ⟨_, 2, rfl, by simp, Or.inr ⟨g, 0, rfl, lt_of_block h, fun q hq => ?_⟩⟩
  match q, hq with
  | 0, _ => exact ⟨_, by rw [cell_of_row _ _ _ _ t (0, 0) h]; rfl, hu⟩
  | 1, _ => exact ⟨_, by rw [cell_of_row _ _ _ _ t (0, 0) h]; rfl, hv⟩
theorem parts_three {w : World} {g : Nat} {t : TypeId} {u v x : Value} {P M R : List Int} (h : w.heap[g]? = some (.cells #[u, v, x] t (0, 0))) (hu : Slc w u P) (hv : Slc w v M) (hx : Slc w x R) : Sha.Parts w (.slice (some ⟨g, 0, none⟩) 3 3) [P, M, R] := by
  refine ⟨_, 3, rfl, by simp, Or.inr ⟨g, 0, rfl, lt_of_block h, fun q hq => ?_⟩⟩
  match q, hq with
  | 0, _ => exact ⟨_, by rw [cell_of_row _ _ _ _ t (0, 0) h]; rfl, hu⟩
  | 1, _ => exact ⟨_, by rw [cell_of_row _ _ _ _ t (0, 0) h]; rfl, hv⟩
  | 2, _ => exact ⟨_, by rw [cell_of_row _ _ _ _ t (0, 0) h]; rfl, hx⟩
theorem pw_of {N B : Nat} (h : N < B) (hB : ((B : Nat) : Int) ≤ Nt.pw 1000) : (N : Int) < Nt.pw 1000 := Int.lt_of_lt_of_le (by exact_mod_cast h) hB
theorem public_L {w : World} (hg : Gl w) {v : Value} {P L : List Int} (hL : L = encL (pubA P)) (hP : Slc w v P) (hl : P.length ≤ 100000) : Calls Tryd.prog 6 #[v] w fun e w' => ∃ v', e = .returned v' ∧ Slc w' v' L ∧ Below w.heap.size w w' := by
  refine (public_any w hg v P hP hl).mono ?_
  rintro e w' ⟨g, rfl, h1, _, h2⟩
  rw [← hL] at h1
  exact ⟨_, rfl, slc_lie h1 (by rw [hL]; exact encL_len _) (Nat.le_refl 32) (by rw [hL]; exact encL_w8 _), h2⟩
theorem sign_L {w : World} (hg : Gl w) {vs vm : Value} {P M : List Int} (hP : Slc w vs P) (hM : Slc w vm M) (hl : P.length ≤ 100000) (hm : M.length ≤ 100000) : Calls Tryd.prog 7 #[vs, vm] w fun e w' => ∃ v', e = .returned v' ∧ Slc w' v' (sigL P M) ∧ Below w.heap.size w w' := by
  refine (sign_block w hg vs vm P M hP hM hl hm).mono ?_
  rintro e w' ⟨g, cap, cur2, rfl, h1, h2, h3, _, hb⟩
  exact ⟨_, rfl, ⟨_, cap, by rw [sig_len], by rw [sig_len]; exact h1, sig_w8 P M, Or.inr ⟨g, 0, rfl, lt_of_block h2, h3⟩⟩, hb⟩
theorem bytes_L {w : World} {u : Value} {N : Nat} (hu : Nn w u (N : Int)) (hN : N < 2 ^ 255) : Calls Tryd.prog 17 #[u, .int .i64 32] w fun e w' => ∃ v', e = .returned v' ∧ Slc w' v' (Sn.en N) ∧ Below w.heap.size w w' := by
  refine (c_bytes hu hN).mono ?_
  rintro e w' ⟨rfl, h1, hb⟩
  rw [en_row hN] at h1
  exact ⟨_, rfl, slc_lie h1 (Sn.en_len N) (Nat.le_refl 32) (Sn.en_w8 N), hb⟩
theorem str_app (a b : List Int) : strOfNums a ++ strOfNums b = strOfNums (a ++ b) := by
  unfold strOfNums
  rw [List.map_append]
  rw [ByteArray.mk_append_mk]
namespace Grow
section
variable {m : Nat} {ops : Array Oper} {Q : Exit → Act → World → Prop} {specs : Nat → Spec} {a0 : Act} {w0 : World} {i : Nat} {o : Oper}
theorem enter6 (args : Array Value) (w : World) : (callFunc 6 args).run Tryd.prog w = .ok (.enter 6 args) w := by
  have := Tryd.func6
  go_simp
theorem h2_addS (hr : Runs2 ops specs a0 o) (j1 d1 j2 d2 : Nat) (a b : List Int) (hl : a.length + b.length ≤ 1000) (ho : o.op = .binOp .add 9 (.tmp d1) (.tmp d2) 9) (hj1 : deps .any ops o j1 d1 = true) (hj2 : deps .any ops o j2 d2 = true) (hs1 : specs j1 = .is (.string (strOfNums a))) (hs2 : specs j2 = .is (.string (strOfNums b))) (hi : specs i = .is (.string (strOfNums (a ++ b)))) : Hop2 Tryd.prog m ops specs Q a0 w0 i o :=
  h2_val hr fun ac w hk => by
    have h1 := hk.deps j1 d1 hj1
    have h2 := hk.deps j2 d2 hj2
    rw [hs1] at h1
    rw [hs2] at h2
    have h1 : ac.eval (.tmp d1) = .string (strOfNums a) := h1
    have h2 : ac.eval (.tmp d2) = .string (strOfNums b) := h2
    have hu := Tryd.underlying9
    have hadd : (Op.stringOp .add (strOfNums a) (strOfNums b)).run Tryd.prog w = .ok (.string (strOfNums (a ++ b))) w := by
      rw [← str_app]
      exact run_string_add_sum w _ _ (by rw [strOfNums_size, strOfNums_size]; omega)
    refine ⟨.string (strOfNums (a ++ b)), w, ?_, by rw [hi]; rfl, Below.refl _ _⟩
    unfold execOp
    rw [ho]
    simp only [h1, h2]
    generalize strOfNums a = x at *
    generalize strOfNums b = y at *
    go_simp
end
end Grow
theorem rtold_L {w : World} {v : Value} {P : Ed.Pt} {L : List Int} (hL : L = encL P) (hP : P.Good) (h : Rq w v P) : Calls Tryd.prog 10 #[v] w fun e w' => ∃ g, e = .returned (.slice (some ⟨g, 0, none⟩) 32 32) ∧ Blk w' g .u8 5 L ∧ Below w.heap.size w w' := by
  subst hL
  refine (rtold_any w v P hP h).mono ?_
  rintro e w' ⟨g, rfl, h1, _, h2⟩
  exact ⟨g, rfl, h1, h2⟩
set_option maxRecDepth 100000 in
set_option maxHeartbeats 4000000 in
theorem told_walk (w : World) (hg : Gl w) (a0 a1 : Option Addr) (c0 c1 : Nat) (P M : List Int) (hP : Slc w (.slice a0 P.length c0) P) (hM : Slc w (.slice a1 M.length c1) M) :
    Calls Tryd.prog 4 #[.slice a0 P.length c0, .slice a1 M.length c1] w fun e w' => e = .returned (.bool true) ∧ Below w.heap.size w w' := by
  have HG := Lib.hid hg
  have HP := Lib.hid hP
  have HM := Lib.hid hM
  clear hg hP hM
  obtain ⟨n, hn⟩ : ∃ n, n = P.length := ⟨_, rfl⟩
  obtain ⟨m, hm⟩ : ∃ m, m = M.length := ⟨_, rfl⟩
  have HN := Lib.hid hn
  have HMN := Lib.hid hm
  rw [← hn] at HP ⊢
  rw [← hm] at HM ⊢
  clear hn hm
  by_cases h1 : 40 < n
  · go_enter Tryd.func4, Tryd.ntmps4
    go_wp2_with (first
      | (go_at_call 5; refine (awake_any w2 HG2.out).mono ?_; rintro e w3 ⟨rfl, hb⟩; have HB3 := Lib.hid (HB2.out.trans (hb.mono HB2.out.size)); clear hb)
      | (go_at_call 5; refine (awake_any w HG.out).mono ?_; rintro e w2 ⟨rfl, hb⟩; have HB2 := Lib.hid hb; have HG2 := Lib.hid (HG.out.below hb HG.out.size); clear hb))
    go_ret
    exact ⟨rfl, HB3.out⟩
  by_cases h2 : 60 < m
  · go_enter Tryd.func4, Tryd.ntmps4
    go_wp2_with (first
      | (go_at_call 5; refine (awake_any w2 HG2.out).mono ?_; rintro e w3 ⟨rfl, hb⟩; have HB3 := Lib.hid (HB2.out.trans (hb.mono HB2.out.size)); clear hb)
      | (go_at_call 5; refine (awake_any w HG.out).mono ?_; rintro e w2 ⟨rfl, hb⟩; have HB2 := Lib.hid hb; have HG2 := Lib.hid (HG.out.below hb HG.out.size); clear hb))
    go_ret
    exact ⟨rfl, HB3.out⟩
  have PL : Hid (P.length ≤ 100000) := by rw [← HN.out]; show _ ≤ _; omega
  have ML : Hid (M.length ≤ 100000) := by rw [← HMN.out]; show _ ≤ _; omega
  obtain ⟨LR, HLR⟩ : ∃ LR, Hid (LR = encL (nonR P M)) := ⟨_, rfl⟩
  obtain ⟨LP, HLP⟩ : ∃ LP, Hid (LP = encL (pubA P)) := ⟨_, rfl⟩
  have HLRN : Hid (LR.length = 32) := by rw [HLR.out]; exact encL_len _
  have HLPN : Hid (LP.length = 32) := by rw [HLP.out]; exact encL_len _
  have HW8R : Hid (∀ b ∈ LR, W8 b) := by rw [HLR.out]; exact encL_w8 _
  have HW8P : Hid (∀ b ∈ LP, W8 b) := by rw [HLP.out]; exact encL_w8 _
  go_enter Tryd.func4, Tryd.ntmps4
  go_wp2_with (first
    | (go_at_call 9; refine Hid.out ?_)
    | (go_at_call 5; refine (awake_any w HG.out).mono ?_; rintro e w2 ⟨rfl, hb⟩; have HB2 := Lib.hid hb; clear hb))
  refine Lib.hid ?_
  have hs1 : (w2.alloc (.cells #[.slice a0 n c0] 22)).heap.size = w2.heap.size + 1 := by simp
  have hb1 : Below w.heap.size w (w2.alloc (.cells #[.slice a0 n c0] 22)) := HB2.out.trans ((ba1 w2 _).mono HB2.out.size)
  have hp1 : Sha.Parts (w2.alloc (.cells #[.slice a0 n c0] 22)) (.slice (some ⟨w2.heap.size, 0, none⟩) 1 1) [P] := Sha.parts_one (heap_alloc_new w2 _) (Sl.below HP.out hb1 (Nat.le_refl _)) rfl
  have K0 : Kp w [] [] (w2.alloc (.cells #[.slice a0 n c0] 22)) := ⟨fun _ h => (List.not_mem_nil h).elim, fun _ h => (List.not_mem_nil h).elim, hb1⟩
  refine (rsecret_any _ _ P hp1 PL.out).mono ?_
  rintro e w3 ⟨v3, rfl, hn3, hb3⟩
  obtain ⟨a3, n3, c3, rfl⟩ := Nn.form hn3
  have K3 := Lib.hid ((K0.below hb3).num hn3)
  clear hs1 hb1 hp1 K0 hn3 hb3 HB2
  go_wp2_with (go_at_call 12; refine Hid.out ?_)
  refine Lib.hid ?_
  refine (rstart_any w3).mono ?_
  rintro e w4 ⟨v4, rfl, hq4, hb4⟩
  obtain ⟨q0, q1, q2, rfl, -, -⟩ := hq4.agg
  have K4 := Lib.hid (K3.out.below hb4)
  have HQ4 := Lib.hid hq4
  clear hq4 hb4 K3
  go_wp2_with (go_at_call 11; refine Hid.out ?_)
  refine Lib.hid ?_
  refine (rtimes_any w4 _ _ Ed.B Ed.B_good (skN P) HQ4.out K4.out.nhd).mono ?_
  rintro e w5 ⟨v5, rfl, hq5, hb5⟩
  obtain ⟨r0, r1, r2, rfl, -, -⟩ := hq5.agg
  have K5 := Lib.hid (K4.out.below hb5)
  have HQ5 := Lib.hid hq5
  clear hq5 hb5 K4 HQ4
  go_wp2_with (go_at_call 10; refine Hid.out ?_)
  refine Lib.hid ?_
  refine (rtold_L HLP.out (pubA_good P) HQ5.out).mono ?_
  rintro e w6 ⟨gp, rfl, hk6, hb6⟩
  have K6 := Lib.hid ((K5.out.below hb6).byte hk6)
  clear hk6 hb6 K5 HQ5
  go_wp2_with (go_at_call 9; refine Hid.out ?_)
  refine Lib.hid ?_
  have hb7 := ba1 w6 (.cells #[.slice a0 n c0, .slice a1 m c1] 22)
  have K7 := K6.out.below hb7
  have hp7 : Sha.Parts (w6.alloc (.cells #[.slice a0 n c0, .slice a1 m c1] 22)) (.slice (some ⟨w6.heap.size, 0, none⟩) 2 2) [P, M] := parts_two (heap_alloc_new w6 _) (Sl.below HP.out K7.be (Nat.le_refl _)) (Sl.below HM.out K7.be (Nat.le_refl _))
  refine (rnonce_any _ _ P M hp7 PL.out ML.out).mono ?_
  rintro e w8 ⟨v8, rfl, hn8, hb8⟩
  obtain ⟨a8, n8, c8, rfl⟩ := Nn.form hn8
  have K8 := Lib.hid ((K7.below hb8).num hn8)
  clear hb7 hp7 K7 hn8 hb8 K6
  go_wp2_with (go_at_call 12; refine Hid.out ?_)
  refine Lib.hid ?_
  refine (rstart_any w8).mono ?_
  rintro e w9 ⟨v9, rfl, hq9, hb9⟩
  obtain ⟨s0, s1, s2, rfl, -, -⟩ := hq9.agg
  have K9 := Lib.hid (K8.out.below hb9)
  have HQ9 := Lib.hid hq9
  clear hq9 hb9 K8
  go_wp2_with (go_at_call 11; refine Hid.out ?_)
  refine Lib.hid ?_
  refine (rtimes_any w9 _ _ Ed.B Ed.B_good (noN P M) HQ9.out K9.out.nhd).mono ?_
  rintro e w10 ⟨v10, rfl, hq10, hb10⟩
  obtain ⟨t0, t1, t2, rfl, -, -⟩ := hq10.agg
  have K10 := Lib.hid (K9.out.below hb10)
  have HQ10 := Lib.hid hq10
  clear hq10 hb10 K9 HQ9
  go_wp2_with (go_at_call 10; refine Hid.out ?_)
  refine Lib.hid ?_
  refine (rtold_L HLR.out (nonR_good P M) HQ10.out).mono ?_
  rintro e w11 ⟨gr, rfl, hk11, hb11⟩
  have K11 := Lib.hid ((K10.out.below hb11).byte hk11)
  clear hk11 hb11 K10 HQ10
  go_wp2_with (go_at_call 9; refine Hid.out ?_)
  refine Lib.hid ?_
  have hb12 := ba1 w11 (.cells #[.slice (some ⟨gr, 0, none⟩) 32 32, .slice (some ⟨gp, 0, none⟩) 32 32, .slice a1 m c1] 22)
  have K12 := K11.out.below hb12
  have hsr := slc_lie (c := 32) K12.hd HLRN.out (Nat.le_refl 32) HW8R.out
  have hsp := slc_lie (c := 32) K12.tl.hd HLPN.out (Nat.le_refl 32) HW8P.out
  have hsm := Sl.below HM.out K12.be (Nat.le_refl _)
  have hp12 := parts_three (heap_alloc_new w11 (.cells #[.slice (some ⟨gr, 0, none⟩) 32 32, .slice (some ⟨gp, 0, none⟩) 32 32, .slice a1 m c1] 22)) hsr hsp hsm
  refine (rchal_any _ _ LR LP M hp12 (by rw [HLRN.out]; decide) (by rw [HLPN.out]; decide) ML.out).mono ?_
  rintro e w13 ⟨v13, rfl, hn13, hb13⟩
  obtain ⟨a13, n13, c13, rfl⟩ := Nn.form hn13
  have K13 := Lib.hid ((K12.below hb13).num hn13)
  clear hb12 hp12 K12 hn13 hb13 K11 hsr hsp hsm
  obtain ⟨ch, hch⟩ : ∃ ch, ch = chN LR LP M := ⟨_, rfl⟩
  obtain ⟨nk, hnk⟩ : ∃ nk, nk = noN P M := ⟨_, rfl⟩
  obtain ⟨sk, hsk⟩ : ∃ sk, sk = skN P := ⟨_, rfl⟩
  have HSG : Hid (sgS P M = (nk + ch * sk) % Ed.nn) := by rw [hch, hnk, hsk, HLR.out, HLP.out]; exact (rfl : sgS P M = _)
  have LCH : Hid (ch < Ed.nn) := by rw [hch]; exact dg_lt _
  have LNK : Hid (nk < Ed.nn) := by rw [hnk]; exact dg_lt _
  have LSK : Hid (sk < Ed.nn) := by rw [hsk]; exact dg_lt _
  have LPR : Hid (ch * sk < Ed.nn * Ed.nn) := Nat.mul_lt_mul'' LCH.out LSK.out
  have LSM : Hid (nk + ch * sk < Ed.nn + Ed.nn * Ed.nn) := Nat.add_lt_add LNK.out LPR.out
  have B1 : Hid (((Ed.nn : Nat) : Int) ≤ Nt.pw 1000) := by show _ ≤ _; decide +kernel
  have B2 : Hid (((Ed.nn * Ed.nn : Nat) : Int) ≤ Nt.pw 1000) := by show _ ≤ _; decide +kernel
  have B3 : Hid (((Ed.nn + Ed.nn * Ed.nn : Nat) : Int) ≤ Nt.pw 1000) := by show _ ≤ _; decide +kernel
  rw [← hch, ← hnk, ← hsk] at K13
  clear hch hnk hsk
  go_wp2_with (go_at_call 15; refine Hid.out ?_)
  refine Lib.hid ?_
  refine (c_times K13.out.nhd K13.out.ntl.ntl.nhd (pw_of LCH.out B1.out) (pw_of LSK.out B1.out)).mono ?_
  rintro e w14 ⟨v14, rfl, hn14, hb14⟩
  obtain ⟨a14, n14, c14, rfl⟩ := Nn.form hn14
  rw [← Int.natCast_mul] at hn14
  have K14 := Lib.hid ((K13.out.below hb14).num hn14)
  clear hn14 hb14 K13
  go_wp2_with (go_at_call 14; refine Hid.out ?_)
  refine Lib.hid ?_
  refine (c_plus K14.out.ntl.ntl.nhd K14.out.nhd (pw_of LNK.out B1.out) (pw_of LPR.out B2.out)).mono ?_
  rintro e w15 ⟨v15, rfl, hn15, hb15⟩
  obtain ⟨a15, n15, c15, rfl⟩ := Nn.form hn15
  rw [← Int.natCast_add] at hn15
  have K15 := Lib.hid ((K14.out.below hb15).num hn15)
  clear hn15 hb15 K14
  go_wp2_with (go_at_call 16; refine Hid.out ?_)
  refine Lib.hid ?_
  refine (c_N w15).mono ?_
  rintro e w16 ⟨v16, rfl, hn16, hb16⟩
  obtain ⟨a16, n16, c16, rfl⟩ := Nn.form hn16
  have K16 := Lib.hid ((K15.out.below hb16).num hn16)
  clear hn16 hb16 K15
  go_wp2_with (go_at_call 13; refine Hid.out ?_)
  refine Lib.hid ?_
  refine (mod_nv w16 _ _ _ _ 1000 100 (K16.out.ntl.nhd.nv (pw_of LSM.out B3.out)) (K16.out.nhd.nv (by decide +kernel)) (by decide) (by decide) (by decide)).mono ?_
  rintro e w17 ⟨v17, rfl, hn17, hb17⟩
  have hn17 := hn17.nn (by decide)
  obtain ⟨a17, n17, c17, rfl⟩ := Nn.form hn17
  rw [← Int.natCast_emod, ← HSG.out] at hn17
  have K17 := Lib.hid ((K16.out.below hb17).num hn17)
  have HS17 := Lib.hid hn17
  clear hn17 hb17 K16 LPR LSM LCH LNK LSK B1 B2 B3 HSG
  go_upto_region 9 with fail
  have HG4 := Lib.hid (HG.out.below K17.out.be HG.out.size)
  have HP4 := Lib.hid (Sl.below HP.out K17.out.be (Nat.le_refl _))
  have HM4 := Lib.hid (Sl.below HM.out K17.out.be (Nat.le_refl _))
  have HLS : Hid (sgS P M < 2 ^ 255) := Nat.lt_of_lt_of_le (sgS_lt P M) (by decide +kernel)
  have HSIG : Hid (sigL P M = LR ++ Sn.en (sgS P M)) := by rw [HLR.out]; exact (rfl : sigL P M = _)
  have HSR : Hid (Slc w17 (.slice (some ⟨gr, 0, none⟩) 32 32) LR) := slc_lie (c := 32) K17.out.hd HLRN.out (Nat.le_refl 32) HW8R.out
  have HSP : Hid (Slc w17 (.slice (some ⟨gp, 0, none⟩) 32 32) LP) := slc_lie (c := 32) K17.out.tl.hd HLPN.out (Nat.le_refl 32) HW8P.out
  have HLN : Hid (LR.length + (Sn.en (sgS P M)).length ≤ 1000) := by rw [HLRN.out, Sn.en_len]; exact (by decide : 32 + 32 ≤ 1000)
  obtain ⟨S, hS⟩ : ∃ S, S = sgS P M := ⟨_, rfl⟩
  obtain ⟨SL, hSL⟩ : ∃ SL, SL = sigL P M := ⟨_, rfl⟩
  have HSL := Lib.hid hSL
  rw [← hS] at HSIG HLN HLS HS17
  rw [← hSL] at HSIG
  clear hS hSL HLR
  have HBW := Lib.hid K17.out.be
  clear K17
  refine Grow.region_all (by kernel_rfl) 20 (fun i => List.getD (Grow.Spec.is (.slice a0 n c0) :: Grow.Spec.slc LP :: Grow.Spec.is (.string (strOfNums LP)) :: Grow.Spec.is (.slice (some ⟨gp, 0, none⟩) 32 32) :: Grow.Spec.is (.string (strOfNums LP)) :: Grow.Spec.is (.bool true) :: Grow.Spec.is (.bool true) :: Grow.Spec.is (.slice a0 n c0) :: Grow.Spec.is (.slice a1 m c1) :: Grow.Spec.slc (LR ++ Sn.en S) :: Grow.Spec.is (.string (strOfNums (LR ++ Sn.en S))) :: Grow.Spec.is (.slice (some ⟨gr, 0, none⟩) 32 32) :: Grow.Spec.is (.string (strOfNums LR)) :: Grow.Spec.is (.slice a17 n17 c17) :: Grow.Spec.slc (Sn.en S) :: Grow.Spec.is (.string (strOfNums (Sn.en S))) :: Grow.Spec.is (.string (strOfNums (LR ++ Sn.en S))) :: Grow.Spec.is (.bool true) :: Grow.Spec.is (.bool true) :: Grow.Spec.is (.bool true) :: []) i (Grow.Spec.is undef)) rfl (by kernel_rfl) ⟨
    Grow.h2_free (Or.inl rfl) 0 _ rfl (by kernel_rfl) rfl rfl,
    Grow.h2_call1 (Or.inl rfl) 6 Grow.enter6 _ _ rfl (fun a wx hk => by have e1 : a.eval (.tmp 51) = (.slice a0 n c0) := (hk.deps 0 51 (by kernel_rfl)); rw [e1]; refine (public_L (HG4.out.below hk.below HG4.out.size) HLP.out (Sl.below HP4.out hk.below (Nat.le_refl _)) PL.out).mono ?_; rintro e w5 ⟨v', rfl, h1, hb⟩; exact ⟨_, rfl, h1, hb⟩),
    Grow.h2_strS (Or.inl rfl) 1 52 _ rfl (by kernel_rfl) rfl rfl,
    Grow.h2_free (Or.inl rfl) 6 _ rfl (by kernel_rfl) rfl rfl,
    Grow.h2_str (Or.inl rfl) 3 54 _ _ rfl (by kernel_rfl) rfl HSP.out rfl,
    Grow.h2_eqS (Or.inl rfl) 2 53 4 55 _ rfl (by kernel_rfl) (by kernel_rfl) rfl rfl rfl,
    Grow.h2_same (Or.inl rfl) 5 56 rfl (by kernel_rfl) rfl,
    Grow.h2_free (Or.inr ⟨6, 57, true, rfl, by kernel_rfl, rfl, Nat.le_of_ble_eq_true rfl⟩) 0 _ rfl (by kernel_rfl) rfl rfl,
    Grow.h2_free (Or.inr ⟨6, 57, true, rfl, by kernel_rfl, rfl, Nat.le_of_ble_eq_true rfl⟩) 1 _ rfl (by kernel_rfl) rfl rfl,
    Grow.h2_call2 (Or.inr ⟨6, 57, true, rfl, by kernel_rfl, rfl, Nat.le_of_ble_eq_true rfl⟩) 7 Grow.enter7 _ _ _ rfl (fun a wx hk => by have e1 : a.eval (.tmp 58) = (.slice a0 n c0) := (hk.deps 7 58 (by kernel_rfl)); have e2 : a.eval (.tmp 59) = (.slice a1 m c1) := (hk.deps 8 59 (by kernel_rfl)); rw [e1, e2]; refine (sign_L (HG4.out.below hk.below HG4.out.size) (Sl.below HP4.out hk.below (Nat.le_refl _)) (Sl.below HM4.out hk.below (Nat.le_refl _)) PL.out ML.out).mono ?_; rw [← HSL.out, HSIG.out]; rintro e w5 ⟨v', rfl, h1, hb⟩; exact ⟨_, rfl, h1, hb⟩),
    Grow.h2_strS (Or.inr ⟨6, 57, true, rfl, by kernel_rfl, rfl, Nat.le_of_ble_eq_true rfl⟩) 9 60 _ rfl (by kernel_rfl) rfl rfl,
    Grow.h2_free (Or.inr ⟨6, 57, true, rfl, by kernel_rfl, rfl, Nat.le_of_ble_eq_true rfl⟩) 8 _ rfl (by kernel_rfl) rfl rfl,
    Grow.h2_str (Or.inr ⟨6, 57, true, rfl, by kernel_rfl, rfl, Nat.le_of_ble_eq_true rfl⟩) 11 62 _ _ rfl (by kernel_rfl) rfl HSR.out rfl,
    Grow.h2_free (Or.inr ⟨6, 57, true, rfl, by kernel_rfl, rfl, Nat.le_of_ble_eq_true rfl⟩) 10 _ rfl (by kernel_rfl) rfl rfl,
    Grow.h2_call2 (Or.inr ⟨6, 57, true, rfl, by kernel_rfl, rfl, Nat.le_of_ble_eq_true rfl⟩) 17 Grow.enter17 _ _ _ rfl (fun a wx hk => by have e1 : a.eval (.tmp 64) = (.slice a17 n17 c17) := (hk.deps 13 64 (by kernel_rfl)); rw [e1]; refine (bytes_L (Nn.below HS17.out hk.below) HLS.out).mono ?_; rintro e w5 ⟨v', rfl, h1, hb⟩; exact ⟨_, rfl, h1, hb⟩),
    Grow.h2_strS (Or.inr ⟨6, 57, true, rfl, by kernel_rfl, rfl, Nat.le_of_ble_eq_true rfl⟩) 14 65 _ rfl (by kernel_rfl) rfl rfl,
    Grow.h2_addS (Or.inr ⟨6, 57, true, rfl, by kernel_rfl, rfl, Nat.le_of_ble_eq_true rfl⟩) 12 63 15 66 LR (Sn.en S) HLN.out rfl (by kernel_rfl) (by kernel_rfl) rfl rfl rfl,
    Grow.h2_eqS (Or.inr ⟨6, 57, true, rfl, by kernel_rfl, rfl, Nat.le_of_ble_eq_true rfl⟩) 10 61 16 67 _ rfl (by kernel_rfl) (by kernel_rfl) rfl rfl rfl,
    Grow.h2_pick (Or.inl rfl) 6 57 17 68 _ rfl (by kernel_rfl) (by kernel_rfl) rfl rfl,
    Grow.h2_move (Or.inl rfl) (.tmp 69) (Or.inr rfl) (fun a wx hk => hk.deps 18 69 (by kernel_rfl)),
    trivial⟩ ?_
  intro a w5 hb hts hk hdf hfr
  have e4 : a.eval (.tmp 4) = .bool true := hk 19 4 (by decide) rfl
  have HBE : Hid (Below w.heap.size w w5) := HBW.out.trans (hb.mono HBW.out.size)
  have ha := Grow.act_after hts hdf hfr
  rw [show Grow.dsts _ 20 = [51, 52, 53, 54, 55, 56, 57, 58, 59, 60, 61, 62, 63, 64, 65, 66, 67, 68, 69, 4] from by kernel_rfl] at ha
  simp only [Grow.putAll, e4] at ha
  generalize a.eval (.tmp 51) = u51 at ha
  generalize a.eval (.tmp 52) = u52 at ha
  generalize a.eval (.tmp 53) = u53 at ha
  generalize a.eval (.tmp 54) = u54 at ha
  generalize a.eval (.tmp 55) = u55 at ha
  generalize a.eval (.tmp 56) = u56 at ha
  generalize a.eval (.tmp 57) = u57 at ha
  generalize a.eval (.tmp 58) = u58 at ha
  generalize a.eval (.tmp 59) = u59 at ha
  generalize a.eval (.tmp 60) = u60 at ha
  generalize a.eval (.tmp 61) = u61 at ha
  generalize a.eval (.tmp 62) = u62 at ha
  generalize a.eval (.tmp 63) = u63 at ha
  generalize a.eval (.tmp 64) = u64 at ha
  generalize a.eval (.tmp 65) = u65 at ha
  generalize a.eval (.tmp 66) = u66 at ha
  generalize a.eval (.tmp 67) = u67 at ha
  generalize a.eval (.tmp 68) = u68 at ha
  generalize a.eval (.tmp 69) = u69 at ha
  clear hk hts hdf hfr e4 hb
  simp [Act.put] at ha
  subst ha
  go_wp2
  go_ret
  exact ⟨rfl, HBE.out⟩
end Go.Proofs.YtiinmdleechcgaaDoor
