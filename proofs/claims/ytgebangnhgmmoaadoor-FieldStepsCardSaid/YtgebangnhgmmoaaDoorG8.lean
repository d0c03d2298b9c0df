/- Layer 3, part 8 of the proof. -/
import Derived.Test.YtgebangnhgmmoaaDoorG7
/- The reference's powers, the walks. -/
namespace Go.Proofs.YtgebangnhgmmoaaDoor
open Go.RowKit

theorem pow_bit {x : Int} {E j : Nat} (b : Bool) (hb : E / 2 ^ j % 2 = if b then 1 else 0) {o : Int} (ho : o = x ^ (E / 2 ^ (j + 1)) % Fe.P) : (if b then (o * o % Fe.P) * x % Fe.P else o * o % Fe.P) = x ^ (E / 2 ^ j) % Fe.P := by
  have e : E / 2 ^ j = E / 2 ^ (j + 1) + E / 2 ^ (j + 1) + (if b then 1 else 0) := by
    rw [← hb, Nat.pow_succ, ← Nat.div_div_eq_div_mul]; omega
  rw [e]
  cases b with
  | false =>
    simp only [Bool.false_eq_true, if_false, Nat.add_zero]
    rw [Int.pow_add, ho, ← Int.mul_emod]
  | true =>
    simp only [if_true]
    rw [Int.pow_succ, Int.pow_add, ho, ← Int.mul_emod, Int.mul_emod (_ % Fe.P) x, Int.emod_emod, ← Int.mul_emod]
theorem one_num (w : World) : Num (w.alloc (.cells #[.int .u32 1] 36)) (.slice (some ⟨w.heap.size, 0, none⟩) 1 1) [1] := num_blk (l := [1]) (heap_alloc_new w _) rfl (by intro x hx; rw [List.mem_singleton] at hx; rw [hx]; unfold W32; decide)
theorem two_num (w : World) : Num (w.alloc (.cells #[.int .u32 2] 36)) (.slice (some ⟨w.heap.size, 0, none⟩) 1 1) [2] := num_blk (l := [2]) (heap_alloc_new w _) rfl (by intro x hx; rw [List.mem_singleton] at hx; rw [hx]; unfold W32; decide)

set_option maxRecDepth 100000 in
set_option maxHeartbeats 1000000 in
theorem rpow_any (w : World) (va vb : Value) (a b : List Int) (ha : Num w va a) (hb : Num w vb b) (hla : a.length ≤ 20000) (hlb : b.length ≤ 20000) :
    Calls Tryd.prog 32 #[va, vb] w fun e w' => ∃ v' l, e = .returned v' ∧ Num w' v' l ∧ Nt.val l = Nt.val a ^ (Nt.val b).toNat % Fe.P ∧ Nt.Neat l ∧ l.length ≤ 8 ∧ Below w.heap.size w w' := by
  have hwb : Nt.Ws b := by obtain ⟨_, _, _, _, h, _⟩ := hb; exact h
  obtain ⟨E, hE⟩ := Int.eq_ofNat_of_zero_le (Nt.val_nonneg hwb)
  have HA := Lib.hid ha
  have HB := Lib.hid hb
  have HW := Lib.hid hwb
  have HE := Lib.hid hE
  have HT : Hid ((Nt.val b).toNat = E) := by show _ = _; rw [hE]; rfl
  have B1 : Hid (Below w.heap.size w (w.alloc (.cells #[.int .u32 1] 36))) := (Below.refl _ _).alloc (Nat.le_refl _) _
  have HLEN := Lib.hid (len_any _ vb b (hb.below B1.out (Nat.le_refl _)) (by omega))
  have HO := Lib.hid (one_num w)
  clear ha hb hwb hE
  go_enter Tryd.func32, Tryd.ntmps32
  go_wp2_with (go_at_call 49; refine HLEN.out.mono ?_; rintro e w1 ⟨m, rfl, h1, h2, h3, rfl⟩; have HM := Lib.hid h1; have hm3 : (m : Int) ≤ 640000 := (by omega); clear h1 h2 h3)
  generalize w.alloc (.cells #[.int .u32 1] 36) = w2 at *
  go_loopw [5, 6] (fun v i wr => ∃ (j : Nat) (l : List Int), j ≤ m ∧ i = .int .i64 ((j : Int) - 1) ∧ Hid (Num wr v l) ∧ Hid (Nt.val l = Nt.val a ^ (E / 2 ^ j) % Fe.P) ∧ Hid (Nt.Neat l) ∧ l.length ≤ 8 ∧ Hid (Below w.heap.size w wr)) (fun _ i _ => (intOf i + 1).toNat)
  case atStart =>
    refine ⟨m, [1], Nat.le_refl _, rfl, HO, ?_, ?_, by decide, B1⟩
    · have h4 : E < 2 ^ m := by
        have := HM.out
        rw [HE.out] at this
        exact_mod_cast this
      show _ = _
      rw [Nat.div_eq_of_lt h4, Int.pow_zero]
      decide
    · intro _; decide
  case round =>
    clear HO B1 HLEN
    obtain ⟨j, l, hj, rfl, HL, HV, HN, hl8, BW⟩ := hrel
    cases j with
    | zero =>
      go_wp2
      go_ret
      refine ⟨_, l, rfl, HL.out, ?_, HN.out, hl8, BW.out⟩
      rw [HV.out, HT.out, Nat.pow_zero, Nat.div_one]
    | succ j =>
      have hbit : Nt.bit b j = ((E / 2 ^ j % 2 : Nat) : Int) := by
        rw [Nt.bit_val HW.out, HE.out]
        simp
      have hj1 : (((j + 1 : Nat) : Int) - 1) = (j : Int) := by omega
      rw [hj1]
      clear hj1
      have HBT : Hid (∀ wq, Below w.heap.size w wq → Calls Tryd.prog 16 #[vb, .int .i64 (j : Int)] wq fun e w' => e = .returned (.int .u32 ((E / 2 ^ j % 2 : Nat) : Int)) ∧ w' = wq) := by
        intro wq hq
        have := bit_any wq vb b j (HB.out.below hq (Nat.le_refl _)) (by omega) (by omega)
        rwa [hbit] at this
      by_cases hb1 : E / 2 ^ j % 2 = 1
      · have HPB := Lib.hid (pow_bit (j := j) true hb1 HV.out)
        rw [hb1] at HBT
        clear hb1 hbit
        go_wp2_with (first
          | (go_at_call 26; refine (rmul_any _ _ _ l1 a HL1.out (HA.out.below HB2.out (Nat.le_refl _)) (by omega) hla).mono ?_; rintro e w5 ⟨v5, l5, rfl, hp1, hp2, hp3, hp4, hb⟩; have HQ1 := Lib.hid hp1; have HQ2 := Lib.hid hp2; have HQ3 := Lib.hid hp3; have hq4 := hp4; have HB5 := Lib.hid (HB2.out.trans (hb.mono HB2.out.size)); clear hp1 hp2 hp3 hp4 hb)
          | (go_at_call 16; refine (HBT.out _ HB2.out).mono ?_; rintro e w4 ⟨rfl, rfl⟩)
          | (go_at_call 26; refine (rmul_any _ _ _ l l HL.out HL.out (by omega) (by omega)).mono ?_; rintro e w3 ⟨v3, l1, rfl, hp1, hp2, hp3, hp4, hb⟩; have HL1 := Lib.hid hp1; have HL2 := Lib.hid hp2; have HL3 := Lib.hid hp3; have hl4 := hp4; have HB2 := Lib.hid (BW.out.trans (hb.mono BW.out.size)); clear hp1 hp2 hp3 hp4 hb))
        have HFV : Hid (Nt.val l5 = Nt.val a ^ (E / 2 ^ j) % Fe.P) := by
          have h := HPB.out
          simp only [if_true] at h
          show _ = _
          rw [← h, HQ2.out, HL2.out]
        go_roundw
        case rel => exact ⟨j, l5, by omega, by go_num, HQ1, HFV, HQ3, hq4, HB5⟩
        case measure => simp [intOf]
      · have hb0 : E / 2 ^ j % 2 = 0 := by omega
        have HPB := Lib.hid (pow_bit (j := j) false hb0 HV.out)
        rw [hb0] at HBT
        clear hb0 hb1 hbit
        go_wp2_with (first
          | (go_at_call 16; refine (HBT.out _ HB2.out).mono ?_; rintro e w4 ⟨rfl, rfl⟩)
          | (go_at_call 26; refine (rmul_any _ _ _ l l HL.out HL.out (by omega) (by omega)).mono ?_; rintro e w3 ⟨v3, l1, rfl, hp1, hp2, hp3, hp4, hb⟩; have HL1 := Lib.hid hp1; have HL2 := Lib.hid hp2; have HL3 := Lib.hid hp3; have hl4 := hp4; have HB2 := Lib.hid (BW.out.trans (hb.mono BW.out.size)); clear hp1 hp2 hp3 hp4 hb))
        have HFV : Hid (Nt.val l1 = Nt.val a ^ (E / 2 ^ j) % Fe.P) := by
          have h := HPB.out
          simp only [Bool.false_eq_true, if_false] at h
          show _ = _
          rw [← h, HL2.out]
        go_roundw
        case rel => exact ⟨j, l1, by omega, by go_num, HL1, HFV, HL3, hl4, HB2⟩
        case measure => simp [intOf]

set_option maxRecDepth 100000 in
set_option maxHeartbeats 400000 in
theorem rinv_any (w : World) (va : Value) (a : List Int) (ha : Num w va a) (hla : a.length ≤ 20000) :
    Calls Tryd.prog 34 #[va] w fun e w' => ∃ v' l, e = .returned v' ∧ Num w' v' l ∧ Nt.val l = Nt.val a ^ (Nm.PN - 2) % Fe.P ∧ Nt.Neat l ∧ l.length ≤ 8 ∧ Below w.heap.size w w' := by
  have HA := Lib.hid ha
  clear ha
  have hp2 : (Nt.val Nt.prime - Nt.val [2]).toNat = Nm.PN - 2 := by decide
  go_enter Tryd.func34, Tryd.ntmps34
  go_wp2_with (first
    | (go_at_call 32; refine (rpow_any _ _ _ a l3 (HA.out.below HB3.out (Nat.le_refl _)) HR1.out hla (by have := HR4.out; omega)).mono ?_; rintro e w4 ⟨v4, l4, rfl, hq1, hq2, hq3, hq4, hb⟩; have HQ1 := Lib.hid hq1; have HQ2 := Lib.hid hq2; have HQ3 := Lib.hid hq3; have HQ4 := Lib.hid hq4; have HB4 := Lib.hid (HB3.out.trans (hb.mono HB3.out.size)); clear hq1 hq2 hq3 hq4 hb)
    | (go_at_call 42; refine (lessn_any _ _ _ Nt.prime [2] (HP1.out.below ((Below.refl _ _).alloc (Nat.le_refl _) _) (Nat.le_refl _)) (two_num _) (by decide) (by decide)).mono ?_; rintro e w3 ⟨v3, l3, rfl, hq1, hq2, hq3, hq4, hb⟩; have HR1 := Lib.hid hq1; have HR2 := Lib.hid hq2; have HR4 : Hid (l3.length ≤ 8) := hq4; have HB3 := Lib.hid ((HB1.out.alloc HB1.out.size _).trans (hb.mono (HB1.out.alloc HB1.out.size _).size)); clear hq1 hq2 hq3 hq4 hb)
    | (go_at_call 43; refine (p_any _).mono ?_; rintro e w1 ⟨v1, rfl, hq1, hb⟩; have HP1 := Lib.hid hq1; have HB1 := Lib.hid hb; clear hq1 hb))
  go_ret
  exact ⟨_, _, rfl, HQ1.out, by rw [HQ2.out, HR2.out, hp2], HQ3.out, HQ4.out, HB4.out⟩
end Go.Proofs.YtgebangnhgmmoaaDoor

/- The statement of powers, the walk. -/
namespace Go.Proofs.YtgebangnhgmmoaaDoor
open Go.RowKit
namespace Grow
theorem h2_slice23 {m : Nat} {ops : Array Oper} {Q : Exit → Act → World → Prop} {specs : Nat → Spec} {a0 : Act} {w0 : World} {i : Nat} {o : Oper} (hr : Runs2 ops specs a0 o) (t g : Nat) (ho : o.op = .slice 23 (.tmp t) none none none) (hf : free2 ops m t = true) (hv : a0.eval (.tmp t) = .pointer (some ⟨g, 0, none⟩)) (hs : specs i = .is (.slice (some ⟨g, 0, none⟩) 32 32)) : Hop2 Tryd.prog m ops specs Q a0 w0 i o :=
  h2_val hr fun a w hk => by
    have h1 : a.eval (.tmp t) = .pointer (some ⟨g, 0, none⟩) := (hk.rest t hf).trans hv
    have hu := Tryd.underlying23
    refine ⟨.slice (some ⟨g, 0, none⟩) 32 32, w, ?_, by rw [hs]; rfl, Below.refl _ _⟩
    unfold execOp
    rw [ho]
    simp only [h1]
    go_simp
theorem c_rpow {w : World} {u v : Value} {N : Int} {M : Nat} (hu : (nat N).meets u w) (hv : (nat (M : Int)).meets v w) : Calls Tryd.prog 32 #[u, v] w fun e w' => ∃ v, e = .returned v ∧ (nat (N ^ M % Fe.P)).meets v w' ∧ Below w.heap.size w w' := by
  obtain ⟨l, h1, h2, h3, h4⟩ := hu
  obtain ⟨k, k1, k2, k3, k4⟩ := hv
  refine (rpow_any w u v l k h1 k1 h4 k4).mono ?_
  rintro e w' ⟨v', r, rfl, r1, r2, r3, r4, hb⟩
  exact ⟨_, rfl, ⟨r, r1, by rw [r2, h2, k2]; rfl, r3, Nat.le_trans r4 (by decide)⟩, hb⟩
theorem c_rinv {w : World} {u : Value} {N : Int} (hu : (nat N).meets u w) : Calls Tryd.prog 34 #[u] w fun e w' => ∃ v, e = .returned v ∧ (nat (N ^ (Nm.PN - 2) % Fe.P)).meets v w' ∧ Below w.heap.size w w' := by
  obtain ⟨l, h1, h2, h3, h4⟩ := hu
  refine (rinv_any w u l h1 h4).mono ?_
  rintro e w' ⟨v', r, rfl, r1, r2, r3, r4, hb⟩
  exact ⟨_, rfl, ⟨r, r1, by rw [r2, h2], r3, Nat.le_trans r4 (by decide)⟩, hb⟩
end Grow
theorem pow_mod_P (x : Int) (k : Nat) : (x % Fe.P) ^ k % Fe.P = x ^ k % Fe.P := Nm.pow_mod_congr (Int.emod_emod _ _) k
/-- Raised to -1, and times that. -/
theorem inv_ok {x y : Fe.E} {X : Int} (h0 : 0 ≤ X) (hx : Fe.Re x X) (hy : Fe.Re y (X ^ (Nm.PN - 2))) : Fe.val (Fe.mul x y) % Fe.P = if X % Fe.P = 0 then 0 else 1 := by
  rw [(hx.mul hy).eq]
  rw [Fe.P_PN]
  split
  · next h => exact Nm.inv_zero h _
  · next h => exact Nm.inv_one h0 h
theorem len_val {l : List Int} (hw : Nt.Ws l) (hn : Nt.Neat l) : l.length = 0 ↔ Nt.val l = 0 := by
  constructor
  · intro h
    have h0 : l = [] := List.eq_nil_of_length_eq_zero h
    rw [h0]; rfl
  · intro h
    rcases Nat.eq_zero_or_pos l.length with h1 | h1
    · exact h1
    · have h2 := Nt.neat_le hn hw h1
      have h3 := Nt.pw_pos (l.length - 1)
      omega

set_option maxRecDepth 100000 in
set_option maxHeartbeats 2000000 in
theorem powers_walk (w : World) (hd : Dbl w) (p q : List Int) (hp : p.length = 32) (hq : q.length = 32) (wp : ∀ x ∈ p, W8 x) (wq : ∀ x ∈ q, W8 x) :
    Calls Tryd.prog 7 #[bv p, bv q] w fun e w' => e = .returned (.bool true) ∧ Below w.heap.size w w' := by
  have S0 := Lib.hid (St.two hd p q)
  have WP := Lib.hid wp
  have WQ := Lib.hid wq
  have LP := Lib.hid hp
  have LQ := Lib.hid hq
  clear hd wp wq hp hq
  unfold bv
  go_enter Tryd.func7, Tryd.ntmps7
  go_wp2_with (first
    | ((with_reducible refine wpList_store_row (o := ⟨none, _, _, _, _, _⟩) rfl 30 (.tmp 8) (.tmp 19) rfl wq6.heap.size (ec (Fe.num 0)) rfl rfl 30 _ HO2.out ?_ ?_ ?_ ?_); exact i30; exact rfl; exact ec_one _; have S8 := Lib.hid (S6.out.put HB2.out (Nat.le_refl _) HO2.out (Fe.num 0)))
    | (go_at_call 28; refine (num_any _ 0 (by decide) (by decide)).mono ?_; rintro e wz ⟨rfl, hb⟩; have HO2 := Lib.hid ((hb.block _ (lt_of_block (S7.out.rows (wq6.heap.size, Fe.num 1) (by simp)))).trans (S7.out.rows (wq6.heap.size, Fe.num 1) (by simp))); have HB2 : Hid (Below wq6.heap.size wq6 wz) := (below_setRow ((Below.refl _ _).alloc (Nat.le_refl _) _) (Nat.le_refl _) _).trans (hb.mono (by simp)); clear hb)
    | ((with_reducible refine wpList_store_row (o := ⟨none, _, _, _, _, _⟩) rfl 30 (.tmp 8) (.tmp 15) rfl wq6.heap.size (ec (Fe.num 1)) rfl rfl 30 _ (zero_new wq6) ?_ ?_ ?_ ?_); exact i30; exact rfl; exact ec_one _; have S7 := Lib.hid (S6.out.row (Fe.num 1)))
    | (go_at_call 28; refine (num_any _ 1 (by decide) (by decide)).mono ?_; rintro e wq6 ⟨rfl, hb⟩; have S6 := Lib.hid (S5.out.below hb); clear hb)
    | ((with_reducible refine wpList_store_row (o := ⟨none, _, _, _, _, _⟩) rfl 30 (.tmp 7) (.tmp 14) rfl wq4.heap.size (ec (y)) rfl rfl 30 _ (zero_new wq4) ?_ ?_ ?_ ?_); exact i30; exact rfl; exact ec_one _; have S5 := Lib.hid (S4.out.row (y)))
    | (go_at_call 30; refine (inv_any _ (Fe.rd (Bt.low p)) (nb p) (rd_re p)).mono ?_; rintro e wq4 ⟨y, rfl, hy, hb⟩; have S4 := Lib.hid (S3.out.below hb); have HY := Lib.hid hy; clear hy; clear hb)
    | ((with_reducible refine load_rowG (o := ⟨some 13, _, _, _, _, _⟩) (Fe.rd (Bt.low p)) 5 wq1.heap.size rfl rfl (S3.out.rows (wq1.heap.size, Fe.rd (Bt.low p)) (by simp)) ?_ ?_); exact rfl)
    | (go_at_call 10; refine (of_32 _ _ _ p LP.out (slc_blk (S2.out.bys (w.heap.size, p) (by simp)) LP.out WP.out)).mono ?_; rintro e wq3 ⟨vx, lx, rfl, hn, hv, hne, hl2, hb⟩; obtain ⟨ax, cx, rfl⟩ := num_form hn; have S3 := Lib.hid ((S2.out.below hb).num hn); have Vx : Hid (Nt.val lx = nb p % Fe.P) := hv; have Lx : Hid (lx.length ≤ 20000) := Nat.le_trans hl2 (by decide); have NEx := Lib.hid hne; clear hn hv hl2 hne hb)
    | ((with_reducible refine wpList_store_row (o := ⟨none, _, _, _, _, _⟩) rfl 30 (.tmp 5) (.tmp 10) rfl wq1.heap.size (ec (Fe.rd (Bt.low p))) rfl rfl 30 _ (zero_new wq1) ?_ ?_ ?_ ?_); exact i30; exact rfl; exact ec_one _; have S2 := Lib.hid (S1.out.row (Fe.rd (Bt.low p))))
    | (go_at_call 11; refine (read_32 _ _ _ p LP.out (slc_blk (S0.out.bys (w.heap.size, p) (by simp)) LP.out WP.out)).mono ?_; rintro e wq1 ⟨rfl, hb⟩; have S1 := Lib.hid (S0.out.below hb); clear hb))
  · have h0 : 0 ≤ nb p := by unfold nb; omega
    have WX : Hid (Nt.Ws lx) := by obtain ⟨_, _, _, _, h, _⟩ := S6.out.nums (.slice ax lx.length cx, lx) (by simp); exact h
    have hlv := len_val WX.out NEx.out
    rw [Vx.out] at hlv
    have hz : lx.length = 0 := by
      have h5 : ((lx.length : Int) == 0) = true := by assumption
      have := eq_of_beq h5
      omega
    have HSAME : Hid (decide (Fe.val (Fe.mul (Fe.rd (Bt.low p)) y) % Fe.P = Fe.val (Fe.num 0) % Fe.P) = true) := by
      refine decide_eq_true ?_
      rw [inv_ok h0 (rd_re p) HY.out, if_pos (hlv.1 hz), Fe.num_val]; rfl
    clear hz hlv h0
    generalize wz.setRow wq6.heap.size (ec (Fe.num 0)) = w10 at *
    refine Grow.region_tail (by kernel_rfl) 24 (fun i => List.getD (Grow.Spec.is (.bool true) :: Grow.Spec.is (.bool true) :: Grow.Spec.is (.agg (ec (Fe.rd (Bt.low p)))) :: Grow.Spec.is (bv q) :: Grow.elem (nb p ^ Bt.low q) :: Grow.Spec.is (.slice ax lx.length cx) :: Grow.Spec.is (.slice (some ⟨w.heap.size + 1, 0, none⟩) 32 32) :: Grow.nat (Bt.low q : Nat) :: Grow.nat ((nb p % Fe.P) ^ Bt.low q % Fe.P) :: Grow.Spec.is (.bool true) :: Grow.Spec.is (.bool true) :: Grow.Spec.is (.bool true) :: Grow.Spec.is (.agg (ec (y))) :: Grow.Spec.is (.slice ax lx.length cx) :: Grow.nat ((nb p % Fe.P) ^ (Nm.PN - 2) % Fe.P) :: Grow.Spec.is (.bool true) :: Grow.Spec.is (.bool true) :: Grow.Spec.is (.bool true) :: Grow.Spec.is (.agg (ec (Fe.rd (Bt.low p)))) :: Grow.Spec.is (.agg (ec (y))) :: Grow.Spec.is (.agg (ec (Fe.mul (Fe.rd (Bt.low p)) y))) :: Grow.Spec.is (.agg (ec (Fe.num 0))) :: Grow.Spec.is (.bool true) :: Grow.Spec.is (.bool true) :: []) i (Grow.Spec.is undef)) (by kernel_rfl) ⟨
      Grow.h2_call0 (Or.inl rfl) 9 Grow.enter9 _ rfl (fun a wx hk => by refine (awake_any wx (S8.out.dbl.below hk.below S8.out.dbl.1)).mono ?_; rintro e w5 ⟨rfl, hb⟩; exact ⟨_, rfl, rfl, hb⟩),
      Grow.h2_move (Or.inl rfl) _ (Or.inl rfl) (fun a w hk => (hk.deps 0 20 (by kernel_rfl))),
      Grow.h2_row (Or.inr ⟨1, 21, true, rfl, by kernel_rfl, rfl, Nat.le_of_ble_eq_true rfl⟩) 5 (wq1.heap.size) 30 (ec (Fe.rd (Bt.low p))) _ rfl Tryd.underlying30 i30 rfl (by kernel_rfl) rfl (S8.out.rows (wq1.heap.size, Fe.rd (Bt.low p)) (by simp)) rfl,
      Grow.h2_row (Or.inr ⟨1, 21, true, rfl, by kernel_rfl, rfl, Nat.le_of_ble_eq_true rfl⟩) 3 (w.heap.size + 1) 23 _ _ rfl Tryd.underlying23 (by rw [i23]; simp [LQ.out]) rfl (by kernel_rfl) rfl (show w10.heap[w.heap.size + 1]? = some (.cells (q.map (Value.int .u8)).toArray 23 (0, 0)) from S8.out.bys (w.heap.size + 1, q) (by simp)) rfl,
      Grow.h2_call2 (Or.inr ⟨1, 21, true, rfl, by kernel_rfl, rfl, Nat.le_of_ble_eq_true rfl⟩) 31 Grow.enter31 _ _ _ rfl (fun a wx hk => by have e22 : a.eval (.tmp 22) = .agg (ec (Fe.rd (Bt.low p))) := (hk.deps 2 22 (by kernel_rfl)); have e23 : a.eval (.tmp 23) = bv q := (hk.deps 3 23 (by kernel_rfl)); rw [e22, e23]; refine (power_any wx (Fe.rd (Bt.low p)) (nb p) (rd_re p) q LQ.out WQ.out).mono ?_; rintro e w5 ⟨y5, rfl, hy5, hb⟩; exact ⟨_, rfl, ⟨y5, rfl, hy5⟩, hb⟩),
      Grow.h2_move (Or.inr ⟨1, 21, true, rfl, by kernel_rfl, rfl, Nat.le_of_ble_eq_true rfl⟩) _ (Or.inl rfl) (fun a w hk => by have e : a.eval (.tmp 6) = _ := hk.rest 6 (by kernel_rfl); rw [e]; exact rfl),
      Grow.h2_slice23 (Or.inr ⟨1, 21, true, rfl, by kernel_rfl, rfl, Nat.le_of_ble_eq_true rfl⟩) 3 (w.heap.size + 1) rfl (by kernel_rfl) rfl rfl,
      Grow.h2_call1 (Or.inr ⟨1, 21, true, rfl, by kernel_rfl, rfl, Nat.le_of_ble_eq_true rfl⟩) 33 Grow.enter33 _ _ rfl (fun a wx hk => by have e26 : a.eval (.tmp 26) = .slice (some ⟨w.heap.size + 1, 0, none⟩) 32 32 := (hk.deps 6 26 (by kernel_rfl)); rw [e26]; refine (low_any wx _ q (slc_blk ((S8.out.bys (w.heap.size + 1, q) (by simp)).other (hk.below.block _ (S8.out.bys (w.heap.size + 1, q) (by simp)).lt)) LQ.out WQ.out) (by rw [LQ.out]; decide)).mono ?_; rintro e w5 ⟨v5, l5, rfl, h1, h2, h3, h4, hb⟩; exact ⟨_, rfl, ⟨l5, h1, h2, h3, Nat.le_trans h4 (by rw [LQ.out]; decide)⟩, hb⟩),
      Grow.h2_call2 (Or.inr ⟨1, 21, true, rfl, by kernel_rfl, rfl, Nat.le_of_ble_eq_true rfl⟩) 32 Grow.enter32 _ _ _ rfl (fun a wx hk => by have e25 : a.eval (.tmp 25) = .slice ax lx.length cx := (hk.deps 5 25 (by kernel_rfl)); rw [e25]; exact Grow.c_rpow (show (Grow.nat (nb p % Fe.P)).meets (.slice ax lx.length cx) wx from ⟨lx, (S8.out.nums (.slice ax lx.length cx, lx) (by simp)).below hk.below (Nat.le_refl _), Vx.out, NEx.out, Lx.out⟩) (hk.deps 7 27 (by kernel_rfl))),
      Grow.h2_call2 (Or.inr ⟨1, 21, true, rfl, by kernel_rfl, rfl, Nat.le_of_ble_eq_true rfl⟩) 12 Grow.enter12 _ _ _ rfl (fun a wx hk => by obtain ⟨y5, e24, hy5⟩ : ∃ y5, a.eval (.tmp 24) = .agg (ec y5) ∧ Fe.Re y5 (nb p ^ Bt.low q) := (hk.deps 4 24 (by kernel_rfl)); rw [e24]; exact Grow.c_is hy5.ok (hk.deps 8 28 (by kernel_rfl)) (by rw [hy5.eq, pow_mod_P])),
      Grow.h2_pick (Or.inl rfl) 1 21 9 29 _ rfl (by kernel_rfl) (by kernel_rfl) rfl rfl,
      Grow.h2_move (Or.inl rfl) _ (Or.inl rfl) (fun a w hk => (hk.deps 10 30 (by kernel_rfl))),
      Grow.h2_row (Or.inr ⟨11, 31, true, rfl, by kernel_rfl, rfl, Nat.le_of_ble_eq_true rfl⟩) 7 (wq4.heap.size) 30 (ec (y)) _ rfl Tryd.underlying30 i30 rfl (by kernel_rfl) rfl (S8.out.rows (wq4.heap.size, y) (by simp)) rfl,
      Grow.h2_move (Or.inr ⟨11, 31, true, rfl, by kernel_rfl, rfl, Nat.le_of_ble_eq_true rfl⟩) _ (Or.inl rfl) (fun a w hk => by have e : a.eval (.tmp 6) = _ := hk.rest 6 (by kernel_rfl); rw [e]; exact rfl),
      Grow.h2_call1 (Or.inr ⟨11, 31, true, rfl, by kernel_rfl, rfl, Nat.le_of_ble_eq_true rfl⟩) 34 Grow.enter34 _ _ rfl (fun a wx hk => by have e33 : a.eval (.tmp 33) = .slice ax lx.length cx := (hk.deps 13 33 (by kernel_rfl)); rw [e33]; exact Grow.c_rinv (show (Grow.nat (nb p % Fe.P)).meets (.slice ax lx.length cx) wx from ⟨lx, (S8.out.nums (.slice ax lx.length cx, lx) (by simp)).below hk.below (Nat.le_refl _), Vx.out, NEx.out, Lx.out⟩)),
      Grow.h2_call2 (Or.inr ⟨11, 31, true, rfl, by kernel_rfl, rfl, Nat.le_of_ble_eq_true rfl⟩) 12 Grow.enter12 _ _ _ rfl (fun a wx hk => by have e32 : a.eval (.tmp 32) = .agg (ec (y)) := (hk.deps 12 32 (by kernel_rfl)); rw [e32]; exact Grow.c_is HY.out.ok (hk.deps 14 34 (by kernel_rfl)) (by rw [HY.out.eq, pow_mod_P])),
      Grow.h2_pick (Or.inl rfl) 11 31 15 35 _ rfl (by kernel_rfl) (by kernel_rfl) rfl rfl,
      Grow.h2_move (Or.inl rfl) _ (Or.inl rfl) (fun a w hk => (hk.deps 16 36 (by kernel_rfl))),
      Grow.h2_row (Or.inr ⟨17, 37, true, rfl, by kernel_rfl, rfl, Nat.le_of_ble_eq_true rfl⟩) 5 (wq1.heap.size) 30 (ec (Fe.rd (Bt.low p))) _ rfl Tryd.underlying30 i30 rfl (by kernel_rfl) rfl (S8.out.rows (wq1.heap.size, Fe.rd (Bt.low p)) (by simp)) rfl,
      Grow.h2_row (Or.inr ⟨17, 37, true, rfl, by kernel_rfl, rfl, Nat.le_of_ble_eq_true rfl⟩) 7 (wq4.heap.size) 30 (ec (y)) _ rfl Tryd.underlying30 i30 rfl (by kernel_rfl) rfl (S8.out.rows (wq4.heap.size, y) (by simp)) rfl,
      Grow.h2_call2 (Or.inr ⟨17, 37, true, rfl, by kernel_rfl, rfl, Nat.le_of_ble_eq_true rfl⟩) 25 Grow.enter25 _ _ _ rfl (fun a wx hk => by have e38 : a.eval (.tmp 38) = .agg (ec (Fe.rd (Bt.low p))) := (hk.deps 18 38 (by kernel_rfl)); have e39 : a.eval (.tmp 39) = .agg (ec (y)) := (hk.deps 19 39 (by kernel_rfl)); rw [e38, e39]; refine (mul_any wx (Fe.rd (Bt.low p)) y (Fe.rd_ok _) HY.out.ok).mono ?_; rintro e w5 ⟨rfl, hb⟩; exact ⟨_, rfl, rfl, hb⟩),
      Grow.h2_row (Or.inr ⟨17, 37, true, rfl, by kernel_rfl, rfl, Nat.le_of_ble_eq_true rfl⟩) 8 (wq6.heap.size) 30 (ec (Fe.num 0)) _ rfl Tryd.underlying30 i30 rfl (by kernel_rfl) rfl (S8.out.rows (wq6.heap.size, Fe.num 0) (by simp)) rfl,
      Grow.h2_call2 (Or.inr ⟨17, 37, true, rfl, by kernel_rfl, rfl, Nat.le_of_ble_eq_true rfl⟩) 23 Grow.enter23 _ _ _ rfl (fun a wx hk => by have e40 : a.eval (.tmp 40) = .agg (ec (Fe.mul (Fe.rd (Bt.low p)) y)) := (hk.deps 20 40 (by kernel_rfl)); have e41 : a.eval (.tmp 41) = .agg (ec (Fe.num 0)) := (hk.deps 21 41 (by kernel_rfl)); rw [e40, e41]; refine (same_any wx _ _ (Fe.mul_ok (Fe.rd_ok _) HY.out.ok) (Fe.num_ok _ (by decide) (by decide))).mono ?_; rintro e w5 ⟨rfl, hb⟩; rw [HSAME.out]; exact ⟨_, rfl, rfl, hb⟩),
      Grow.h2_pick (Or.inl rfl) 17 37 22 42 _ rfl (by kernel_rfl) (by kernel_rfl) rfl rfl,
      trivial⟩ ?_
    intro o a w8 ho hb hts hk hdf hfr
    obtain rfl := Option.some.inj ho
    have e43 : a.eval (.tmp 43) = .bool true := hk 23 43 (by decide) rfl
    refine ⟨rfl, Grow.wp_assign 4 (.tmp 43) rfl rfl ?_⟩
    have hs4 : 4 < a.tmps.size := by rw [hts]; exact Nat.le_of_ble_eq_true rfl
    have HBF := Lib.hid (S8.out.bb.trans (hb.mono S8.out.bb.size))
    clear hk hfr
    rw [e43]
    go_wp2
    refine bodyPost_ret (results_tmp rfl _ _ _) (by first | exact hdf | rfl) ?_
    exact ⟨congrArg Ending.returned (Grow.eval_put_eq hs4), HBF.out⟩
  · have h0 : 0 ≤ nb p := by unfold nb; omega
    have WX : Hid (Nt.Ws lx) := by obtain ⟨_, _, _, _, h, _⟩ := S6.out.nums (.slice ax lx.length cx, lx) (by simp); exact h
    have hlv := len_val WX.out NEx.out
    rw [Vx.out] at hlv
    have hz : ¬ lx.length = 0 := by
      have h5 : ((lx.length : Int) == 0) = false := by assumption
      have := ne_of_beq_false h5
      omega
    have HSAME : Hid (decide (Fe.val (Fe.mul (Fe.rd (Bt.low p)) y) % Fe.P = Fe.val (Fe.num 1) % Fe.P) = true) := by
      refine decide_eq_true ?_
      rw [inv_ok h0 (rd_re p) HY.out, if_neg (fun h => hz (hlv.2 h)), Fe.num_val]; rfl
    clear hz hlv h0
    generalize ((wq6.alloc (.cells #[.int .u64 0, .int .u64 0, .int .u64 0, .int .u64 0, .int .u64 0] 30)).setRow wq6.heap.size (ec (Fe.num 1))) = w9 at *
    refine Grow.region_tail (by kernel_rfl) 24 (fun i => List.getD (Grow.Spec.is (.bool true) :: Grow.Spec.is (.bool true) :: Grow.Spec.is (.agg (ec (Fe.rd (Bt.low p)))) :: Grow.Spec.is (bv q) :: Grow.elem (nb p ^ Bt.low q) :: Grow.Spec.is (.slice ax lx.length cx) :: Grow.Spec.is (.slice (some ⟨w.heap.size + 1, 0, none⟩) 32 32) :: Grow.nat (Bt.low q : Nat) :: Grow.nat ((nb p % Fe.P) ^ Bt.low q % Fe.P) :: Grow.Spec.is (.bool true) :: Grow.Spec.is (.bool true) :: Grow.Spec.is (.bool true) :: Grow.Spec.is (.agg (ec (y))) :: Grow.Spec.is (.slice ax lx.length cx) :: Grow.nat ((nb p % Fe.P) ^ (Nm.PN - 2) % Fe.P) :: Grow.Spec.is (.bool true) :: Grow.Spec.is (.bool true) :: Grow.Spec.is (.bool true) :: Grow.Spec.is (.agg (ec (Fe.rd (Bt.low p)))) :: Grow.Spec.is (.agg (ec (y))) :: Grow.Spec.is (.agg (ec (Fe.mul (Fe.rd (Bt.low p)) y))) :: Grow.Spec.is (.agg (ec (Fe.num 1))) :: Grow.Spec.is (.bool true) :: Grow.Spec.is (.bool true) :: []) i (Grow.Spec.is undef)) (by kernel_rfl) ⟨
      Grow.h2_call0 (Or.inl rfl) 9 Grow.enter9 _ rfl (fun a wx hk => by refine (awake_any wx (S7.out.dbl.below hk.below S7.out.dbl.1)).mono ?_; rintro e w5 ⟨rfl, hb⟩; exact ⟨_, rfl, rfl, hb⟩),
      Grow.h2_move (Or.inl rfl) _ (Or.inl rfl) (fun a w hk => (hk.deps 0 20 (by kernel_rfl))),
      Grow.h2_row (Or.inr ⟨1, 21, true, rfl, by kernel_rfl, rfl, Nat.le_of_ble_eq_true rfl⟩) 5 (wq1.heap.size) 30 (ec (Fe.rd (Bt.low p))) _ rfl Tryd.underlying30 i30 rfl (by kernel_rfl) rfl (S7.out.rows (wq1.heap.size, Fe.rd (Bt.low p)) (by simp)) rfl,
      Grow.h2_row (Or.inr ⟨1, 21, true, rfl, by kernel_rfl, rfl, Nat.le_of_ble_eq_true rfl⟩) 3 (w.heap.size + 1) 23 _ _ rfl Tryd.underlying23 (by rw [i23]; simp [LQ.out]) rfl (by kernel_rfl) rfl (show w9.heap[w.heap.size + 1]? = some (.cells (q.map (Value.int .u8)).toArray 23 (0, 0)) from S7.out.bys (w.heap.size + 1, q) (by simp)) rfl,
      Grow.h2_call2 (Or.inr ⟨1, 21, true, rfl, by kernel_rfl, rfl, Nat.le_of_ble_eq_true rfl⟩) 31 Grow.enter31 _ _ _ rfl (fun a wx hk => by have e22 : a.eval (.tmp 22) = .agg (ec (Fe.rd (Bt.low p))) := (hk.deps 2 22 (by kernel_rfl)); have e23 : a.eval (.tmp 23) = bv q := (hk.deps 3 23 (by kernel_rfl)); rw [e22, e23]; refine (power_any wx (Fe.rd (Bt.low p)) (nb p) (rd_re p) q LQ.out WQ.out).mono ?_; rintro e w5 ⟨y5, rfl, hy5, hb⟩; exact ⟨_, rfl, ⟨y5, rfl, hy5⟩, hb⟩),
      Grow.h2_move (Or.inr ⟨1, 21, true, rfl, by kernel_rfl, rfl, Nat.le_of_ble_eq_true rfl⟩) _ (Or.inl rfl) (fun a w hk => by have e : a.eval (.tmp 6) = _ := hk.rest 6 (by kernel_rfl); rw [e]; exact rfl),
      Grow.h2_slice23 (Or.inr ⟨1, 21, true, rfl, by kernel_rfl, rfl, Nat.le_of_ble_eq_true rfl⟩) 3 (w.heap.size + 1) rfl (by kernel_rfl) rfl rfl,
      Grow.h2_call1 (Or.inr ⟨1, 21, true, rfl, by kernel_rfl, rfl, Nat.le_of_ble_eq_true rfl⟩) 33 Grow.enter33 _ _ rfl (fun a wx hk => by have e26 : a.eval (.tmp 26) = .slice (some ⟨w.heap.size + 1, 0, none⟩) 32 32 := (hk.deps 6 26 (by kernel_rfl)); rw [e26]; refine (low_any wx _ q (slc_blk ((S7.out.bys (w.heap.size + 1, q) (by simp)).other (hk.below.block _ (S7.out.bys (w.heap.size + 1, q) (by simp)).lt)) LQ.out WQ.out) (by rw [LQ.out]; decide)).mono ?_; rintro e w5 ⟨v5, l5, rfl, h1, h2, h3, h4, hb⟩; exact ⟨_, rfl, ⟨l5, h1, h2, h3, Nat.le_trans h4 (by rw [LQ.out]; decide)⟩, hb⟩),
      Grow.h2_call2 (Or.inr ⟨1, 21, true, rfl, by kernel_rfl, rfl, Nat.le_of_ble_eq_true rfl⟩) 32 Grow.enter32 _ _ _ rfl (fun a wx hk => by have e25 : a.eval (.tmp 25) = .slice ax lx.length cx := (hk.deps 5 25 (by kernel_rfl)); rw [e25]; exact Grow.c_rpow (show (Grow.nat (nb p % Fe.P)).meets (.slice ax lx.length cx) wx from ⟨lx, (S7.out.nums (.slice ax lx.length cx, lx) (by simp)).below hk.below (Nat.le_refl _), Vx.out, NEx.out, Lx.out⟩) (hk.deps 7 27 (by kernel_rfl))),
      Grow.h2_call2 (Or.inr ⟨1, 21, true, rfl, by kernel_rfl, rfl, Nat.le_of_ble_eq_true rfl⟩) 12 Grow.enter12 _ _ _ rfl (fun a wx hk => by obtain ⟨y5, e24, hy5⟩ : ∃ y5, a.eval (.tmp 24) = .agg (ec y5) ∧ Fe.Re y5 (nb p ^ Bt.low q) := (hk.deps 4 24 (by kernel_rfl)); rw [e24]; exact Grow.c_is hy5.ok (hk.deps 8 28 (by kernel_rfl)) (by rw [hy5.eq, pow_mod_P])),
      Grow.h2_pick (Or.inl rfl) 1 21 9 29 _ rfl (by kernel_rfl) (by kernel_rfl) rfl rfl,
      Grow.h2_move (Or.inl rfl) _ (Or.inl rfl) (fun a w hk => (hk.deps 10 30 (by kernel_rfl))),
      Grow.h2_row (Or.inr ⟨11, 31, true, rfl, by kernel_rfl, rfl, Nat.le_of_ble_eq_true rfl⟩) 7 (wq4.heap.size) 30 (ec (y)) _ rfl Tryd.underlying30 i30 rfl (by kernel_rfl) rfl (S7.out.rows (wq4.heap.size, y) (by simp)) rfl,
      Grow.h2_move (Or.inr ⟨11, 31, true, rfl, by kernel_rfl, rfl, Nat.le_of_ble_eq_true rfl⟩) _ (Or.inl rfl) (fun a w hk => by have e : a.eval (.tmp 6) = _ := hk.rest 6 (by kernel_rfl); rw [e]; exact rfl),
      Grow.h2_call1 (Or.inr ⟨11, 31, true, rfl, by kernel_rfl, rfl, Nat.le_of_ble_eq_true rfl⟩) 34 Grow.enter34 _ _ rfl (fun a wx hk => by have e33 : a.eval (.tmp 33) = .slice ax lx.length cx := (hk.deps 13 33 (by kernel_rfl)); rw [e33]; exact Grow.c_rinv (show (Grow.nat (nb p % Fe.P)).meets (.slice ax lx.length cx) wx from ⟨lx, (S7.out.nums (.slice ax lx.length cx, lx) (by simp)).below hk.below (Nat.le_refl _), Vx.out, NEx.out, Lx.out⟩)),
      Grow.h2_call2 (Or.inr ⟨11, 31, true, rfl, by kernel_rfl, rfl, Nat.le_of_ble_eq_true rfl⟩) 12 Grow.enter12 _ _ _ rfl (fun a wx hk => by have e32 : a.eval (.tmp 32) = .agg (ec (y)) := (hk.deps 12 32 (by kernel_rfl)); rw [e32]; exact Grow.c_is HY.out.ok (hk.deps 14 34 (by kernel_rfl)) (by rw [HY.out.eq, pow_mod_P])),
      Grow.h2_pick (Or.inl rfl) 11 31 15 35 _ rfl (by kernel_rfl) (by kernel_rfl) rfl rfl,
      Grow.h2_move (Or.inl rfl) _ (Or.inl rfl) (fun a w hk => (hk.deps 16 36 (by kernel_rfl))),
      Grow.h2_row (Or.inr ⟨17, 37, true, rfl, by kernel_rfl, rfl, Nat.le_of_ble_eq_true rfl⟩) 5 (wq1.heap.size) 30 (ec (Fe.rd (Bt.low p))) _ rfl Tryd.underlying30 i30 rfl (by kernel_rfl) rfl (S7.out.rows (wq1.heap.size, Fe.rd (Bt.low p)) (by simp)) rfl,
      Grow.h2_row (Or.inr ⟨17, 37, true, rfl, by kernel_rfl, rfl, Nat.le_of_ble_eq_true rfl⟩) 7 (wq4.heap.size) 30 (ec (y)) _ rfl Tryd.underlying30 i30 rfl (by kernel_rfl) rfl (S7.out.rows (wq4.heap.size, y) (by simp)) rfl,
      Grow.h2_call2 (Or.inr ⟨17, 37, true, rfl, by kernel_rfl, rfl, Nat.le_of_ble_eq_true rfl⟩) 25 Grow.enter25 _ _ _ rfl (fun a wx hk => by have e38 : a.eval (.tmp 38) = .agg (ec (Fe.rd (Bt.low p))) := (hk.deps 18 38 (by kernel_rfl)); have e39 : a.eval (.tmp 39) = .agg (ec (y)) := (hk.deps 19 39 (by kernel_rfl)); rw [e38, e39]; refine (mul_any wx (Fe.rd (Bt.low p)) y (Fe.rd_ok _) HY.out.ok).mono ?_; rintro e w5 ⟨rfl, hb⟩; exact ⟨_, rfl, rfl, hb⟩),
      Grow.h2_row (Or.inr ⟨17, 37, true, rfl, by kernel_rfl, rfl, Nat.le_of_ble_eq_true rfl⟩) 8 (wq6.heap.size) 30 (ec (Fe.num 1)) _ rfl Tryd.underlying30 i30 rfl (by kernel_rfl) rfl (S7.out.rows (wq6.heap.size, Fe.num 1) (by simp)) rfl,
      Grow.h2_call2 (Or.inr ⟨17, 37, true, rfl, by kernel_rfl, rfl, Nat.le_of_ble_eq_true rfl⟩) 23 Grow.enter23 _ _ _ rfl (fun a wx hk => by have e40 : a.eval (.tmp 40) = .agg (ec (Fe.mul (Fe.rd (Bt.low p)) y)) := (hk.deps 20 40 (by kernel_rfl)); have e41 : a.eval (.tmp 41) = .agg (ec (Fe.num 1)) := (hk.deps 21 41 (by kernel_rfl)); rw [e40, e41]; refine (same_any wx _ _ (Fe.mul_ok (Fe.rd_ok _) HY.out.ok) (Fe.num_ok _ (by decide) (by decide))).mono ?_; rintro e w5 ⟨rfl, hb⟩; rw [HSAME.out]; exact ⟨_, rfl, rfl, hb⟩),
      Grow.h2_pick (Or.inl rfl) 17 37 22 42 _ rfl (by kernel_rfl) (by kernel_rfl) rfl rfl,
      trivial⟩ ?_
    intro o a w8 ho hb hts hk hdf hfr
    obtain rfl := Option.some.inj ho
    have e43 : a.eval (.tmp 43) = .bool true := hk 23 43 (by decide) rfl
    refine ⟨rfl, Grow.wp_assign 4 (.tmp 43) rfl rfl ?_⟩
    have hs4 : 4 < a.tmps.size := by rw [hts]; exact Nat.le_of_ble_eq_true rfl
    have HBF := Lib.hid (S7.out.bb.trans (hb.mono S7.out.bb.size))
    clear hk hfr
    rw [e43]
    go_wp2
    refine bodyPost_ret (results_tmp rfl _ _ _) (by first | exact hdf | rfl) ?_
    exact ⟨congrArg Ending.returned (Grow.eval_put_eq hs4), HBF.out⟩
end Go.Proofs.YtgebangnhgmmoaaDoor
