/- Layer 6, a part of the proof: Ti Tj Tk. -/
import Derived.Test.YtiinmdleechcgaaDoorQT1
namespace Go.Proofs.YtiinmdleechcgaaDoor
open Go.RowKit
/-- A coordinate, out of the fraction. -/
theorem Rp.part {X Z v : Fe.E} {c : Int} (hX : Fe.Ok X) (hZ : Fe.Ok Z) (hn : Ed.Nz (Fe.val Z)) (hc : Ed.Cg (Fe.val X) (c * Fe.val Z)) (hb : 0 ≤ c ∧ c < Ed.q) (hv : Fe.Re v (Fe.val Z ^ (Nm.PN - 2))) : Fe.Ok (Fe.mul X v) ∧ Fe.val (Fe.mul X v) % Fe.P = ((c.toNat : Nat) : Int) := by
  refine ⟨Fe.mul_ok hX hv.ok, ?_⟩
  have h0 : 0 ≤ Fe.val Z := hZ.lt.1
  have hz : Fe.val Z % (Nm.PN : Int) ≠ 0 := by
    intro h
    exact hn (Ed.Cg.of_mod (by show Fe.val Z % (Nm.PN : Int) = 0 % (Nm.PN : Int); rw [h]; decide))
  have h1 : Ed.Cg (Fe.val Z * Fe.val Z ^ (Nm.PN - 2)) 1 := Ed.Cg.of_mod (by show _ % (Nm.PN : Int) = _; rw [Nm.inv_one h0 hz]; decide)
  have h2 : Ed.Cg (Fe.val (Fe.mul X v)) c := by
    refine ((Fe.Re.self hX).mul hv).cg.trans ((hc.mul (Ed.Cg.refl _)).trans ?_)
    exact (Ed.Cg.of_eq (Int.mul_assoc _ _ _)).trans (((Ed.Cg.refl c).mul h1).trans (Ed.Cg.of_eq (Int.mul_one c)))
  have h3 := h2.mod
  rw [q_P] at h3 hb
  rw [h3, Int.emod_eq_of_lt hb.1 hb.2]
  exact (Int.toNat_of_nonneg hb.1).symm
theorem Sq.one {w : World} (hd : Dbl w) (P : Pv) : Sq w [(w.heap.size, P)] [] (w.alloc (.cells (pc P) 51)) := by
  have h3 : Below w.heap.size w (w.alloc (.cells (pc P) 51)) := (Below.refl _ _).alloc (Nat.le_refl _) _
  refine ⟨fun r hr => ?_, fun r hr => (List.not_mem_nil hr).elim, hd.below h3 hd.1, h3⟩
  simp only [List.mem_cons, List.not_mem_nil, or_false] at hr
  subst hr
  exact heap_alloc_new w _
theorem Grow.enter54 (args : Array Value) (w : World) : (callFunc 54 args).run Tryd.prog w = .ok (.enter 54 args) w := by
  have := Tryd.func54
  go_simp
set_option maxRecDepth 100000 in
set_option maxHeartbeats 1000000 in
theorem bytesn_any (w : World) (x : Fe.E) (hx : Fe.Ok x) (N : Nat) (hN : Fe.val x % Fe.P = (N : Int)) :
    Calls Tryd.prog 69 #[.agg (ec x)] w fun e w' => ∃ g, e = .returned (.slice (some ⟨g, 0, none⟩) 32 32) ∧ Blk w' g .u8 5 (Bt.row 8 32 N 255) ∧ w.heap.size < g ∧ Below w.heap.size w w' := by
  have h1 := heap_alloc_new w (.cells (ec x) 49)
  have h3 : Below w.heap.size w (w.alloc (.cells (ec x) 49)) := (Below.refl _ _).alloc (Nat.le_refl _) _
  have HS := Lib.hid (least_any (w.alloc (.cells (ec x) 49)) x hx)
  have HB := Lib.hid h3
  have H1 := Lib.hid h1
  have hlt := (Fe.least_val hx).2.2
  have hv := (Fe.least_val hx).1
  rw [hN] at hv
  have hNP : N < 2 ^ (51 * 5) := by
    rw [hv] at hlt
    unfold Fe.P at hlt
    simp only [Nat.reduceMul, Nat.reducePow]
    omega
  have HLI := Lib.hid (fun q hq => limb (Fe.least_canon x) N hv q hq)
  have HNP := Lib.hid hNP
  have hmk := run_mk32
  have hsz : w.heap.size < (w.alloc (.cells (ec x) 49)).heap.size := lt_of_block h1
  clear hx h3 hlt hv hNP hN
  generalize Fe.least x = l at *
  go_enter Tryd.func69, Tryd.ntmps69
  go_wp2_with (first
    | ((with_reducible refine wpList_store_row (o := ⟨none, _, _, _, _, _⟩) rfl 49 (.tmp 1) (.tmp 6) rfl w.heap.size (ec l) rfl rfl 49 _ HZ.out ?_ ?_ ?_ ?_); exact i30; exact rfl; exact ec_one _; have HR := Lib.hid (setRow_heap w5 w.heap.size _ (ec l) 49 _ HZ.out); have HB6 := Lib.hid (below_setRow HB5.out (Nat.le_refl _) (ec l)); generalize w5.setRow w.heap.size (ec l) = w6 at *)
    | (go_at_call 76; refine HS.out.mono ?_; rintro e w5 ⟨rfl, hb⟩; have HB5 := Lib.hid (HB.out.trans (hb.mono HB.out.size)); have HZ := Lib.hid ((hb.block _ hsz).trans H1.out); clear hb)
    | ((with_reducible refine wpList_load_row (o := ⟨some 5, _, _, _, _, _⟩) rfl 49 (.tmp 1) rfl w.heap.size rfl 49 _ (0, 0) _ h1 Tryd.underlying49 rfl ?_ ?_); exact i30))
  change Code.wp _ _ _ _ (w6.alloc (.cells ((List.replicate 32 (0 : Int)).map (Value.int .u8)).toArray 5))
  have BB : Hid (Blk (w6.alloc (.cells ((List.replicate 32 (0 : Int)).map (Value.int .u8)).toArray 5)) w6.heap.size .u8 5 (Bt.row 8 32 N 0)) := by
    show Blk _ _ _ _ _
    rw [Bt.row_zero]; exact heap_alloc_new w6 _
  have LB : Hid ((w6.alloc (.cells ((List.replicate 32 (0 : Int)).map (Value.int .u8)).toArray 5)).heap[w.heap.size]? = some (.cells (ec l) 49 (0, 0))) := (Below.heap_alloc _ _ _ (lt_of_block HR.out)).trans HR.out
  have B7 : Hid (Below w.heap.size w (w6.alloc (.cells ((List.replicate 32 (0 : Int)).map (Value.int .u8)).toArray 5))) := HB6.out.alloc HB6.out.size _
  have hgb : w.heap.size < w6.heap.size := lt_of_block HR.out
  clear HR HB6 HZ HB5 HS H1 HB hmk h1 hsz
  generalize (w6.alloc (.cells ((List.replicate 32 (0 : Int)).map (Value.int .u8)).toArray 5)) = w7 at *
  generalize w6.heap.size = gb at *
  go_loopw [8] (fun i wr => ∃ k : Nat, k ≤ 255 ∧ i = .int .i64 k ∧ Hid (Blk wr gb .u8 5 (Bt.row 8 32 N k)) ∧ Hid (wr.heap[w.heap.size]? = some (.cells (ec l) 49 (0, 0))) ∧ Hid (Below w.heap.size w wr)) (fun i _ => 255 - (intOf i).toNat)
  case atStart => exact ⟨0, by omega, rfl, BB, LB, B7⟩
  case round =>
    clear BB LB B7
    obtain ⟨k, hk, rfl, BB, LB, BW⟩ := hrel
    by_cases hlt : k < 255
    · have c1 := BB.out.cell (k / 8) (by rw [Bt.row_length]; omega)
      have f1 := BB.out.free (k / 8)
      rw [Bt.row_get _ _ _ _ _ (by omega)] at c1
      have hlb : Blk wr w.heap.size .u64 49 l.cells := LB.out
      have c2 := hlb.cell (k / 51) (by rw [show l.cells.length = 5 from rfl]; omega)
      rw [HLI.out (k / 51) (by omega)] at c2
      have hbit := Bt.bit_place 51 5 N k (by decide) HNP.out
      rw [show 51 * 5 = 255 from rfl] at hbit
      have hsm := Bt.place_small 8 N k
      have hpl := Bt.place_lt 51 N 255 (k / 51)
      have hb1 := Bt.bit_le N k
      have hset := BB.out.set (k / 8) ((Bt.place 8 N k (k / 8) + Bt.bit N k * 2 ^ (k % 8) : Nat) : Int)
      rw [Bt.row_more 8 32 N k (by decide)] at hset
      have hoth := fun v => heap_setCell_other wr ⟨gb, k / 8, none⟩ w.heap.size v (by simp; omega)
      have hor := or8 (Bt.place 8 N k (k / 8)) (k % 8) (Bt.bit N k) (by omega) hb1 hsm
      have HSET := Lib.hid hset
      have HOTH := Lib.hid hoth
      clear hset hoth hlb hsm
      generalize Bt.place 8 N k (k / 8) = o at *
      generalize Bt.place 51 N 255 (k / 51) = v at *
      generalize Bt.bit N k = b at *
      have hvb : ((v : Int) / 2 ^ (k % 51)) % 2 = (b : Int) := by
        rw [← hbit]
        simp
      have hm := and1 ((v : Int) / 2 ^ (k % 51)) (Int.ediv_nonneg (by omega) (Int.le_of_lt (Int.pow_pos (by decide)))) (Int.le_trans (Int.ediv_le_self _ (by omega)) (by simp only [Nat.reducePow] at hpl; omega))
      rw [hvb] at hm
      have h2p : 2 ^ (k % 8) ≤ 2 ^ 7 := Nat.pow_le_pow_right (by decide) (by omega)
      have hbp : b * 2 ^ (k % 8) ≤ 1 * 2 ^ (k % 8) := Nat.mul_le_mul_right _ hb1
      have hcast : (b : Int) * 2 ^ (k % 8) % 256 = ((b * 2 ^ (k % 8) : Nat) : Int) := by
        rw [show (b : Int) * 2 ^ (k % 8) = ((b * 2 ^ (k % 8) : Nat) : Int) by simp]
        exact Int.emod_eq_of_lt (by omega) (by omega)
      have hval : bits BinOp.or IntKind.u8 (o : Int) ((b : Int) * 2 ^ (k % 8) % 256) = ((o + b * 2 ^ (k % 8) : Nat) : Int) := by rw [hcast]; exact hor
      have HVAL := Lib.hid hval
      clear hor hval hcast h2p hbp hbit
      go_wp2
      go_region
      all_goals go_wp2
      all_goals go_roundw
      case rel => exact ⟨k + 1, by omega, by go_num, by rw [HVAL.out]; exact HSET.out, (HOTH.out _).trans LB.out, (BW.out.setCell (by simp; omega) _).drew⟩
      case measure => simp [intOf]; omega
    · obtain rfl : k = 255 := by omega
      go_wp2
      go_ret
      exact ⟨gb, rfl, BB.out, hgb, BW.out⟩
/-- The bytes of a point. -/
def rowL (A : Ed.Pt) : List Int := Bt.row 8 32 A.y.toNat 255
def encL (A : Ed.Pt) : List Int := if A.x % 2 = 1 then (rowL A).set 31 ((rowL A).getD 31 0 + 128) else rowL A
namespace Grow
def newBytes (w0 : World) (l : List Int) : Spec := .held (fun u w => ∃ g, u = .slice (some ⟨g, 0, none⟩) 32 32 ∧ Blk w g .u8 5 l ∧ w0.heap.size ≤ g) (fun _ _ _ h hb => by
  obtain ⟨g, h1, h2, h3⟩ := h
  exact ⟨g, h1, h2.other (hb.block g h2.lt), h3⟩)
end Grow
theorem or128 (v : Int) (h0 : 0 ≤ v) (h1 : v < 128) : bits BinOp.or IntKind.u8 v 128 = v + 128 := by
  obtain ⟨n, rfl⟩ := Int.eq_ofNat_of_zero_le h0
  exact or8 n 7 1 (by decide) (by decide) (by omega)
theorem rowL_31 (A : Ed.Pt) : ∃ v : Int, (rowL A).getD 31 0 = v ∧ 0 ≤ v ∧ v < 128 := by
  refine ⟨_, rfl, ?_⟩
  unfold rowL
  rw [Bt.row_get _ _ _ _ _ (by omega)]
  have := Bt.place_small 8 A.y.toNat 255
  simp only [Nat.reduceDiv, Nat.reduceMod, Nat.reducePow] at this
  omega
set_option maxRecDepth 100000 in
set_option maxHeartbeats 2000000 in
theorem pbytes_any (w : World) (hd : Dbl w) (P : Pv) (A : Ed.Pt) (hP : Rp P A) :
    Calls Tryd.prog 42 #[.agg (pc P)] w fun e w' => ∃ g, e = .returned (.slice (some ⟨g, 0, none⟩) 32 32) ∧ Blk w' g .u8 5 (encL A) ∧ w.heap.size ≤ g ∧ Below w.heap.size w w' := by
  have S0 := Lib.hid (Sq.one hd P)
  have HR := Lib.hid hP
  have HP := Lib.hid hP.ok
  clear hd hP
  go_enter Tryd.func42, Tryd.ntmps42
  go_upto_region 1 with fail
  change Code.wp _ _ _ _ (w.alloc (.cells (pc P) 51))
  generalize w.alloc (.cells (pc P) 51) = w0 at *
  refine Grow.region_line 4 (fun i => List.getD (Grow.Spec.is (.pointer (some ⟨w.heap.size, 5 * 2, none⟩)) :: Grow.Spec.is (.agg (ec P.Z)) :: Grow.elem (Fe.val P.Z ^ (Nm.PN - 2)) :: Grow.newRow w0 :: []) i (Grow.Spec.is undef)) (by kernel_rfl) ⟨
    Grow.h2_faddr (Or.inl rfl) 1 w.heap.size 2 (by decide) rfl (by kernel_rfl) rfl rfl,
    Grow.h2_part (Or.inl rfl) 0 5 w.heap.size 2 P (by decide) rfl (by kernel_rfl) rfl (S0.out.pts (w.heap.size, P) (by simp)) rfl,
    Grow.h2_call1 (Or.inl rfl) 54 Grow.enter54 _ _ rfl (fun a wx hk => by have e1 : a.eval (.tmp 6) = .agg (ec P.Z) := (hk.deps 1 6 (by kernel_rfl)); rw [e1]; refine (inv_any wx P.Z _ (Fe.Re.self HP.out.z)).mono ?_; rintro e w5 ⟨y, rfl, hy, hb⟩; exact ⟨_, rfl, ⟨y, rfl, hy⟩, hb⟩),
    Grow.h2_alloc (Or.inl rfl) rfl rfl,
    trivial⟩ ?_
  intro a w4 hb hts hk hdf hfr
  obtain ⟨v, ev, hv⟩ : ∃ y, a.eval (.tmp 7) = .agg (ec y) ∧ Fe.Re y (Fe.val P.Z ^ (Nm.PN - 2)) := hk 2 7 (by decide) rfl
  obtain ⟨g3, eg, hz, hgs⟩ : ∃ g, a.eval (.tmp 3) = .pointer (some ⟨g, 0, none⟩) ∧ w4.heap[g]? = some (.cells (ec Fe.z) 49 (0, 0)) ∧ w0.heap.size ≤ g := hk 3 3 (by decide) rfl
  refine ⟨rfl, wp_store_row 49 (.tmp 3) (.tmp 7) rfl g3 (ec v) eg ev 49 (ec Fe.z) hz i30 rfl (ec_one _) ?_⟩
  have S1 := Lib.hid (S0.out.put hb hgs hz v)
  have Ov := Lib.hid hv.ok
  have PY := Lib.hid (Rp.part HP.out.y HP.out.z HR.out.rep.z HR.out.rep.y HR.out.good.y hv)
  have PX := Lib.hid (Rp.part HP.out.x HP.out.z HR.out.rep.z HR.out.rep.x HR.out.good.x hv)
  have ha := Grow.act_after hts hdf hfr
  rw [show Grow.dsts _ 4 = [5, 6, 7, 3] from by kernel_rfl] at ha
  simp only [Grow.putAll, eg] at ha
  generalize a.eval (.tmp 5) = u5 at ha
  generalize a.eval (.tmp 6) = u6 at ha
  generalize a.eval (.tmp 7) = u7 at ha
  clear hk hts hdf hfr ev eg hb hz hgs S0 hv
  simp [Act.put] at ha
  subst ha
  generalize w4.setRow g3 (ec v) = w1 at *
  unfold Grow.wpSeq
  go_upto_region 2 with fail
  refine Grow.region_line 5 (fun i => List.getD (Grow.Spec.is (.pointer (some ⟨w.heap.size, 5 * 1, none⟩)) :: Grow.Spec.is (.agg (ec P.Y)) :: Grow.Spec.is (.agg (ec v)) :: Grow.Spec.is (.agg (ec (Fe.mul P.Y v))) :: Grow.newBytes w1 (rowL A) :: []) i (Grow.Spec.is undef)) (by kernel_rfl) ⟨
    Grow.h2_faddr (Or.inl rfl) 1 w.heap.size 1 (by decide) rfl (by kernel_rfl) rfl rfl,
    Grow.h2_part (Or.inl rfl) 0 8 w.heap.size 1 P (by decide) rfl (by kernel_rfl) rfl (S1.out.pts (w.heap.size, P) (by simp)) rfl,
    Grow.h2_row (Or.inl rfl) 3 g3 49 (ec v) _ rfl Tryd.underlying49 i30 rfl (by kernel_rfl) rfl (S1.out.rows (g3, v) (by simp)) rfl,
    Grow.h2_call2 (Or.inl rfl) 50 Grow.enter50 _ _ _ rfl (fun a wx hk => by have e1 : a.eval (.tmp 9) = .agg (ec P.Y) := (hk.deps 1 9 (by kernel_rfl)); have e2 : a.eval (.tmp 10) = .agg (ec v) := (hk.deps 2 10 (by kernel_rfl)); rw [e1, e2]; refine (mul_any wx P.Y v HP.out.y Ov.out).mono ?_; rintro e w5 ⟨rfl, hb⟩; exact ⟨_, rfl, rfl, hb⟩),
    Grow.h2_call1 (Or.inl rfl) 69 Grow.enter69 _ _ rfl (fun a wx hk => by have e1 : a.eval (.tmp 11) = .agg (ec (Fe.mul P.Y v)) := (hk.deps 3 11 (by kernel_rfl)); rw [e1]; refine (bytesn_any wx _ PY.out.1 _ PY.out.2).mono ?_; rintro e w5 ⟨g, rfl, hbl, hgg, hb⟩; exact ⟨_, rfl, ⟨g, rfl, hbl, Nat.le_trans hk.below.size (Nat.le_of_lt hgg)⟩, hb⟩),
    trivial⟩ ?_
  intro a w4 hb hts hk hdf hfr
  obtain ⟨gb, e12, hbl, hgb⟩ : ∃ g, a.eval (.tmp 12) = .slice (some ⟨g, 0, none⟩) 32 32 ∧ Blk w4 g .u8 5 (rowL A) ∧ w1.heap.size ≤ g := hk 4 12 (by decide) rfl
  refine ⟨rfl, Grow.wp_assign 4 (.tmp 12) rfl rfl ?_⟩
  rw [e12]
  have S2 := Lib.hid (S1.out.below hb)
  have BL := Lib.hid hbl
  have HGB : Hid (w.heap.size ≤ gb) := Nat.le_trans S1.out.bb.size hgb
  have ha := Grow.act_after hts hdf hfr
  rw [show Grow.dsts _ 5 = [8, 9, 10, 11, 12] from by kernel_rfl] at ha
  simp only [Grow.putAll, e12] at ha
  generalize a.eval (.tmp 8) = u8 at ha
  generalize a.eval (.tmp 9) = u9 at ha
  generalize a.eval (.tmp 10) = u10 at ha
  generalize a.eval (.tmp 11) = u11 at ha
  clear hk hts hdf hfr e12 hb hbl hgb S1
  simp [Act.put] at ha
  subst ha
  unfold Grow.wpSeq
  go_upto_region 3 with fail
  refine Grow.region_line 4 (fun i => List.getD (Grow.Spec.is (.pointer (some ⟨w.heap.size, 5 * 0, none⟩)) :: Grow.Spec.is (.agg (ec P.X)) :: Grow.Spec.is (.agg (ec v)) :: Grow.Spec.is (.agg (ec (Fe.mul P.X v))) :: []) i (Grow.Spec.is undef)) (by kernel_rfl) ⟨
    Grow.h2_faddr (Or.inl rfl) 1 w.heap.size 0 (by decide) rfl (by kernel_rfl) rfl rfl,
    Grow.h2_part (Or.inl rfl) 0 13 w.heap.size 0 P (by decide) rfl (by kernel_rfl) rfl (S2.out.pts (w.heap.size, P) (by simp)) rfl,
    Grow.h2_row (Or.inl rfl) 3 g3 49 (ec v) _ rfl Tryd.underlying49 i30 rfl (by kernel_rfl) rfl (S2.out.rows (g3, v) (by simp)) rfl,
    Grow.h2_call2 (Or.inl rfl) 50 Grow.enter50 _ _ _ rfl (fun a wx hk => by have e1 : a.eval (.tmp 14) = .agg (ec P.X) := (hk.deps 1 14 (by kernel_rfl)); have e2 : a.eval (.tmp 15) = .agg (ec v) := (hk.deps 2 15 (by kernel_rfl)); rw [e1, e2]; refine (mul_any wx P.X v HP.out.x Ov.out).mono ?_; rintro e w5 ⟨rfl, hb⟩; exact ⟨_, rfl, rfl, hb⟩),
    trivial⟩ ?_
  intro a w5 hb hts hk hdf hfr
  have e16 : a.eval (.tmp 16) = .agg (ec (Fe.mul P.X v)) := hk 3 16 (by decide) rfl
  refine ⟨rfl, Grow.wp_enter (f := 70) (args := #[a.eval (.tmp 16)]) ?_ ?_⟩
  · have := Grow.enter70
    unfold execOp
    go_simp
  rw [e16]
  refine (odd_any w5 _ PX.out.1).mono ?_
  rintro e w6 ⟨rfl, hb6⟩
  refine ⟨_, rfl, ?_⟩
  have HOD : Hid (decide ((Fe.least (Fe.mul P.X v)).a % 2 = 1) = decide (A.x % 2 = 1)) := by
    show _ = _
    rw [fe_odd PX.out.1 PX.out.2, Int.toNat_of_nonneg HR.out.good.x.1]
  rw [HOD.out]
  have S3 := Lib.hid ((S2.out.below hb).below hb6)
  have BL6 : Hid (Blk w6 gb .u8 5 (rowL A)) := by
    have h1 := BL.out.other (hb.block gb BL.out.lt)
    exact h1.other (hb6.block gb h1.lt)
  have ha := Grow.act_after hts hdf hfr
  rw [show Grow.dsts _ 4 = [13, 14, 15, 16] from by kernel_rfl] at ha
  simp only [Grow.putAll, e16] at ha
  generalize a.eval (.tmp 13) = u13 at ha
  generalize a.eval (.tmp 14) = u14 at ha
  generalize a.eval (.tmp 15) = u15 at ha
  clear hk hts hdf hfr e16 hb hb6 BL S2 HOD
  simp [Act.put] at ha
  subst ha
  unfold Grow.wpSeq
  by_cases hx : A.x % 2 = 1
  · have HEN : Hid (encL A = (rowL A).set 31 ((rowL A).getD 31 0 + 128)) := if_pos hx
    rw [show decide (A.x % 2 = 1) = true from decide_eq_true hx]
    obtain ⟨z, hz, z0, z1⟩ := rowL_31 A
    have c1 := BL6.out.cell 31 (by unfold rowL; rw [Bt.row_length]; decide)
    have f1 := BL6.out.free 31
    have hset := BL6.out.set 31 (z + 128)
    rw [hz] at c1 HEN
    have hor := or128 z z0 z1
    have HSET := Lib.hid hset
    clear hset hz z0 z1 hx
    go_wp2
    go_ret
    exact ⟨gb, rfl, by rw [HEN.out]; exact HSET.out, HGB.out, S3.out.bb.setCell (by have := HGB.out; simpa using this) _⟩
  · have HEN : Hid (encL A = rowL A) := if_neg hx
    rw [show decide (A.x % 2 = 1) = false from decide_eq_false hx]
    clear hx
    go_wp2
    go_ret
    exact ⟨gb, rfl, by rw [HEN.out]; exact BL6.out, HGB.out, S3.out.bb⟩
end Go.Proofs.YtiinmdleechcgaaDoor
namespace Go.Proofs.YtiinmdleechcgaaDoor
open Go.RowKit
/-- A power that is no longer opened. -/
def sqOf (n : Int) : Int := (Ed.lower * (n * n - 1)) * (Ed.lower - Ed.upper * (n * n)) ^ (Nm.PN - 2)
def hasRoot (m : Int) : Bool := decide (m % Fe.P = 0 ∨ m ^ ((Nm.PN - 1) / 2) % Fe.P = 1)
theorem sq_eq (n : Int) : Ed.Cg (sqOf n * (Ed.lower - Ed.upper*(n*n))) (Ed.lower*(n*n - 1)) := by
  have hnz := Ed.under_nz2 n
  unfold sqOf
  generalize Ed.lower - Ed.upper*(n*n) = u at *
  have hv0 : 0 ≤ u % Ed.q := (Ed.red_lt u).1
  have hv1 : u % Ed.q % (Nm.PN : Int) ≠ 0 := by
    intro h
    refine hnz ((Ed.Cg.red u).symm.trans (Ed.Cg.of_mod ?_))
    show _ % (Nm.PN : Int) = 0 % (Nm.PN : Int)
    rw [h]; decide
  have h1 : Ed.Cg (u % Ed.q * (u % Ed.q) ^ (Nm.PN - 2)) 1 := Ed.Cg.of_mod (by show _ % (Nm.PN : Int) = _; rw [Nm.inv_one hv0 hv1]; decide)
  have h2 : Ed.Cg (u ^ (Nm.PN - 2)) ((u % Ed.q) ^ (Nm.PN - 2)) := Ed.Cg.of_mod (Nm.pow_mod_congr (Ed.Cg.red u).symm.mod _)
  generalize u ^ (Nm.PN - 2) = s at *
  generalize (u % Ed.q) ^ (Nm.PN - 2) = t at *
  have h3 : Ed.Cg (s * u) 1 := (h2.mul (Ed.Cg.red u).symm).trans ((Ed.Cg.of_eq (Int.mul_comm _ _)).trans h1)
  exact (Ed.Cg.of_eq (Int.mul_assoc _ _ _)).trans (((Ed.Cg.refl _).mul h3).trans (Ed.Cg.of_eq (Int.mul_one _)))
theorem sq_point {A : Ed.Pt} (hA : A.Good) : Ed.Cg (sqOf A.y) (A.x * A.x) := Ed.square_of hA (sq_eq A.y)
theorem hasRoot_cg {a b : Int} (h : Ed.Cg a b) : hasRoot a = hasRoot b := by
  unfold hasRoot
  have h1 := h.mod
  have h2 := Nm.pow_mod_congr h1 ((Nm.PN - 1) / 2)
  rw [q_P] at h1 h2
  rw [h1, h2]
theorem root_point {A : Ed.Pt} (hA : A.Good) : hasRoot (sqOf A.y) = true := by
  rw [hasRoot_cg (sq_point hA)]
  have h := Nm.roots_square hA.x.1
  rw [show (Nm.PN : Int) = Fe.P from Fe.P_PN.symm] at h
  exact decide_eq_true h
theorem fe_odd2 {x : Fe.E} {n : Int} (h : Fe.Re x n) : decide ((Fe.least x).a % 2 = 1) = decide (n % Ed.q % 2 = 1) := by
  have h0 : 0 ≤ n % Ed.q := (Ed.red_lt n).1
  have h1 : Fe.val x % Fe.P = ((n % Ed.q).toNat : Int) := by rw [Int.toNat_of_nonneg h0, h.eq, q_P]
  rw [fe_odd h.ok h1, Int.toNat_of_nonneg h0]
/-- The root that At takes: it is as odd as asked. -/
theorem root_takes {A : Ed.Pt} (hA : A.Good) {r : Fe.E} (hr : IsRoot (sqOf A.y) r true) :
    (decide ((Fe.least r).a % 2 = 1) = decide (A.x % 2 = 1) → Fe.Re r A.x) ∧
    (decide ((Fe.least r).a % 2 = 1) ≠ decide (A.x % 2 = 1) → Fe.Re (Fe.neg r) A.x ∧ decide ((Fe.least (Fe.neg r)).a % 2 = 1) = decide (A.x % 2 = 1)) := by
  obtain ⟨hok, hsq, -⟩ := hr
  have hs : Ed.Cg (Fe.val (Fe.mul r r)) (sqOf A.y) := Ed.Cg.of_mod (by rw [q_P]; exact hsq rfl)
  have hself := Fe.Re.self hok
  have hrr : Ed.Cg (Fe.val r * Fe.val r) (A.x * A.x) := (hself.mul hself).cg.symm.trans (hs.trans (sq_point hA))
  have hred : Ed.Cg (Fe.val r % Ed.q * (Fe.val r % Ed.q)) (A.x * A.x) := ((Ed.Cg.red _).mul (Ed.Cg.red _)).trans hrr
  obtain ⟨t1, t2⟩ := Ed.root_as hA.x (Ed.red_lt _) hred
  rw [fe_odd2 hself]
  have hpar : ∀ a b : Int, 0 ≤ a → 0 ≤ b → (decide (a % 2 = 1) = decide (b % 2 = 1) ↔ a % 2 = b % 2) := by
    intro a b ha hb
    rw [decide_eq_decide]
    omega
  rw [hpar _ _ (Ed.red_lt _).1 hA.x.1, Ne, hpar _ _ (Ed.red_lt _).1 hA.x.1]
  refine ⟨fun h => ?_, fun h => ?_⟩
  · exact hself.of_cg ((Ed.Cg.red _).symm.trans (Ed.Cg.of_eq (t1 h)))
  · have h2 := t2 h
    have h3 : Fe.Re (Fe.neg r) A.x := hself.neg.of_cg (((Ed.Cg.red (Fe.val r)).symm.neg).trans ((Ed.Cg.red _).symm.trans (Ed.Cg.of_eq h2)))
    refine ⟨h3, ?_⟩
    rw [fe_odd2 h3, Int.emod_eq_of_lt hA.x.1 hA.x.2]
end Go.Proofs.YtiinmdleechcgaaDoor
namespace Go.Proofs.YtiinmdleechcgaaDoor
open Go.RowKit
theorem Sq.start1 {w : World} (hd : Dbl w) (x : Fe.E) : Sq w [(w.heap.size + 1, pz)] [(w.heap.size, x)] ((w.alloc (.cells (ec x) 49)).alloc (.cells (pc pz) 51)) := by
  have h3 : Below w.heap.size w ((w.alloc (.cells (ec x) 49)).alloc (.cells (pc pz) 51)) := ((Below.refl _ _).alloc (Nat.le_refl _) _).alloc (by simp) _
  refine ⟨fun r hr => ?_, fun r hr => ?_, hd.below h3 hd.1, h3⟩
  · simp only [List.mem_cons, List.not_mem_nil, or_false] at hr
    subst hr
    exact heap_alloc2_new w _ _
  · simp only [List.mem_cons, List.not_mem_nil, or_false] at hr
    subst hr
    exact heap_alloc2_old w _ _
namespace Grow
theorem enter73 (args : Array Value) (w : World) : (callFunc 73 args).run Tryd.prog w = .ok (.enter 73 args) w := by
  have := Tryd.func73
  go_simp
def rootT (m : Int) : Spec := .held (fun u _ => ∃ r, u = .tuple #[.agg (ec r), .bool (hasRoot m)] ∧ IsRoot m r (hasRoot m)) (fun _ _ _ h _ => h)
def rootE (m : Int) : Spec := .held (fun u _ => ∃ r, u = .agg (ec r) ∧ IsRoot m r (hasRoot m)) (fun _ _ _ h _ => h)
section
variable {m : Nat} {ops : Array Oper} {Q : Exit → Act → World → Prop} {specs : Nat → Spec} {a0 : Act} {w0 : World} {i : Nat} {o : Oper}
theorem h2_extract0 (hr : Runs2 ops specs a0 o) (j d : Nat) (n : Int) (ho : o.op = .extract (.tmp d) 0) (hj : deps .any ops o j d = true) (hsj : specs j = rootT n) (hs : specs i = rootE n) : Hop2 Tryd.prog m ops specs Q a0 w0 i o :=
  h2_val hr fun a w hk => by
    have h := hk.deps j d hj
    rw [hsj] at h
    obtain ⟨r, e, hir⟩ := h
    refine ⟨.agg (ec r), w, ?_, by rw [hs]; exact ⟨r, rfl, hir⟩, Below.refl _ _⟩
    unfold execOp
    rw [ho]
    simp only [e]
    go_simp
theorem h2_extract1 (hr : Runs2 ops specs a0 o) (j d : Nat) (n : Int) (ho : o.op = .extract (.tmp d) 1) (hj : deps .any ops o j d = true) (hsj : specs j = rootT n) (hs : specs i = .is (.bool (hasRoot n))) : Hop2 Tryd.prog m ops specs Q a0 w0 i o :=
  h2_val hr fun a w hk => by
    have h := hk.deps j d hj
    rw [hsj] at h
    obtain ⟨r, e, hir⟩ := h
    refine ⟨.bool (hasRoot n), w, ?_, by rw [hs]; rfl, Below.refl _ _⟩
    unfold execOp
    rw [ho]
    simp only [e]
    go_simp
theorem h2_moveT (hr : Runs2 ops specs a0 o) (j d : Nat) (n : Int) (ho : o.op = .move (.tmp d)) (hj : deps .any ops o j d = true) (hsj : specs j = rootT n) (hs : specs i = rootT n) : Hop2 Tryd.prog m ops specs Q a0 w0 i o :=
  h2_move hr (.tmp d) (Or.inl ho) fun a w hk => by
    have h := hk.deps j d hj
    rw [hsj] at h
    rw [hs]
    exact h
end
end Grow
theorem results_pt_tmp {fn : Func} {p u : Tmp} (h : fn.results = #[.cell p 51, .tmp u]) (tmps : Array Value) (w : World) (g : Nat) (P : Pv) (hp : tmps.getD p undef = .pointer (some ⟨g, 0, none⟩)) (hg : w.heap[g]? = some (.cells (pc P) 51 (0, 0))) :
    (results fn tmps).run Tryd.prog w = .ok (.tuple #[.agg (pc P), tmps.getD u undef]) w := by
  rw [results_cell_tmp h, hp]
  have := run_loadVar_row (P := Tryd.prog) w g 51 51 (pc P) (0, 0) _ hg Tryd.underlying51 rfl i51
  simp [asAddr, this]
theorem Sq.sub {w0 w : World} {pts pts' : List (Nat × Pv)} {rows rows' : List (Nat × Fe.E)} (h : Sq w0 pts rows w) (hp : ∀ r ∈ pts', r ∈ pts) (hr : ∀ r ∈ rows', r ∈ rows) : Sq w0 pts' rows' w :=
  ⟨fun r hm => h.pts r (hp r hm), fun r hm => h.rows r (hr r hm), h.dbl, h.bb⟩
theorem Sq.change {w0 w : World} {pts : List (Nat × Pv)} {rows : List (Nat × Fe.E)} {g : Nat} {x : Fe.E} (h : Sq w0 pts ((g, x) :: rows) w) (hd : Dbl w0) (hg : w0.heap.size ≤ g) (hp : ∀ r ∈ pts, r.1 ≠ g) (hr : ∀ r ∈ rows, r.1 ≠ g) (x' : Fe.E) : Sq w0 pts ((g, x') :: rows) (w.setRow g (ec x')) := by
  have hB : Below w0.heap.size w0 (w.setRow g (ec x')) := below_setRow h.bb hg _
  refine ⟨fun r hm => ?_, fun r hm => ?_, hd.below hB hd.1, hB⟩
  · rw [setRow_other _ _ _ _ (hp r hm)]; exact h.pts r hm
  · rcases List.mem_cons.1 hm with rfl | hm
    · exact setRow_heap w g _ (ec x') 49 _ (h.rows (g, x) (by simp))
    · rw [setRow_other _ _ _ _ (hr r hm)]; exact h.rows r (by simp [hm])
set_option maxRecDepth 100000 in
set_option maxHeartbeats 2000000 in
theorem at_any (w : World) (hd : Dbl w) (y : Fe.E) (n : Int) (hy : Fe.Re y n) (odd : Bool) :
    Calls Tryd.prog 46 #[.agg (ec y), .bool odd] w fun e w' => ∃ P ok, e = .returned (.tuple #[.agg (pc P), .bool ok]) ∧ (hasRoot (sqOf n) = false → ok = false ∧ P = pz) ∧ (∀ A : Ed.Pt, A.Good → A.y = n → decide (A.x % 2 = 1) = odd → ok = true ∧ Rp P A) ∧ Below w.heap.size w w' := by
  have HD := Lib.hid hd
  have HRY := Lib.hid hy
  have S0 := Lib.hid (Sq.start1 hd y)
  have HY := Lib.hid hy
  have L6 : Fe.Re (Fe.num 121666) Ed.lower := Fe.Re.num (by decide) (by decide)
  have L5 : Fe.Re (Fe.num 121665) Ed.upper := Fe.Re.num (by decide) (by decide)
  have L1 : Fe.Re (Fe.num 1) 1 := Fe.Re.num (by decide) (by decide)
  obtain ⟨sq, hsq⟩ : ∃ z, z = Fe.mul y y := ⟨_, rfl⟩
  have Rsq : Hid (Fe.Re sq (n * n)) := by rw [hsq]; exact hy.mul hy
  have Osq : Hid (Fe.Ok sq) := Rsq.out.ok
  have Hsq : Hid (sq = Fe.mul y y) := hsq
  clear hsq
  obtain ⟨ov, hov⟩ : ∃ z, z = Fe.mul (Fe.num 121666) (Fe.sub sq (Fe.num 1)) := ⟨_, rfl⟩
  have Rov : Hid (Fe.Re ov (Ed.lower * (n * n - 1))) := by rw [hov]; exact L6.mul (Rsq.out.sub L1)
  have Oov : Hid (Fe.Ok ov) := Rov.out.ok
  have Hov : Hid (ov = Fe.mul (Fe.num 121666) (Fe.sub sq (Fe.num 1))) := hov
  clear hov
  obtain ⟨un, hun⟩ : ∃ z, z = Fe.sub (Fe.num 121666) (Fe.mul (Fe.num 121665) sq) := ⟨_, rfl⟩
  have Run : Hid (Fe.Re un (Ed.lower - Ed.upper * (n * n))) := by rw [hun]; exact L6.sub (L5.mul Rsq.out)
  have Oun : Hid (Fe.Ok un) := Run.out.ok
  have Hun : Hid (un = Fe.sub (Fe.num 121666) (Fe.mul (Fe.num 121665) sq)) := hun
  clear hun
  clear hd hy L6 L5 L1
  go_enter Tryd.func46, Tryd.ntmps46
  go_upto_region 1 with fail
  change Code.wp _ _ _ _ ((w.alloc (.cells (ec y) 49)).alloc (.cells (pc pz) 51))
  generalize (w.alloc (.cells (ec y) 49)).alloc (.cells (pc pz) 51) = w0 at *
  refine Grow.region_line 3 (fun i => List.getD (Grow.Spec.is (.agg (ec y)) :: Grow.Spec.is (.agg (ec sq)) :: Grow.newRow w0 :: []) i (Grow.Spec.is undef)) (by kernel_rfl) ⟨
    Grow.h2_row (Or.inl rfl) 2 w.heap.size 49 (ec y) _ rfl Tryd.underlying49 i30 rfl (by kernel_rfl) rfl (S0.out.rows (w.heap.size, y) (by simp)) rfl,
    Grow.h2_call1 (Or.inl rfl) 72 Grow.enter72 _ _ rfl (fun a wx hk => by have e1 : a.eval (.tmp 11) = .agg (ec y) := (hk.deps 0 11 (by kernel_rfl)); rw [e1]; refine (square_any wx y HY.out.ok).mono ?_; rintro e w5 ⟨rfl, hb⟩; exact ⟨_, rfl, congrArg (fun z => Value.agg (ec z)) Hsq.out.symm, hb⟩),
    Grow.h2_alloc (Or.inl rfl) rfl rfl,
    trivial⟩ ?_
  intro a w4 hb hts hk hdf hfr
  have ev : a.eval (.tmp 12) = .agg (ec sq) := hk 1 12 (by decide) rfl
  obtain ⟨g6, eg, hz, hgs⟩ : ∃ g, a.eval (.tmp 6) = .pointer (some ⟨g, 0, none⟩) ∧ w4.heap[g]? = some (.cells (ec Fe.z) 49 (0, 0)) ∧ w0.heap.size ≤ g := hk 2 6 (by decide) rfl
  refine ⟨rfl, wp_store_row 49 (.tmp 6) (.tmp 12) rfl g6 (ec sq) eg ev 49 (ec Fe.z) hz i30 rfl (ec_one _) ?_⟩
  have S1 := Lib.hid (S0.out.put hb hgs hz sq)
  have ha := Grow.act_after hts hdf hfr
  rw [show Grow.dsts _ 3 = [11, 12, 6] from by kernel_rfl] at ha
  simp only [Grow.putAll, eg] at ha
  generalize a.eval (.tmp 11) = u11 at ha
  generalize a.eval (.tmp 12) = u12 at ha
  clear hk hts hdf hfr ev eg hb hz hgs S0
  simp [Act.put] at ha
  subst ha
  generalize w4.setRow g6 (ec sq) = w1 at *
  unfold Grow.wpSeq
  go_upto_region 2 with fail
  refine Grow.region_rest (by kernel_rfl) 5 (fun i => List.getD (Grow.Spec.is (.agg (ec sq)) :: Grow.Spec.is (.agg (ec (Fe.num 1))) :: Grow.Spec.is (.agg (ec (Fe.sub sq (Fe.num 1)))) :: Grow.Spec.is (.agg (ec ov)) :: Grow.newRow w1 :: []) i (Grow.Spec.is undef)) (by kernel_rfl) ⟨
    Grow.h2_row (Or.inl rfl) 6 g6 49 (ec sq) _ rfl Tryd.underlying49 i30 rfl (by kernel_rfl) rfl (S1.out.rows (g6, sq) (by simp)) rfl,
    Grow.h2_call1 (Or.inl rfl) 53 Grow.enter53 _ _ rfl (fun a wx hk => by refine (num_any wx 1 (by decide) (by decide)).mono ?_; rintro e w5 ⟨rfl, hb⟩; exact ⟨_, rfl, rfl, hb⟩),
    Grow.h2_call2 (Or.inl rfl) 57 Grow.enter57 _ _ _ rfl (fun a wx hk => by have e1 : a.eval (.tmp 13) = .agg (ec sq) := (hk.deps 0 13 (by kernel_rfl)); have e2 : a.eval (.tmp 14) = .agg (ec (Fe.num 1)) := (hk.deps 1 14 (by kernel_rfl)); rw [e1, e2]; refine (sub_any wx sq (Fe.num 1) Osq.out (Fe.num_ok 1 (by decide) (by decide)) (S1.out.dbl.below hk.below S1.out.dbl.1)).mono ?_; rintro e w5 ⟨rfl, hb⟩; exact ⟨_, rfl, rfl, hb⟩),
    Grow.h2_call2 (Or.inl rfl) 55 Grow.enter55 _ _ _ rfl (fun a wx hk => by have e2 : a.eval (.tmp 15) = .agg (ec (Fe.sub sq (Fe.num 1))) := (hk.deps 2 15 (by kernel_rfl)); rw [e2]; refine (ctimes_any wx (S1.out.dbl.below hk.below S1.out.dbl.1) 121666 (by decide) (by decide) (Fe.sub sq (Fe.num 1)) (Fe.sub_ok Osq.out (Fe.num_ok 1 (by decide) (by decide)))).mono ?_; rintro e w5 ⟨rfl, hb⟩; exact ⟨_, rfl, congrArg (fun z => Value.agg (ec z)) Hov.out.symm, hb⟩),
    Grow.h2_alloc (Or.inl rfl) rfl rfl,
    trivial⟩ ?_
  intro a w4 hb hts hk hdf hfr
  have ev : a.eval (.tmp 16) = .agg (ec ov) := hk 3 16 (by decide) rfl
  obtain ⟨g7, eg, hz, hgs⟩ : ∃ g, a.eval (.tmp 7) = .pointer (some ⟨g, 0, none⟩) ∧ w4.heap[g]? = some (.cells (ec Fe.z) 49 (0, 0)) ∧ w1.heap.size ≤ g := hk 4 7 (by decide) rfl
  refine ⟨rfl, wp_store_row 49 (.tmp 7) (.tmp 16) rfl g7 (ec ov) eg ev 49 (ec Fe.z) hz i30 rfl (ec_one _) ?_⟩
  have S2 := Lib.hid (S1.out.put hb hgs hz ov)
  have ha := Grow.act_after hts hdf hfr
  rw [show Grow.dsts _ 5 = [13, 14, 15, 16, 7] from by kernel_rfl] at ha
  simp only [Grow.putAll, eg] at ha
  generalize a.eval (.tmp 13) = u13 at ha
  generalize a.eval (.tmp 14) = u14 at ha
  generalize a.eval (.tmp 15) = u15 at ha
  generalize a.eval (.tmp 16) = u16 at ha
  clear hk hts hdf hfr ev eg hb hz hgs S1
  simp [Act.put] at ha
  subst ha
  generalize w4.setRow g7 (ec ov) = w2 at *
  unfold Grow.wpSeq
  go_upto_region 3 with fail
  refine Grow.region_rest (by kernel_rfl) 5 (fun i => List.getD (Grow.Spec.is (.agg (ec (Fe.num 121666))) :: Grow.Spec.is (.agg (ec sq)) :: Grow.Spec.is (.agg (ec (Fe.mul (Fe.num 121665) sq))) :: Grow.Spec.is (.agg (ec un)) :: Grow.newRow w2 :: []) i (Grow.Spec.is undef)) (by kernel_rfl) ⟨
    Grow.h2_call1 (Or.inl rfl) 53 Grow.enter53 _ _ rfl (fun a wx hk => by refine (num_any wx 121666 (by decide) (by decide)).mono ?_; rintro e w5 ⟨rfl, hb⟩; exact ⟨_, rfl, rfl, hb⟩),
    Grow.h2_row (Or.inl rfl) 6 g6 49 (ec sq) _ rfl Tryd.underlying49 i30 rfl (by kernel_rfl) rfl (S2.out.rows (g6, sq) (by simp)) rfl,
    Grow.h2_call2 (Or.inl rfl) 55 Grow.enter55 _ _ _ rfl (fun a wx hk => by have e2 : a.eval (.tmp 18) = .agg (ec sq) := (hk.deps 1 18 (by kernel_rfl)); rw [e2]; refine (ctimes_any wx (S2.out.dbl.below hk.below S2.out.dbl.1) 121665 (by decide) (by decide) sq Osq.out).mono ?_; rintro e w5 ⟨rfl, hb⟩; exact ⟨_, rfl, rfl, hb⟩),
    Grow.h2_call2 (Or.inl rfl) 57 Grow.enter57 _ _ _ rfl (fun a wx hk => by have e1 : a.eval (.tmp 17) = .agg (ec (Fe.num 121666)) := (hk.deps 0 17 (by kernel_rfl)); have e2 : a.eval (.tmp 19) = .agg (ec (Fe.mul (Fe.num 121665) sq)) := (hk.deps 2 19 (by kernel_rfl)); rw [e1, e2]; refine (sub_any wx (Fe.num 121666) (Fe.mul (Fe.num 121665) sq) (Fe.num_ok 121666 (by decide) (by decide)) (Fe.mul_ok (Fe.num_ok 121665 (by decide) (by decide)) Osq.out) (S2.out.dbl.below hk.below S2.out.dbl.1)).mono ?_; rintro e w5 ⟨rfl, hb⟩; exact ⟨_, rfl, congrArg (fun z => Value.agg (ec z)) Hun.out.symm, hb⟩),
    Grow.h2_alloc (Or.inl rfl) rfl rfl,
    trivial⟩ ?_
  intro a w4 hb hts hk hdf hfr
  have ev : a.eval (.tmp 20) = .agg (ec un) := hk 3 20 (by decide) rfl
  obtain ⟨g8, eg, hz, hgs⟩ : ∃ g, a.eval (.tmp 8) = .pointer (some ⟨g, 0, none⟩) ∧ w4.heap[g]? = some (.cells (ec Fe.z) 49 (0, 0)) ∧ w2.heap.size ≤ g := hk 4 8 (by decide) rfl
  refine ⟨rfl, wp_store_row 49 (.tmp 8) (.tmp 20) rfl g8 (ec un) eg ev 49 (ec Fe.z) hz i30 rfl (ec_one _) ?_⟩
  have S3 := Lib.hid (S2.out.put hb hgs hz un)
  have ha := Grow.act_after hts hdf hfr
  rw [show Grow.dsts _ 5 = [17, 18, 19, 20, 8] from by kernel_rfl] at ha
  simp only [Grow.putAll, eg] at ha
  generalize a.eval (.tmp 17) = u17 at ha
  generalize a.eval (.tmp 18) = u18 at ha
  generalize a.eval (.tmp 19) = u19 at ha
  generalize a.eval (.tmp 20) = u20 at ha
  clear hk hts hdf hfr ev eg hb hz hgs S2
  simp [Act.put] at ha
  subst ha
  generalize w4.setRow g8 (ec un) = w3 at *
  unfold Grow.wpSeq
  go_upto_region 4 with fail
  refine Grow.region_late (by kernel_rfl) 9 7 (s := 21) (d := 28) (fun i => List.getD (Grow.Spec.is (.agg (ec ov)) :: Grow.Spec.is (.agg (ec un)) :: Grow.elem ((Ed.lower - Ed.upper * (n * n)) ^ (Nm.PN - 2)) :: Grow.elem (sqOf n) :: Grow.rootT (sqOf n) :: Grow.rootT (sqOf n) :: Grow.rootE (sqOf n) :: Grow.Spec.is (.bool (hasRoot (sqOf n))) :: Grow.newRow w3 :: []) i (Grow.Spec.is undef)) (by kernel_rfl) rfl rfl rfl (Grow.floats_extract (j := 5) 1 rfl (by kernel_rfl) (fun u wx h => by obtain ⟨q, e, _⟩ := h; exact ⟨_, e, by simp⟩)) rfl rfl rfl (Grow.store_same 49 9 27 28 rfl (by decide) (by decide)) ⟨
    Grow.h2_row (Or.inl rfl) 7 g7 49 (ec ov) _ rfl Tryd.underlying49 i30 rfl (by kernel_rfl) rfl (S3.out.rows (g7, ov) (by simp)) rfl,
    Grow.h2_row (Or.inl rfl) 8 g8 49 (ec un) _ rfl Tryd.underlying49 i30 rfl (by kernel_rfl) rfl (S3.out.rows (g8, un) (by simp)) rfl,
    Grow.h2_call1 (Or.inl rfl) 54 Grow.enter54 _ _ rfl (fun a wx hk => by have e1 : a.eval (.tmp 23) = .agg (ec un) := (hk.deps 1 23 (by kernel_rfl)); rw [e1]; refine (inv_any wx un _ Run.out).mono ?_; rintro e w5 ⟨y, rfl, hy, hb⟩; exact ⟨_, rfl, ⟨y, rfl, hy⟩, hb⟩),
    Grow.h2_call2 (Or.inl rfl) 50 Grow.enter50 _ _ _ rfl (fun a wx hk => by have e1 : a.eval (.tmp 22) = .agg (ec ov) := (hk.deps 0 22 (by kernel_rfl)); obtain ⟨v, e2, hv⟩ : ∃ y, a.eval (.tmp 24) = .agg (ec y) ∧ Fe.Re y ((Ed.lower - Ed.upper * (n * n)) ^ (Nm.PN - 2)) := (hk.deps 2 24 (by kernel_rfl)); rw [e1, e2]; refine (mul_any wx ov v Oov.out hv.ok).mono ?_; rintro e w5 ⟨rfl, hb⟩; exact ⟨_, rfl, ⟨_, rfl, Rov.out.mul hv⟩, hb⟩),
    Grow.h2_call1 (Or.inl rfl) 73 Grow.enter73 _ _ rfl (fun a wx hk => by obtain ⟨v, e2, hv⟩ : ∃ y, a.eval (.tmp 25) = .agg (ec y) ∧ Fe.Re y (sqOf n) := (hk.deps 3 25 (by kernel_rfl)); rw [e2]; refine (root_any wx (S3.out.dbl.below hk.below S3.out.dbl.1) v (sqOf n) hv).mono ?_; rintro e w5 ⟨r, ok, rfl, hr, hb⟩; exact ⟨_, rfl, (by obtain rfl : ok = hasRoot (sqOf n) := hr.2.2; exact ⟨r, rfl, hr⟩), hb⟩),
    Grow.h2_moveT (Or.inl rfl) 4 26 _ rfl (by kernel_rfl) rfl rfl,
    Grow.h2_extract0 (Or.inl rfl) 5 21 _ rfl (by kernel_rfl) rfl rfl,
    Grow.h2_extract1 (Or.inl rfl) 5 21 _ rfl (by kernel_rfl) rfl rfl,
    Grow.h2_alloc (Or.inl rfl) rfl rfl,
    trivial⟩ ?_
  intro a w4 hb hts hk hdf hfr
  obtain ⟨r, e27, hir⟩ : ∃ r, a.eval (.tmp 27) = .agg (ec r) ∧ IsRoot (sqOf n) r (hasRoot (sqOf n)) := hk 6 27 (by decide) rfl
  have e28 : a.eval (.tmp 28) = .bool (hasRoot (sqOf n)) := hk 7 28 (by decide) rfl
  obtain ⟨g9, e9, hz9, hg9⟩ : ∃ g, a.eval (.tmp 9) = .pointer (some ⟨g, 0, none⟩) ∧ w4.heap[g]? = some (.cells (ec Fe.z) 49 (0, 0)) ∧ w3.heap.size ≤ g := hk 8 9 (by decide) rfl
  refine ⟨_, Grow.run_store_row 49 (.tmp 9) (.tmp 27) rfl g9 (ec r) e9 e27 49 (ec Fe.z) hz9 i30 rfl (ec_one _), ?_⟩
  refine ⟨rfl, Grow.wp_assign 10 (.tmp 28) rfl rfl ?_⟩
  have S4 := Lib.hid ((S3.out.put hb hg9 hz9 r).sub (pts' := [(w.heap.size + 1, pz)]) (rows' := [(g9, r), (w.heap.size, y)]) (by simp) (by simp))
  have HG9 : Hid (w.heap.size + 1 < g9) := Nat.lt_of_lt_of_le (lt_of_block (S3.out.pts (w.heap.size + 1, pz) (by simp))) hg9
  rw [e28]
  have ha := Grow.act_after hts hdf hfr
  rw [show Grow.dsts _ 9 = [22, 23, 24, 25, 26, 21, 27, 28, 9] from by kernel_rfl] at ha
  simp only [Grow.putAll, e9, e28] at ha
  generalize a.eval (.tmp 22) = u22 at ha
  generalize a.eval (.tmp 23) = u23 at ha
  generalize a.eval (.tmp 24) = u24 at ha
  generalize a.eval (.tmp 25) = u25 at ha
  generalize a.eval (.tmp 26) = u26 at ha
  generalize a.eval (.tmp 21) = u21 at ha
  generalize a.eval (.tmp 27) = u27 at ha
  clear hk hts hdf hfr e27 e9 e28 hb hz9 hg9 S3
  simp [Act.put] at ha
  subst ha
  generalize w4.setRow g9 (ec r) = w5 at *
  unfold Grow.wpSeq
  have HIR := Lib.hid hir
  have OR : Hid (Fe.Ok r) := hir.1
  have HO : Hid (∀ wx, Calls Tryd.prog 70 #[.agg (ec r)] wx fun e w' => e = .returned (.bool (decide ((Fe.least r).a % 2 = 1))) ∧ Below wx.heap.size wx w') := fun wx => odd_any wx r hir.1
  obtain ⟨nr, hnr⟩ : ∃ z, z = Fe.neg r := ⟨_, rfl⟩
  have ON : Hid (Fe.Ok nr) := by rw [hnr]; exact (Fe.Re.self hir.1).neg.ok
  have HN : Hid (∀ wx, Dbl wx → Calls Tryd.prog 74 #[.agg (ec r)] wx fun e w' => e = .returned (.agg (ec nr)) ∧ Below wx.heap.size wx w') := by rw [hnr]; exact fun wx hdx => neg_any wx r hir.1 hdx
  have HO2 : Hid (∀ wx, Calls Tryd.prog 70 #[.agg (ec nr)] wx fun e w' => e = .returned (.bool (decide ((Fe.least nr).a % 2 = 1))) ∧ Below wx.heap.size wx w') := fun wx => odd_any wx nr ON.out
  have HB1 : Hid (∀ A : Ed.Pt, A.Good → A.y = n → hasRoot (sqOf n) = true → (decide ((Fe.least r).a % 2 = 1) = decide (A.x % 2 = 1) → Fe.Re r A.x) ∧ (decide ((Fe.least r).a % 2 = 1) ≠ decide (A.x % 2 = 1) → Fe.Re nr A.x ∧ decide ((Fe.least nr).a % 2 = 1) = decide (A.x % 2 = 1))) := by
    rintro A hA rfl ht
    rw [hnr]
    have := HIR.out
    rw [ht] at this
    exact root_takes hA this
  have HRT : Hid (∀ A : Ed.Pt, A.Good → A.y = n → hasRoot (sqOf n) = true) := by rintro A hA rfl; exact root_point hA
  clear hir hnr HIR
  generalize hhr : hasRoot (sqOf n) = hr at *
  have HHR : Hid (hasRoot (sqOf n) = hr) := hhr
  clear hhr
  generalize decide ((Fe.least r).a % 2 = 1) = b1 at *
  generalize decide ((Fe.least nr).a % 2 = 1) = b2 at *
  cases hr
  · go_wp2_with (first
      | ((with_reducible refine wpList_store_row (o := ⟨none, _, _, _, _, _⟩) rfl 51 (.tmp 4) (.tmp 31) rfl (w.heap.size + 1) (pc pz) rfl ?_ 51 (pc pz) ?_ ?_ ?_ ?_ ?_); exact rfl; exact S4.out.pts (w.heap.size + 1, pz) (by simp); exact i51; exact rfl; exact pc_one _))
    exact bodyPost_ret (results_pt_tmp Tryd.results46 _ _ (w.heap.size + 1) pz rfl (setRow_heap w5 (w.heap.size + 1) _ (pc pz) 51 _ (S4.out.pts (w.heap.size + 1, pz) (by simp)))) rfl ⟨pz, false, rfl, fun _ => ⟨rfl, rfl⟩, fun A hA hy ho => absurd (HRT.out A hA hy) (by simp), below_setRow S4.out.bb (by omega) _⟩
  cases odd <;> cases b1
  · go_wp2_with (first
      | ((with_reducible refine wpList_store_row (o := ⟨none, _, _, _, _, _⟩) rfl 51 (.tmp 4) (.tmp 45) rfl (w.heap.size + 1) (pc (Pv.flat r y)) rfl ?_ 51 (pc pz) ?_ ?_ ?_ ?_ ?_); exact rfl; exact S7.out.pts (w.heap.size + 1, pz) (by simp); exact i51; exact rfl; exact pc_one _)
      | (go_at_call 75; refine (flat_any _ r y OR.out HY.out.ok).mono ?_; rintro e w8 ⟨rfl, hb⟩; have S7 := Lib.hid (S6.out.below hb); clear hb)
      | ((with_reducible refine load_rowG (o := ⟨some 44, _, _, _, _, _⟩) y 2 w.heap.size rfl rfl (S6.out.rows (w.heap.size, y) (by simp)) ?_ ?_); exact rfl)
      | ((with_reducible refine load_rowG (o := ⟨some 43, _, _, _, _, _⟩) r 9 g9 rfl rfl (S6.out.rows (g9, r) (by simp)) ?_ ?_); exact rfl)
      | (go_at_call 70; refine (HO.out _).mono ?_; rintro e w7 ⟨rfl, hb⟩; have S6 := Lib.hid (S5.out.below hb); clear hb)
      | ((with_reducible refine load_rowG (o := ⟨some 38, _, _, _, _, _⟩) r 9 g9 rfl rfl (S5.out.rows (g9, r) (by simp)) ?_ ?_); exact rfl)
      | (go_at_call 70; refine (HO.out _).mono ?_; rintro e w6 ⟨rfl, hb⟩; have S5 := Lib.hid (S4.out.below hb); clear hb)
      | ((with_reducible refine load_rowG (o := ⟨some 32, _, _, _, _, _⟩) r 9 g9 rfl rfl (S4.out.rows (g9, r) (by simp)) ?_ ?_); exact rfl))
    exact bodyPost_ret (results_pt_tmp Tryd.results46 _ _ (w.heap.size + 1) (Pv.flat r y) rfl (setRow_heap w8 (w.heap.size + 1) _ (pc (Pv.flat r y)) 51 _ (S7.out.pts (w.heap.size + 1, pz) (by simp)))) rfl ⟨(Pv.flat r y), true, rfl, fun h => absurd (h.symm.trans HHR.out) (by simp), fun A hA hy ho => ⟨rfl, Rp.flat hA ((HB1.out A hA hy (by simp)).1 ho.symm) (hy ▸ HRY.out)⟩, below_setRow S7.out.bb (by omega) _⟩
  · cases b2
    · go_wp2_with (first
        | ((with_reducible refine wpList_store_row (o := ⟨none, _, _, _, _, _⟩) rfl 51 (.tmp 4) (.tmp 45) rfl (w.heap.size + 1) (pc (Pv.flat nr y)) rfl ?_ 51 (pc pz) ?_ ?_ ?_ ?_ ?_); exact rfl; exact S9.out.pts (w.heap.size + 1, pz) (by simp); exact i51; exact rfl; exact pc_one _)
        | (go_at_call 75; refine (flat_any _ nr y ON.out HY.out.ok).mono ?_; rintro e w10 ⟨rfl, hb⟩; have S9 := Lib.hid (S8.out.below hb); clear hb)
        | ((with_reducible refine load_rowG (o := ⟨some 44, _, _, _, _, _⟩) y 2 w.heap.size rfl rfl (S8.out.rows (w.heap.size, y) (by simp)) ?_ ?_); exact rfl)
        | ((with_reducible refine load_rowG (o := ⟨some 43, _, _, _, _, _⟩) nr 9 g9 rfl rfl (S8.out.rows (g9, nr) (by simp)) ?_ ?_); exact rfl)
        | (go_at_call 70; refine (HO2.out _).mono ?_; rintro e w9 ⟨rfl, hb⟩; have S8 := Lib.hid (S7.out.below hb); clear hb)
        | ((with_reducible refine load_rowG (o := ⟨some 38, _, _, _, _, _⟩) nr 9 g9 rfl rfl (S7.out.rows (g9, nr) (by simp)) ?_ ?_); exact rfl)
        | ((with_reducible refine wpList_store_row (o := ⟨none, _, _, _, _, _⟩) rfl 49 (.tmp 9) (.tmp 37) rfl g9 (ec nr) rfl rfl 49 (ec r) (S6.out.rows (g9, r) (by simp)) ?_ ?_ ?_ ?_); exact i30; exact rfl; exact ec_one _; have S7 := Lib.hid (S6.out.change HD.out (by have := HG9.out; omega) (by have := HG9.out; simp; omega) (by have := HG9.out; simp; omega) nr); generalize w7.setRow g9 (ec nr) = w8 at *)
        | (go_at_call 74; refine (HN.out _ S5.out.dbl).mono ?_; rintro e w7 ⟨rfl, hb⟩; have S6 := Lib.hid (S5.out.below hb); clear hb)
        | ((with_reducible refine load_rowG (o := ⟨some 36, _, _, _, _, _⟩) r 9 g9 rfl rfl (S5.out.rows (g9, r) (by simp)) ?_ ?_); exact rfl)
        | (go_at_call 70; refine (HO.out _).mono ?_; rintro e w6 ⟨rfl, hb⟩; have S5 := Lib.hid (S4.out.below hb); clear hb)
        | ((with_reducible refine load_rowG (o := ⟨some 32, _, _, _, _, _⟩) r 9 g9 rfl rfl (S4.out.rows (g9, r) (by simp)) ?_ ?_); exact rfl))
      exact bodyPost_ret (results_pt_tmp Tryd.results46 _ _ (w.heap.size + 1) (Pv.flat nr y) rfl (setRow_heap w10 (w.heap.size + 1) _ (pc (Pv.flat nr y)) 51 _ (S9.out.pts (w.heap.size + 1, pz) (by simp)))) rfl ⟨(Pv.flat nr y), true, rfl, fun h => absurd (h.symm.trans HHR.out) (by simp), fun A hA hy ho => ⟨rfl, Rp.flat hA ((HB1.out A hA hy (by simp)).2 (by rw [ho]; simp)).1 (hy ▸ HRY.out)⟩, below_setRow S9.out.bb (by omega) _⟩
    · go_wp2_with (first
        | ((with_reducible refine wpList_store_row (o := ⟨none, _, _, _, _, _⟩) rfl 51 (.tmp 4) (.tmp 42) rfl (w.heap.size + 1) (pc pz) rfl ?_ 51 (pc pz) ?_ ?_ ?_ ?_ ?_); exact rfl; exact S8.out.pts (w.heap.size + 1, pz) (by simp); exact i51; exact rfl; exact pc_one _)
        | (go_at_call 70; refine (HO2.out _).mono ?_; rintro e w9 ⟨rfl, hb⟩; have S8 := Lib.hid (S7.out.below hb); clear hb)
        | ((with_reducible refine load_rowG (o := ⟨some 38, _, _, _, _, _⟩) nr 9 g9 rfl rfl (S7.out.rows (g9, nr) (by simp)) ?_ ?_); exact rfl)
        | ((with_reducible refine wpList_store_row (o := ⟨none, _, _, _, _, _⟩) rfl 49 (.tmp 9) (.tmp 37) rfl g9 (ec nr) rfl rfl 49 (ec r) (S6.out.rows (g9, r) (by simp)) ?_ ?_ ?_ ?_); exact i30; exact rfl; exact ec_one _; have S7 := Lib.hid (S6.out.change HD.out (by have := HG9.out; omega) (by have := HG9.out; simp; omega) (by have := HG9.out; simp; omega) nr); generalize w7.setRow g9 (ec nr) = w8 at *)
        | (go_at_call 74; refine (HN.out _ S5.out.dbl).mono ?_; rintro e w7 ⟨rfl, hb⟩; have S6 := Lib.hid (S5.out.below hb); clear hb)
        | ((with_reducible refine load_rowG (o := ⟨some 36, _, _, _, _, _⟩) r 9 g9 rfl rfl (S5.out.rows (g9, r) (by simp)) ?_ ?_); exact rfl)
        | (go_at_call 70; refine (HO.out _).mono ?_; rintro e w6 ⟨rfl, hb⟩; have S5 := Lib.hid (S4.out.below hb); clear hb)
        | ((with_reducible refine load_rowG (o := ⟨some 32, _, _, _, _, _⟩) r 9 g9 rfl rfl (S4.out.rows (g9, r) (by simp)) ?_ ?_); exact rfl))
      exact bodyPost_ret (results_pt_tmp Tryd.results46 _ _ (w.heap.size + 1) pz rfl (setRow_heap w9 (w.heap.size + 1) _ (pc pz) 51 _ (S8.out.pts (w.heap.size + 1, pz) (by simp)))) rfl ⟨pz, false, rfl, fun _ => ⟨rfl, rfl⟩, fun A hA hy ho => absurd ((HB1.out A hA hy (by simp)).2 (by rw [ho]; simp)).2 (by rw [ho]; simp), below_setRow S8.out.bb (by omega) _⟩
  · cases b2
    · go_wp2_with (first
        | ((with_reducible refine wpList_store_row (o := ⟨none, _, _, _, _, _⟩) rfl 51 (.tmp 4) (.tmp 42) rfl (w.heap.size + 1) (pc pz) rfl ?_ 51 (pc pz) ?_ ?_ ?_ ?_ ?_); exact rfl; exact S8.out.pts (w.heap.size + 1, pz) (by simp); exact i51; exact rfl; exact pc_one _)
        | (go_at_call 70; refine (HO2.out _).mono ?_; rintro e w9 ⟨rfl, hb⟩; have S8 := Lib.hid (S7.out.below hb); clear hb)
        | ((with_reducible refine load_rowG (o := ⟨some 38, _, _, _, _, _⟩) nr 9 g9 rfl rfl (S7.out.rows (g9, nr) (by simp)) ?_ ?_); exact rfl)
        | ((with_reducible refine wpList_store_row (o := ⟨none, _, _, _, _, _⟩) rfl 49 (.tmp 9) (.tmp 37) rfl g9 (ec nr) rfl rfl 49 (ec r) (S6.out.rows (g9, r) (by simp)) ?_ ?_ ?_ ?_); exact i30; exact rfl; exact ec_one _; have S7 := Lib.hid (S6.out.change HD.out (by have := HG9.out; omega) (by have := HG9.out; simp; omega) (by have := HG9.out; simp; omega) nr); generalize w7.setRow g9 (ec nr) = w8 at *)
        | (go_at_call 74; refine (HN.out _ S5.out.dbl).mono ?_; rintro e w7 ⟨rfl, hb⟩; have S6 := Lib.hid (S5.out.below hb); clear hb)
        | ((with_reducible refine load_rowG (o := ⟨some 36, _, _, _, _, _⟩) r 9 g9 rfl rfl (S5.out.rows (g9, r) (by simp)) ?_ ?_); exact rfl)
        | (go_at_call 70; refine (HO.out _).mono ?_; rintro e w6 ⟨rfl, hb⟩; have S5 := Lib.hid (S4.out.below hb); clear hb)
        | ((with_reducible refine load_rowG (o := ⟨some 32, _, _, _, _, _⟩) r 9 g9 rfl rfl (S4.out.rows (g9, r) (by simp)) ?_ ?_); exact rfl))
      exact bodyPost_ret (results_pt_tmp Tryd.results46 _ _ (w.heap.size + 1) pz rfl (setRow_heap w9 (w.heap.size + 1) _ (pc pz) 51 _ (S8.out.pts (w.heap.size + 1, pz) (by simp)))) rfl ⟨pz, false, rfl, fun _ => ⟨rfl, rfl⟩, fun A hA hy ho => absurd ((HB1.out A hA hy (by simp)).2 (by rw [ho]; simp)).2 (by rw [ho]; simp), below_setRow S8.out.bb (by omega) _⟩
    · go_wp2_with (first
        | ((with_reducible refine wpList_store_row (o := ⟨none, _, _, _, _, _⟩) rfl 51 (.tmp 4) (.tmp 45) rfl (w.heap.size + 1) (pc (Pv.flat nr y)) rfl ?_ 51 (pc pz) ?_ ?_ ?_ ?_ ?_); exact rfl; exact S9.out.pts (w.heap.size + 1, pz) (by simp); exact i51; exact rfl; exact pc_one _)
        | (go_at_call 75; refine (flat_any _ nr y ON.out HY.out.ok).mono ?_; rintro e w10 ⟨rfl, hb⟩; have S9 := Lib.hid (S8.out.below hb); clear hb)
        | ((with_reducible refine load_rowG (o := ⟨some 44, _, _, _, _, _⟩) y 2 w.heap.size rfl rfl (S8.out.rows (w.heap.size, y) (by simp)) ?_ ?_); exact rfl)
        | ((with_reducible refine load_rowG (o := ⟨some 43, _, _, _, _, _⟩) nr 9 g9 rfl rfl (S8.out.rows (g9, nr) (by simp)) ?_ ?_); exact rfl)
        | (go_at_call 70; refine (HO2.out _).mono ?_; rintro e w9 ⟨rfl, hb⟩; have S8 := Lib.hid (S7.out.below hb); clear hb)
        | ((with_reducible refine load_rowG (o := ⟨some 38, _, _, _, _, _⟩) nr 9 g9 rfl rfl (S7.out.rows (g9, nr) (by simp)) ?_ ?_); exact rfl)
        | ((with_reducible refine wpList_store_row (o := ⟨none, _, _, _, _, _⟩) rfl 49 (.tmp 9) (.tmp 37) rfl g9 (ec nr) rfl rfl 49 (ec r) (S6.out.rows (g9, r) (by simp)) ?_ ?_ ?_ ?_); exact i30; exact rfl; exact ec_one _; have S7 := Lib.hid (S6.out.change HD.out (by have := HG9.out; omega) (by have := HG9.out; simp; omega) (by have := HG9.out; simp; omega) nr); generalize w7.setRow g9 (ec nr) = w8 at *)
        | (go_at_call 74; refine (HN.out _ S5.out.dbl).mono ?_; rintro e w7 ⟨rfl, hb⟩; have S6 := Lib.hid (S5.out.below hb); clear hb)
        | ((with_reducible refine load_rowG (o := ⟨some 36, _, _, _, _, _⟩) r 9 g9 rfl rfl (S5.out.rows (g9, r) (by simp)) ?_ ?_); exact rfl)
        | (go_at_call 70; refine (HO.out _).mono ?_; rintro e w6 ⟨rfl, hb⟩; have S5 := Lib.hid (S4.out.below hb); clear hb)
        | ((with_reducible refine load_rowG (o := ⟨some 32, _, _, _, _, _⟩) r 9 g9 rfl rfl (S4.out.rows (g9, r) (by simp)) ?_ ?_); exact rfl))
      exact bodyPost_ret (results_pt_tmp Tryd.results46 _ _ (w.heap.size + 1) (Pv.flat nr y) rfl (setRow_heap w10 (w.heap.size + 1) _ (pc (Pv.flat nr y)) 51 _ (S9.out.pts (w.heap.size + 1, pz) (by simp)))) rfl ⟨(Pv.flat nr y), true, rfl, fun h => absurd (h.symm.trans HHR.out) (by simp), fun A hA hy ho => ⟨rfl, Rp.flat hA ((HB1.out A hA hy (by simp)).2 (by rw [ho]; simp)).1 (hy ▸ HRY.out)⟩, below_setRow S9.out.bb (by omega) _⟩
  · go_wp2_with (first
      | ((with_reducible refine wpList_store_row (o := ⟨none, _, _, _, _, _⟩) rfl 51 (.tmp 4) (.tmp 45) rfl (w.heap.size + 1) (pc (Pv.flat r y)) rfl ?_ 51 (pc pz) ?_ ?_ ?_ ?_ ?_); exact rfl; exact S7.out.pts (w.heap.size + 1, pz) (by simp); exact i51; exact rfl; exact pc_one _)
      | (go_at_call 75; refine (flat_any _ r y OR.out HY.out.ok).mono ?_; rintro e w8 ⟨rfl, hb⟩; have S7 := Lib.hid (S6.out.below hb); clear hb)
      | ((with_reducible refine load_rowG (o := ⟨some 44, _, _, _, _, _⟩) y 2 w.heap.size rfl rfl (S6.out.rows (w.heap.size, y) (by simp)) ?_ ?_); exact rfl)
      | ((with_reducible refine load_rowG (o := ⟨some 43, _, _, _, _, _⟩) r 9 g9 rfl rfl (S6.out.rows (g9, r) (by simp)) ?_ ?_); exact rfl)
      | (go_at_call 70; refine (HO.out _).mono ?_; rintro e w7 ⟨rfl, hb⟩; have S6 := Lib.hid (S5.out.below hb); clear hb)
      | ((with_reducible refine load_rowG (o := ⟨some 38, _, _, _, _, _⟩) r 9 g9 rfl rfl (S5.out.rows (g9, r) (by simp)) ?_ ?_); exact rfl)
      | (go_at_call 70; refine (HO.out _).mono ?_; rintro e w6 ⟨rfl, hb⟩; have S5 := Lib.hid (S4.out.below hb); clear hb)
      | ((with_reducible refine load_rowG (o := ⟨some 32, _, _, _, _, _⟩) r 9 g9 rfl rfl (S4.out.rows (g9, r) (by simp)) ?_ ?_); exact rfl))
    exact bodyPost_ret (results_pt_tmp Tryd.results46 _ _ (w.heap.size + 1) (Pv.flat r y) rfl (setRow_heap w8 (w.heap.size + 1) _ (pc (Pv.flat r y)) 51 _ (S7.out.pts (w.heap.size + 1, pz) (by simp)))) rfl ⟨(Pv.flat r y), true, rfl, fun h => absurd (h.symm.trans HHR.out) (by simp), fun A hA hy ho => ⟨rfl, Rp.flat hA ((HB1.out A hA hy (by simp)).1 ho.symm) (hy ▸ HRY.out)⟩, below_setRow S7.out.bb (by omega) _⟩
end Go.Proofs.YtiinmdleechcgaaDoor
