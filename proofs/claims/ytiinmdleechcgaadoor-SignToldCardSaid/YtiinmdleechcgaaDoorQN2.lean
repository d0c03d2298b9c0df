/- Layer 6, a part of the proof: Nm No Np Nq Nr Ns Nt. -/
import Derived.Test.YtiinmdleechcgaaDoorQN1
import Derived.Lib.SlBytesConst
import Derived.Test.YtiinmdleechcgaaDoorCards
import Derived.Test.YtiinmdleechcgaaDoorTie
import Derived.WalkKit
import Derived.ProofKit
import Derived.OpenShut
import Derived.ChangeOld
import Derived.Below
import Derived.Deep.DeepHandedRow
import Derived.Lib.LaidTab
namespace Go.Proofs.YtiinmdleechcgaaDoor
open Go.RowKit
theorem rowL_w8 (A : Ed.Pt) : ∀ b ∈ rowL A, W8 b := by
  intro b hb
  simp only [rowL, Bt.row, List.mem_map] at hb
  obtain ⟨j, _, rfl⟩ := hb
  have := Bt.place_lt 8 A.y.toNat 255 j
  simp only [Nat.reducePow] at this
  unfold W8; omega
theorem encL_len (A : Ed.Pt) : (encL A).length = 32 := by
  unfold encL
  split
  · rw [List.length_set]; exact Bt.row_length _ _ _ _
  · exact Bt.row_length _ _ _ _
theorem encL_w8 (A : Ed.Pt) : ∀ b ∈ encL A, W8 b := by
  intro b hb
  unfold encL at hb
  split at hb
  · rcases List.mem_or_eq_of_mem_set hb with h | h
    · exact rowL_w8 A b h
    · obtain ⟨z, hz, z0, z1⟩ := rowL_31 A
      rw [h, hz]; unfold W8; omega
  · exact rowL_w8 A b hb
/-- A row of bytes that lies from its block's start on, as a value. -/
theorem slc_lie {w : World} {g n c : Nat} {l : List Int} {t : TypeId} (h : Blk w g .u8 t l) (hl : l.length = n) (hc : n ≤ c) (h8 : ∀ b ∈ l, W8 b) : Slc w (.slice (some ⟨g, 0, none⟩) n c) l :=
  ⟨_, c, by rw [hl], by omega, h8, Or.inr ⟨g, 0, rfl, h.lt, h.at⟩⟩
/-- What lies where: numbers, bytes. -/
structure Ns (w0 : World) (nums : List (Nat × Nat)) (bys : List (Nat × List Int)) (w : World) : Prop where
  nums : ∀ r ∈ nums, w.heap[r.1]? = some (.cells (Sn.nv r.2) 42 (0, 0))
  bys : ∀ r ∈ bys, Blk w r.1 .u8 5 r.2
  gl : Gl w
  be : Below w0.heap.size w0 w
section
variable {w0 w w5 : World} {nums : List (Nat × Nat)} {bys : List (Nat × List Int)}
theorem Ns.below (h : Ns w0 nums bys w) (hb : Below w.heap.size w w5) : Ns w0 nums bys w5 :=
  ⟨fun r hr => (hb.block _ (lt_of_block (h.nums r hr))).trans (h.nums r hr), fun r hr => (h.bys r hr).other (hb.block _ (h.bys r hr).lt), h.gl.below hb h.gl.size, h.be.trans (hb.mono h.be.size)⟩
theorem Ns.put (h : Ns w0 nums bys w) (hb : Below w.heap.size w w5) {g : Nat} (hg : w.heap.size ≤ g) {z : Nat} (hz : w5.heap[g]? = some (.cells (Sn.nv z) 42 (0, 0))) (n : Nat) : Ns w0 ((g, n) :: nums) bys (w5.setRow g (Sn.nv n)) := by
  have hB := below_setRow hb hg (Sn.nv n)
  refine ⟨fun r hr => ?_, fun r hr => ?_, h.gl.below hB h.gl.size, h.be.trans (hB.mono h.be.size)⟩
  · rcases List.mem_cons.1 hr with rfl | hr
    · exact setRow_heap w5 g _ (Sn.nv n) 42 _ hz
    · have h1 := lt_of_block (h.nums r hr)
      exact (hB.block _ h1).trans (h.nums r hr)
  · exact (h.bys r hr).other (hB.block _ (h.bys r hr).lt)
theorem Ns.byte (h : Ns w0 nums bys w) {g : Nat} {l : List Int} (hg : Blk w g .u8 5 l) : Ns w0 nums ((g, l) :: bys) w := by
  refine ⟨h.nums, fun r hr => ?_, h.gl, h.be⟩
  rcases List.mem_cons.1 hr with rfl | hr
  · exact hg
  · exact h.bys r hr
theorem Ns.start {w : World} (h : Gl w) : Ns w [] [] w := ⟨fun _ h => (List.not_mem_nil h).elim, fun _ h => (List.not_mem_nil h).elim, h, Below.refl _ _⟩
end
def nonR (P M : List Int) : Ed.Pt := Ed.mul (noN P M) Ed.B
def sgS (P M : List Int) : Nat := (noN P M + chN (encL (nonR P M)) (encL (pubA P)) M * skN P) % Ed.nn
/-- The signature's bytes. -/
def sigL (P M : List Int) : List Int := encL (nonR P M) ++ Sn.en (sgS P M)
namespace Grow
theorem enter21 (args : Array Value) (w : World) : (callFunc 21 args).run Tryd.prog w = .ok (.enter 21 args) w := by
  have := Tryd.func21
  go_simp
end Grow
set_option maxRecDepth 100000 in
set_option maxHeartbeats 2000000 in
theorem sign_any (w : World) (hg : Gl w) (vs vm : Value) (P M : List Int) (hP : Slc w vs P) (hM : Slc w vm M) (hl : P.length ≤ 100000) (hm : M.length ≤ 100000) :
    Calls Tryd.prog 7 #[vs, vm] w fun e w' => ∃ v, e = .returned v ∧ OwnB w.heap.size w' v (sigL P M) ∧ Below w.heap.size w w' := by
  have S0 := Lib.hid (Ns.start hg)
  have HP := Lib.hid hP
  have HM := Lib.hid hM
  have HL := Lib.hid hl
  have HML := Lib.hid hm
  obtain ⟨n, hn⟩ : ∃ n, n = skN P := ⟨_, rfl⟩
  obtain ⟨k, hk⟩ : ∃ k, k = noN P M := ⟨_, rfl⟩
  obtain ⟨R, hR⟩ : ∃ R, R = Ed.mul k Ed.B := ⟨_, rfl⟩
  obtain ⟨A, hA⟩ : ∃ A, A = Ed.mul n Ed.B := ⟨_, rfl⟩
  obtain ⟨h, hh⟩ : ∃ h, h = chN (encL R) (encL A) M := ⟨_, rfl⟩
  obtain ⟨S, hS⟩ : ∃ S, S = Sn.sm k (h * n % Ed.nn) := ⟨_, rfl⟩
  have HN : Hid (skN P = n) := hn.symm
  have HK : Hid (noN P M = k) := hk.symm
  have HR : Hid (Ed.mul k Ed.B = R) := hR.symm
  have HA : Hid (Ed.mul n Ed.B = A) := hA.symm
  have HH : Hid (chN (encL R) (encL A) M = h) := hh.symm
  have HS : Hid (Sn.sm k (h * n % Ed.nn) = S) := hS.symm
  have HSIG : Hid (sigL P M = encL R ++ Sn.en S) := by
    have e1 : nonR P M = R := by unfold nonR; rw [← hk, hR]
    have e2 : pubA P = A := by unfold pubA; rw [← hn, hA]
    show sigL P M = _
    unfold sigL sgS
    rw [e1, e2, ← hk, ← hn, ← hh, hS]
    unfold Sn.sm
    rw [Nat.add_mod_mod]
  have LN : Hid (n < Ed.nn) := by rw [hn]; exact dg_lt _
  have LK : Hid (k < Ed.nn) := by rw [hk]; exact dg_lt _
  have LH : Hid (h < Ed.nn) := by rw [hh]; exact dg_lt _
  have LHN : Hid (h * n % Ed.nn < Ed.nn) := Nat.mod_lt _ (by decide)
  clear hP hM hl hm hg hn hk hR hA hh hS
  go_enter Tryd.func7, Tryd.ntmps7
  go_upto_region 1 with fail
  refine Grow.region_seq 8 (fun i => List.getD (Grow.Spec.slc P :: Grow.partsS [P] :: Grow.Spec.is (.agg (Sn.nv n)) :: Grow.Spec.slc P :: Grow.Spec.slc M :: Grow.partsS [P, M] :: Grow.Spec.is (.agg (Sn.nv k)) :: Grow.newBlk (Sn.nv 0) 42 w :: []) i (Grow.Spec.is undef)) (by kernel_rfl) ⟨
    Grow.h2_move (Or.inl rfl) (.tmp 0) (Or.inl rfl) (fun a wx hk => by have e : a.eval (.tmp 0) = vs := hk.rest 0 (by kernel_rfl); rw [e]; exact Sl.below HP.out hk.below (Nat.le_refl _)),
    Grow.h2_parts1 (Or.inl rfl) 0 10 P rfl (by kernel_rfl) rfl rfl,
    Grow.h2_call2 (Or.inl rfl) 19 Grow.enter19 _ _ _ rfl (fun a wx hk => by have hp : Sha.Parts wx (a.eval (.tmp 11)) [P] := (hk.deps 1 11 (by kernel_rfl)); refine (secret_any wx (S0.out.gl.below hk.below S0.out.gl.size) _ P hp HL.out).mono ?_; rw [HN.out]; rintro e w5 ⟨rfl, hb⟩; exact ⟨_, rfl, rfl, hb⟩),
    Grow.h2_move (Or.inl rfl) (.tmp 0) (Or.inl rfl) (fun a wx hk => by have e : a.eval (.tmp 0) = vs := hk.rest 0 (by kernel_rfl); rw [e]; exact Sl.below HP.out hk.below (Nat.le_refl _)),
    Grow.h2_move (Or.inl rfl) (.tmp 1) (Or.inl rfl) (fun a wx hk => by have e : a.eval (.tmp 1) = vm := hk.rest 1 (by kernel_rfl); rw [e]; exact Sl.below HM.out hk.below (Nat.le_refl _)),
    Grow.h2_parts2 (Or.inl rfl) 3 13 4 14 P M rfl (by kernel_rfl) (by kernel_rfl) rfl rfl rfl,
    Grow.h2_call2 (Or.inl rfl) 19 Grow.enter19 _ _ _ rfl (fun a wx hk => by have hp : Sha.Parts wx (a.eval (.tmp 15)) [P, M] := (hk.deps 5 15 (by kernel_rfl)); refine (nonce_any wx (S0.out.gl.below hk.below S0.out.gl.size) _ P M hp HL.out HML.out).mono ?_; rw [HK.out]; rintro e w5 ⟨rfl, hb⟩; exact ⟨_, rfl, rfl, hb⟩),
    Grow.h2_allocG (Or.inl rfl) 42 (Sn.nv 0) rfl run_alloc42 rfl,
    trivial⟩ ?_
  intro a w4 hb hts hk hdf hfr
  have e12 : a.eval (.tmp 12) = .agg (Sn.nv n) := hk 2 12 (by decide) rfl
  have e16 : a.eval (.tmp 16) = .agg (Sn.nv k) := hk 6 16 (by decide) rfl
  obtain ⟨g5, e5, hz5, hg5⟩ : ∃ g, a.eval (.tmp 5) = .pointer (some ⟨g, 0, none⟩) ∧ w4.heap[g]? = some (.cells (Sn.nv 0) 42 (0, 0)) ∧ w.heap.size ≤ g := hk 7 5 (by decide) rfl
  have hlt5 : g5 < w4.heap.size := lt_of_block hz5
  have hts6 : 6 < a.tmps.size := by rw [hts]; simp
  refine ⟨rfl, Grow.wp_value (v := .pointer (some ⟨w4.heap.size, 0, none⟩)) (w' := w4.alloc (.cells (Sn.nv 0) 42)) (by have := run_alloc42 w4; unfold execOp; simp only [Sem.run_bind, this, Result.andThen_ok, Sem.run_pure]) ?_⟩
  have hb2 : Below w.heap.size w (w4.alloc (.cells (Sn.nv 0) 42)) := hb.alloc hb.size _
  have S1 := S0.out.put hb2 hg5 (show (w4.alloc (.cells (Sn.nv 0) 42)).heap[g5]? = some (.cells (Sn.nv 0) 42 (0, 0)) from (Below.heap_alloc _ _ _ hlt5).trans hz5) n
  refine ⟨rfl, wp_store_row 42 (.tmp 5) (.tmp 12) rfl g5 (Sn.nv n) (by rw [Grow.eval_put_ne (by decide)]; exact e5) (by rw [Grow.eval_put_ne (by decide)]; exact e12) 42 (Sn.nv 0) ((Below.heap_alloc _ _ _ hlt5).trans hz5) i42 rfl (nv_one _) ?_⟩
  have hz6 : ((w4.alloc (.cells (Sn.nv 0) 42)).setRow g5 (Sn.nv n)).heap[w4.heap.size]? = some (.cells (Sn.nv 0) 42 (0, 0)) := by
    rw [setRow_other _ _ _ _ (by omega)]
    exact heap_alloc_new w4 _
  refine ⟨rfl, wp_store_row 42 (.tmp 6) (.tmp 16) rfl w4.heap.size (Sn.nv k) (Grow.eval_put_eq hts6) (by show (a.put (some 6) _).eval (.tmp 16) = _; rw [Grow.eval_put_ne (by decide)]; exact e16) 42 (Sn.nv 0) hz6 i42 rfl (nv_one _) ?_⟩
  have S2 : Hid (Ns w [(w4.heap.size, k), (g5, n)] [] (((w4.alloc (.cells (Sn.nv 0) 42)).setRow g5 (Sn.nv n)).setRow w4.heap.size (Sn.nv k))) := by
    have hB := below_setRow S1.be hb.size (Sn.nv k)
    refine ⟨fun r hr => ?_, fun r hr => (List.not_mem_nil hr).elim, S0.out.gl.below hB S0.out.gl.size, hB⟩
    simp only [List.mem_cons, List.not_mem_nil, or_false] at hr
    rcases hr with rfl | rfl
    · exact setRow_heap _ _ _ (Sn.nv k) 42 _ hz6
    · rw [setRow_other _ _ _ _ (by show g5 ≠ w4.heap.size; omega)]
      exact S1.nums (g5, n) (by simp)
  have ha := Grow.act_after hts hdf hfr
  rw [show Grow.dsts _ 8 = [10, 11, 12, 13, 14, 15, 16, 5] from by kernel_rfl] at ha
  simp only [Grow.putAll, e5] at ha
  generalize a.eval (.tmp 10) = u10 at ha
  generalize a.eval (.tmp 11) = u11 at ha
  generalize a.eval (.tmp 12) = u12 at ha
  generalize a.eval (.tmp 13) = u13 at ha
  generalize a.eval (.tmp 14) = u14 at ha
  generalize a.eval (.tmp 15) = u15 at ha
  generalize a.eval (.tmp 16) = u16 at ha
  generalize ((w4.alloc (.cells (Sn.nv 0) 42)).setRow g5 (Sn.nv n)).setRow w4.heap.size (Sn.nv k) = w5 at *
  generalize w4.heap.size = g6 at *
  clear hk hts hdf hfr e12 e16 e5 hz5 hg5 hlt5 hts6 hb hb2 S1 hz6 S0
  simp [Act.put] at ha
  subst ha
  unfold Grow.wpSeq
  go_upto_region 2 with fail
  refine Grow.region_seq 2 (fun i => List.getD (Grow.Spec.is (.agg (Sn.nv k)) :: Grow.encS (encL R) w5 :: []) i (Grow.Spec.is undef)) (by kernel_rfl) ⟨
    Grow.h2_row (Or.inl rfl) 6 g6 42 (Sn.nv k) _ rfl Tryd.underlying42 i42 rfl (by kernel_rfl) rfl (S2.out.nums (g6, k) (by simp)) rfl,
    Grow.h2_call1 (Or.inl rfl) 18 Grow.enter18 _ _ rfl (fun a wx hk => by have e1 : a.eval (.tmp 17) = .agg (Sn.nv k) := (hk.deps 0 17 (by kernel_rfl)); rw [e1]; refine (multiple_any wx (S2.out.gl.below hk.below S2.out.gl.size).dbl k LK.out).mono ?_; rw [HR.out]; rintro e w5 ⟨g, rfl, h1, h2, hb⟩; exact ⟨_, rfl, ⟨g, rfl, h1, Nat.le_trans hk.below.size h2⟩, hb⟩),
    trivial⟩ ?_
  intro a w6 hb hts hk hdf hfr
  obtain ⟨g7, e18, hg7, -⟩ : ∃ g, a.eval (.tmp 18) = .slice (some ⟨g, 0, none⟩) 32 32 ∧ Blk w6 g .u8 5 (encL R) ∧ w5.heap.size ≤ g := hk 1 18 (by decide) rfl
  refine ⟨rfl, Grow.wp_move (.tmp 18) (Or.inr rfl) ?_⟩
  rw [e18]
  have S3 := Lib.hid ((S2.out.below hb).byte hg7)
  have ha := Grow.act_after hts hdf hfr
  rw [show Grow.dsts _ 2 = [17, 18] from by kernel_rfl] at ha
  simp only [Grow.putAll] at ha
  generalize a.eval (.tmp 17) = u17 at ha
  generalize a.eval (.tmp 18) = u18 at ha
  clear hk hts hdf hfr e18 hb hg7 S2
  simp [Act.put] at ha
  subst ha
  unfold Grow.wpSeq
  go_upto_region 3 with fail
  refine Grow.region_seq 7 (fun i => List.getD (Grow.Spec.slc (encL R) :: Grow.Spec.is (.agg (Sn.nv n)) :: Grow.Spec.slc (encL A) :: Grow.Spec.slc M :: Grow.partsS [encL R, encL A, M] :: Grow.Spec.is (.agg (Sn.nv h)) :: Grow.newBlk (Sn.nv 0) 42 w6 :: []) i (Grow.Spec.is undef)) (by kernel_rfl) ⟨
    Grow.h2_move (Or.inl rfl) (.tmp 7) (Or.inl rfl) (fun a wx hk => by have e : a.eval (.tmp 7) = .slice (some ⟨g7, 0, none⟩) 32 32 := hk.rest 7 (by kernel_rfl); rw [e]; exact Sl.below (slc_lie (S3.out.bys (g7, encL R) (by simp)) (encL_len R) (Nat.le_refl _) (encL_w8 R)) hk.below (Nat.le_refl _)),
    Grow.h2_row (Or.inl rfl) 5 g5 42 (Sn.nv n) _ rfl Tryd.underlying42 i42 rfl (by kernel_rfl) rfl (S3.out.nums (g5, n) (by simp)) rfl,
    Grow.h2_call1 (Or.inl rfl) 18 Grow.enter18 _ _ rfl (fun a wx hk => by have e1 : a.eval (.tmp 20) = .agg (Sn.nv n) := (hk.deps 1 20 (by kernel_rfl)); rw [e1]; refine (multiple_any wx (S3.out.gl.below hk.below S3.out.gl.size).dbl n LN.out).mono ?_; rw [HA.out]; rintro e w5 ⟨g, rfl, h1, h2, hb⟩; exact ⟨_, rfl, slc_lie h1 (encL_len A) (Nat.le_refl _) (encL_w8 A), hb⟩),
    Grow.h2_move (Or.inl rfl) (.tmp 1) (Or.inl rfl) (fun a wx hk => by have e : a.eval (.tmp 1) = vm := hk.rest 1 (by kernel_rfl); rw [e]; exact Sl.below HM.out (S3.out.be.trans (hk.below.mono S3.out.be.size)) (Nat.le_refl _)),
    Grow.h2_parts3 (Or.inl rfl) 0 19 2 21 3 22 _ _ _ rfl (by kernel_rfl) (by kernel_rfl) (by kernel_rfl) rfl rfl rfl rfl,
    Grow.h2_call2 (Or.inl rfl) 19 Grow.enter19 _ _ _ rfl (fun a wx hk => by have hp : Sha.Parts wx (a.eval (.tmp 23)) [encL R, encL A, M] := (hk.deps 4 23 (by kernel_rfl)); refine (chal_any wx (S3.out.gl.below hk.below S3.out.gl.size) _ _ _ _ hp (by rw [encL_len]; decide) (by rw [encL_len]; decide) HML.out).mono ?_; rw [HH.out]; rintro e w5 ⟨rfl, hb⟩; exact ⟨_, rfl, rfl, hb⟩),
    Grow.h2_allocG (Or.inl rfl) 42 (Sn.nv 0) rfl run_alloc42 rfl,
    trivial⟩ ?_
  intro a w7 hb hts hk hdf hfr
  have e24 : a.eval (.tmp 24) = .agg (Sn.nv h) := hk 5 24 (by decide) rfl
  obtain ⟨g8, e8, hz8, hg8⟩ : ∃ g, a.eval (.tmp 8) = .pointer (some ⟨g, 0, none⟩) ∧ w7.heap[g]? = some (.cells (Sn.nv 0) 42 (0, 0)) ∧ w6.heap.size ≤ g := hk 6 8 (by decide) rfl
  refine ⟨rfl, wp_store_row 42 (.tmp 8) (.tmp 24) rfl g8 (Sn.nv h) e8 e24 42 (Sn.nv 0) hz8 i42 rfl (nv_one _) ?_⟩
  have S4 := Lib.hid (S3.out.put hb hg8 hz8 h)
  have ha := Grow.act_after hts hdf hfr
  rw [show Grow.dsts _ 7 = [19, 20, 21, 22, 23, 24, 8] from by kernel_rfl] at ha
  simp only [Grow.putAll, e8] at ha
  generalize a.eval (.tmp 19) = u19 at ha
  generalize a.eval (.tmp 20) = u20 at ha
  generalize a.eval (.tmp 21) = u21 at ha
  generalize a.eval (.tmp 22) = u22 at ha
  generalize a.eval (.tmp 23) = u23 at ha
  generalize a.eval (.tmp 24) = u24 at ha
  generalize w7.setRow g8 (Sn.nv h) = w8 at *
  clear hk hts hdf hfr e24 e8 hz8 hg8 hb S3
  simp [Act.put] at ha
  subst ha
  unfold Grow.wpSeq
  go_upto_region 4 with fail
  refine Grow.region_rest (by kernel_rfl) 7 (fun i => List.getD (Grow.Spec.is (.agg (Sn.nv k)) :: Grow.Spec.is (.agg (Sn.nv h)) :: Grow.Spec.is (.agg (Sn.nv n)) :: Grow.Spec.is (.agg (Sn.nv (h * n % Ed.nn))) :: Grow.Spec.is (.agg (Sn.nv S)) :: Grow.Spec.is (bv (Sn.en S)) :: Grow.newBlk ((List.replicate 32 (0 : Int)).map (Value.int .u8)).toArray 44 w8 :: []) i (Grow.Spec.is undef)) (by kernel_rfl) ⟨
    Grow.h2_row (Or.inl rfl) 6 g6 42 (Sn.nv k) _ rfl Tryd.underlying42 i42 rfl (by kernel_rfl) rfl (S4.out.nums (g6, k) (by simp)) rfl,
    Grow.h2_row (Or.inl rfl) 8 g8 42 (Sn.nv h) _ rfl Tryd.underlying42 i42 rfl (by kernel_rfl) rfl (S4.out.nums (g8, h) (by simp)) rfl,
    Grow.h2_row (Or.inl rfl) 5 g5 42 (Sn.nv n) _ rfl Tryd.underlying42 i42 rfl (by kernel_rfl) rfl (S4.out.nums (g5, n) (by simp)) rfl,
    Grow.h2_call2 (Or.inl rfl) 21 Grow.enter21 _ _ _ rfl (fun a wx hk => by have e1 : a.eval (.tmp 26) = .agg (Sn.nv h) := (hk.deps 1 26 (by kernel_rfl)); have e2 : a.eval (.tmp 27) = .agg (Sn.nv n) := (hk.deps 2 27 (by kernel_rfl)); rw [e1, e2]; refine (stimes_any wx (S4.out.gl.below hk.below S4.out.gl.size).ord h n LH.out LN.out).mono ?_; rintro e w5 ⟨rfl, hb⟩; exact ⟨_, rfl, rfl, hb⟩),
    Grow.h2_call2 (Or.inl rfl) 20 Grow.enter20 _ _ _ rfl (fun a wx hk => by have e1 : a.eval (.tmp 25) = .agg (Sn.nv k) := (hk.deps 0 25 (by kernel_rfl)); have e2 : a.eval (.tmp 28) = .agg (Sn.nv (h * n % Ed.nn)) := (hk.deps 3 28 (by kernel_rfl)); rw [e1, e2]; refine (splus_any wx (S4.out.gl.below hk.below S4.out.gl.size).ord k _ LK.out LHN.out).mono ?_; rw [HS.out]; rintro e w5 ⟨rfl, hb⟩; exact ⟨_, rfl, rfl, hb⟩),
    Grow.h2_call1 (Or.inl rfl) 22 Grow.enter22 _ _ rfl (fun a wx hk => by have e1 : a.eval (.tmp 29) = .agg (Sn.nv S) := (hk.deps 4 29 (by kernel_rfl)); rw [e1]; refine (sbytes_any wx S).mono ?_; rintro e w5 ⟨rfl, hb⟩; exact ⟨_, rfl, rfl, hb⟩),
    Grow.h2_allocG (Or.inl rfl) 44 ((List.replicate 32 (0 : Int)).map (Value.int .u8)).toArray rfl run_alloc44 rfl,
    trivial⟩ ?_
  intro a w9 hb hts hk hdf hfr
  have e30 : a.eval (.tmp 30) = .agg ((Sn.en S).map (Value.int .u8)).toArray := hk 5 30 (by decide) rfl
  obtain ⟨g9, e9, hz9, hg9⟩ : ∃ g, a.eval (.tmp 9) = .pointer (some ⟨g, 0, none⟩) ∧ w9.heap[g]? = some (.cells ((List.replicate 32 (0 : Int)).map (Value.int .u8)).toArray 44 (0, 0)) ∧ w8.heap.size ≤ g := hk 6 9 (by decide) rfl
  have hs44 : (Tryd.prog.info? 44).map (·.size) = some ((Sn.en S).map (Value.int .u8)).toArray.size := by rw [i44]; simp [Sn.en_len]
  refine ⟨rfl, wp_store_row 44 (.tmp 9) (.tmp 30) rfl g9 ((Sn.en S).map (Value.int .u8)).toArray e9 e30 44 ((List.replicate 32 (0 : Int)).map (Value.int .u8)).toArray hz9 hs44 (by simp [Sn.en_len]) (bytes32_one _) ?_⟩
  have S5 : Hid (Ns w [(g8, h), (g6, k), (g5, n)] [(g7, encL R)] (w9.setRow g9 ((Sn.en S).map (Value.int .u8)).toArray)) := S4.out.below (below_setRow hb hg9 _)
  have B9 : Hid (Blk (w9.setRow g9 ((Sn.en S).map (Value.int .u8)).toArray) g9 .u8 44 (Sn.en S)) := setRow_heap w9 g9 _ _ 44 _ hz9
  have ha := Grow.act_after hts hdf hfr
  rw [show Grow.dsts _ 7 = [25, 26, 27, 28, 29, 30, 9] from by kernel_rfl] at ha
  simp only [Grow.putAll, e9] at ha
  generalize a.eval (.tmp 25) = u25 at ha
  generalize a.eval (.tmp 26) = u26 at ha
  generalize a.eval (.tmp 27) = u27 at ha
  generalize a.eval (.tmp 28) = u28 at ha
  generalize a.eval (.tmp 29) = u29 at ha
  generalize a.eval (.tmp 30) = u30 at ha
  generalize w9.setRow g9 ((Sn.en S).map (Value.int .u8)).toArray = w10 at *
  clear hk hts hdf hfr e30 e9 hz9 hg9 hb S4 hs44
  simp [Act.put] at ha
  subst ha
  unfold Grow.wpSeq
  go_upto_region 5 with fail
  refine Grow.region_two (by kernel_rfl) (gp := g7) (c1 := 32) (g9 := g9) (E1 := encL R) (E2 := Sn.en S) rfl (by kernel_rfl) ⟨rfl, rfl, rfl⟩ ⟨rfl, rfl, rfl⟩ ⟨rfl, rfl, rfl⟩ ⟨rfl, rfl, rfl⟩ ⟨rfl, rfl, rfl⟩ ⟨rfl, rfl, rfl⟩ ⟨by kernel_rfl, by kernel_rfl, by kernel_rfl, by kernel_rfl, by kernel_rfl⟩ (by kernel_rfl) (by kernel_rfl) rfl (S5.out.bys (g7, encL R) (by simp)).lt (S5.out.bys (g7, encL R) (by simp)).at (encL_len R) rfl B9.out.lt B9.out.at (Sn.en_len S) ?_
  intro a w11 hb hts hdf hfr hown
  have hO : OwnB w.heap.size w11 (a.eval (.tmp 4)) (encL R ++ Sn.en S) := by
    refine ⟨hown.1, ?_⟩
    rcases hown.2 with h | ⟨g, cap, cur, h1, h2, h3⟩
    · exact Or.inl h
    · exact Or.inr ⟨g, cap, cur, h1, Nat.le_trans S5.out.be.size h2, h3⟩
  have HO := Lib.hid hO
  have HBE : Hid (Below w.heap.size w w11) := S5.out.be.trans (hb.mono S5.out.be.size)
  have ha := Grow.act_after hts hdf hfr
  rw [show Grow.dsts _ 6 = [31, 32, 33, 34, 35, 4] from by kernel_rfl] at ha
  simp only [Grow.putAll] at ha
  generalize a.eval (.tmp 31) = u31 at ha
  generalize a.eval (.tmp 32) = u32 at ha
  generalize a.eval (.tmp 33) = u33 at ha
  generalize a.eval (.tmp 34) = u34 at ha
  generalize a.eval (.tmp 35) = u35 at ha
  generalize a.eval (.tmp 4) = u4 at *
  clear hts hdf hfr hown hO hb S5 B9
  simp [Act.put] at ha
  subst ha
  go_wp2
  go_ret
  exact ⟨_, rfl, by rw [HSIG.out]; exact HO.out, HBE.out⟩
end Go.Proofs.YtiinmdleechcgaaDoor
namespace Go.Proofs.YtiinmdleechcgaaDoor
open Go.RowKit
theorem equal_yes (w : World) (v1 v2 : Value) (l : List Int) (h1 : Slc w v1 l) (h2 : Slc w v2 l) : Calls Tryd.prog 48 #[v1, v2] w fun e w' => e = .returned (.bool true) ∧ w = w' := by
  have e1 := conv_slc h1
  have e2 := conv_slc h2
  clear h1 h2
  go_enter Tryd.func48, Tryd.ntmps48
  go_wp2
  go_ret
  exact ⟨by first | rfl | simp, rfl⟩
theorem nat_and128 : ∀ n : Fin 256, n.val &&& 128 = if 128 ≤ n.val then 128 else 0 := by decide +kernel
theorem and128 (v : Nat) (h : v < 256) : bits BinOp.and IntKind.u8 (v : Int) 128 = if 128 ≤ v then 128 else 0 := by
  have h1 := u8_and_nat v 128 (by omega) (by decide)
  have h2 := nat_and128 ⟨v, h⟩
  simp only at h2
  rw [h2] at h1
  rw [show (128 : Int) = ((128 : Nat) : Int) from rfl, h1]
  split <;> rfl
/-- A point's load, where its guard holds. -/
theorem load_ptG {ops : Array Oper} {rest : List Oper} {o : Oper} {a : Act} {w : World} {Q : Exit → Act → World → Prop} (x : Pv) (t g : Nat) (ho : o.op = .load 51 (.tmp t)) (hx : a.eval (.tmp t) = .pointer (some ⟨g, 0, none⟩))
    (hg : w.heap[g]? = some (.cells (pc x) 51 (0, 0))) (hw : Region.wanted o (yielded ops a.tmps) = true) (h : wpList Tryd.prog ops Q rest (a.put o.dst (.agg (pc x))) w) : wpList Tryd.prog ops Q (o :: rest) a w := by
  unfold wpList
  rw [if_pos hw]
  exact Or.inl (wp_load_row 51 (.tmp t) ho g hx 51 (pc x) (0, 0) _ hg Tryd.underlying51 rfl i51 h)
/-- The bytes of a point: its y, and whether its x is odd. -/
theorem low_set31 (l : List Int) (hl : l.length = 32) (x : Int) : Bt.low (l.set 31 x) = Bt.low (l.take 31) + 256 ^ 31 * x.toNat := by
  have h := Nt.low_more (l.set 31 x) 31 (by rw [List.length_set]; omega)
  rw [List.take_of_length_le (by rw [List.length_set]; omega)] at h
  have e1 : (l.set 31 x).take 31 = l.take 31 := by
    rw [List.take_set, List.set_eq_of_length_le (by rw [List.length_take]; omega)]
  have e2 : (l.set 31 x).getD 31 0 = x := by
    rw [List.getD_eq_getElem?_getD, List.getElem?_set_self (by omega)]; rfl
  rw [e1, e2] at h
  exact h
theorem low_last (l : List Int) (hl : l.length = 32) : Bt.low l = Bt.low (l.take 31) + 256 ^ 31 * (l.getD 31 0).toNat := by
  have h := Nt.low_more l 31 (by omega)
  rw [List.take_of_length_le (by omega)] at h
  exact h
theorem rowL_len (A : Ed.Pt) : (rowL A).length = 32 := Bt.row_length _ _ _ _
theorem low_rowL {A : Ed.Pt} (hA : A.Good) : Bt.low (rowL A) = A.y.toNat := by
  unfold rowL
  refine Bt.low_row ?_
  have := hA.y.2
  simp only [Nat.reducePow]
  have h2 : Ed.q = 57896044618658097711785492504343953926634992332820282019728792003956564819949 := by decide
  omega
theorem low_encL {A : Ed.Pt} (hA : A.Good) : ((Bt.low (encL A) % 2 ^ 255 : Nat) : Int) = A.y := by
  have hq : Ed.q = 57896044618658097711785492504343953926634992332820282019728792003956564819949 := by decide
  have hy := hA.y
  have h0 := low_rowL hA
  have hlt : A.y.toNat < 2 ^ 255 := by simp only [Nat.reducePow]; omega
  unfold encL
  split
  · obtain ⟨z, hz, z0, z1⟩ := rowL_31 A
    have h1 := low_last (rowL A) (rowL_len A)
    rw [hz] at h1
    rw [low_set31 _ (rowL_len A), hz]
    have e : Bt.low ((rowL A).take 31) + 256 ^ 31 * (z + 128).toNat = A.y.toNat + 2 ^ 255 := by
      rw [← h0, h1, show (z + 128).toNat = z.toNat + 128 by omega, Nat.mul_add]
      simp only [Nat.reducePow, Nat.reduceMul]
      omega
    rw [e, Nat.add_mod_right, Nat.mod_eq_of_lt hlt]
    omega
  · rw [h0, Nat.mod_eq_of_lt hlt]
    omega
theorem top_encL {A : Ed.Pt} : ∃ v : Nat, (encL A).getD 31 0 = (v : Int) ∧ v < 256 ∧ (decide (128 ≤ v) = decide (A.x % 2 = 1)) := by
  obtain ⟨z, hz, z0, z1⟩ := rowL_31 A
  obtain ⟨v, rfl⟩ := Int.eq_ofNat_of_zero_le z0
  by_cases h : A.x % 2 = 1
  · refine ⟨v + 128, ?_, by omega, ?_⟩
    · unfold encL
      rw [if_pos h, hz, List.getD_eq_getElem?_getD, List.getElem?_set_self (by rw [rowL_len]; decide)]
      rfl
    · rw [decide_eq_true h]; exact decide_eq_true (by omega)
  · refine ⟨v, ?_, by omega, ?_⟩
    · unfold encL
      rw [if_neg h]; exact hz
    · rw [decide_eq_false h]; exact decide_eq_false (by omega)
namespace Grow
/-- A tuple of a point and whether it is one. -/
def tupS (ok : Bool) (R : Pv → Prop) : Spec := .held (fun u _ => ∃ P, u = .tuple #[.agg (pc P), .bool ok] ∧ R P) (fun _ _ _ h _ => h)
def ptR (R : Pv → Prop) : Spec := .held (fun u _ => ∃ P, u = .agg (pc P) ∧ R P) (fun _ _ _ h _ => h)
section
variable {m : Nat} {ops : Array Oper} {Q : Exit → Act → World → Prop} {specs : Nat → Spec} {a0 : Act} {w0 : World} {i : Nat} {o : Oper}
theorem h2_tup0 (hr : Runs2 ops specs a0 o) (j d : Nat) (ok : Bool) (R : Pv → Prop) (ho : o.op = .extract (.tmp d) 0) (hj : deps .any ops o j d = true) (hsj : specs j = tupS ok R) (hs : specs i = ptR R) : Hop2 Tryd.prog m ops specs Q a0 w0 i o :=
  h2_val hr fun a w hk => by
    have h := hk.deps j d hj
    rw [hsj] at h
    obtain ⟨P, e, hP⟩ := h
    refine ⟨.agg (pc P), w, ?_, by rw [hs]; exact ⟨P, rfl, hP⟩, Below.refl _ _⟩
    unfold execOp
    rw [ho]
    simp only [e]
    go_simp
theorem h2_tup1 (hr : Runs2 ops specs a0 o) (j d : Nat) (ok : Bool) (R : Pv → Prop) (ho : o.op = .extract (.tmp d) 1) (hj : deps .any ops o j d = true) (hsj : specs j = tupS ok R) (hs : specs i = .is (.bool ok)) : Hop2 Tryd.prog m ops specs Q a0 w0 i o :=
  h2_val hr fun a w hk => by
    have h := hk.deps j d hj
    rw [hsj] at h
    obtain ⟨P, e, hP⟩ := h
    refine ⟨.bool ok, w, ?_, by rw [hs]; rfl, Below.refl _ _⟩
    unfold execOp
    rw [ho]
    simp only [e]
    go_simp
theorem h2_and128 (hr : Runs2 ops specs a0 o) (j d v : Nat) (ho : o.op = .binOp .and 5 (.tmp d) (.const (.int .u8 128)) 5) (hj : deps .any ops o j d = true) (hs : specs j = .is (.int .u8 (v : Int))) (hi : specs i = .is (.int .u8 (if 128 ≤ v then 128 else 0))) (hv : v < 256) : Hop2 Tryd.prog m ops specs Q a0 w0 i o :=
  h2_val hr fun a w hk => by
    have h := hk.deps j d hj
    rw [hs] at h
    have h : a.eval (.tmp d) = .int .u8 (v : Int) := h
    have hm := and128 v hv
    refine ⟨.int .u8 (if 128 ≤ v then 128 else 0), w, ?_, by rw [hi]; rfl, Below.refl _ _⟩
    unfold execOp
    rw [ho]
    simp only [h]
    have hu := Tryd.underlying5
    go_simp
theorem h2_neq5 (hr : Runs2 ops specs a0 o) (j d v : Nat) (ho : o.op = .binOp .neq 5 (.tmp d) (.const (.int .u8 0)) 5) (hj : deps .any ops o j d = true) (hs : specs j = .is (.int .u8 (if 128 ≤ v then 128 else 0))) (hi : specs i = .is (.bool (decide (128 ≤ v)))) : Hop2 Tryd.prog m ops specs Q a0 w0 i o :=
  h2_val hr fun a w hk => by
    have h := hk.deps j d hj
    rw [hs] at h
    have h : a.eval (.tmp d) = .int .u8 (if 128 ≤ v then 128 else 0) := h
    refine ⟨.bool (decide (128 ≤ v)), w, ?_, by rw [hi]; rfl, Below.refl _ _⟩
    unfold execOp
    rw [ho]
    simp only [h]
    have hu := Tryd.underlying5
    by_cases hv : 128 ≤ v
    · rw [if_pos hv, decide_eq_true hv]
      go_simp
    · rw [if_neg hv, decide_eq_false hv]
      go_simp
end
end Grow
set_option maxRecDepth 100000 in
set_option maxHeartbeats 2000000 in
theorem read_gen (w : World) (hd : Dbl w) (g c : Nat) (p : List Int) (hp : Slc w (.slice (some ⟨g, 0, none⟩) 32 c) p) (hl : p.length = 32) (v : Nat) (hv : p.getD 31 0 = (v : Int)) (ok : Bool) (R : Pv → Prop)
    (hAt : ∀ wx y, Dbl wx → Fe.Re y (nb p) → Calls Tryd.prog 46 #[.agg (ec y), .bool (decide (128 ≤ v))] wx fun e w' => ∃ P, e = .returned (.tuple #[.agg (pc P), .bool ok]) ∧ R P ∧ Below wx.heap.size wx w')
    (hR : ok = true → ∀ P, R P → ∃ A, Rp P A ∧ encL A = p) :
    Calls Tryd.prog 24 #[.slice (some ⟨g, 0, none⟩) 32 c] w fun e w' => ∃ P, e = .returned (.tuple #[.agg (pc P), .bool ok]) ∧ (ok = true → R P) ∧ Below w.heap.size w w' := by
  have hB : Below w.heap.size w (w.alloc (.cells (pc pz) 51)) := (Below.refl _ _).alloc (Nat.le_refl _) _
  have H0 := Lib.hid (heap_alloc_new w (.cells (pc pz) 51))
  have HB := Lib.hid hB
  have HD := Lib.hid (hd.below hB hd.1)
  have HP := Lib.hid (Sl.below hp hB (Nat.le_refl _))
  have HL := Lib.hid hl
  have h8 : ∀ x ∈ p, W8 x := by obtain ⟨_, _, _, _, h, _⟩ := hp; exact h
  have hat : At w .u8 g 0 p ∧ g < w.heap.size := by
    obtain ⟨_, _, e, _, _, h⟩ := hp
    rcases h with h | ⟨b, off, h1, h2, h3⟩
    · rw [h] at hl; simp at hl
    · simp only [Value.slice.injEq] at e
      obtain ⟨e, -, -⟩ := e
      rw [h1] at e
      simp only [Option.some.injEq, Addr.mk.injEq] at e
      obtain ⟨rfl, rfl, -⟩ := e
      exact ⟨h3, h2⟩
  have hv256 : v < 256 := by
    have hm : p.getD 31 0 ∈ p := by rw [List.getD_eq_getElem?_getD, List.getElem?_eq_getElem (show 31 < p.length by omega)]; exact List.getElem_mem (show 31 < p.length by omega)
    have := h8 _ hm
    rw [hv] at this
    unfold W8 at this; omega
  have hcell := hat.1.below hB hat.2 31 (by omega)
  rw [Nat.zero_add, hv] at hcell
  have HC := Lib.hid hcell
  have HGW : Hid (g < (w.alloc (.cells (pc pz) 51)).heap.size) := Nat.lt_of_lt_of_le hat.2 hB.size
  have HV := Lib.hid hv256
  have HAT := Lib.hid hAt
  have HR := Lib.hid hR
  have HEB : Hid (Fe.Re (eb p) (nb p)) := by
    show Fe.Re _ _
    unfold eb
    rw [if_pos hl]; exact rd_re p
  have HS := Lib.hid (show (Value.slice (some ⟨g, 0, none⟩) 32 c) = .slice (some ⟨g, 0, none⟩) p.length c by rw [hl])
  clear hB hd hp hl h8 hat hv hv256 hcell hAt hR
  go_enter Tryd.func24, Tryd.ntmps24
  go_upto_region 3 with fail
  change Code.wp _ _ _ _ (w.alloc (.cells (pc pz) 51))
  generalize w.alloc (.cells (pc pz) 51) = w0 at *
  refine Grow.region_late (by kernel_rfl) 12 10 (s := 10) (d := 20) (fun i => List.getD (Grow.Spec.is (.slice (some ⟨g, 0, none⟩) 32 c) :: Grow.elem (nb p) :: Grow.Spec.is (.slice (some ⟨g, 0, none⟩) 32 c) :: Grow.Spec.is (.pointer (some ⟨g, 31, none⟩)) :: Grow.Spec.is (.int .u8 (v : Int)) :: Grow.Spec.is (.int .u8 (if 128 ≤ v then 128 else 0)) :: Grow.Spec.is (.bool (decide (128 ≤ v))) :: Grow.tupS ok R :: Grow.tupS ok R :: Grow.ptR R :: Grow.Spec.is (.bool ok) :: Grow.newBlk (pc pz) 51 w0 :: []) i (Grow.Spec.is undef)) (by kernel_rfl) rfl rfl rfl (Grow.floats_extract (j := 8) 1 rfl (by kernel_rfl) (fun u wx h => by obtain ⟨q, e, _⟩ := h; exact ⟨_, e, by simp⟩)) rfl rfl rfl (Grow.store_same 51 4 19 20 rfl (by decide) (by decide)) ⟨
    Grow.h2_free (Or.inl rfl) 0 _ rfl (by kernel_rfl) rfl rfl,
    Grow.h2_call1 (Or.inl rfl) 47 Grow.enter47 _ _ rfl (fun a wx hk => by have e1 : a.eval (.tmp 11) = .slice (some ⟨g, 0, none⟩) 32 c := (hk.deps 0 11 (by kernel_rfl)); rw [e1, HS.out]; refine (read_all wx _ c p (by rw [← HS.out]; exact Sl.below HP.out hk.below (Nat.le_refl _))).mono ?_; rintro e w5 ⟨rfl, hb⟩; exact ⟨_, rfl, ⟨_, rfl, HEB.out⟩, hb⟩),
    Grow.h2_free (Or.inl rfl) 0 _ rfl (by kernel_rfl) rfl rfl,
    Grow.h2_idx22c (Or.inl rfl) 2 13 g 32 c 31 (by decide) rfl (by kernel_rfl) rfl rfl,
    Grow.h2_load5 (Or.inl rfl) 3 14 g 31 (v : Int) rfl (by kernel_rfl) rfl HGW.out HC.out rfl,
    Grow.h2_and128 (Or.inl rfl) 4 15 v rfl (by kernel_rfl) rfl rfl HV.out,
    Grow.h2_neq5 (Or.inl rfl) 5 16 v rfl (by kernel_rfl) rfl rfl,
    Grow.h2_call2 (Or.inl rfl) 46 Grow.enter46 _ _ _ rfl (fun a wx hk => by obtain ⟨y, e1, hy⟩ : ∃ y, a.eval (.tmp 12) = .agg (ec y) ∧ Fe.Re y (nb p) := (hk.deps 1 12 (by kernel_rfl)); have e2 : a.eval (.tmp 17) = .bool (decide (128 ≤ v)) := (hk.deps 6 17 (by kernel_rfl)); rw [e1, e2]; refine (HAT.out wx y (HD.out.below hk.below HD.out.1) hy).mono ?_; rintro e w5 ⟨P, rfl, hP, hb⟩; exact ⟨_, rfl, ⟨P, rfl, hP⟩, hb⟩),
    Grow.h2_same (Or.inl rfl) 7 18 rfl (by kernel_rfl) rfl,
    Grow.h2_tup0 (Or.inl rfl) 8 10 ok R rfl (by kernel_rfl) rfl rfl,
    Grow.h2_tup1 (Or.inl rfl) 8 10 ok R rfl (by kernel_rfl) rfl rfl,
    Grow.h2_allocG (Or.inl rfl) 51 (pc pz) rfl run_alloc51 rfl,
    trivial⟩ ?_
  intro a w4 hb hts hk hdf hfr
  obtain ⟨P, e19, hP⟩ : ∃ P, a.eval (.tmp 19) = .agg (pc P) ∧ R P := hk 9 19 (by decide) rfl
  have e20 : a.eval (.tmp 20) = .bool ok := hk 10 20 (by decide) rfl
  obtain ⟨g4, e4, hz4, hg4⟩ : ∃ g, a.eval (.tmp 4) = .pointer (some ⟨g, 0, none⟩) ∧ w4.heap[g]? = some (.cells (pc pz) 51 (0, 0)) ∧ w0.heap.size ≤ g := hk 11 4 (by decide) rfl
  refine ⟨_, Grow.run_store_row 51 (.tmp 4) (.tmp 19) rfl g4 (pc P) e4 e19 51 (pc pz) hz4 i51 rfl (pc_one _), ?_⟩
  refine ⟨rfl, Grow.wp_move (.tmp 20) (Or.inr rfl) ?_⟩
  rw [e20]
  have hne : w.heap.size ≠ g4 := by have := lt_of_block H0.out; omega
  have HS4 := Lib.hid (setRow_heap w4 g4 _ (pc P) 51 _ hz4)
  have HB4 := below_setRow hb hg4 (pc P)
  have HB5 : Hid (Below w.heap.size w (w4.setRow g4 (pc P))) := HB.out.trans (HB4.mono HB.out.size)
  have HZ5 : Hid ((w4.setRow g4 (pc P)).heap[w.heap.size]? = some (.cells (pc pz) 51 (0, 0))) := (HB4.block _ (lt_of_block H0.out)).trans H0.out
  have HP5 := Lib.hid (Sl.below HP.out HB4 (Nat.le_refl _))
  have HD5 := Lib.hid (HD.out.below HB4 HD.out.1)
  have HRP := Lib.hid hP
  have ha := Grow.act_after hts hdf hfr
  rw [show Grow.dsts _ 12 = [11, 12, 13, 14, 15, 16, 17, 18, 10, 19, 20, 4] from by kernel_rfl] at ha
  simp only [Grow.putAll, e20, e4] at ha
  generalize a.eval (.tmp 11) = u11 at ha
  generalize a.eval (.tmp 12) = u12 at ha
  generalize a.eval (.tmp 13) = u13 at ha
  generalize a.eval (.tmp 14) = u14 at ha
  generalize a.eval (.tmp 15) = u15 at ha
  generalize a.eval (.tmp 16) = u16 at ha
  generalize a.eval (.tmp 17) = u17 at ha
  generalize a.eval (.tmp 18) = u18 at ha
  generalize a.eval (.tmp 10) = u10 at ha
  generalize a.eval (.tmp 19) = u19 at ha
  clear hk hts hdf hfr e19 e20 e4 hb hz4 hg4 hne hP HB4 HP HD HAT HEB HS H0 HB HC HGW
  simp [Act.put] at ha
  subst ha
  generalize w4.setRow g4 (pc P) = w5 at *
  unfold Grow.wpSeq
  cases ok
  · go_wp2_with (first
      | ((with_reducible refine wpList_store_row (o := ⟨none, _, _, _, _, _⟩) rfl 51 (.tmp 2) (.tmp 30) rfl w.heap.size (pc pz) rfl ?_ 51 (pc pz) ?_ ?_ ?_ ?_ ?_); exact rfl; exact HZ5.out; exact i51; exact rfl; exact pc_one _))
    exact bodyPost_ret (results_pt_tmp Tryd.results24 _ _ w.heap.size pz rfl (setRow_heap w5 w.heap.size _ (pc pz) 51 _ HZ5.out)) rfl ⟨pz, rfl, (fun h => by cases h), below_setRow HB5.out (Nat.le_refl _) _⟩
  · obtain ⟨A, hA, hE⟩ := HR.out rfl P HRP.out
    have HA := Lib.hid hA
    have HE := Lib.hid hE
    clear hA hE
    go_wp2_with (first
      | ((with_reducible refine wpList_store_row (o := ⟨none, _, _, _, _, _⟩) rfl 51 (.tmp 2) (.tmp 31) rfl w.heap.size (pc P) rfl rfl 51 (pc pz) ?_ ?_ ?_ ?_ ?_); exact HZ6.out; exact i51; exact rfl; exact pc_one _)
      | ((with_reducible refine wpList_load_row (o := ⟨some 31, _, _, _, _, _⟩) rfl 51 (.tmp 4) rfl g4 rfl 51 _ (0, 0) _ HS6.out Tryd.underlying51 rfl ?_ ?_); exact i51)
      | (go_at_call 48; refine (equal_yes _ _ _ p HQ6.out HP6.out).mono ?_; rintro e w7 ⟨rfl, rfl⟩)
      | (go_at_call 42; refine (pbytes_any _ HD5.out P A HA.out).mono ?_; rintro e w6 ⟨gb, rfl, h1, h2, hb⟩; have HQ6 : Hid (Slc w6 (.slice (some ⟨gb, 0, none⟩) 32 32) p) := (by have h3 := slc_lie h1 (encL_len A) (Nat.le_refl _) (encL_w8 A); rw [HE.out] at h3; exact h3); have HP6 := Lib.hid (Sl.below HP5.out hb (Nat.le_refl _)); have HZ6 := Lib.hid ((hb.block _ (lt_of_block HZ5.out)).trans HZ5.out); have HS6 := Lib.hid ((hb.block _ (lt_of_block HS4.out)).trans HS4.out); have HB6 := Lib.hid (HB5.out.trans (hb.mono HB5.out.size)); clear hb h1 h2)
      | ((with_reducible refine load_ptG (o := ⟨some 24, _, _, _, _, _⟩) P 4 g4 rfl rfl HS4.out ?_ ?_); exact rfl))
    exact bodyPost_ret (results_pt_tmp Tryd.results24 _ _ w.heap.size P rfl (setRow_heap w6 w.heap.size _ (pc P) 51 _ HZ6.out)) rfl ⟨P, rfl, HRP.out, below_setRow HB6.out (Nat.le_refl _) _⟩
end Go.Proofs.YtiinmdleechcgaaDoor
namespace Go.Proofs.YtiinmdleechcgaaDoor
open Go.RowKit
def ba (l : List Int) : Array Value := (l.map (Value.int .u8)).toArray
theorem info5s : ∃ i, Tryd.prog.info? 5 = some i ∧ i.size = 1 := by
  have h : (Tryd.prog.info? 5).map (·.size) = some 1 := by kernel_rfl
  cases hi : Tryd.prog.info? 5 with
  | none => rw [hi] at h; cases h
  | some i => rw [hi] at h; exact ⟨i, rfl, by simpa using h⟩
theorem cells5 : Tryd.prog.cellsOf 5 = 1 := by kernel_rfl
theorem part5 (l : List Int) (w : World) (j : Nat) (hj : j < l.length) : (part 5 (ba l) (j * 1)).run Tryd.prog w = .ok (.int .u8 (l.getD j 0)) w := by
  have h2 := Tryd.sizeOf5
  have h3 := Tryd.isAgg5
  simp [part, h2, h3, ba, hj]
theorem items5 (l : List Int) (w : World) (d : Nat) : ∀ is : List Nat, (∀ j ∈ is, j < l.length) → (Op.eqItems (d + 1) 5 1 (ba l) (ba l) is).run Tryd.prog w = .ok true w
  | [], _ => by simp [Op.eqItems]
  | j :: is, h => by
    have hj := h j List.mem_cons_self
    have ih := items5 l w d is (fun k hk => h k (List.mem_cons_of_mem _ hk))
    have he := run_equalIn_int (P := Tryd.prog) w d 5 .u8 .u8 (l.getD j 0) (l.getD j 0) Tryd.underlying5
    unfold Op.eqItems
    simp only [Sem.run_bind, part5 l w j hj, he, Result.andThen_ok]
    simpa using ih
theorem eq44 (l : List Int) (hl : l.length = 32) (w : World) : (Op.equalIn 10000 44 (.agg (ba l)) (.agg (ba l))).run Tryd.prog w = .ok true w := by
  obtain ⟨i, hi, hs⟩ := info5s
  rw [show (10000 : Nat) = 9999 + 1 from rfl, run_equalIn_array w 9999 (ba l) (ba l) Tryd.underlying44 hi, cells5]
  rw [show (9999 : Nat) = 9998 + 1 from rfl]
  exact items5 l w 9998 (List.range 32) (fun j hj => by have := List.mem_range.1 hj; omega)
namespace Grow
section
variable {m : Nat} {ops : Array Oper} {Q : Exit → Act → World → Prop} {specs : Nat → Spec} {a0 : Act} {w0 : World} {i : Nat} {o : Oper}
theorem h2_neq44 (hr : Runs2 ops specs a0 o) (j1 d1 j2 d2 : Nat) (l : List Int) (hl : l.length = 32) (ho : o.op = .binOp .neq 44 (.tmp d1) (.tmp d2) 44) (hj1 : deps .any ops o j1 d1 = true) (hj2 : deps .any ops o j2 d2 = true) (hs1 : specs j1 = .is (bv l)) (hs2 : specs j2 = .is (bv l)) (hi : specs i = .is (.bool false)) : Hop2 Tryd.prog m ops specs Q a0 w0 i o :=
  h2_val hr fun a w hk => by
    have h1 := hk.deps j1 d1 hj1
    have h2 := hk.deps j2 d2 hj2
    rw [hs1] at h1
    rw [hs2] at h2
    have h1 : a.eval (.tmp d1) = .agg (ba l) := h1
    have h2 : a.eval (.tmp d2) = .agg (ba l) := h2
    have hrun := eq44 l hl w
    have hu := Tryd.underlying44
    have hu2 := Tryd.underlying5
    refine ⟨.bool false, w, ?_, by rw [hi]; rfl, Below.refl _ _⟩
    clear hk hi hs1 hs2 hj1 hj2
    unfold execOp
    rw [ho]
    simp only [h1, h2]
    generalize ba l = x at *
    go_simp
theorem h2_hd22 (hr : Runs2 ops specs a0 o) (j d g c : Nat) (hc : 64 ≤ c) (ho : o.op = .slice 22 (.tmp d) none (some (.const (.int .i64 32))) none) (hj : deps .any ops o j d = true) (hs : specs j = .is (.slice (some ⟨g, 0, none⟩) 64 c)) (hi : specs i = .is (.slice (some ⟨g, 0, none⟩) 32 c)) : Hop2 Tryd.prog m ops specs Q a0 w0 i o :=
  h2_val hr fun a w hk => by
    have h := hk.deps j d hj
    rw [hs] at h
    have h : a.eval (.tmp d) = .slice (some ⟨g, 0, none⟩) 64 c := h
    refine ⟨.slice (some ⟨g, 0, none⟩) 32 c, w, ?_, by rw [hi]; rfl, Below.refl _ _⟩
    unfold execOp
    rw [ho]
    simp only [h, Option.map_none, Option.map_some]
    have hu := Tryd.underlying22
    go_simp
    intro hh
    omega
theorem h2_tl22 (hr : Runs2 ops specs a0 o) (j d g c : Nat) (hc : 64 ≤ c) (ho : o.op = .slice 22 (.tmp d) (some (.const (.int .i64 32))) none none) (hj : deps .any ops o j d = true) (hs : specs j = .is (.slice (some ⟨g, 0, none⟩) 64 c)) (hi : specs i = .is (.slice (some ⟨g, 32, none⟩) 32 (c - 32))) : Hop2 Tryd.prog m ops specs Q a0 w0 i o :=
  h2_val hr fun a w hk => by
    have h := hk.deps j d hj
    rw [hs] at h
    have h : a.eval (.tmp d) = .slice (some ⟨g, 0, none⟩) 64 c := h
    refine ⟨.slice (some ⟨g, 32, none⟩) 32 (c - 32), w, ?_, by rw [hi]; rfl, Below.refl _ _⟩
    unfold execOp
    rw [ho]
    simp only [h, Option.map_none, Option.map_some]
    have hu := Tryd.underlying22
    go_simp
    omega
theorem h2_arr44 (hr : Runs2 ops specs a0 o) (j d g c : Nat) (ho : o.op = .sliceToArrayPointer 44 (.tmp d)) (hj : deps .any ops o j d = true) (hs : specs j = .is (.slice (some ⟨g, 32, none⟩) 32 c)) (hi : specs i = .is (.pointer (some ⟨g, 32, none⟩))) : Hop2 Tryd.prog m ops specs Q a0 w0 i o :=
  h2_val hr fun a w hk => by
    have h := hk.deps j d hj
    rw [hs] at h
    have h : a.eval (.tmp d) = .slice (some ⟨g, 32, none⟩) 32 c := h
    refine ⟨.pointer (some ⟨g, 32, none⟩), w, ?_, by rw [hi]; rfl, Below.refl _ _⟩
    unfold execOp
    rw [ho]
    simp only [h]
    have hu := Tryd.underlying44
    simp [Instr.arrayAt, run_underlying hu]
theorem h2_load44 (hr : Runs2 ops specs a0 o) (j d g : Nat) (l r : List Int) (h1 : l.length = 32) (h2 : r.length = 32) (ho : o.op = .load 44 (.tmp d)) (hj : deps .any ops o j d = true) (hs : specs j = .is (.pointer (some ⟨g, 32, none⟩))) (hg : g < w0.heap.size) (hat : At w0 .u8 g 0 (l ++ r)) (hi : specs i = .is (bv r)) : Hop2 Tryd.prog m ops specs Q a0 w0 i o :=
  h2_wp hr fun a w hk => by
    have h := hk.deps j d hj
    rw [hs] at h
    have h : a.eval (.tmp d) = .pointer (some ⟨g, 32, none⟩) := h
    have hrange : w.rangeAt g 32 (r.map (Value.int .u8)) := by
      intro q v hq
      have hql : q < r.length := by
        have := (List.getElem?_eq_some_iff.1 hq).1
        simpa using this
      have hc := hat.below hk.below hg (32 + q) (by rw [List.length_append]; omega)
      rw [Nat.zero_add] at hc
      rw [hc, List.getD_eq_getElem?_getD, List.getElem?_append_right (by omega), h1, show 32 + q - 32 = q by omega]
      rw [List.getElem?_map, List.getElem?_eq_getElem hql] at hq
      rw [List.getElem?_eq_getElem hql]
      simpa using hq
    refine wp_load_mid 44 (.tmp d) ho g 32 h _ _ hrange Tryd.underlying44 rfl (by rw [List.length_map, h2]; exact i44) ?_
    exact ⟨_, rfl, by rw [hi]; rfl, Below.refl _ _⟩
theorem h2_all44 (hr : Runs2 ops specs a0 o) (t g : Nat) (ho : o.op = .slice 44 (.tmp t) none none none) (hf : free2 ops m t = true) (hv : a0.eval (.tmp t) = .pointer (some ⟨g, 0, none⟩)) (hi : specs i = .is (.slice (some ⟨g, 0, none⟩) 32 32)) : Hop2 Tryd.prog m ops specs Q a0 w0 i o :=
  h2_val hr fun a w hk => by
    have h : a.eval (.tmp t) = .pointer (some ⟨g, 0, none⟩) := (hk.rest t hf).trans hv
    refine ⟨.slice (some ⟨g, 0, none⟩) 32 32, w, ?_, by rw [hi]; rfl, Below.refl _ _⟩
    unfold execOp
    rw [ho]
    simp only [h, Option.map_none]
    have hu := Tryd.underlying44
    go_simp
theorem enter24 (args : Array Value) (w : World) : (callFunc 24 args).run Tryd.prog w = .ok (.enter 24 args) w := by
  have := Tryd.func24
  go_simp
theorem enter25 (args : Array Value) (w : World) : (callFunc 25 args).run Tryd.prog w = .ok (.enter 25 args) w := by
  have := Tryd.func25
  go_simp
theorem enter28 (args : Array Value) (w : World) : (callFunc 28 args).run Tryd.prog w = .ok (.enter 28 args) w := by
  have := Tryd.func28
  go_simp
end
end Grow
/-- What lies where: points, rows of 32 bytes. -/
structure Cs (w0 : World) (pts : List (Nat × Pv)) (arr : List (Nat × List Int)) (w : World) : Prop where
  pts : ∀ r ∈ pts, w.heap[r.1]? = some (.cells (pc r.2) 51 (0, 0))
  arr : ∀ r ∈ arr, Blk w r.1 .u8 44 r.2
  gl : Gl w
  be : Below w0.heap.size w0 w
section
variable {w0 w w5 : World} {pts : List (Nat × Pv)} {arr : List (Nat × List Int)}
theorem Cs.below (h : Cs w0 pts arr w) (hb : Below w.heap.size w w5) : Cs w0 pts arr w5 :=
  ⟨fun r hr => (hb.block _ (lt_of_block (h.pts r hr))).trans (h.pts r hr), fun r hr => (h.arr r hr).other (hb.block _ (h.arr r hr).lt), h.gl.below hb h.gl.size, h.be.trans (hb.mono h.be.size)⟩
theorem Cs.putP (h : Cs w0 pts arr w) (hb : Below w.heap.size w w5) {g : Nat} (hg : w.heap.size ≤ g) {z : Pv} (hz : w5.heap[g]? = some (.cells (pc z) 51 (0, 0))) (P : Pv) : Cs w0 ((g, P) :: pts) arr (w5.setRow g (pc P)) := by
  have h' := h.below (below_setRow hb hg (pc P))
  refine ⟨fun r hr => ?_, h'.arr, h'.gl, h'.be⟩
  rcases List.mem_cons.1 hr with rfl | hr
  · exact setRow_heap w5 g _ (pc P) 51 _ hz
  · exact h'.pts r hr
theorem Cs.putA (h : Cs w0 pts arr w) (hb : Below w.heap.size w w5) {g : Nat} (hg : w.heap.size ≤ g) {z : Array Value} (hz : w5.heap[g]? = some (.cells z 44 (0, 0))) (l : List Int) : Cs w0 pts ((g, l) :: arr) (w5.setRow g (ba l)) := by
  have h' := h.below (below_setRow hb hg (ba l))
  refine ⟨h'.pts, fun r hr => ?_, h'.gl, h'.be⟩
  rcases List.mem_cons.1 hr with rfl | hr
  · exact setRow_heap w5 g _ (ba l) 44 _ hz
  · exact h'.arr r hr
theorem Cs.start {w : World} (h : Gl w) : Cs w [] [] w := ⟨fun _ h => (List.not_mem_nil h).elim, fun _ h => (List.not_mem_nil h).elim, h, Below.refl _ _⟩
end
theorem ba_size {l : List Int} (h : l.length = 32) : (Tryd.prog.info? 44).map (·.size) = some (ba l).size := by rw [i44]; simp [ba, h]
/-- Read finds the point of a point's bytes. -/
theorem read_point (w : World) (hd : Dbl w) (g c : Nat) (A : Ed.Pt) (hA : A.Good) (hp : Slc w (.slice (some ⟨g, 0, none⟩) 32 c) (encL A)) :
    Calls Tryd.prog 24 #[.slice (some ⟨g, 0, none⟩) 32 c] w fun e w' => ∃ P, e = .returned (.tuple #[.agg (pc P), .bool true]) ∧ Rp P A ∧ Below w.heap.size w w' := by
  obtain ⟨v, hv, hv2, hodd⟩ := top_encL (A := A)
  refine (read_gen w hd g c (encL A) hp (encL_len A) v hv true (fun P => Rp P A) (fun wx y hdx hy => ?_) (fun _ P hP => ⟨A, hP, rfl⟩)).mono ?_
  · refine (at_any wx hdx y _ hy (decide (128 ≤ v))).mono ?_
    rintro e w' ⟨P, ok, rfl, _, h, hb⟩
    obtain ⟨rfl, hP⟩ := h A hA (low_encL hA).symm hodd.symm
    exact ⟨P, rfl, hP, hb⟩
  · rintro e w' ⟨P, rfl, h, hb⟩
    exact ⟨P, rfl, h rfl, hb⟩
/-- Read finds none where no point has the y. -/
theorem read_nopt (w : World) (hd : Dbl w) (g c : Nat) (p : List Int) (hp : Slc w (.slice (some ⟨g, 0, none⟩) 32 c) p) (hl : p.length = 32) (hn : hasRoot (sqOf (nb p)) = false) :
    Calls Tryd.prog 24 #[.slice (some ⟨g, 0, none⟩) 32 c] w fun e w' => ∃ P, e = .returned (.tuple #[.agg (pc P), .bool false]) ∧ Below w.heap.size w w' := by
  have h8 : W8 (p.getD 31 0) := by
    obtain ⟨_, _, _, _, h, _⟩ := hp
    exact h _ (by rw [List.getD_eq_getElem?_getD, List.getElem?_eq_getElem (show 31 < p.length by omega)]; exact List.getElem_mem (show 31 < p.length by omega))
  obtain ⟨v, hv⟩ := Int.eq_ofNat_of_zero_le h8.1
  refine (read_gen w hd g c p hp hl v hv false (fun _ => True) (fun wx y hdx hy => ?_) (fun h => by cases h)).mono ?_
  · refine (at_any wx hdx y _ hy (decide (128 ≤ v))).mono ?_
    rintro e w' ⟨P, ok, rfl, h, _, hb⟩
    obtain ⟨rfl, _⟩ := h hn
    exact ⟨P, rfl, trivial, hb⟩
  · rintro e w' ⟨P, rfl, _, hb⟩
    exact ⟨P, rfl, hb⟩
set_option maxRecDepth 100000 in
set_option maxHeartbeats 2000000 in
theorem check_any (w : World) (hg : Gl w) (gp cp gs cs : Nat) (vm : Value) (M F : List Int) (A : Ed.Pt) (hA : A.Good) (S : Nat) (hS : S < Ed.nn) (hP : Slc w (.slice (some ⟨gp, 0, none⟩) 32 cp) (encL A)) (hM : Slc w vm M) (hm : M.length ≤ 100000)
    (hgs : gs < w.heap.size) (hat : At w .u8 gs 0 (F ++ Sn.en S)) (hF : F.length = 32) (hF8 : ∀ b ∈ F, W8 b) (hcs : 64 ≤ cs) (ok : Bool)
    (hok : (ok = true ∧ ∃ R : Ed.Pt, R.Good ∧ F = encL R ∧ Ed.mul S Ed.B = Ed.add R (Ed.mul (chN F (encL A) M) A)) ∨ (ok = false ∧ hasRoot (sqOf (nb F)) = false)) :
    Calls Tryd.prog 8 #[.slice (some ⟨gp, 0, none⟩) 32 cp, vm, .slice (some ⟨gs, 0, none⟩) 64 cs] w fun e w' => e = .returned (.bool ok) ∧ Below w.heap.size w w' := by
  have S0 := Lib.hid (Cs.start hg)
  have HP := Lib.hid hP
  have HM := Lib.hid hM
  have HML := Lib.hid hm
  have HA := Lib.hid hA
  have HSN := Lib.hid hS
  have HLOW : Hid (Bt.low (Sn.en S) % Ed.nn = S) := by
    show _ = _
    rw [Sn.en_low (nn_256 hS), Nat.mod_eq_of_lt hS]
  have HGS := Lib.hid hgs
  have HAT := Lib.hid hat
  have HF := Lib.hid hF
  have HCS := Lib.hid hcs
  have HOK := Lib.hid hok
  have HFS : Hid (Slc w (.slice (some ⟨gs, 0, none⟩) 32 cs) F) := by
    refine ⟨_, cs, by rw [hF], by omega, hF8, Or.inr ⟨gs, 0, rfl, hgs, fun j hj => ?_⟩⟩
    have h := hat j (by rw [List.length_append]; omega)
    rw [List.getD_eq_getElem?_getD, List.getElem?_append_left hj] at h
    rw [List.getD_eq_getElem?_getD]
    exact h
  clear hg hP hM hm hA hS hgs hat hF hF8 hcs hok
  go_enter Tryd.func8, Tryd.ntmps8
  go_upto_region 3 with fail
  refine Grow.region_rest (by kernel_rfl) 8 (fun i => List.getD (Grow.Spec.is (.slice (some ⟨gs, 0, none⟩) 64 cs) :: Grow.Spec.is (.slice (some ⟨gs, 0, none⟩) 32 cs) :: Grow.Spec.is (.slice (some ⟨gs, 0, none⟩) 64 cs) :: Grow.Spec.is (.slice (some ⟨gs, 32, none⟩) 32 (cs - 32)) :: Grow.Spec.is (.pointer (some ⟨gs, 32, none⟩)) :: Grow.Spec.is (bv (Sn.en S)) :: Grow.newBlk ((List.replicate 32 (0 : Int)).map (Value.int .u8)).toArray 44 w :: Grow.Spec.is (.slice (some ⟨gs, 0, none⟩) 32 cs) :: []) i (Grow.Spec.is undef)) (by kernel_rfl) ⟨
    Grow.h2_free (Or.inl rfl) 2 _ rfl (by kernel_rfl) rfl rfl,
    Grow.h2_hd22 (Or.inl rfl) 0 17 gs cs HCS.out rfl (by kernel_rfl) rfl rfl,
    Grow.h2_free (Or.inl rfl) 2 _ rfl (by kernel_rfl) rfl rfl,
    Grow.h2_tl22 (Or.inl rfl) 2 19 gs cs HCS.out rfl (by kernel_rfl) rfl rfl,
    Grow.h2_arr44 (Or.inl rfl) 3 20 gs (cs - 32) rfl (by kernel_rfl) rfl rfl,
    Grow.h2_load44 (Or.inl rfl) 4 21 gs F (Sn.en S) HF.out (Sn.en_len S) rfl (by kernel_rfl) rfl HGS.out HAT.out rfl,
    Grow.h2_allocG (Or.inl rfl) 44 ((List.replicate 32 (0 : Int)).map (Value.int .u8)).toArray rfl run_alloc44 rfl,
    Grow.h2_move (Or.inl rfl) (.tmp 18) (Or.inr rfl) (fun a wx hk => hk.deps 1 18 (by kernel_rfl)),
    trivial⟩ ?_
  intro a w4 hb hts hk hdf hfr
  have e22 : a.eval (.tmp 22) = .agg (ba (Sn.en S)) := hk 5 22 (by decide) rfl
  have e7 : a.eval (.tmp 7) = .slice (some ⟨gs, 0, none⟩) 32 cs := hk 7 7 (by decide) rfl
  obtain ⟨g8, e8, hz8, hg8⟩ : ∃ g, a.eval (.tmp 8) = .pointer (some ⟨g, 0, none⟩) ∧ w4.heap[g]? = some (.cells ((List.replicate 32 (0 : Int)).map (Value.int .u8)).toArray 44 (0, 0)) ∧ w.heap.size ≤ g := hk 6 8 (by decide) rfl
  refine ⟨rfl, wp_store_row 44 (.tmp 8) (.tmp 22) rfl g8 (ba (Sn.en S)) e8 e22 44 ((List.replicate 32 (0 : Int)).map (Value.int .u8)).toArray hz8 (ba_size (Sn.en_len S)) (by simp [ba, Sn.en_len]) (bytes32_one _) ?_⟩
  have S1 := Lib.hid (S0.out.putA hb hg8 hz8 (Sn.en S))
  have ha := Grow.act_after hts hdf hfr
  rw [show Grow.dsts _ 8 = [17, 18, 19, 20, 21, 22, 8, 7] from by kernel_rfl] at ha
  simp only [Grow.putAll, e7, e8] at ha
  generalize a.eval (.tmp 17) = u17 at ha
  generalize a.eval (.tmp 18) = u18 at ha
  generalize a.eval (.tmp 19) = u19 at ha
  generalize a.eval (.tmp 20) = u20 at ha
  generalize a.eval (.tmp 21) = u21 at ha
  generalize a.eval (.tmp 22) = u22 at ha
  clear hk hts hdf hfr e22 e7 e8 hb hz8 hg8 S0
  simp [Act.put] at ha
  subst ha
  generalize w4.setRow g8 (ba (Sn.en S)) = w5 at *
  unfold Grow.wpSeq
  go_upto_region 4 with fail
  refine Grow.region_all (by kernel_rfl) 5 (fun i => List.getD (Grow.Spec.is (.slice (some ⟨g8, 0, none⟩) 32 32) :: Grow.Spec.is (.agg (Sn.nv S)) :: Grow.Spec.is (bv (Sn.en S)) :: Grow.Spec.is (bv (Sn.en S)) :: Grow.Spec.is (.bool false) :: []) i (Grow.Spec.is undef)) rfl (by kernel_rfl) ⟨
    Grow.h2_all44 (Or.inl rfl) 8 g8 rfl (by kernel_rfl) rfl rfl,
    Grow.h2_call1 (Or.inl rfl) 23 Grow.enter23 _ _ rfl (fun a wx hk => by have e1 : a.eval (.tmp 23) = .slice (some ⟨g8, 0, none⟩) 32 32 := (hk.deps 0 23 (by kernel_rfl)); have S2 := S1.out.below hk.below; rw [e1]; refine (modulo_any wx S2.gl.ord g8 32 32 (Sn.en S) (S2.arr (g8, Sn.en S) (by simp)).at (S2.arr (g8, Sn.en S) (by simp)).lt (Sn.en_len S) (by decide) (Sn.en_w8 S)).mono ?_; rw [HLOW.out]; rintro e w5 ⟨rfl, hb⟩; exact ⟨_, rfl, rfl, hb⟩),
    Grow.h2_call1 (Or.inl rfl) 22 Grow.enter22 _ _ rfl (fun a wx hk => by have e1 : a.eval (.tmp 24) = .agg (Sn.nv S) := (hk.deps 1 24 (by kernel_rfl)); rw [e1]; refine (sbytes_any wx S).mono ?_; rintro e w5 ⟨rfl, hb⟩; exact ⟨_, rfl, rfl, hb⟩),
    Grow.h2_row (Or.inl rfl) 8 g8 44 (ba (Sn.en S)) _ rfl Tryd.underlying44 (ba_size (Sn.en_len S)) rfl (by kernel_rfl) rfl (S1.out.arr (g8, Sn.en S) (by simp)) rfl,
    Grow.h2_neq44 (Or.inl rfl) 2 25 3 26 (Sn.en S) (Sn.en_len S) rfl (by kernel_rfl) (by kernel_rfl) rfl rfl rfl,
    trivial⟩ ?_
  intro a w6 hb hts hk hdf hfr
  have e27 : a.eval (.tmp 27) = .bool false := hk 4 27 (by decide) rfl
  have S2 := Lib.hid (S1.out.below hb)
  have ha := Grow.act_after hts hdf hfr
  rw [show Grow.dsts _ 5 = [23, 24, 25, 26, 27] from by kernel_rfl] at ha
  simp only [Grow.putAll, e27] at ha
  generalize a.eval (.tmp 23) = u23 at ha
  generalize a.eval (.tmp 24) = u24 at ha
  generalize a.eval (.tmp 25) = u25 at ha
  generalize a.eval (.tmp 26) = u26 at ha
  clear hk hts hdf hfr e27 hb S1
  simp [Act.put] at ha
  subst ha
  go_upto_region 6 with fail
  refine Grow.region_seq 6 (fun i => List.getD (Grow.Spec.is (.slice (some ⟨gp, 0, none⟩) 32 cp) :: Grow.tupS true (fun P => Rp P A) :: Grow.tupS true (fun P => Rp P A) :: Grow.ptR (fun P => Rp P A) :: Grow.Spec.is (.bool true) :: Grow.newBlk (pc pz) 51 w6 :: []) i (Grow.Spec.is undef)) (by kernel_rfl) ⟨
    Grow.h2_free (Or.inl rfl) 0 _ rfl (by kernel_rfl) rfl rfl,
    Grow.h2_call1 (Or.inl rfl) 24 Grow.enter24 _ _ rfl (fun a wx hk => by have e1 : a.eval (.tmp 29) = .slice (some ⟨gp, 0, none⟩) 32 cp := (hk.deps 0 29 (by kernel_rfl)); have SX := S2.out.below hk.below; rw [e1]; refine (read_point wx SX.gl.dbl gp cp A HA.out (Sl.below HP.out SX.be (Nat.le_refl _))).mono ?_; rintro e w5 ⟨P, rfl, hP, hb⟩; exact ⟨_, rfl, ⟨P, rfl, hP⟩, hb⟩),
    Grow.h2_same (Or.inl rfl) 1 30 rfl (by kernel_rfl) rfl,
    Grow.h2_tup0 (Or.inl rfl) 2 28 true (fun P => Rp P A) rfl (by kernel_rfl) rfl rfl,
    Grow.h2_tup1 (Or.inl rfl) 2 28 true (fun P => Rp P A) rfl (by kernel_rfl) rfl rfl,
    Grow.h2_allocG (Or.inl rfl) 51 (pc pz) rfl run_alloc51 rfl,
    trivial⟩ ?_
  intro a w7 hb hts hk hdf hfr
  obtain ⟨PK, eP, hPK⟩ : ∃ P, a.eval (.tmp 31) = .agg (pc P) ∧ (fun P => Rp P A) P := hk 3 31 (by decide) rfl
  have eok : a.eval (.tmp 32) = .bool true := hk 4 32 (by decide) rfl
  obtain ⟨gK, eg, hzg, hgg⟩ : ∃ g, a.eval (.tmp 9) = .pointer (some ⟨g, 0, none⟩) ∧ w7.heap[g]? = some (.cells (pc pz) 51 (0, 0)) ∧ w6.heap.size ≤ g := hk 5 9 (by decide) rfl
  refine ⟨rfl, wp_store_row 51 (.tmp 9) (.tmp 31) rfl gK (pc PK) eg eP 51 (pc pz) hzg i51 rfl (pc_one _) ?_⟩
  refine ⟨rfl, Grow.wp_assign 10 (.tmp 32) rfl rfl ?_⟩
  change Grow.wpSeq _ _ _ _ (a.put (some 10) (a.eval (.tmp 32))) _
  rw [eok]
  have S3 := Lib.hid (S2.out.putP hb hgg hzg PK)
  have HRK := Lib.hid hPK
  have ha := Grow.act_after hts hdf hfr
  rw [show Grow.dsts _ 6 = [29, 30, 28, 31, 32, 9] from by kernel_rfl] at ha
  simp only [Grow.putAll, eok, eg] at ha
  generalize a.eval (.tmp 29) = u29 at ha
  generalize a.eval (.tmp 30) = u30 at ha
  generalize a.eval (.tmp 28) = u28 at ha
  generalize a.eval (.tmp 31) = u31 at ha
  clear hk hts hdf hfr eP eok eg hzg hgg hb hPK S2
  simp [Act.put] at ha
  subst ha
  generalize w7.setRow gK (pc PK) = w8 at *
  unfold Grow.wpSeq
  go_upto_region 7 with fail
  rcases HOK.out with ⟨rfl, R, hRg, hFR, hEq⟩ | ⟨rfl, hno⟩
  · have HRG := Lib.hid hRg
    have HFR := Lib.hid hFR
    obtain ⟨h, hh⟩ : ∃ h, h = chN F (encL A) M := ⟨_, rfl⟩
    have HH : Hid (chN F (encL A) M = h) := hh.symm
    have HEQ : Hid (Ed.mul S Ed.B = Ed.add R (Ed.mul h A)) := by rw [hh]; exact hEq
    have LH : Hid (h < Ed.nn) := by rw [hh]; exact dg_lt _
    have HEN : Hid (Bt.low (Sn.en S) = S) := Sn.en_low (nn_256 HSN.out)
    have HENH : Hid (Bt.low (Sn.en h) = h) := Sn.en_low (nn_256 LH.out)
    clear hRg hFR hh hEq HOK
    refine Grow.region_seq 6 (fun i => List.getD (Grow.Spec.is (.slice (some ⟨gs, 0, none⟩) 32 cs) :: Grow.tupS true (fun P => Rp P R) :: Grow.tupS true (fun P => Rp P R) :: Grow.ptR (fun P => Rp P R) :: Grow.Spec.is (.bool true) :: Grow.newBlk (pc pz) 51 w8 :: []) i (Grow.Spec.is undef)) (by kernel_rfl) ⟨
      Grow.h2_free (Or.inl rfl) 7 _ rfl (by kernel_rfl) rfl rfl,
      Grow.h2_call1 (Or.inl rfl) 24 Grow.enter24 _ _ rfl (fun a wx hk => by have e1 : a.eval (.tmp 34) = .slice (some ⟨gs, 0, none⟩) 32 cs := (hk.deps 0 34 (by kernel_rfl)); have SX := S3.out.below hk.below; rw [e1]; refine (read_point wx SX.gl.dbl gs cs R HRG.out (by rw [← HFR.out]; exact Sl.below HFS.out SX.be (Nat.le_refl _))).mono ?_; rintro e w5 ⟨P, rfl, hP, hb⟩; exact ⟨_, rfl, ⟨P, rfl, hP⟩, hb⟩),
      Grow.h2_same (Or.inl rfl) 1 35 rfl (by kernel_rfl) rfl,
      Grow.h2_tup0 (Or.inl rfl) 2 33 true (fun P => Rp P R) rfl (by kernel_rfl) rfl rfl,
      Grow.h2_tup1 (Or.inl rfl) 2 33 true (fun P => Rp P R) rfl (by kernel_rfl) rfl rfl,
      Grow.h2_allocG (Or.inl rfl) 51 (pc pz) rfl run_alloc51 rfl,
      trivial⟩ ?_
    intro a w9 hb hts hk hdf hfr
    obtain ⟨PT, eP, hPT⟩ : ∃ P, a.eval (.tmp 36) = .agg (pc P) ∧ (fun P => Rp P R) P := hk 3 36 (by decide) rfl
    have eok : a.eval (.tmp 37) = .bool true := hk 4 37 (by decide) rfl
    obtain ⟨gT, eg, hzg, hgg⟩ : ∃ g, a.eval (.tmp 11) = .pointer (some ⟨g, 0, none⟩) ∧ w9.heap[g]? = some (.cells (pc pz) 51 (0, 0)) ∧ w8.heap.size ≤ g := hk 5 11 (by decide) rfl
    refine ⟨rfl, wp_store_row 51 (.tmp 11) (.tmp 36) rfl gT (pc PT) eg eP 51 (pc pz) hzg i51 rfl (pc_one _) ?_⟩
    refine ⟨rfl, Grow.wp_assign 12 (.tmp 37) rfl rfl ?_⟩
    change Grow.wpSeq _ _ _ _ (a.put (some 12) (a.eval (.tmp 37))) _
    rw [eok]
    have S4 := Lib.hid (S3.out.putP hb hgg hzg PT)
    have HRT := Lib.hid hPT
    have ha := Grow.act_after hts hdf hfr
    rw [show Grow.dsts _ 6 = [34, 35, 33, 36, 37, 11] from by kernel_rfl] at ha
    simp only [Grow.putAll, eok, eg] at ha
    generalize a.eval (.tmp 34) = u34 at ha
    generalize a.eval (.tmp 35) = u35 at ha
    generalize a.eval (.tmp 33) = u33 at ha
    generalize a.eval (.tmp 36) = u36 at ha
    clear hk hts hdf hfr eP eok eg hzg hgg hb hPT S3
    simp [Act.put] at ha
    subst ha
    generalize w9.setRow gT (pc PT) = w10 at *
    unfold Grow.wpSeq
    go_upto_region 10 with fail
    refine Grow.region_seq 7 (fun i => List.getD (Grow.Spec.slc F :: Grow.Spec.slc (encL A) :: Grow.Spec.slc M :: Grow.partsS [F, encL A, M] :: Grow.Spec.is (.agg (Sn.nv h)) :: Grow.Spec.is (bv (Sn.en h)) :: Grow.newBlk ((List.replicate 32 (0 : Int)).map (Value.int .u8)).toArray 44 w10 :: []) i (Grow.Spec.is undef)) (by kernel_rfl) ⟨
      Grow.h2_move (Or.inl rfl) (.tmp 7) (Or.inl rfl) (fun a wx hk => by have e : a.eval (.tmp 7) = .slice (some ⟨gs, 0, none⟩) 32 cs := hk.rest 7 (by kernel_rfl); rw [e]; exact Sl.below HFS.out (S4.out.below hk.below).be (Nat.le_refl _)),
      Grow.h2_move (Or.inl rfl) (.tmp 0) (Or.inl rfl) (fun a wx hk => by have e : a.eval (.tmp 0) = .slice (some ⟨gp, 0, none⟩) 32 cp := hk.rest 0 (by kernel_rfl); rw [e]; exact Sl.below HP.out (S4.out.below hk.below).be (Nat.le_refl _)),
      Grow.h2_move (Or.inl rfl) (.tmp 1) (Or.inl rfl) (fun a wx hk => by have e : a.eval (.tmp 1) = vm := hk.rest 1 (by kernel_rfl); rw [e]; exact Sl.below HM.out (S4.out.below hk.below).be (Nat.le_refl _)),
      Grow.h2_parts3 (Or.inl rfl) 0 44 1 45 2 46 _ _ _ rfl (by kernel_rfl) (by kernel_rfl) (by kernel_rfl) rfl rfl rfl rfl,
      Grow.h2_call2 (Or.inl rfl) 19 Grow.enter19 _ _ _ rfl (fun a wx hk => by have hp : Sha.Parts wx (a.eval (.tmp 47)) [F, encL A, M] := (hk.deps 3 47 (by kernel_rfl)); refine (chal_any wx (S4.out.below hk.below).gl _ _ _ _ hp (by rw [HF.out]; decide) (by rw [encL_len]; decide) HML.out).mono ?_; rw [HH.out]; rintro e w5 ⟨rfl, hb⟩; exact ⟨_, rfl, rfl, hb⟩),
      Grow.h2_call1 (Or.inl rfl) 22 Grow.enter22 _ _ rfl (fun a wx hk => by have e1 : a.eval (.tmp 48) = .agg (Sn.nv h) := (hk.deps 4 48 (by kernel_rfl)); rw [e1]; refine (sbytes_any wx h).mono ?_; rintro e w5 ⟨rfl, hb⟩; exact ⟨_, rfl, rfl, hb⟩),
      Grow.h2_allocG (Or.inl rfl) 44 ((List.replicate 32 (0 : Int)).map (Value.int .u8)).toArray rfl run_alloc44 rfl,
      trivial⟩ ?_
    intro a w11 hb hts hk hdf hfr
    have e49 : a.eval (.tmp 49) = .agg (ba (Sn.en h)) := hk 5 49 (by decide) rfl
    obtain ⟨g13, e13, hz13, hg13⟩ : ∃ g, a.eval (.tmp 13) = .pointer (some ⟨g, 0, none⟩) ∧ w11.heap[g]? = some (.cells ((List.replicate 32 (0 : Int)).map (Value.int .u8)).toArray 44 (0, 0)) ∧ w10.heap.size ≤ g := hk 6 13 (by decide) rfl
    refine ⟨rfl, wp_store_row 44 (.tmp 13) (.tmp 49) rfl g13 (ba (Sn.en h)) e13 e49 44 ((List.replicate 32 (0 : Int)).map (Value.int .u8)).toArray hz13 (ba_size (Sn.en_len h)) (by simp [ba, Sn.en_len]) (bytes32_one _) ?_⟩
    have S5 := Lib.hid (S4.out.putA hb hg13 hz13 (Sn.en h))
    have ha := Grow.act_after hts hdf hfr
    rw [show Grow.dsts _ 7 = [44, 45, 46, 47, 48, 49, 13] from by kernel_rfl] at ha
    simp only [Grow.putAll, e13] at ha
    generalize a.eval (.tmp 44) = u44 at ha
    generalize a.eval (.tmp 45) = u45 at ha
    generalize a.eval (.tmp 46) = u46 at ha
    generalize a.eval (.tmp 47) = u47 at ha
    generalize a.eval (.tmp 48) = u48 at ha
    generalize a.eval (.tmp 49) = u49 at ha
    clear hk hts hdf hfr e49 e13 hb hz13 hg13 S4
    simp [Act.put] at ha
    subst ha
    generalize w11.setRow g13 (ba (Sn.en h)) = w12 at *
    unfold Grow.wpSeq
    go_upto_region 11 with fail
    refine Grow.region_all (by kernel_rfl) 10 (fun i => List.getD (Grow.ptE Ed.B :: Grow.Spec.is (bv (Sn.en S)) :: Grow.ptE (Ed.mul S Ed.B) :: Grow.Spec.is (.agg (pc PT)) :: Grow.Spec.is (.agg (pc PK)) :: Grow.Spec.is (bv (Sn.en h)) :: Grow.ptE (Ed.mul h A) :: Grow.ptE (Ed.mul S Ed.B) :: Grow.Spec.is (.bool true) :: Grow.Spec.is (.bool true) :: []) i (Grow.Spec.is undef)) rfl (by kernel_rfl) ⟨
      Grow.h2_call0 (Or.inl rfl) 27 Grow.enter27 _ rfl (fun a wx hk => by refine (start_any wx (S5.out.below hk.below).gl.dbl).mono ?_; rintro e w5 ⟨P, rfl, hP, hb⟩; exact ⟨_, rfl, ⟨P, rfl, hP⟩, hb⟩),
      Grow.h2_row (Or.inl rfl) 8 g8 44 (ba (Sn.en S)) _ rfl Tryd.underlying44 (ba_size (Sn.en_len S)) rfl (by kernel_rfl) rfl (S5.out.arr (g8, Sn.en S) (by simp)) rfl,
      Grow.h2_call2 (Or.inl rfl) 26 Grow.enter26 _ _ _ rfl (fun a wx hk => by obtain ⟨P, e1, hP⟩ : ∃ P, a.eval (.tmp 50) = .agg (pc P) ∧ Rp P Ed.B := (hk.deps 0 50 (by kernel_rfl)); have e2 : a.eval (.tmp 51) = bv (Sn.en S) := (hk.deps 1 51 (by kernel_rfl)); rw [e1, e2]; refine (ptimes_any wx (S5.out.below hk.below).gl.dbl P Ed.B hP (Sn.en S) (Sn.en_len S) (Sn.en_w8 S)).mono ?_; rw [HEN.out]; rintro e w5 ⟨Z, rfl, hZ, hb⟩; exact ⟨_, rfl, ⟨Z, rfl, hZ⟩, hb⟩),
      Grow.h2_row (Or.inl rfl) 11 gT 51 (pc PT) _ rfl Tryd.underlying51 i51 rfl (by kernel_rfl) rfl (S5.out.pts (gT, PT) (by simp)) rfl,
      Grow.h2_row (Or.inl rfl) 9 gK 51 (pc PK) _ rfl Tryd.underlying51 i51 rfl (by kernel_rfl) rfl (S5.out.pts (gK, PK) (by simp)) rfl,
      Grow.h2_row (Or.inl rfl) 13 g13 44 (ba (Sn.en h)) _ rfl Tryd.underlying44 (ba_size (Sn.en_len h)) rfl (by kernel_rfl) rfl (S5.out.arr (g13, Sn.en h) (by simp)) rfl,
      Grow.h2_call2 (Or.inl rfl) 26 Grow.enter26 _ _ _ rfl (fun a wx hk => by have e1 : a.eval (.tmp 54) = .agg (pc PK) := (hk.deps 4 54 (by kernel_rfl)); have e2 : a.eval (.tmp 55) = bv (Sn.en h) := (hk.deps 5 55 (by kernel_rfl)); rw [e1, e2]; refine (ptimes_any wx (S5.out.below hk.below).gl.dbl PK A HRK.out (Sn.en h) (Sn.en_len h) (Sn.en_w8 h)).mono ?_; rw [HENH.out]; rintro e w5 ⟨Z, rfl, hZ, hb⟩; exact ⟨_, rfl, ⟨Z, rfl, hZ⟩, hb⟩),
      Grow.h2_call2 (Or.inl rfl) 28 Grow.enter28 _ _ _ rfl (fun a wx hk => by have e1 : a.eval (.tmp 53) = .agg (pc PT) := (hk.deps 3 53 (by kernel_rfl)); obtain ⟨Z, e2, hZ⟩ : ∃ P, a.eval (.tmp 56) = .agg (pc P) ∧ Rp P (Ed.mul h A) := (hk.deps 6 56 (by kernel_rfl)); rw [e1, e2]; refine (Add_any wx (S5.out.below hk.below).gl.dbl PT Z HRT.out.ok hZ.ok).mono ?_; rintro e w5 ⟨rfl, hb⟩; exact ⟨_, rfl, ⟨_, rfl, by rw [HEQ.out]; exact HRT.out.add hZ⟩, hb⟩),
      Grow.h2_call2 (Or.inl rfl) 25 Grow.enter25 _ _ _ rfl (fun a wx hk => by obtain ⟨Y, e1, hY⟩ : ∃ P, a.eval (.tmp 52) = .agg (pc P) ∧ Rp P (Ed.mul S Ed.B) := (hk.deps 2 52 (by kernel_rfl)); obtain ⟨Z, e2, hZ⟩ : ∃ P, a.eval (.tmp 57) = .agg (pc P) ∧ Rp P (Ed.mul S Ed.B) := (hk.deps 7 57 (by kernel_rfl)); rw [e1, e2]; refine (psame_any wx (S5.out.below hk.below).gl.dbl Y Z _ hY hZ).mono ?_; rintro e w5 ⟨rfl, hb⟩; exact ⟨_, rfl, rfl, hb⟩),
      Grow.h2_move (Or.inl rfl) (.tmp 58) (Or.inr rfl) (fun a wx hk => hk.deps 8 58 (by kernel_rfl)),
      trivial⟩ ?_
    intro a w13 hb hts hk hdf hfr
    have e6 : a.eval (.tmp 6) = .bool true := hk 9 6 (by decide) rfl
    have HBE : Hid (Below w.heap.size w w13) := (S5.out.below hb).be
    have ha := Grow.act_after hts hdf hfr
    rw [show Grow.dsts _ 10 = [50, 51, 52, 53, 54, 55, 56, 57, 58, 6] from by kernel_rfl] at ha
    simp only [Grow.putAll, e6] at ha
    generalize a.eval (.tmp 50) = u50 at ha
    generalize a.eval (.tmp 51) = u51 at ha
    generalize a.eval (.tmp 52) = u52 at ha
    generalize a.eval (.tmp 53) = u53 at ha
    generalize a.eval (.tmp 54) = u54 at ha
    generalize a.eval (.tmp 55) = u55 at ha
    generalize a.eval (.tmp 56) = u56 at ha
    generalize a.eval (.tmp 57) = u57 at ha
    generalize a.eval (.tmp 58) = u58 at ha
    clear hk hts hdf hfr e6 hb S5
    simp [Act.put] at ha
    subst ha
    go_wp2
    go_ret
    exact ⟨rfl, HBE.out⟩
  · have HNO := Lib.hid hno
    clear hno HOK
    refine Grow.region_seq 6 (fun i => List.getD (Grow.Spec.is (.slice (some ⟨gs, 0, none⟩) 32 cs) :: Grow.tupS false (fun _ => True) :: Grow.tupS false (fun _ => True) :: Grow.ptR (fun _ => True) :: Grow.Spec.is (.bool false) :: Grow.newBlk (pc pz) 51 w8 :: []) i (Grow.Spec.is undef)) (by kernel_rfl) ⟨
      Grow.h2_free (Or.inl rfl) 7 _ rfl (by kernel_rfl) rfl rfl,
      Grow.h2_call1 (Or.inl rfl) 24 Grow.enter24 _ _ rfl (fun a wx hk => by have e1 : a.eval (.tmp 34) = .slice (some ⟨gs, 0, none⟩) 32 cs := (hk.deps 0 34 (by kernel_rfl)); have SX := S3.out.below hk.below; rw [e1]; refine (read_nopt wx SX.gl.dbl gs cs F (Sl.below HFS.out SX.be (Nat.le_refl _)) HF.out HNO.out).mono ?_; rintro e w5 ⟨P, rfl, hb⟩; exact ⟨_, rfl, ⟨P, rfl, trivial⟩, hb⟩),
      Grow.h2_same (Or.inl rfl) 1 35 rfl (by kernel_rfl) rfl,
      Grow.h2_tup0 (Or.inl rfl) 2 33 false (fun _ => True) rfl (by kernel_rfl) rfl rfl,
      Grow.h2_tup1 (Or.inl rfl) 2 33 false (fun _ => True) rfl (by kernel_rfl) rfl rfl,
      Grow.h2_allocG (Or.inl rfl) 51 (pc pz) rfl run_alloc51 rfl,
      trivial⟩ ?_
    intro a w9 hb hts hk hdf hfr
    obtain ⟨PT, eP, hPT⟩ : ∃ P, a.eval (.tmp 36) = .agg (pc P) ∧ (fun _ => True) P := hk 3 36 (by decide) rfl
    have eok : a.eval (.tmp 37) = .bool false := hk 4 37 (by decide) rfl
    obtain ⟨gT, eg, hzg, hgg⟩ : ∃ g, a.eval (.tmp 11) = .pointer (some ⟨g, 0, none⟩) ∧ w9.heap[g]? = some (.cells (pc pz) 51 (0, 0)) ∧ w8.heap.size ≤ g := hk 5 11 (by decide) rfl
    refine ⟨rfl, wp_store_row 51 (.tmp 11) (.tmp 36) rfl gT (pc PT) eg eP 51 (pc pz) hzg i51 rfl (pc_one _) ?_⟩
    refine ⟨rfl, Grow.wp_assign 12 (.tmp 37) rfl rfl ?_⟩
    change Grow.wpSeq _ _ _ _ (a.put (some 12) (a.eval (.tmp 37))) _
    rw [eok]
    have S4 := Lib.hid (S3.out.putP hb hgg hzg PT)
    have HRT := Lib.hid hPT
    have ha := Grow.act_after hts hdf hfr
    rw [show Grow.dsts _ 6 = [34, 35, 33, 36, 37, 11] from by kernel_rfl] at ha
    simp only [Grow.putAll, eok, eg] at ha
    generalize a.eval (.tmp 34) = u34 at ha
    generalize a.eval (.tmp 35) = u35 at ha
    generalize a.eval (.tmp 33) = u33 at ha
    generalize a.eval (.tmp 36) = u36 at ha
    clear hk hts hdf hfr eP eok eg hzg hgg hb hPT S3
    simp [Act.put] at ha
    subst ha
    generalize w9.setRow gT (pc PT) = w10 at *
    unfold Grow.wpSeq
    have HBE : Hid (Below w.heap.size w w10) := S4.out.be
    clear S4
    go_wp2
    go_ret
    exact ⟨rfl, HBE.out⟩
end Go.Proofs.YtiinmdleechcgaaDoor
namespace Go.Proofs.YtiinmdleechcgaaDoor
open Go.RowKit
def seedL : List Int := [115, 101, 101, 100]
def msgL : List Int := [109, 101, 115, 115, 97, 103, 101]
set_option maxRecDepth 100000 in
theorem no_k : noN seedL msgL = Ed.kN := by
  have e : wNonce ++ (seedL ++ msgL) = nonceOf := by decide
  unfold noN dg
  rw [e]
  unfold Sha.Sh.wide
  rw [sha_0, sha_1]
  decide +kernel
theorem nonR_y : (nonR seedL msgL).y = (Ed.y0 : Int) := by
  unfold nonR
  rw [no_k]
  exact Ed.k_y
theorem nonR_good (P M : List Int) : (nonR P M).Good := Ed.mul_good Ed.B_good _
theorem pubA_good (P : List Int) : (pubA P).Good := Ed.mul_good Ed.B_good _
/-- The signature's equation. -/
theorem sig_eq (P M : List Int) : Ed.mul (sgS P M) Ed.B = Ed.add (nonR P M) (Ed.mul (chN (encL (nonR P M)) (encL (pubA P)) M) (pubA P)) := Ed.signed _ _ _
theorem sgS_lt (P M : List Int) : sgS P M < Ed.nn := Nat.mod_lt _ (by decide)
/-- The fourth byte turned. -/
def turnL (l : List Int) : List Int := l.set 3 (l.getD 3 0 + 4)
theorem low_turn : ∀ l : List Int, 3 < l.length → 0 ≤ l.getD 3 0 → Bt.low (turnL l) = Bt.low l + 67108864
  | [], h, _ => by simp at h
  | [_], h, _ => by simp at h
  | [_, _], h, _ => by simp at h
  | [_, _, _], h, _ => by simp at h
  | a :: b :: c :: d :: r, _, h => by
    have h : 0 ≤ d := h
    show Bt.low (a :: b :: c :: (d + 4) :: r) = _
    simp only [Bt.low]
    omega
theorem enc_3 {A : Ed.Pt} (hy : A.y = (Ed.y0 : Int)) : (encL A).getD 3 0 = 192 := by
  have h : (rowL A).getD 3 0 = 192 := by
    unfold rowL
    rw [Bt.row_get _ _ _ _ _ (by decide), hy]
    decide +kernel
  unfold encL
  split
  · rw [List.getD_eq_getElem?_getD, List.getElem?_set_ne (by decide), ← List.getD_eq_getElem?_getD]
    exact h
  · exact h
theorem nb_turn {A : Ed.Pt} (hA : A.Good) (hy : A.y = (Ed.y0 : Int)) : nb (turnL (encL A)) = (Ed.y1 : Int) := by
  have h := low_encL hA
  have h3 := enc_3 hy
  unfold nb
  rw [low_turn _ (by rw [encL_len]; decide) (by rw [h3]; decide)]
  rw [hy] at h
  unfold Ed.y0 at h
  unfold Ed.y1
  simp only [Nat.reducePow] at *
  omega
theorem root_turn {A : Ed.Pt} (hA : A.Good) (hy : A.y = (Ed.y0 : Int)) : hasRoot (sqOf (nb (turnL (encL A)))) = false := by
  rw [nb_turn hA hy]
  have h := Ed.turned (sq_eq (Ed.y1 : Int))
  rw [q_P] at h
  exact decide_eq_false h
theorem turn_len (l : List Int) : (turnL l).length = l.length := by simp [turnL]
theorem turn_w8 {l : List Int} (h : ∀ b ∈ l, W8 b) (h3 : l.getD 3 0 = 192) : ∀ b ∈ turnL l, W8 b := by
  intro b hb
  rcases List.mem_or_eq_of_mem_set hb with h1 | h1
  · exact h b h1
  · rw [h1, h3]; unfold W8; decide
/-- A row of a text's bytes, and its value. -/
theorem slc_text {w : World} {C : Array Value} {l : List Int} {n : Nat} (hC : C = ba l) (hn : l.length = n) (h8 : ∀ b ∈ l, W8 b) : Slc (w.alloc (.cells C 5 (n, n + 1))) (.slice (some ⟨w.heap.size, 0, none⟩) n n) l := by
  subst hC
  have hg := heap_alloc_new w (.cells (ba l) 5 (n, n + 1))
  refine ⟨_, n, by rw [hn], by omega, h8, Or.inr ⟨_, 0, rfl, lt_of_block hg, fun j hj => ?_⟩⟩
  rw [Nat.zero_add, cell_of_row _ _ j _ 5 _ hg]
  simp [ba, hj]
theorem seed_w8 : ∀ b ∈ seedL, W8 b := by unfold seedL W8; decide
theorem msg_w8 : ∀ b ∈ msgL, W8 b := by unfold msgL W8; decide
theorem pub_seed (w : World) (hg : Gl w) : Calls Tryd.prog 6 #[.slice (some ⟨w.heap.size, 0, none⟩) 4 4] (w.alloc (.cells #[.int .u8 115, .int .u8 101, .int .u8 101, .int .u8 100] 5 (4, 5))) fun e w' => ∃ g, e = .returned (.slice (some ⟨g, 0, none⟩) 32 32) ∧ Blk w' g .u8 5 (encL (pubA seedL)) ∧ Below w.heap.size w w' := by
  have hB : Below w.heap.size w (w.alloc (.cells #[.int .u8 115, .int .u8 101, .int .u8 101, .int .u8 100] 5 (4, 5))) := (Below.refl _ _).alloc (Nat.le_refl _) _
  refine (public_any _ (hg.below hB hg.size) _ seedL (slc_text rfl rfl seed_w8) (by decide)).mono ?_
  rintro e w' ⟨g, rfl, h1, h2, hb⟩
  exact ⟨g, rfl, h1, hB.trans (hb.mono hB.size)⟩
theorem chk_seed (w : World) (hg : Gl w) (gp gs cs : Nat) (hgp : Blk w gp .u8 5 (encL (pubA seedL))) (F : List Int) (hgs : gs < w.heap.size) (hat : At w .u8 gs 0 (F ++ Sn.en (sgS seedL msgL))) (hF : F.length = 32) (hF8 : ∀ b ∈ F, W8 b) (hcs : 64 ≤ cs) (ok : Bool)
    (hok : (ok = true ∧ F = encL (nonR seedL msgL)) ∨ (ok = false ∧ hasRoot (sqOf (nb F)) = false)) :
    Calls Tryd.prog 8 #[.slice (some ⟨gp, 0, none⟩) 32 32, .slice (some ⟨w.heap.size, 0, none⟩) 7 7, .slice (some ⟨gs, 0, none⟩) 64 cs] (w.alloc (.cells #[.int .u8 109, .int .u8 101, .int .u8 115, .int .u8 115, .int .u8 97, .int .u8 103, .int .u8 101] 5 (7, 8))) fun e w' => e = .returned (.bool ok) ∧ Below w.heap.size w w' := by
  have hB : Below w.heap.size w (w.alloc (.cells #[.int .u8 109, .int .u8 101, .int .u8 115, .int .u8 115, .int .u8 97, .int .u8 103, .int .u8 101] 5 (7, 8))) := (Below.refl _ _).alloc (Nat.le_refl _) _
  refine (check_any _ (hg.below hB hg.size) gp 32 gs cs _ msgL F (pubA seedL) (pubA_good _) (sgS seedL msgL) (sgS_lt _ _) (slc_lie (hgp.other (hB.block _ hgp.lt)) (encL_len _) (Nat.le_refl _) (encL_w8 _)) (slc_text rfl rfl msg_w8) (by decide) (Nat.lt_of_lt_of_le hgs hB.size) (hat.below hB hgs) hF hF8 hcs ok ?_).mono ?_
  · rcases hok with ⟨h1, h2⟩ | h
    · refine Or.inl ⟨h1, nonR seedL msgL, nonR_good _ _, h2, ?_⟩
      rw [h2]
      exact sig_eq _ _
    · exact Or.inr h
  · rintro e w' ⟨rfl, hb⟩
    exact ⟨rfl, hB.trans (hb.mono hB.size)⟩
/-- A signature, told by its block. -/
theorem sign_block (w : World) (hg : Gl w) (vs vm : Value) (P M : List Int) (hP : Slc w vs P) (hM : Slc w vm M) (hl : P.length ≤ 100000) (hm : M.length ≤ 100000) :
    Calls Tryd.prog 7 #[vs, vm] w fun e w' => ∃ g cap cur, e = .returned (.slice (some ⟨g, 0, none⟩) 64 cap) ∧ 64 ≤ cap ∧ w'.heap[g]? = some (.cells cur 5 (0, 0)) ∧ At w' .u8 g 0 (encL (nonR P M) ++ Sn.en (sgS P M)) ∧ w.heap.size ≤ g ∧ Below w.heap.size w w' := by
  have hl : (sigL P M).length = 64 := by
    unfold sigL
    rw [List.length_append, encL_len, Sn.en_len]
  have hS := sign_any w hg vs vm P M hP hM (by assumption) hm
  rw [show encL (nonR P M) ++ Sn.en (sgS P M) = sigL P M from rfl]
  generalize sigL P M = L at *
  refine hS.mono ?_
  rintro e w' ⟨v, rfl, hown, hb⟩
  obtain ⟨-, h | ⟨g, cap, cur, rfl, h3, h4, h5, h6, h7, h8⟩⟩ := hown
  · omega
  rw [hl] at h5 h8 ⊢
  refine ⟨g, cap, cur, rfl, h5, h4, fun j hj => ?_, h3, hb⟩
  rw [Nat.zero_add, cell_of_row w' g j cur 5 (0, 0) h4]
  have e : (cur.toList.take (64 * 1))[j]? = (L.map (Value.int .u8))[j]? := by rw [h8]
  rw [List.getElem?_take_of_lt (by omega), List.getElem?_map, List.getElem?_eq_getElem hj] at e
  rw [List.getD_eq_getElem?_getD, List.getElem?_eq_getElem hj]
  simpa using e
theorem sign_seed (w : World) (hg : Gl w) : Calls Tryd.prog 7 #[.slice (some ⟨w.heap.size, 0, none⟩) 4 4, .slice (some ⟨w.heap.size + 1, 0, none⟩) 7 7] ((w.alloc (.cells #[.int .u8 115, .int .u8 101, .int .u8 101, .int .u8 100] 5 (4, 5))).alloc (.cells #[.int .u8 109, .int .u8 101, .int .u8 115, .int .u8 115, .int .u8 97, .int .u8 103, .int .u8 101] 5 (7, 8))) fun e w' => ∃ g cap cur, e = .returned (.slice (some ⟨g, 0, none⟩) 64 cap) ∧ 64 ≤ cap ∧ w'.heap[g]? = some (.cells cur 5 (0, 0)) ∧ At w' .u8 g 0 (encL (nonR seedL msgL) ++ Sn.en (sgS seedL msgL)) ∧ w.heap.size ≤ g ∧ Below w.heap.size w w' := by
  have hB1 : Below w.heap.size w (w.alloc (.cells #[.int .u8 115, .int .u8 101, .int .u8 101, .int .u8 100] 5 (4, 5))) := (Below.refl _ _).alloc (Nat.le_refl _) _
  have h1 : Slc (w.alloc (.cells #[.int .u8 115, .int .u8 101, .int .u8 101, .int .u8 100] 5 (4, 5))) (.slice (some ⟨w.heap.size, 0, none⟩) 4 4) seedL := slc_text rfl rfl seed_w8
  generalize hw1 : w.alloc (.cells #[.int .u8 115, .int .u8 101, .int .u8 101, .int .u8 100] 5 (4, 5)) = w1 at *
  have hs : w1.heap.size = w.heap.size + 1 := by rw [← hw1]; simp
  have hB2 : Below w1.heap.size w1 (w1.alloc (.cells #[.int .u8 109, .int .u8 101, .int .u8 115, .int .u8 115, .int .u8 97, .int .u8 103, .int .u8 101] 5 (7, 8))) := (Below.refl _ _).alloc (Nat.le_refl _) _
  have h2 : Slc (w1.alloc (.cells #[.int .u8 109, .int .u8 101, .int .u8 115, .int .u8 115, .int .u8 97, .int .u8 103, .int .u8 101] 5 (7, 8))) (.slice (some ⟨w1.heap.size, 0, none⟩) 7 7) msgL := slc_text rfl rfl msg_w8
  rw [hs] at h2
  have hB := hB1.trans (hB2.mono hB1.size)
  refine (sign_block _ (hg.below hB hg.size) _ _ seedL msgL (Sl.below h1 hB2 (Nat.le_refl _)) h2 (by decide) (by decide)).mono ?_
  rintro e w' ⟨g, cap, cur, h3, h4, h5, h6, h7, h8⟩
  exact ⟨g, cap, cur, h3, h4, h5, h6, Nat.le_trans hB.size h7, hB.trans (h8.mono hB.size)⟩
end Go.Proofs.YtiinmdleechcgaaDoor
namespace Go.Proofs.YtiinmdleechcgaaDoor
open Go.RowKit
theorem kconst (w : World) (C : Array Value) (n c g : Nat) (hg : g = w.heap.size) :
    (convert 22 22 (.slice (some ⟨g, 0, none⟩) n c)).run Tryd.prog (w.alloc (.cells C 5)) = .ok (.slice (some ⟨g, 0, none⟩) n c) (w.alloc (.cells C 5 (C.size, C.size + 1))) := by
  subst hg; exact Lib.run_convert_bytes_const w 22 5 C n c Tryd.underlying22 Tryd.underlying5
theorem xor4 : bits BinOp.xor IntKind.u8 192 4 = 196 := by decide
/-- The block of the signature, with its fourth byte turned. -/
theorem at_turn {w : World} {g : Nat} {F E : List Int} (hg : ∃ cur, w.heap[g]? = some (.cells cur 5 (0, 0))) (hat : At w .u8 g 0 (F ++ E)) (hF : F.length = 32) (h3 : F.getD 3 0 = 192) : At (w.setCell ⟨g, 3, none⟩ (.int .u8 196)) .u8 g 0 (turnL F ++ E) := by
  obtain ⟨cur, hc⟩ := hg
  have hg2 := heap_setCell_same w g 3 cur 5 (.int .u8 196) hc
  have hsz : 3 < cur.size := by
    have h := hat 3 (by rw [List.length_append]; omega)
    rw [Nat.zero_add, cell_of_row w g 3 cur 5 (0, 0) hc] at h
    exact (Array.getElem?_eq_some_iff.1 h).1
  intro j hj
  rw [List.length_append, turn_len] at hj
  rw [Nat.zero_add, cell_of_row _ g j _ 5 (0, 0) hg2]
  by_cases h7 : j = 3
  · subst h7
    rw [Array.getElem?_setIfInBounds_self_of_lt hsz, List.getD_eq_getElem?_getD, List.getElem?_append_left (by rw [turn_len]; omega)]
    unfold turnL
    rw [List.getElem?_set_self (by omega), h3]
    rfl
  · have h := hat j (by rw [List.length_append]; omega)
    rw [Nat.zero_add, cell_of_row w g j cur 5 (0, 0) hc] at h
    rw [Array.getElem?_setIfInBounds_ne (by omega), h]
    congr 2
    rw [List.getD_eq_getElem?_getD, List.getD_eq_getElem?_getD]
    by_cases h8 : j < F.length
    · rw [List.getElem?_append_left h8, List.getElem?_append_left (by rw [turn_len]; exact h8)]
      unfold turnL
      rw [List.getElem?_set_ne (by omega)]
    · rw [List.getElem?_append_right (by omega), List.getElem?_append_right (by rw [turn_len]; omega), turn_len]
set_option maxRecDepth 100000 in
set_option maxHeartbeats 2000000 in
theorem awake_any (w : World) (hg : Gl w) : Calls Tryd.prog 5 #[] w fun e w' => e = .returned (.bool true) ∧ Below w.heap.size w w' := by
  have kc := fun (w : World) (C : Array Value) (n c : Nat) => kconst w C n c w.heap.size rfl
  have kc2 := fun (w : World) (o : Obj) (C : Array Value) (n c : Nat) => kconst (w.alloc o) C n c (w.heap.size + 1) (by simp)
  have HG := Lib.hid hg
  have HR : Hid (hasRoot (sqOf (nb (turnL (encL (nonR seedL msgL))))) = false) := root_turn (nonR_good _ _) nonR_y
  have H3 : Hid ((encL (nonR seedL msgL)).getD 3 0 = 192) := enc_3 nonR_y
  have HX := xor4
  clear hg
  go_enter Tryd.func5, Tryd.ntmps5
  go_upto_region 4 with (first
    | (go_at_call 8; refine (chk_seed w3 HG3.out gp gs cs HP3.out _ HL3.out HAT3.out (encL_len _) (encL_w8 _) HCS.out true (Or.inl ⟨rfl, rfl⟩)).mono ?_; rintro e w4 ⟨rfl, hb⟩; have HB4 := Lib.hid (HB3.out.trans (hb.mono HB3.out.size)); have HG4 := Lib.hid (HG3.out.below hb HG3.out.size); have HAT4 := Lib.hid (HAT3.out.below hb HL3.out); have HC4 := Lib.hid ((hb.block gs HL3.out).trans HC3.out); clear hb kc kc2)
    | (go_at_call 6; refine (pub_seed w2 HG2.out).mono ?_; rintro e w3 ⟨gp, rfl, h1, hb⟩; have HP3 := Lib.hid h1; have HB3 := Lib.hid (HB2.out.trans (hb.mono HB2.out.size)); have HG3 := Lib.hid (HG2.out.below hb HG2.out.size); have HAT3 := Lib.hid (HAT2.out.below hb (lt_of_block HC2.out)); have HC3 := Lib.hid ((hb.block gs (lt_of_block HC2.out)).trans HC2.out); have HL3 : Hid (gs < w3.heap.size) := Nat.lt_of_lt_of_le (lt_of_block HC2.out) hb.size; clear hb h1)
    | (go_at_call 7; refine (sign_seed w HG.out).mono ?_; rintro e w2 ⟨gs, cs, cur, rfl, hcs, hc, hat, hge, hb⟩; have HCS := Lib.hid hcs; have HC2 := Lib.hid hc; have HAT2 := Lib.hid hat; have HGE := Lib.hid hge; have HB2 := Lib.hid hb; have HG2 := Lib.hid (HG.out.below hb HG.out.size); clear hcs hc hat hge hb))
  have c3 := HAT4.out 3 (by rw [List.length_append, encL_len]; omega)
  rw [Nat.zero_add, List.getD_eq_getElem?_getD, List.getElem?_append_left (by rw [encL_len]; decide), ← List.getD_eq_getElem?_getD, H3.out] at c3
  have f3 := frozen_of_row w4 gs 3 cur 5 HC4.out
  have HAT5 := Lib.hid (at_turn ⟨cur, HC4.out⟩ HAT4.out (encL_len _) H3.out)
  have HB5 : Hid (Below w.heap.size w (w4.setCell ⟨gs, 3, none⟩ (.int .u8 196))) := HB4.out.setCell HGE.out _
  have HG5 := Lib.hid (HG.out.below HB5.out HG.out.size)
  have HL5 : Hid (gs < (w4.setCell ⟨gs, 3, none⟩ (.int .u8 196)).heap.size) := by
    have h := heap_setCell_same w4 gs 3 cur 5 (.int .u8 196) HC4.out
    exact lt_of_block h
  have W8T := Lib.hid (turn_w8 (encL_w8 (nonR seedL msgL)) H3.out)
  have LNT : Hid ((turnL (encL (nonR seedL msgL))).length = 32) := (turn_len _).trans (encL_len _)
  clear HP3 HL3 HAT3 HB3 HG3 HAT2 HC2 HB2 HG2
  go_upto_region 5 with fail
  generalize w4.setCell ⟨gs, 3, none⟩ (.int .u8 196) = w5 at *
  have kc := fun (w : World) (C : Array Value) (n c : Nat) => kconst w C n c w.heap.size rfl
  have kc2 := fun (w : World) (o : Obj) (C : Array Value) (n c : Nat) => kconst (w.alloc o) C n c (w.heap.size + 1) (by simp)
  clear c3 f3 HX HAT4 HB4 HG4 HC4
  go_wp2_with (first
    | (go_at_call 8; refine (chk_seed w6 HG6.out gp2 gs cs HP6.out _ HL6.out HAT6.out LNT.out W8T.out HCS.out false (Or.inr ⟨rfl, HR.out⟩)).mono ?_; rintro e w7 ⟨rfl, hb⟩; have HB7 := Lib.hid (HB6.out.trans (hb.mono HB6.out.size)); clear hb)
    | (go_at_call 6; refine (pub_seed w5 HG5.out).mono ?_; rintro e w6 ⟨gp2, rfl, h1, hb⟩; have HP6 := Lib.hid h1; have HB6 := Lib.hid (HB5.out.trans (hb.mono HB5.out.size)); have HG6 := Lib.hid (HG5.out.below hb HG5.out.size); have HAT6 := Lib.hid (HAT5.out.below hb HL5.out); have HL6 : Hid (gs < w6.heap.size) := Nat.lt_of_lt_of_le HL5.out hb.size; clear hb h1))
  go_ret
  exact ⟨rfl, HB7.out⟩
end Go.Proofs.YtiinmdleechcgaaDoor
namespace Go.Proofs.YtiinmdleechcgaaDoor
open Go.RowKit
namespace Grow
section
variable {m : Nat} {ops : Array Oper} {Q : Exit → Act → World → Prop} {specs : Nat → Spec} {a0 : Act} {w0 : World} {i : Nat} {o : Oper}
theorem h2_call3 (hr : Runs2 ops specs a0 o) (f : FuncId) (he : ∀ args w, (callFunc f args).run Tryd.prog w = .ok (.enter f args) w) (ts : Array TypeId) (x y z : Operand) (ho : o.op = .call { callee := .value (.func f), args := #[x, y, z], argTypes := ts })
    (h : ∀ a w, Known m ops specs a0 w0 o a w → Calls Tryd.prog f #[a.eval x, a.eval y, a.eval z] w fun e w' => ∃ v, e = .returned v ∧ (specs i).meets v w' ∧ Below w.heap.size w w') : Hop2 Tryd.prog m ops specs Q a0 w0 i o :=
  h2_wp hr fun a w hk => by
    refine wp_enter (f := f) (args := #[a.eval x, a.eval y, a.eval z]) ?_ ((h a w hk).mono ?_)
    · have hc := he #[a.eval x, a.eval y, a.eval z] w
      unfold execOp
      rw [ho]
      simp only [resolve, Act.eval, Deferred.ofValue, invoke, Sem.run_bind, Sem.run_pure, Result.andThen_ok, List.map_toArray, List.map_cons, List.map_nil, Array.append_empty] at hc ⊢
      exact hc
    · rintro e w' ⟨v, rfl, hv, hb⟩
      exact ⟨v, rfl, v, rfl, hv, hb⟩
theorem h2_len22 (hr : Runs2 ops specs a0 o) (j d : Nat) (a1 : Option Addr) (n cap : Nat) (ho : o.op = .call { callee := .builtin .len, args := #[.tmp d], argTypes := #[22] }) (hj : deps .any ops o j d = true) (hs : specs j = .is (.slice a1 n cap)) (hi : specs i = .is (.int .i64 (n : Int))) : Hop2 Tryd.prog m ops specs Q a0 w0 i o :=
  h2_val hr fun a w hk => by
    have h := hk.deps j d hj
    rw [hs] at h
    have h : a.eval (.tmp d) = .slice a1 n cap := h
    have hu := Tryd.underlying22
    refine ⟨.int .i64 (n : Int), w, ?_, by rw [hi]; rfl, Below.refl _ _⟩
    unfold execOp
    rw [ho]
    have h' : a.tmps[d]?.getD undef = .slice a1 n cap := by
      rw [← h]
      simp [Act.eval]
    go_simp
theorem h2_eql3n (hr : Runs2 ops specs a0 o) (j d n : Nat) (ho : o.op = .binOp .eql 3 (.tmp d) (.const (.int .i64 (n : Int))) 3) (hj : deps .any ops o j d = true) (hs : specs j = .is (.int .i64 (n : Int))) (hi : specs i = .is (.bool true)) : Hop2 Tryd.prog m ops specs Q a0 w0 i o :=
  h2_val hr fun a w hk => by
    have h := hk.deps j d hj
    rw [hs] at h
    have h : a.eval (.tmp d) = .int .i64 (n : Int) := h
    have hu := Tryd.underlying3
    refine ⟨.bool true, w, ?_, by rw [hi]; rfl, Below.refl _ _⟩
    unfold execOp
    rw [ho]
    simp only [h]
    go_simp
theorem h2_str (hr : Runs2 ops specs a0 o) (j d : Nat) (v : Value) (l : List Int) (ho : o.op = .convert 22 9 (.tmp d)) (hj : deps .any ops o j d = true) (hs : specs j = .is v) (hS : Slc w0 v l) (hi : specs i = .is (.string (strOfNums l))) : Hop2 Tryd.prog m ops specs Q a0 w0 i o :=
  h2_val hr fun a w hk => by
    have h := hk.deps j d hj
    rw [hs] at h
    have h : a.eval (.tmp d) = v := h
    have hc := conv_slc (Sl.below hS hk.below (Nat.le_refl _))
    refine ⟨.string (strOfNums l), w, ?_, by rw [hi]; rfl, Below.refl _ _⟩
    unfold execOp
    rw [ho]
    simp only [h, Sem.run_bind, hc, Result.andThen_ok, Sem.run_pure]
theorem h2_strS (hr : Runs2 ops specs a0 o) (j d : Nat) (l : List Int) (ho : o.op = .convert 22 9 (.tmp d)) (hj : deps .any ops o j d = true) (hs : specs j = .slc l) (hi : specs i = .is (.string (strOfNums l))) : Hop2 Tryd.prog m ops specs Q a0 w0 i o :=
  h2_val hr fun a w hk => by
    have h := hk.deps j d hj
    rw [hs] at h
    have hc := conv_slc (show Slc w (a.eval (.tmp d)) l from h)
    refine ⟨.string (strOfNums l), w, ?_, by rw [hi]; rfl, Below.refl _ _⟩
    unfold execOp
    rw [ho]
    simp only [Sem.run_bind, hc, Result.andThen_ok, Sem.run_pure]
theorem h2_eqS (hr : Runs2 ops specs a0 o) (j1 d1 j2 d2 : Nat) (s : ByteArray) (ho : o.op = .binOp .eql 9 (.tmp d1) (.tmp d2) 9) (hj1 : deps .any ops o j1 d1 = true) (hj2 : deps .any ops o j2 d2 = true) (hs1 : specs j1 = .is (.string s)) (hs2 : specs j2 = .is (.string s)) (hi : specs i = .is (.bool true)) : Hop2 Tryd.prog m ops specs Q a0 w0 i o :=
  h2_val hr fun a w hk => by
    have h1 := hk.deps j1 d1 hj1
    have h2 := hk.deps j2 d2 hj2
    rw [hs1] at h1
    rw [hs2] at h2
    have h1 : a.eval (.tmp d1) = .string s := h1
    have h2 : a.eval (.tmp d2) = .string s := h2
    have hu := Tryd.underlying9
    refine ⟨.bool true, w, ?_, by rw [hi]; rfl, Below.refl _ _⟩
    unfold execOp
    rw [ho]
    simp only [h1, h2]
    go_simp
theorem enter8 (args : Array Value) (w : World) : (callFunc 8 args).run Tryd.prog w = .ok (.enter 8 args) w := by
  have := Tryd.func8
  go_simp
theorem enter7 (args : Array Value) (w : World) : (callFunc 7 args).run Tryd.prog w = .ok (.enter 7 args) w := by
  have := Tryd.func7
  go_simp
end
end Grow
theorem sig_w8 (P M : List Int) : ∀ b ∈ sigL P M, W8 b := by
  intro b hb
  rcases List.mem_append.1 hb with h | h
  · exact encL_w8 _ b h
  · exact Sn.en_w8 _ b h
theorem sig_len (P M : List Int) : (sigL P M).length = 64 := by
  unfold sigL
  rw [List.length_append, encL_len, Sn.en_len]
set_option maxRecDepth 100000 in
set_option maxHeartbeats 2000000 in
theorem goes_walk (w : World) (hg : Gl w) (a0 a1 : Option Addr) (c0 c1 : Nat) (P M : List Int) (hP : Slc w (.slice a0 P.length c0) P) (hM : Slc w (.slice a1 M.length c1) M) :
    Calls Tryd.prog 3 #[.slice a0 P.length c0, .slice a1 M.length c1] w fun e w' => e = .returned (.bool true) ∧ Below w.heap.size w w' := by
  have HG := Lib.hid hg
  have HP := Lib.hid hP
  have HM := Lib.hid hM
  clear hg hP hM
  obtain ⟨n, hn⟩ : ∃ n, n = P.length := ⟨_, rfl⟩
  obtain ⟨m, hm⟩ : ∃ m, m = M.length := ⟨_, rfl⟩
  have HN := Lib.hid hn
  have HMN := Lib.hid hm
  rw [← hn] at HP ⊢
  rw [← hm] at HM ⊢
  clear hn hm
  by_cases h1 : 100 < n
  · go_enter Tryd.func3, Tryd.ntmps3
    go_wp2_with (first
      | (go_at_call 5; refine (awake_any w2 HG2.out).mono ?_; rintro e w3 ⟨rfl, hb⟩; have HB3 := Lib.hid (HB2.out.trans (hb.mono HB2.out.size)); clear hb)
      | (go_at_call 5; refine (awake_any w HG.out).mono ?_; rintro e w2 ⟨rfl, hb⟩; have HB2 := Lib.hid hb; have HG2 := Lib.hid (HG.out.below hb HG.out.size); clear hb))
    go_ret
    exact ⟨rfl, HB3.out⟩
  by_cases h2 : 500 < m
  · go_enter Tryd.func3, Tryd.ntmps3
    go_wp2_with (first
      | (go_at_call 5; refine (awake_any w2 HG2.out).mono ?_; rintro e w3 ⟨rfl, hb⟩; have HB3 := Lib.hid (HB2.out.trans (hb.mono HB2.out.size)); clear hb)
      | (go_at_call 5; refine (awake_any w HG.out).mono ?_; rintro e w2 ⟨rfl, hb⟩; have HB2 := Lib.hid hb; have HG2 := Lib.hid (HG.out.below hb HG.out.size); clear hb))
    go_ret
    exact ⟨rfl, HB3.out⟩
  have PL : Hid (P.length ≤ 100000) := by rw [← HN.out]; show _ ≤ _; omega
  have ML : Hid (M.length ≤ 100000) := by rw [← HMN.out]; show _ ≤ _; omega
  go_enter Tryd.func3, Tryd.ntmps3
  go_upto_region 5 with (first
    | (go_at_call 7; refine (sign_block w3 HG3.out _ _ P M HP3.out HM3.out PL.out ML.out).mono ?_; rintro e w4 ⟨gs, cs, cur, rfl, hcs, hc, hat, hge, hb⟩; have HCS := Lib.hid hcs; have HL4 := Lib.hid (lt_of_block hc); have HAT4 := Lib.hid hat; have HB4 := Lib.hid (HB3.out.trans (hb.mono HB3.out.size)); have HG4 := Lib.hid (HG3.out.below hb HG3.out.size); have HK4 := Lib.hid (HK3.out.other (hb.block gp HK3.out.lt)); have HP4 := Lib.hid (Sl.below HP3.out hb (Nat.le_refl _)); have HM4 := Lib.hid (Sl.below HM3.out hb (Nat.le_refl _)); clear hcs hc hat hge hb)
    | (go_at_call 6; refine (public_any w2 HG2.out _ P HP2.out PL.out).mono ?_; rintro e w3 ⟨gp, rfl, hk, hge, hb⟩; have HK3 := Lib.hid hk; have HB3 := Lib.hid (HB2.out.trans (hb.mono HB2.out.size)); have HG3 := Lib.hid (HG2.out.below hb HG2.out.size); have HP3 := Lib.hid (Sl.below HP2.out hb (Nat.le_refl _)); have HM3 := Lib.hid (Sl.below HM2.out hb (Nat.le_refl _)); clear hk hge hb)
    | (go_at_call 5; refine (awake_any w HG.out).mono ?_; rintro e w2 ⟨rfl, hb⟩; have HB2 := Lib.hid hb; have HG2 := Lib.hid (HG.out.below hb HG.out.size); have HP2 := Lib.hid (Sl.below HP.out hb (Nat.le_refl _)); have HM2 := Lib.hid (Sl.below HM.out hb (Nat.le_refl _)); clear hb))
  clear HK3 HB3 HG3 HP3 HM3 HP2 HM2 HG2 HB2
  have HSIG : Hid (Slc w4 (.slice (some ⟨gs, 0, none⟩) 64 cs) (sigL P M)) := ⟨_, cs, by rw [sig_len], by rw [sig_len]; exact HCS.out, sig_w8 P M, Or.inr ⟨gs, 0, rfl, HL4.out, HAT4.out⟩⟩
  have HCHK : Hid (∀ wx, Below w4.heap.size w4 wx → Calls Tryd.prog 8 #[.slice (some ⟨gp, 0, none⟩) 32 32, .slice a1 m c1, .slice (some ⟨gs, 0, none⟩) 64 cs] wx fun e w' => e = .returned (.bool true) ∧ Below wx.heap.size wx w') := fun wx hb =>
    check_any wx (HG4.out.below hb HG4.out.size) gp 32 gs cs _ M (encL (nonR P M)) (pubA P) (pubA_good _) (sgS P M) (sgS_lt _ _) (slc_lie (HK4.out.other (hb.block _ HK4.out.lt)) (encL_len _) (Nat.le_refl _) (encL_w8 _)) (Sl.below HM4.out hb (Nat.le_refl _)) ML.out (Nat.lt_of_lt_of_le HL4.out hb.size) (HAT4.out.below hb HL4.out) (encL_len _) (encL_w8 _) HCS.out true (Or.inl ⟨rfl, nonR P M, nonR_good _ _, rfl, sig_eq _ _⟩)
  refine Grow.region_all (by kernel_rfl) 24 (fun i => List.getD (Grow.Spec.is (.slice (some ⟨gp, 0, none⟩) 32 32) :: Grow.Spec.is (.int .i64 ((32 : Nat) : Int)) :: Grow.Spec.is (.bool true) :: Grow.Spec.is (.bool true) :: Grow.Spec.is (.slice (some ⟨gs, 0, none⟩) 64 cs) :: Grow.Spec.is (.int .i64 ((64 : Nat) : Int)) :: Grow.Spec.is (.bool true) :: Grow.Spec.is (.bool true) :: Grow.Spec.is (.bool true) :: Grow.Spec.is (.slice (some ⟨gp, 0, none⟩) 32 32) :: Grow.Spec.is (.slice a1 m c1) :: Grow.Spec.is (.slice (some ⟨gs, 0, none⟩) 64 cs) :: Grow.Spec.is (.bool true) :: Grow.Spec.is (.bool true) :: Grow.Spec.is (.bool true) :: Grow.Spec.is (.slice (some ⟨gs, 0, none⟩) 64 cs) :: Grow.Spec.is (.string (strOfNums (sigL P M))) :: Grow.Spec.is (.slice a0 n c0) :: Grow.Spec.is (.slice a1 m c1) :: Grow.Spec.slc (sigL P M) :: Grow.Spec.is (.string (strOfNums (sigL P M))) :: Grow.Spec.is (.bool true) :: Grow.Spec.is (.bool true) :: Grow.Spec.is (.bool true) :: []) i (Grow.Spec.is undef)) rfl (by kernel_rfl) ⟨
    Grow.h2_free (Or.inl rfl) 5 _ rfl (by kernel_rfl) rfl rfl,
    Grow.h2_len22 (Or.inl rfl) 0 25 _ 32 32 rfl (by kernel_rfl) rfl rfl,
    Grow.h2_eql3n (Or.inl rfl) 1 26 32 rfl (by kernel_rfl) rfl rfl,
    Grow.h2_same (Or.inl rfl) 2 27 rfl (by kernel_rfl) rfl,
    Grow.h2_free (Or.inr ⟨3, 28, true, rfl, by kernel_rfl, rfl, Nat.le_of_ble_eq_true rfl⟩) 6 _ rfl (by kernel_rfl) rfl rfl,
    Grow.h2_len22 (Or.inr ⟨3, 28, true, rfl, by kernel_rfl, rfl, Nat.le_of_ble_eq_true rfl⟩) 4 29 _ 64 cs rfl (by kernel_rfl) rfl rfl,
    Grow.h2_eql3n (Or.inr ⟨3, 28, true, rfl, by kernel_rfl, rfl, Nat.le_of_ble_eq_true rfl⟩) 5 30 64 rfl (by kernel_rfl) rfl rfl,
    Grow.h2_pick (Or.inl rfl) 3 28 6 31 _ rfl (by kernel_rfl) (by kernel_rfl) rfl rfl,
    Grow.h2_same (Or.inl rfl) 7 32 rfl (by kernel_rfl) rfl,
    Grow.h2_free (Or.inr ⟨8, 33, true, rfl, by kernel_rfl, rfl, Nat.le_of_ble_eq_true rfl⟩) 5 _ rfl (by kernel_rfl) rfl rfl,
    Grow.h2_free (Or.inr ⟨8, 33, true, rfl, by kernel_rfl, rfl, Nat.le_of_ble_eq_true rfl⟩) 1 _ rfl (by kernel_rfl) rfl rfl,
    Grow.h2_free (Or.inr ⟨8, 33, true, rfl, by kernel_rfl, rfl, Nat.le_of_ble_eq_true rfl⟩) 6 _ rfl (by kernel_rfl) rfl rfl,
    Grow.h2_call3 (Or.inr ⟨8, 33, true, rfl, by kernel_rfl, rfl, Nat.le_of_ble_eq_true rfl⟩) 8 Grow.enter8 _ _ _ _ rfl (fun a wx hk => by have e1 : a.eval (.tmp 34) = (.slice (some ⟨gp, 0, none⟩) 32 32) := (hk.deps 9 34 (by kernel_rfl)); have e2 : a.eval (.tmp 35) = (.slice a1 m c1) := (hk.deps 10 35 (by kernel_rfl)); have e3 : a.eval (.tmp 36) = (.slice (some ⟨gs, 0, none⟩) 64 cs) := (hk.deps 11 36 (by kernel_rfl)); rw [e1, e2, e3]; refine (HCHK.out wx hk.below).mono ?_; rintro e w5 ⟨rfl, hb⟩; exact ⟨_, rfl, rfl, hb⟩),
    Grow.h2_pick (Or.inl rfl) 8 33 12 37 _ rfl (by kernel_rfl) (by kernel_rfl) rfl rfl,
    Grow.h2_same (Or.inl rfl) 13 38 rfl (by kernel_rfl) rfl,
    Grow.h2_free (Or.inr ⟨14, 39, true, rfl, by kernel_rfl, rfl, Nat.le_of_ble_eq_true rfl⟩) 6 _ rfl (by kernel_rfl) rfl rfl,
    Grow.h2_str (Or.inr ⟨14, 39, true, rfl, by kernel_rfl, rfl, Nat.le_of_ble_eq_true rfl⟩) 15 40 _ _ rfl (by kernel_rfl) rfl HSIG.out rfl,
    Grow.h2_free (Or.inr ⟨14, 39, true, rfl, by kernel_rfl, rfl, Nat.le_of_ble_eq_true rfl⟩) 0 _ rfl (by kernel_rfl) rfl rfl,
    Grow.h2_free (Or.inr ⟨14, 39, true, rfl, by kernel_rfl, rfl, Nat.le_of_ble_eq_true rfl⟩) 1 _ rfl (by kernel_rfl) rfl rfl,
    Grow.h2_call2 (Or.inr ⟨14, 39, true, rfl, by kernel_rfl, rfl, Nat.le_of_ble_eq_true rfl⟩) 7 Grow.enter7 _ _ _ rfl (fun a wx hk => by have e1 : a.eval (.tmp 42) = (.slice a0 n c0) := (hk.deps 17 42 (by kernel_rfl)); have e2 : a.eval (.tmp 43) = (.slice a1 m c1) := (hk.deps 18 43 (by kernel_rfl)); rw [e1, e2]; refine (sign_block wx (HG4.out.below hk.below HG4.out.size) _ _ P M (Sl.below HP4.out hk.below (Nat.le_refl _)) (Sl.below HM4.out hk.below (Nat.le_refl _)) PL.out ML.out).mono ?_; rintro e w5 ⟨g, cap, cur2, rfl, h1, h2, h3, h4, hb⟩; exact ⟨_, rfl, ⟨_, cap, by rw [sig_len], by rw [sig_len]; exact h1, sig_w8 P M, Or.inr ⟨g, 0, rfl, lt_of_block h2, h3⟩⟩, hb⟩),
    Grow.h2_strS (Or.inr ⟨14, 39, true, rfl, by kernel_rfl, rfl, Nat.le_of_ble_eq_true rfl⟩) 19 44 _ rfl (by kernel_rfl) rfl rfl,
    Grow.h2_eqS (Or.inr ⟨14, 39, true, rfl, by kernel_rfl, rfl, Nat.le_of_ble_eq_true rfl⟩) 16 41 20 45 _ rfl (by kernel_rfl) (by kernel_rfl) rfl rfl rfl,
    Grow.h2_pick (Or.inl rfl) 14 39 21 46 _ rfl (by kernel_rfl) (by kernel_rfl) rfl rfl,
    Grow.h2_move (Or.inl rfl) (.tmp 47) (Or.inr rfl) (fun a wx hk => hk.deps 22 47 (by kernel_rfl)),
    trivial⟩ ?_
  intro a w5 hb hts hk hdf hfr
  have e4 : a.eval (.tmp 4) = .bool true := hk 23 4 (by decide) rfl
  have HBE : Hid (Below w.heap.size w w5) := HB4.out.trans (hb.mono HB4.out.size)
  have ha := Grow.act_after hts hdf hfr
  rw [show Grow.dsts _ 24 = [25, 26, 27, 28, 29, 30, 31, 32, 33, 34, 35, 36, 37, 38, 39, 40, 41, 42, 43, 44, 45, 46, 47, 4] from by kernel_rfl] at ha
  simp only [Grow.putAll, e4] at ha
  generalize a.eval (.tmp 25) = u25 at ha
  generalize a.eval (.tmp 26) = u26 at ha
  generalize a.eval (.tmp 27) = u27 at ha
  generalize a.eval (.tmp 28) = u28 at ha
  generalize a.eval (.tmp 29) = u29 at ha
  generalize a.eval (.tmp 30) = u30 at ha
  generalize a.eval (.tmp 31) = u31 at ha
  generalize a.eval (.tmp 32) = u32 at ha
  generalize a.eval (.tmp 33) = u33 at ha
  generalize a.eval (.tmp 34) = u34 at ha
  generalize a.eval (.tmp 35) = u35 at ha
  generalize a.eval (.tmp 36) = u36 at ha
  generalize a.eval (.tmp 37) = u37 at ha
  generalize a.eval (.tmp 38) = u38 at ha
  generalize a.eval (.tmp 39) = u39 at ha
  generalize a.eval (.tmp 40) = u40 at ha
  generalize a.eval (.tmp 41) = u41 at ha
  generalize a.eval (.tmp 42) = u42 at ha
  generalize a.eval (.tmp 43) = u43 at ha
  generalize a.eval (.tmp 44) = u44 at ha
  generalize a.eval (.tmp 45) = u45 at ha
  generalize a.eval (.tmp 46) = u46 at ha
  generalize a.eval (.tmp 47) = u47 at ha
  clear hk hts hdf hfr e4 hb
  simp [Act.put] at ha
  subst ha
  go_wp2
  go_ret
  exact ⟨rfl, HBE.out⟩
end Go.Proofs.YtiinmdleechcgaaDoor
namespace Go.Proofs.YtiinmdleechcgaaDoor
open Go.ChangeShapes Go.WideShapes Go.ChangeAt Go.RowKit
set_option linter.unusedVariables false

theorem own : ownKnob Tryd.prog.godebug = none := by kernel_rfl
theorem laidOut : laidOutB Tryd.prog = true := by kernel_rfl
theorem gOrd : Tryd.prog.globalNamed "pawl/sign.order" = some 0 := by kernel_rfl
theorem gDbl : Tryd.prog.globalNamed "pawl/field.double" = some 1 := by kernel_rfl
theorem gTab : Tryd.prog.globalNamed "pawl/sha.round" = some 2 := by kernel_rfl
theorem gOrdType : (Tryd.prog.globals[0]?).map (·.type) = some 42 := by kernel_rfl
theorem gDblType : (Tryd.prog.globals[1]?).map (·.type) = some 49 := by kernel_rfl
theorem gTabType : (Tryd.prog.globals[2]?).map (·.type) = some 112 := by kernel_rfl
theorem cellsOrd : Tryd.prog.cellsOf 42 = 4 := by kernel_rfl
theorem cellsDbl : Tryd.prog.cellsOf 49 = 5 := by kernel_rfl
theorem cellsTab : Tryd.prog.cellsOf 112 = 64 := by kernel_rfl
theorem cellsWord : Tryd.prog.cellsOf 61 = 1 := by kernel_rfl

/-- A slice of integers that came in. -/
def IsRow (k : IntKind) (w : World) (a : Option Addr) (len cap : Nat) (zs : List Int) : Prop :=
  (a = none ∧ len = 0 ∧ cap = 0 ∧ zs = []) ∨
  ∃ x, a = some x ∧ len ≤ cap ∧ cap ≤ maxLen ∧ zs.length = cap ∧ (∀ i, i < zs.length → w.cell? (x.add i) = some (.int k (zs.getD i 0))) ∧ ∀ n ∈ zs, (Lit.int k n).wf = true

/-- What stands behind the head of the list. -/
theorem laid_rest {P : Program} {x : String × DataW Unit} {r : List (String × DataW Unit)} {w : World} (h : laidMet P (x :: r) w) : laidMet P r w := by
  obtain ⟨ps, hv, hnd, hrows⟩ := h
  obtain ⟨n, d⟩ := x
  obtain ⟨g, t, cs, fuel, p, q, _, _, _, _, hq, rfl⟩ := hv
  exact ⟨q, hq, List.Nodup.sublist (List.sublist_append_right _ _) hnd, fun b off hm => hrows b off (List.mem_append_right _ hm)⟩
theorem glob {W : World} (h : laidMetH Tryd.prog [("pawl/field.double", Rows.laid_pawl_field_double), ("pawl/sha.round", Rows.laid_pawl_sha_round), ("pawl/sign.order", Rows.laid_pawl_sign_order)] W) : Gl W := by
  have t1 : Lib.TabIs Tryd.prog W "pawl/field.double" .u64 Fe.two.cells := Lib.tabIs_of_head gDbl gDblType Tryd.underlying49 Tryd.underlying40 cells28 cellsDbl h
  have h1 : laidMet Tryd.prog _ W := h
  have h2 := laid_rest h1
  have t2 : Lib.TabIs Tryd.prog W "pawl/sha.round" .u32 Sha.KK := Lib.tabIs_of_head gTab gTabType Tryd.underlying112 Tryd.underlying61 cellsWord cellsTab h2
  have h3 := laid_rest h2
  have t3 : Lib.TabIs Tryd.prog W "pawl/sign.order" .u64 (Sn.wl Ed.nn) := by
    rw [Sn.ord_words]
    exact Lib.tabIs_of_head (rest := []) gOrd gOrdType Tryd.underlying42 Tryd.underlying40 cells28 cellsOrd h3
  have c1 := fun i (hi : i < Fe.two.cells.length) => t1.cell gDbl i hi
  have c2 := fun i (hi : i < Sha.KK.length) => t2.cell gTab i hi
  have c3 := fun i (hi : i < (Sn.wl Ed.nn).length) => t3.cell gOrd i hi
  refine ⟨⟨?_, fun j hj => ?_⟩, ⟨?_, fun j hj => by rw [Nat.zero_add]; exact c2 j hj⟩, ⟨?_, fun j hj => c1 j hj⟩⟩
  · have := World.block_lt_of_cell? _ _ (c3 0 (by decide))
    simpa using this
  · have := c3 j hj
    rwa [Sn.wl_get _ _ hj] at this
  · have := World.block_lt_of_cell? _ _ (c2 0 (by decide))
    simpa using this
  · have := World.block_lt_of_cell? _ _ (c1 0 (by decide))
    simpa using this
/-- A variable's block, holding a table. -/
def setTab (C : Array Value) : Obj → Obj
  | .cells _ t frozen => .cells C t frozen
  | o => o
/-- A world that holds what start-up laid. -/
noncomputable def laidWorld (os : Os) : World :=
  let w := World.holding Tryd.prog os ⟨#[], #[], []⟩
  { w with heap := ((w.heap.modify 0 (setTab ((Sn.wl Ed.nn).map (Value.int .u64)).toArray)).modify 1 (setTab (Fe.two.cells.map (Value.int .u64)).toArray)).modify 2 (setTab (Sha.KK.map (Value.int .u32)).toArray) }

theorem row_cells {k : IntKind} {w : World} {a : Option Addr} {len cap : Nat} {zs : List Int} (h : IsRow k w a len cap zs) : ∃ P : List Int, P.length = len ∧ len ≤ cap ∧ (∀ x ∈ P, (Lit.int k x).wf = true) ∧ (P = [] ∨ ∃ b off, a = some ⟨b, off, none⟩ ∧ b < w.heap.size ∧ At w k b off P) := by
  rcases h with ⟨rfl, rfl, rfl, rfl⟩ | ⟨x, rfl, hl, hm, hz, hcell, hwz⟩
  · exact ⟨[], rfl, Nat.le_refl _, by simp, Or.inl rfl⟩
  · refine ⟨zs.take len, by simp; omega, hl, fun y hy => hwz y (List.mem_of_mem_take hy), ?_⟩
    by_cases h0 : len = 0
    · exact Or.inl (by rw [h0]; rfl)
    · refine Or.inr ⟨x.block, x.off, ?_, ?_, ?_⟩
      · have := World.cell?_spot (hcell 0 (by omega))
        rw [Addr.add, if_pos rfl] at this
        cases x; simp_all
      · have := World.block_lt_of_cell? _ _ (hcell 0 (by omega))
        rwa [Addr.add, if_pos rfl] at this
      · intro j hj
        have hj' : j < len := by simp at hj; omega
        have hs := World.cell?_spot (hcell 0 (by omega))
        rw [Addr.add, if_pos rfl] at hs
        have hc := hcell j (by omega)
        obtain ⟨b, off, s⟩ := x
        obtain rfl : s = none := hs
        rw [Addr.add_mid] at hc
        rw [hc]
        simp [hj']
theorem slc_row8 {w : World} {a : Option Addr} {len cap : Nat} {zs : List Int} (h : IsRow .u8 w a len cap zs) : ∃ P : List Int, P.length = len ∧ Slc w (.slice a len cap) P := by
  obtain ⟨P, hl, hc, hw, hm⟩ := row_cells h
  refine ⟨P, hl, a, cap, by rw [hl], by omega, fun x hx => ?_, hm⟩
  have h2 : IntKind.u8.max = 255 := rfl
  have h1 : IntKind.u8.min = 0 := rfl
  have := hw x hx
  simp only [Lit.wf, Bool.and_eq_true, decide_eq_true_eq] at this
  unfold W8
  omega

end Go.Proofs.YtiinmdleechcgaaDoor
