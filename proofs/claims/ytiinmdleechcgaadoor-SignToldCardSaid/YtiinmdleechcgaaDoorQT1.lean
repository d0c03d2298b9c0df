/- Layer 6, a part of the proof: Ta Tb Tc Td Te Tf Tg Th. -/
import Derived.Test.YtiinmdleechcgaaDoorQF3
import Derived.Deep.MidRow
import Derived.Maps.AppendAt
import Derived.Deep.Cut
import Derived.Test.YtiinmdleechcgaaDoorQS1
namespace Go.Proofs.YtiinmdleechcgaaDoor
open Go.RowKit
set_option maxRecDepth 100000 in
set_option maxHeartbeats 2000000 in
theorem ctimes_any (w : World) (hd : Dbl w) (n : Int) (h0 : 0 ≤ n) (h1 : n ≤ 4294967295) (x : Fe.E) (hx : Fe.Ok x) :
    Calls Tryd.prog 55 #[.int .u32 n, .agg (ec x)] w fun e w' => e = .returned (.agg (ec (Fe.mul (Fe.num n) x))) ∧ Below w.heap.size w w' := by
  have S0 := Lib.hid (St.pair hd x)
  have HX := Lib.hid hx
  have H0 := Lib.hid h0
  have H1 := Lib.hid h1
  clear hd hx h0 h1
  go_enter Tryd.func55, Tryd.ntmps55
  go_wp2_with fail
  change Code.wp _ _ _ _ ((w.alloc (.cells (ec x) 49)).alloc (.cells (ec Fe.z) 49))
  generalize (w.alloc (.cells (ec x) 49)).alloc (.cells (ec Fe.z) 49) = w3 at *
  refine Grow.region_tail (by kernel_rfl) 4 (fun i => List.getD (Grow.Spec.is (.int .u32 n) :: Grow.Spec.is (.agg (ec (Fe.num n))) :: Grow.Spec.is (.agg (ec x)) :: Grow.Spec.is (.agg (ec (Fe.mul (Fe.num n) x))) :: []) i (Grow.Spec.is undef)) (by kernel_rfl) ⟨
    Grow.h2_move (Or.inl rfl) (.tmp 0) (Or.inl rfl) (fun a wx hk => hk.rest 0 (by kernel_rfl)),
    Grow.h2_call1 (Or.inl rfl) 53 Grow.enter53 _ _ rfl (fun a wx hk => by have e5 : a.eval (.tmp 5) = .int .u32 n := (hk.deps 0 5 (by kernel_rfl)); rw [e5]; refine (num_any wx n H0.out H1.out).mono ?_; rintro e w5 ⟨rfl, hb⟩; exact ⟨_, rfl, rfl, hb⟩),
    Grow.h2_row (Or.inl rfl) 3 (w.heap.size) 49 (ec (x)) _ rfl Tryd.underlying49 i30 rfl (by kernel_rfl) rfl (S0.out.rows (w.heap.size, x) (by simp)) rfl,
    Grow.h2_call2 (Or.inl rfl) 50 Grow.enter50 _ _ _ rfl (fun a wx hk => by have e6 : a.eval (.tmp 6) = .agg (ec (Fe.num n)) := (hk.deps 1 6 (by kernel_rfl)); have e7 : a.eval (.tmp 7) = .agg (ec x) := (hk.deps 2 7 (by kernel_rfl)); rw [e6, e7]; refine (mul_any wx (Fe.num n) x (Fe.num_ok n H0.out H1.out) HX.out).mono ?_; rintro e w5 ⟨rfl, hb⟩; exact ⟨_, rfl, rfl, hb⟩),
    trivial⟩ ?_
  intro o a w4 ho hb hts hk hdf hfr
  obtain rfl := Option.some.inj ho
  have e8 : a.eval (.tmp 8) = .agg (ec (Fe.mul (Fe.num n) x)) := hk 3 8 (by decide) rfl
  have e4 : a.eval (.tmp 4) = .pointer (some ⟨w.heap.size + 1, 0, none⟩) := hfr 4 (by kernel_rfl)
  have S1 := S0.out.below hb
  have hz := S1.rows (w.heap.size + 1, Fe.z) (by simp)
  refine ⟨rfl, wp_store_row 49 (.tmp 4) (.tmp 8) rfl (w.heap.size + 1) (ec _) e4 e8 49 (ec Fe.z) hz i30 rfl (ec_one _) ?_⟩
  have hS := setRow_heap w4 (w.heap.size + 1) _ (ec (Fe.mul (Fe.num n) x)) 49 _ hz
  have hB : Below w.heap.size w (w4.setRow (w.heap.size + 1) (ec (Fe.mul (Fe.num n) x))) := below_setRow S1.bb (Nat.le_succ _) _
  generalize w4.setRow (w.heap.size + 1) (ec (Fe.mul (Fe.num n) x)) = w5 at *
  have ha := Grow.act_after hts hdf hfr
  rw [show Grow.dsts _ 4 = [5, 6, 7, 8] from by kernel_rfl] at ha
  simp only [Grow.putAll] at ha
  generalize a.eval (.tmp 5) = u5 at ha
  generalize a.eval (.tmp 6) = u6 at ha
  generalize a.eval (.tmp 7) = u7 at ha
  generalize a.eval (.tmp 8) = u8 at ha
  clear hk hts hdf hfr e8 e4 hb hz S1
  simp [Act.put] at ha
  subst ha
  go_wp2
  exact bodyPost_ret (results_cell_row Tryd.results55 _ _ (w.heap.size + 1) 49 _ (0, 0) _ rfl hS Tryd.underlying49 rfl i30) rfl ⟨rfl, hB⟩
end Go.Proofs.YtiinmdleechcgaaDoor
namespace Go.Proofs.YtiinmdleechcgaaDoor
open Go.RowKit
/-- The four elements of a point. -/
structure Pv where
  X : Fe.E
  Y : Fe.E
  Z : Fe.E
  T : Fe.E
def Pv.nth (P : Pv) : Nat → Fe.E
  | 0 => P.X
  | 1 => P.Y
  | 2 => P.Z
  | _ => P.T
def pc (P : Pv) : Array Value := #[.int .u64 P.X.a, .int .u64 P.X.b, .int .u64 P.X.c, .int .u64 P.X.d, .int .u64 P.X.e, .int .u64 P.Y.a, .int .u64 P.Y.b, .int .u64 P.Y.c, .int .u64 P.Y.d, .int .u64 P.Y.e,
  .int .u64 P.Z.a, .int .u64 P.Z.b, .int .u64 P.Z.c, .int .u64 P.Z.d, .int .u64 P.Z.e, .int .u64 P.T.a, .int .u64 P.T.b, .int .u64 P.T.c, .int .u64 P.T.d, .int .u64 P.T.e]
def pz : Pv := ⟨Fe.z, Fe.z, Fe.z, Fe.z⟩
theorem pc_one (P : Pv) : (pc P).all (·.oneCell') = true := by simp [pc, Value.oneCell']
theorem i51 : (Tryd.prog.info? 51).map (·.size) = some 20 := by kernel_rfl
theorem build51 (P : Pv) (w : World) : (Instr.build 51 #[(0, .agg (ec P.X)), (1, .agg (ec P.Y)), (2, .agg (ec P.Z)), (3, .agg (ec P.T))]).run Tryd.prog w = .ok (.agg (pc P)) w := by kernel_rfl
theorem pc_part (P : Pv) (k : Nat) (hk : k < 4) : ((pc P).extract (5 * k) (5 * k + 5)).toList = (P.nth k).cells.map (Value.int .u64) := by
  match k, hk with
  | 0, _ => rfl
  | 1, _ => rfl
  | 2, _ => rfl
  | 3, _ => rfl
theorem run_faddr0 (w : World) (g : Nat) : (Instr.fieldAt 51 (.pointer (some ⟨g, 0, none⟩)) 0).run Tryd.prog w = .ok (.pointer (some ⟨g, 5 * 0, none⟩)) w := by kernel_rfl
theorem run_faddr1 (w : World) (g : Nat) : (Instr.fieldAt 51 (.pointer (some ⟨g, 0, none⟩)) 1).run Tryd.prog w = .ok (.pointer (some ⟨g, 5 * 1, none⟩)) w := by kernel_rfl
theorem run_faddr2 (w : World) (g : Nat) : (Instr.fieldAt 51 (.pointer (some ⟨g, 0, none⟩)) 2).run Tryd.prog w = .ok (.pointer (some ⟨g, 5 * 2, none⟩)) w := by kernel_rfl
theorem run_faddr3 (w : World) (g : Nat) : (Instr.fieldAt 51 (.pointer (some ⟨g, 0, none⟩)) 3).run Tryd.prog w = .ok (.pointer (some ⟨g, 5 * 3, none⟩)) w := by kernel_rfl
theorem run_faddr (w : World) (g k : Nat) (hk : k < 4) : (Instr.fieldAt 51 (.pointer (some ⟨g, 0, none⟩)) k).run Tryd.prog w = .ok (.pointer (some ⟨g, 5 * k, none⟩)) w := by
  have h : k = 0 ∨ k = 1 ∨ k = 2 ∨ k = 3 := by omega
  rcases h with rfl | rfl | rfl | rfl
  · exact run_faddr0 w g
  · exact run_faddr1 w g
  · exact run_faddr2 w g
  · exact run_faddr3 w g
namespace Grow
section
variable {m : Nat} {ops : Array Oper} {Q : Exit → Act → World → Prop} {specs : Nat → Spec} {a0 : Act} {w0 : World} {i : Nat} {o : Oper}
/-- A point that lay there from the start. -/
theorem h2_point (hr : Runs2 ops specs a0 o) (t g : Nat) (P : Pv) (ho : o.op = .load 51 (.tmp t)) (hf : free2 ops m t = true) (hv : a0.eval (.tmp t) = .pointer (some ⟨g, 0, none⟩)) (hg : w0.heap[g]? = some (.cells (pc P) 51 (0, 0))) (hs : specs i = .is (.agg (pc P))) : Hop2 Tryd.prog m ops specs Q a0 w0 i o :=
  h2_row hr t g 51 (pc P) _ rfl Tryd.underlying51 i51 ho hf hv hg hs
theorem h2_faddr (hr : Runs2 ops specs a0 o) (t g k : Nat) (hk : k < 4) (ho : o.op = .fieldAddr 51 (.tmp t) k) (hf : free2 ops m t = true) (hv : a0.eval (.tmp t) = .pointer (some ⟨g, 0, none⟩)) (hs : specs i = .is (.pointer (some ⟨g, 5 * k, none⟩))) : Hop2 Tryd.prog m ops specs Q a0 w0 i o :=
  h2_val hr fun a w hkn => by
    refine ⟨_, w, ?_, by rw [hs]; rfl, Below.refl _ _⟩
    unfold execOp
    rw [ho]
    have hv2 := (hkn.rest t hf).trans hv
    simp only [hv2, Sem.run_bind, Sem.run_pure, run_faddr w g k hk, Result.andThen_ok]
theorem h2_part (hr : Runs2 ops specs a0 o) (j d g k : Nat) (P : Pv) (hk : k < 4) (ho : o.op = .load 49 (.tmp d)) (hj : deps .any ops o j d = true) (hsj : specs j = .is (.pointer (some ⟨g, 5 * k, none⟩))) (hg : w0.heap[g]? = some (.cells (pc P) 51 (0, 0))) (hs : specs i = .is (.agg (ec (P.nth k)))) : Hop2 Tryd.prog m ops specs Q a0 w0 i o :=
  h2_wp hr fun a w hkn => by
    have e : a.eval (.tmp d) = .pointer (some ⟨g, 5 * k, none⟩) := by
      have := hkn.deps j d hj
      rw [hsj] at this
      exact this
    have hr := World.rangeAt_of_block ((hkn.below.block g (lt_of_block hg)).trans hg) (5 * k) 5
    rw [pc_part P k hk] at hr
    refine wp_load_mid 49 (.tmp d) ho g (5 * k) e _ _ hr Tryd.underlying49 rfl i30 ?_
    exact ⟨_, rfl, by rw [hs]; rfl, Below.refl _ _⟩
theorem h2_build51 (hr : Runs2 ops specs a0 o) (P : Pv) (j1 d1 j2 d2 j3 d3 j4 d4 : Nat) (ho : o.op = .build 51 #[(0, .tmp d1), (1, .tmp d2), (2, .tmp d3), (3, .tmp d4)])
    (h1 : deps .any ops o j1 d1 = true) (h2 : deps .any ops o j2 d2 = true) (h3 : deps .any ops o j3 d3 = true) (h4 : deps .any ops o j4 d4 = true)
    (s1 : specs j1 = .is (.agg (ec P.X))) (s2 : specs j2 = .is (.agg (ec P.Y))) (s3 : specs j3 = .is (.agg (ec P.Z))) (s4 : specs j4 = .is (.agg (ec P.T))) (hs : specs i = .is (.agg (pc P))) : Hop2 Tryd.prog m ops specs Q a0 w0 i o :=
  h2_val hr fun a w hkn => by
    have e1 := hkn.deps j1 d1 h1; rw [s1] at e1
    have e2 := hkn.deps j2 d2 h2; rw [s2] at e2
    have e3 := hkn.deps j3 d3 h3; rw [s3] at e3
    have e4 := hkn.deps j4 d4 h4; rw [s4] at e4
    have e1 : a.eval (.tmp d1) = .agg (ec P.X) := e1
    have e2 : a.eval (.tmp d2) = .agg (ec P.Y) := e2
    have e3 : a.eval (.tmp d3) = .agg (ec P.Z) := e3
    have e4 : a.eval (.tmp d4) = .agg (ec P.T) := e4
    refine ⟨.agg (pc P), w, ?_, by rw [hs]; rfl, Below.refl _ _⟩
    have hb := build51 P w
    unfold execOp
    rw [ho]
    simp only [List.map_toArray, List.map_cons, List.map_nil, e1, e2, e3, e4, Sem.run_bind, hb, Result.andThen_ok, Sem.run_pure]
end
end Grow
set_option maxRecDepth 100000 in
set_option maxHeartbeats 2000000 in
theorem flat_any (w : World) (x y : Fe.E) (hx : Fe.Ok x) (hy : Fe.Ok y) :
    Calls Tryd.prog 75 #[.agg (ec x), .agg (ec y)] w fun e w' => e = .returned (.agg (pc ⟨x, y, Fe.num 1, Fe.mul x y⟩)) ∧ Below w.heap.size w w' := by
  have HX := Lib.hid hx
  have HY := Lib.hid hy
  clear hx hy
  go_enter Tryd.func75, Tryd.ntmps75
  go_wp2_with fail
  change Code.wp _ _ _ _ (((w.alloc (.cells (ec x) 49)).alloc (.cells (ec y) 49)).alloc (.cells (pc pz) 51))
  have hb0 : Below w.heap.size w (((w.alloc (.cells (ec x) 49)).alloc (.cells (ec y) 49)).alloc (.cells (pc pz) 51)) := (((Below.refl _ _).alloc (Nat.le_refl _) _).alloc (by simp) _).alloc (by simp; omega) _
  have g1 : (((w.alloc (.cells (ec x) 49)).alloc (.cells (ec y) 49)).alloc (.cells (pc pz) 51)).heap[w.heap.size]? = some (.cells (ec x) 49 (0, 0)) := (heap_alloc3 w _ _ _).1.1
  have g2 : (((w.alloc (.cells (ec x) 49)).alloc (.cells (ec y) 49)).alloc (.cells (pc pz) 51)).heap[w.heap.size + 1]? = some (.cells (ec y) 49 (0, 0)) := (heap_alloc3 w _ _ _).1.2.1
  have g3 : (((w.alloc (.cells (ec x) 49)).alloc (.cells (ec y) 49)).alloc (.cells (pc pz) 51)).heap[w.heap.size + 2]? = some (.cells (pc pz) 51 (0, 0)) := (heap_alloc3 w _ _ _).1.2.2
  generalize ((w.alloc (.cells (ec x) 49)).alloc (.cells (ec y) 49)).alloc (.cells (pc pz) 51) = w3 at *
  refine Grow.region_tail (by kernel_rfl) 7 (fun i => List.getD (Grow.Spec.is (.agg (ec x)) :: Grow.Spec.is (.agg (ec y)) :: Grow.Spec.is (.agg (ec (Fe.num 1))) :: Grow.Spec.is (.agg (ec x)) :: Grow.Spec.is (.agg (ec y)) :: Grow.Spec.is (.agg (ec (Fe.mul x y))) :: Grow.Spec.is (.agg (pc ⟨x, y, Fe.num 1, Fe.mul x y⟩)) :: []) i (Grow.Spec.is undef)) (by kernel_rfl) ⟨
    Grow.h2_row (Or.inl rfl) 2 (w.heap.size) 49 (ec x) _ rfl Tryd.underlying49 i30 rfl (by kernel_rfl) rfl g1 rfl,
    Grow.h2_row (Or.inl rfl) 3 (w.heap.size + 1) 49 (ec y) _ rfl Tryd.underlying49 i30 rfl (by kernel_rfl) rfl g2 rfl,
    Grow.h2_call1 (Or.inl rfl) 53 Grow.enter53 _ _ rfl (fun a wx hk => by refine (num_any wx 1 (by decide) (by decide)).mono ?_; rintro e w5 ⟨rfl, hb⟩; exact ⟨_, rfl, rfl, hb⟩),
    Grow.h2_row (Or.inl rfl) 2 (w.heap.size) 49 (ec x) _ rfl Tryd.underlying49 i30 rfl (by kernel_rfl) rfl g1 rfl,
    Grow.h2_row (Or.inl rfl) 3 (w.heap.size + 1) 49 (ec y) _ rfl Tryd.underlying49 i30 rfl (by kernel_rfl) rfl g2 rfl,
    Grow.h2_call2 (Or.inl rfl) 50 Grow.enter50 _ _ _ rfl (fun a wx hk => by have e8 : a.eval (.tmp 8) = .agg (ec x) := (hk.deps 3 8 (by kernel_rfl)); have e9 : a.eval (.tmp 9) = .agg (ec y) := (hk.deps 4 9 (by kernel_rfl)); rw [e8, e9]; refine (mul_any wx x y HX.out HY.out).mono ?_; rintro e w5 ⟨rfl, hb⟩; exact ⟨_, rfl, rfl, hb⟩),
    Grow.h2_build51 (Or.inl rfl) ⟨x, y, Fe.num 1, Fe.mul x y⟩ 0 5 1 6 2 7 5 10 rfl (by kernel_rfl) (by kernel_rfl) (by kernel_rfl) (by kernel_rfl) rfl rfl rfl rfl rfl,
    trivial⟩ ?_
  intro o a w4 ho hb hts hk hdf hfr
  obtain rfl := Option.some.inj ho
  have e11 : a.eval (.tmp 11) = .agg (pc ⟨x, y, Fe.num 1, Fe.mul x y⟩) := hk 6 11 (by decide) rfl
  have e4 : a.eval (.tmp 4) = .pointer (some ⟨w.heap.size + 2, 0, none⟩) := hfr 4 (by kernel_rfl)
  have hz := (hb.block _ (lt_of_block g3)).trans g3
  generalize hR : (⟨x, y, Fe.num 1, Fe.mul x y⟩ : Pv) = R at e11
  refine ⟨rfl, wp_store_row 51 (.tmp 4) (.tmp 11) rfl (w.heap.size + 2) (pc R) e4 e11 51 (pc pz) hz i51 rfl (pc_one _) ?_⟩
  have hS := setRow_heap w4 (w.heap.size + 2) _ (pc R) 51 _ hz
  have hB : Below w.heap.size w (w4.setRow (w.heap.size + 2) (pc R)) := below_setRow (hb0.trans (hb.mono hb0.size)) (by omega) _
  generalize w4.setRow (w.heap.size + 2) (pc R) = w5 at *
  have ha := Grow.act_after hts hdf hfr
  rw [show Grow.dsts _ 7 = [5, 6, 7, 8, 9, 10, 11] from by kernel_rfl] at ha
  simp only [Grow.putAll] at ha
  generalize a.eval (.tmp 5) = u5 at ha
  generalize a.eval (.tmp 6) = u6 at ha
  generalize a.eval (.tmp 7) = u7 at ha
  generalize a.eval (.tmp 8) = u8 at ha
  generalize a.eval (.tmp 9) = u9 at ha
  generalize a.eval (.tmp 10) = u10 at ha
  generalize a.eval (.tmp 11) = u11 at ha
  clear hk hts hdf hfr e11 e4 hb hz g1 g2 g3 hb0
  simp [Act.put] at ha
  subst ha
  go_wp2
  exact bodyPost_ret (results_cell_row Tryd.results75 _ _ (w.heap.size + 2) 51 _ (0, 0) _ rfl hS Tryd.underlying51 rfl i51) rfl ⟨by rw [hR], hB⟩
end Go.Proofs.YtiinmdleechcgaaDoor
namespace Go.Proofs.YtiinmdleechcgaaDoor
open Go.RowKit
namespace Grow
/-- An operation waits for another. -/
def waits (ops : Array Oper) (j i : Nat) : Bool := match ops[j]? with | some o => o.after.any fun e => Region.binds .any e && e.on == i | none => false
/-- What is listed has what it waited for listed. -/
def Closed (ops : Array Oper) (m : Nat) (listed : Array Bool) : Prop := ∀ j o e, j < m → ops[j]? = some o → listed.getD j false = true → e ∈ o.after → Region.binds .any e = true → listed.getD e.on false = true
section
variable {ops : Array Oper} {m : Nat}
theorem Closed.step {listed : Array Bool} (h : Closed ops m listed) {i : Nat} {o : Oper} (hi : ops[i]? = some o) (hall : ∀ e ∈ o.after, Region.binds .any e = true → listed.getD e.on false = true) : Closed ops m (listed.setIfInBounds i true) := by
  have up : ∀ k, listed.getD k false = true → (listed.setIfInBounds i true).getD k false = true := by
    intro k hk
    by_cases hki : k = i
    · subst hki
      have hs : k < listed.size := by
        apply Decidable.byContradiction
        intro hn
        simp [Array.getElem?_eq_none (Nat.le_of_not_lt hn)] at hk
      simp [Array.getElem?_setIfInBounds_self_of_lt hs]
    · simpa [Array.getElem?_setIfInBounds_ne (Ne.symm hki)] using hk
  intro j oj e hj hoj hl he hb
  by_cases hji : j = i
  · subst hji
    obtain rfl := Option.some.inj (hi.symm.trans hoj)
    exact up _ (hall e he hb)
  · refine up _ (h j oj e hj hoj ?_ he hb)
    simpa [Array.getElem?_setIfInBounds_ne (Ne.symm hji)] using hl
end
/-- The first m are drawn: no two write one temporary; all are written in the frame; each waits for earlier ones alone; for each some later one waits. Those behind wait each for the one ahead of it. -/
def fits5 (ops : Array Oper) (m n : Nat) : Bool :=
  decide (m < ops.size) && (((List.range m).all fun i => (match dstOf ops i with
    | some d => decide (d < n) && (List.range m).all fun j => j == i || dstOf ops j != some d
    | none => false) && (match ops[i]? with | some o => o.after.all fun e => !Region.binds .any e || decide (e.on < i) | none => false)) &&
   (((List.range m).all fun i => (List.range (m + 1)).any fun j => decide (i < j) && waits ops j i) &&
    ((List.range ops.size).all fun k => decide (k < m) || (match ops[k]? with | some o => o.after.all (fun e => !Region.binds .any e || decide (e.on < k)) && (k == m || waits ops k (k - 1)) | none => false))))
/-- One after the other. -/
def wpSeq (P : Program) (ops : Array Oper) (Q : Exit → Act → World → Prop) : List Oper → Act → World → Prop
  | [], a, w => Q .normal a w
  | o :: r, a, w => Region.wanted o (yielded ops a.tmps) = true ∧ o.wp P a w (fun a' w' => wpSeq P ops Q r a' w') Q
section
variable {P : Program} {m : Nat} {ops : Array Oper} {Q : Exit → Act → World → Prop} {specs : Nat → Spec} {a0 : Act} {w0 : World}
theorem fits5_size {n : Nat} (h : fits5 ops m n = true) : m < ops.size := by
  unfold fits5 at h
  simp only [Bool.and_eq_true, decide_eq_true_eq] at h
  exact h.1
theorem fits5_dst {n : Nat} (h : fits5 ops m n = true) {i : Nat} {o : Oper} (hm : i < m) (hi : ops[i]? = some o) : ∃ d, o.dst = some d ∧ d < n ∧ (∀ j, j < m → j ≠ i → dstOf ops j ≠ some d) ∧ ∀ e ∈ o.after, Region.binds .any e = true → e.on < i := by
  unfold fits5 at h
  simp only [Bool.and_eq_true] at h
  have h0 := h.2.1
  rw [List.all_eq_true] at h0
  have h1 := h0 i (List.mem_range.2 hm)
  simp only [Bool.and_eq_true, hi] at h1
  obtain ⟨h2, h3⟩ := h1
  have hd : dstOf ops i = o.dst := by simp [dstOf, hi]
  rw [hd] at h2
  cases hod : o.dst with
  | none => rw [hod] at h2; cases h2
  | some d =>
    rw [hod] at h2
    simp only [Bool.and_eq_true, decide_eq_true_eq, List.all_eq_true, List.mem_range] at h2
    refine ⟨d, rfl, h2.1, fun j hj hne => ?_, fun e he hb => ?_⟩
    · have := h2.2 j hj
      simp only [Bool.or_eq_true, beq_iff_eq, bne_iff_ne, ne_eq] at this
      rcases this with h | h
      · exact absurd h hne
      · exact h
    · rw [Array.all_eq_true_iff_forall_mem] at h3
      have h4 := h3 e he
      simpa [hb] using h4
theorem waits_get {j i : Nat} (h : waits ops j i = true) : ∃ o e, ops[j]? = some o ∧ e ∈ o.after ∧ Region.binds .any e = true ∧ e.on = i := by
  unfold waits at h
  cases ho : ops[j]? with
  | none => rw [ho] at h; cases h
  | some o =>
    rw [ho] at h
    simp only [Array.any_eq_true', Bool.and_eq_true, beq_iff_eq] at h
    obtain ⟨e, he, hb, hon⟩ := h
    exact ⟨o, e, rfl, he, hb, hon⟩
theorem fits5_waits {n : Nat} (h : fits5 ops m n = true) {i : Nat} (hi : i < m) : ∃ j o e, i < j ∧ j ≤ m ∧ ops[j]? = some o ∧ e ∈ o.after ∧ Region.binds .any e = true ∧ e.on = i := by
  unfold fits5 at h
  simp only [Bool.and_eq_true] at h
  have h0 := h.2.2.1
  rw [List.all_eq_true] at h0
  have h1 := h0 i (List.mem_range.2 hi)
  rw [List.any_eq_true] at h1
  obtain ⟨j, hj, h2⟩ := h1
  simp only [Bool.and_eq_true, decide_eq_true_eq] at h2
  obtain ⟨h3, h4⟩ := h2
  have hjm := List.mem_range.1 hj
  obtain ⟨o, e, h5⟩ := waits_get h4
  exact ⟨j, o, e, h3, by omega, h5⟩
theorem fits5_late {n : Nat} (h : fits5 ops m n = true) {k : Nat} {o : Oper} (hk : m ≤ k) (ho : ops[k]? = some o) : (∀ e ∈ o.after, Region.binds .any e = true → e.on < k) ∧ (m < k → ∃ e ∈ o.after, Region.binds .any e = true ∧ e.on = k - 1) := by
  unfold fits5 at h
  simp only [Bool.and_eq_true] at h
  have h0 := h.2.2.2
  rw [List.all_eq_true] at h0
  have h1 := h0 k (List.mem_range.2 (Array.getElem?_eq_some_iff.1 ho).1)
  rw [ho] at h1
  simp only [Bool.or_eq_true, decide_eq_true_eq, Bool.and_eq_true, beq_iff_eq, Array.all_eq_true_iff_forall_mem] at h1
  rcases h1 with h1 | ⟨h1, h2⟩
  · omega
  · refine ⟨fun e he hb => by rcases h1 e he with h | h; (simp [hb] at h); exact h, fun hmk => ?_⟩
    rcases h2 with h2 | h2
    · omega
    · obtain ⟨o', e, h3, h4, h5, h6⟩ := waits_get h2
      obtain rfl := Option.some.inj (ho.symm.trans h3)
      exact ⟨e, h4, h5, h6⟩
theorem Inv2.step5 {listed : Array Bool} {a : Act} {w : World} (hf : fits5 ops m a0.tmps.size = true) (h : Inv2 m ops specs a0 w0 listed a w) {i : Nat} {o : Oper} (him : i < m) (hi : ops[i]? = some o) {v : Value} {w' : World}
    (hv : (specs i).meets v w') (hb : Below w.heap.size w w') : Inv2 m ops specs a0 w0 (listed.setIfInBounds i true) (a.put o.dst v) w' := by
  obtain ⟨d, hd, hdn, hne, -⟩ := fits5_dst hf him hi
  have hlt : i < ops.size := (Array.getElem?_eq_some_iff.1 hi).1
  have hdi : dstOf ops i = some d := by simp [dstOf, hi, hd]
  rw [hd]
  refine ⟨by simp [h.lsize], h.below.trans (hb.mono h.below.size), by simp [Act.put, h.tsize], ?_, ?_, by simp [Act.put, h.defers], ?_⟩
  · intro j e hjm hj hl
    by_cases hji : j = i
    · subst hji
      obtain rfl : d = e := Option.some.inj (hdi.symm.trans hj)
      rw [eval_put_eq (by rw [h.tsize]; exact hdn)]
      exact hv
    · have hde : d ≠ e := fun hh => hne j hjm hji (hh ▸ hj)
      rw [eval_put_ne hde]
      refine ((specs j).keeps (h.known j e hjm hj ?_) hb)
      simpa [Array.getElem?_setIfInBounds_ne (Ne.symm hji)] using hl
  · intro t ht
    have : d ≠ t := by
      intro hh
      subst hh
      unfold free2 at ht
      rw [List.all_eq_true] at ht
      have := ht i (List.mem_range.2 him)
      rw [hdi] at this
      simp at this
    rw [eval_put_ne this]
    exact h.rest t ht
  · simpa [Array.getElem?_setIfInBounds_ne (show i ≠ m by omega)] using h.last

theorem count_listed {listed : Array Bool} {i fuel : Nat} (hs : i < listed.size) (hl0 : listed[i] = false) (hc : listed.toList.count false ≤ fuel + 1) : (listed.setIfInBounds i true).toList.count false ≤ fuel := by
  have hm : false ∈ listed.toList := by
    rw [Array.mem_toList_iff]
    exact Array.mem_of_getElem? (i := i) (by rw [Array.getElem?_eq_getElem hs, hl0])
  have hp := List.count_pos_iff.2 hm
  rw [Array.toList_setIfInBounds, List.count_set (by simpa using hs)]
  rw [if_pos (by simp [hl0]), if_neg (by simp)]
  omega
theorem count_pos {listed : Array Bool} {i : Nat} (hs : i < listed.size) (hl0 : listed.getD i false = false) : 0 < listed.toList.count false := by
  refine List.count_pos_iff.2 ?_
  rw [Array.mem_toList_iff]
  refine Array.mem_of_getElem? (i := i) ?_
  rw [Array.getElem?_eq_getElem hs]
  simpa [Array.getElem?_eq_getElem hs] using hl0

/-- Behind the drawn ones: one after the other. -/
theorem wpAny_seq {n : Nat} (hf : fits5 ops m n = true) : ∀ (l : List Oper) (k : Nat), m ≤ k → ops.toList.drop k = l → ∀ (fuel : Nat) (listed : Array Bool) (a : Act) (w : World), listed.size = ops.size → (∀ j, j < k → j < ops.size → listed.getD j false = true) → (∀ j, k ≤ j → j < ops.size → listed.getD j false = false) → listed.toList.count false ≤ fuel → wpSeq P ops Q l a w → wpAny P .any ops Q fuel listed a w
  | [], k, hk, hd, fuel, listed, a, w, hs, h1, _, _, hq => by
    have hks : ops.size ≤ k := by have := List.drop_eq_nil_iff.1 hd; simpa using this
    exact wpAny_all (fun i hi => h1 i (by omega) hi) hs hq fuel
  | o :: r, k, hk, hd, fuel, listed, a, w, hs, h1, h2, hc, hq => by
    have hks : k < ops.size := by
      have := congrArg List.length hd
      simp at this
      omega
    have ho : ops[k]? = some o := by
      have := congrArg (fun l => l[0]?) hd
      simpa [List.getElem?_drop] using this
    have hr : ops.toList.drop (k + 1) = r := by
      have := congrArg (List.drop 1) hd
      simpa [List.drop_drop] using this
    have hlk := h2 k (Nat.le_refl _) hks
    obtain ⟨fuel, rfl⟩ : ∃ f, fuel = f + 1 := ⟨fuel - 1, by have := count_pos (by omega) hlk; omega⟩
    have hlate := fits5_late hf hk ho
    refine ⟨fun hr => ?_, fun i hi => ?_⟩
    · exfalso
      have hm : k ∈ Region.ready .any ops listed := by
        refine mem_ready.2 ⟨?_, o, ho, fun e he hb => h1 e.on (hlate.1 e he hb) (by have := hlate.1 e he hb; omega)⟩
        have hs' : k < listed.size := by omega
        simpa [Array.getElem?_eq_getElem hs'] using hlk
      rw [hr] at hm; cases hm
    · obtain ⟨h0, o', ho', hall⟩ := mem_ready.1 hi
      have hio := (Array.getElem?_eq_some_iff.1 ho').1
      have hsi : i < listed.size := by omega
      have hik : k ≤ i := by
        apply Decidable.byContradiction
        intro hn
        have := h1 i (by omega) hio
        simp [Array.getElem?_eq_getElem hsi] at h0 this
        rw [h0] at this; cases this
      have him : i = k := by
        apply Decidable.byContradiction
        intro hn
        obtain ⟨e, he, hb, hon⟩ := (fits5_late hf (by omega) ho').2 (by omega)
        have h3 := hall e he hb
        rw [hon] at h3
        have h4 := h2 (i - 1) (by omega) (by omega)
        rw [h4] at h3; cases h3
      subst him
      obtain rfl := Option.some.inj (ho.symm.trans ho')
      have hl0 : listed[i] = false := by simpa [Array.getElem?_eq_getElem hsi] using h0
      have hcount := count_listed hsi hl0 hc
      obtain ⟨hw, hwp⟩ := hq
      unfold wpOp
      simp only [ho, hw, if_true]
      refine Or.inl (Oper.wp_mono ?_ hwp)
      intro a' w' hq'
      refine wpAny_seq hf r (i + 1) (by omega) hr fuel _ a' w' (by simp [hs]) (fun j hj hjs => ?_) (fun j hj hjs => ?_) hcount hq'
      · by_cases hji : j = i
        · subst hji
          simp [Array.getElem?_setIfInBounds_self_of_lt hsi]
        · have := h1 j (by omega) hjs
          simpa [Array.getElem?_setIfInBounds_ne (Ne.symm hji)] using this
      · have := h2 j (by omega) hjs
        simpa [Array.getElem?_setIfInBounds_ne (show i ≠ j by omega)] using this

/-- Nothing behind the drawn ones is listed. -/
def Ahead (ops : Array Oper) (m : Nat) (listed : Array Bool) : Prop := ∀ j, m ≤ j → j < ops.size → listed.getD j false = false
theorem wpAny_rest (hf : fits5 ops m a0.tmps.size = true) (hops : Hops2 P m ops specs Q a0 w0 0 (ops.toList.take m))
    (hend : ∀ a w, Below w0.heap.size w0 w → a.tmps.size = a0.tmps.size → (∀ i d, i < m → dstOf ops i = some d → (specs i).meets (a.eval (.tmp d)) w) → a.defers = a0.defers → (∀ t, free2 ops m t = true → a.eval (.tmp t) = a0.eval (.tmp t)) → wpSeq P ops Q (ops.toList.drop m) a w) :
    ∀ (fuel : Nat) (listed : Array Bool) (a : Act) (w : World), listed.toList.count false ≤ fuel → Inv2 m ops specs a0 w0 listed a w → Closed ops m listed → Ahead ops m listed → wpAny P .any ops Q fuel listed a w := by
  have hsz := fits5_size hf
  intro fuel
  induction fuel with
  | zero =>
    intro listed a w hc h hcl hah
    exfalso
    have := count_pos (by rw [h.lsize]; exact hsz) (hah m (Nat.le_refl _) hsz)
    omega
  | succ fuel ih =>
    intro listed a w hc h hcl hah
    by_cases hdone : ∀ j, j < m → listed.getD j false = true
    · exact wpAny_seq hf _ m (Nat.le_refl _) rfl _ listed a w h.lsize (fun j hj _ => hdone j hj) hah hc (hend a w h.below h.tsize (fun j d hj hd => h.known j d hj hd (hdone j hj)) h.defers h.rest)
    · have hl2 : ∀ i, m ≤ i → (∀ o, ops[i]? = some o → ∀ e ∈ o.after, Region.binds .any e = true → listed.getD e.on false = true) → i < ops.size → False := by
        intro i hmi hall hlt
        obtain ⟨o, ho⟩ : ∃ o, ops[i]? = some o := ⟨_, Array.getElem?_eq_getElem hlt⟩
        by_cases him : i = m
        · subst him
          refine hdone ?_
          have hl3 : ∀ n j, i - j ≤ n → j < i → listed.getD j false = true := by
            intro n
            induction n with
            | zero => intro j h1 h2; omega
            | succ n ihn =>
              intro j h1 h2
              obtain ⟨k, ok, e, hjk, hki, hok, he, hb, hon⟩ := fits5_waits hf h2
              rw [← hon]
              rcases Nat.lt_or_ge k i with hlt | hge
              · exact hcl k ok e hlt hok (ihn k (by omega) hlt) he hb
              · obtain rfl : k = i := by omega
                exact hall ok hok e he hb
          exact fun j hj => hl3 (i - j) j (Nat.le_refl _) hj
        · obtain ⟨e, he, hb, hon⟩ := (fits5_late hf hmi ho).2 (by omega)
          have h3 := hall o ho e he hb
          rw [hon, hah (i - 1) (by omega) (by omega)] at h3
          cases h3
      refine ⟨fun hr => ?_, fun i hi => ?_⟩
      · exfalso
        have hall : ∀ n i, i < n → i < m → listed.getD i false = true := by
          intro n
          induction n with
          | zero => intro i hi; omega
          | succ n ihn =>
            intro i hi hlt
            by_cases hin : i < n
            · exact ihn i hin hlt
            · obtain ⟨o, ho⟩ : ∃ o, ops[i]? = some o := ⟨_, Array.getElem?_eq_getElem (by omega)⟩
              obtain ⟨_, _, _, _, haf⟩ := fits5_dst hf hlt ho
              cases hl : listed.getD i false with
              | true => rfl
              | false =>
                have hm : i ∈ Region.ready .any ops listed := by
                  refine mem_ready.2 ⟨?_, o, ho, fun e he hb => ihn e.on (by have := haf e he hb; omega) (by have := haf e he hb; omega)⟩
                  have hs : i < listed.size := by rw [h.lsize]; omega
                  simpa [Array.getElem?_eq_getElem hs] using hl
                rw [hr] at hm; cases hm
        exact hdone fun j hj => hall (j + 1) j (Nat.lt_succ_self _) hj
      · obtain ⟨h0, o, ho, hall⟩ := mem_ready.1 hi
        have hio := (Array.getElem?_eq_some_iff.1 ho).1
        have hs : i < listed.size := by rw [h.lsize]; exact hio
        have hl0 : listed[i] = false := by simpa [Array.getElem?_eq_getElem hs] using h0
        have hcount := count_listed hs hl0 hc
        have him : i < m := by
          apply Decidable.byContradiction
          intro hn
          exact hl2 i (by omega) (fun o' ho' => by obtain rfl := Option.some.inj (ho.symm.trans ho'); exact hall) hio
        have hah2 : Ahead ops m (listed.setIfInBounds i true) := fun j hj hjs => by
          have := hah j hj hjs
          simpa [Array.getElem?_setIfInBounds_ne (show i ≠ j by omega)] using this
        have hhop := hops.get i o (by rw [List.getElem?_take_of_lt him]; simpa using ho)
        rw [Nat.zero_add] at hhop
        rcases hhop a w h.below h.tsize (fun j d hd => by
          unfold deps at hd
          simp only [Bool.and_eq_true, beq_iff_eq] at hd
          obtain ⟨hd1, hd2⟩ := hd
          rw [Array.any_eq_true'] at hd1
          obtain ⟨e, he, heb⟩ := hd1
          simp only [Bool.and_eq_true, beq_iff_eq] at heb
          obtain ⟨hb, rfl⟩ := heb
          obtain ⟨_, _, _, _, haf⟩ := fits5_dst hf him ho
          exact h.known _ d (by have := haf e he hb; omega) hd2 (hall e he hb)) h.rest with ⟨hw, hwp⟩ | ⟨hw, hm⟩
        · unfold wpOp
          simp only [ho, hw, if_true]
          refine Or.inl (Oper.wp_mono ?_ hwp)
          rintro a' w' ⟨v, rfl, hv, hb⟩
          exact ih _ _ _ hcount (h.step5 hf him ho hv hb) (hcl.step ho hall) hah2
        · unfold wpOp
          simp only [ho, hw, Bool.false_eq_true, if_false]
          exact ih _ _ _ hcount (h.step5 hf him ho hm (Below.refl _ _)) (hcl.step ho hall) hah2

theorem region_rest {id : Nat} (hm : P.follows .mixedOrders = true) (m : Nat) (specs : Nat → Spec) (hf : fits5 ops m a0.tmps.size = true) (hops : Hops2 P m ops specs Q a0 w0 0 (ops.toList.take m))
    (hend : ∀ a w, Below w0.heap.size w0 w → a.tmps.size = a0.tmps.size → (∀ i d, i < m → dstOf ops i = some d → (specs i).meets (a.eval (.tmp d)) w) → a.defers = a0.defers → (∀ t, free2 ops m t = true → a.eval (.tmp t) = a0.eval (.tmp t)) → wpSeq P ops Q (ops.toList.drop m) a w) :
    (Code.region id ops true).wp P Q a0 w0 := by
  refine wp_region_any hm (wpAny_rest hf hops hend _ _ _ _ ?_ ?_ ?_ ?_)
  · simp
  · refine ⟨by simp, ⟨rfl, rfl, rfl, Nat.le_refl _, fun _ _ => rfl⟩, rfl, ?_, fun _ _ => rfl, rfl, ?_⟩
    · intro i d _ _ hl
      simp [Array.getElem?_replicate] at hl
      split at hl <;> simp at hl
    · simp [Array.getElem?_replicate]
      split <;> simp
  · intro j o e _ _ hl _ _
    simp [Array.getElem?_replicate] at hl
    split at hl <;> simp at hl
  · intro j _ _
    simp [Array.getElem?_replicate]
    split <;> simp
theorem wpSeq_list : ∀ (l : List Oper) (a : Act) (w : World), wpSeq P ops Q l a w → wpList P ops Q l a w
  | [], _, _, h => h
  | o :: r, a, w, ⟨hw, hwp⟩ => by
    unfold wpList
    rw [if_pos hw]
    exact Or.inl (Oper.wp_mono (fun a' w' h => wpSeq_list r a' w' h) hwp)
theorem line_any (hf : fits5 ops m a0.tmps.size = true) (hops : Hops2 P m ops specs Q a0 w0 0 (ops.toList.take m))
    (hend : ∀ a w, Below w0.heap.size w0 w → a.tmps.size = a0.tmps.size → (∀ i d, i < m → dstOf ops i = some d → (specs i).meets (a.eval (.tmp d)) w) → a.defers = a0.defers → (∀ t, free2 ops m t = true → a.eval (.tmp t) = a0.eval (.tmp t)) → wpSeq P ops Q (ops.toList.drop m) a w) :
    ∀ (n k : Nat), n + k = m → ∀ a w, Below w0.heap.size w0 w → a.tmps.size = a0.tmps.size → (∀ i d, i < k → dstOf ops i = some d → (specs i).meets (a.eval (.tmp d)) w) → a.defers = a0.defers → (∀ t, free2 ops m t = true → a.eval (.tmp t) = a0.eval (.tmp t)) → wpList P ops Q (ops.toList.drop k) a w := by
  intro n
  induction n with
  | zero =>
    intro k hk a w hb ht hkn hd hr
    obtain rfl : k = m := by omega
    exact wpSeq_list _ _ _ (hend a w hb ht hkn hd hr)
  | succ n ih =>
    intro k hk a w hb ht hkn hd hr
    have hsz := fits5_size hf
    have hkm : k < m := by omega
    obtain ⟨o, ho⟩ : ∃ o, ops[k]? = some o := ⟨_, Array.getElem?_eq_getElem (by omega)⟩
    obtain ⟨d, hdst, hdn, hne, haf⟩ := fits5_dst hf hkm ho
    have hdk : dstOf ops k = some d := by simp [dstOf, ho, hdst]
    have hdrop : ops.toList.drop k = o :: ops.toList.drop (k + 1) := by
      rw [List.drop_eq_getElem_cons (show k < ops.toList.length by simp; omega)]
      congr 1
      have := (Array.getElem?_eq_some_iff.1 ho).2
      simpa using this
    have hhop := hops.get k o (by rw [List.getElem?_take_of_lt hkm]; simpa using ho)
    rw [Nat.zero_add] at hhop
    have next : ∀ v w', (specs k).meets v w' → Below w.heap.size w w' → wpList P ops Q (ops.toList.drop (k + 1)) (a.put o.dst v) w' := by
      intro v w' hv hb'
      rw [hdst]
      refine ih (k + 1) (by omega) _ w' (hb.trans (hb'.mono hb.size)) (by simp [Act.put, ht]) (fun i e hi he => ?_) (by simp [Act.put, hd]) (fun t hft => ?_)
      · by_cases hik : i = k
        · subst hik
          obtain rfl : d = e := Option.some.inj (hdk.symm.trans he)
          rw [eval_put_eq (by rw [ht]; exact hdn)]
          exact hv
        · have hde : d ≠ e := fun hh => hne i (by omega) hik (hh ▸ he)
          rw [eval_put_ne hde]
          exact (specs i).keeps (hkn i e (by omega) he) hb'
      · have : d ≠ t := by
          intro hh
          subst hh
          unfold free2 at hft
          rw [List.all_eq_true] at hft
          have := hft k (List.mem_range.2 hkm)
          rw [hdk] at this
          simp at this
        rw [eval_put_ne this]
        exact hr t hft
    rw [hdrop]
    unfold wpList
    rcases hhop a w hb ht (fun j e he => by
      unfold deps at he
      simp only [Bool.and_eq_true, beq_iff_eq] at he
      obtain ⟨hd1, hd2⟩ := he
      rw [Array.any_eq_true'] at hd1
      obtain ⟨f, hf1, hf2⟩ := hd1
      simp only [Bool.and_eq_true, beq_iff_eq] at hf2
      obtain ⟨hfb, rfl⟩ := hf2
      exact hkn _ e (haf f hf1 hfb) hd2) hr with ⟨hw, hwp⟩ | ⟨hw, hm⟩
    · rw [if_pos hw]
      refine Or.inl (Oper.wp_mono ?_ hwp)
      rintro a' w' ⟨v, rfl, hv, hb'⟩
      exact next v w' hv hb'
    · rw [if_neg (by rw [hw]; simp)]
      exact next undef w hm (Below.refl _ _)
theorem region_line {id : Nat} (m : Nat) (specs : Nat → Spec) (hf : fits5 ops m a0.tmps.size = true) (hops : Hops2 P m ops specs Q a0 w0 0 (ops.toList.take m))
    (hend : ∀ a w, Below w0.heap.size w0 w → a.tmps.size = a0.tmps.size → (∀ i d, i < m → dstOf ops i = some d → (specs i).meets (a.eval (.tmp d)) w) → a.defers = a0.defers → (∀ t, free2 ops m t = true → a.eval (.tmp t) = a0.eval (.tmp t)) → wpSeq P ops Q (ops.toList.drop m) a w) :
    (Code.region id ops false).wp P Q a0 w0 :=
  wp_region_list (line_any hf hops hend m 0 (Nat.add_zero m) a0 w0 (Below.refl _ _) rfl (fun i _ h => by omega) rfl (fun _ _ => rfl))
/-- Two new blocks are two. -/
def Pair (i1 i2 d1 d2 : Nat) (listed : Array Bool) (a : Act) (w : World) : Prop :=
  (listed.getD i1 false = true → ∃ g, a.eval (.tmp d1) = .pointer (some ⟨g, 0, none⟩) ∧ g < w.heap.size) ∧
  (listed.getD i2 false = true → ∃ g, a.eval (.tmp d2) = .pointer (some ⟨g, 0, none⟩) ∧ g < w.heap.size) ∧
  (listed.getD i1 false = true → listed.getD i2 false = true → a.eval (.tmp d1) ≠ a.eval (.tmp d2))
theorem Pair.swap {i1 i2 d1 d2 : Nat} {listed : Array Bool} {a : Act} {w : World} (h : Pair i1 i2 d1 d2 listed a w) : Pair i2 i1 d2 d1 listed a w :=
  ⟨h.2.1, h.1, fun h1 h2 => Ne.symm (h.2.2 h2 h1)⟩
theorem listed_other {listed : Array Bool} {i j : Nat} (h : i ≠ j) (hl : (listed.setIfInBounds i true).getD j false = true) : listed.getD j false = true := by
  simpa [Array.getElem?_setIfInBounds_ne h] using hl
theorem Pair.other {i1 i2 d1 d2 i d : Nat} {listed : Array Bool} {a : Act} {w w' : World} {v : Value} (h : Pair i1 i2 d1 d2 listed a w) (h1 : i ≠ i1) (h2 : i ≠ i2) (n1 : d ≠ d1) (n2 : d ≠ d2) (hs : w.heap.size ≤ w'.heap.size) :
    Pair i1 i2 d1 d2 (listed.setIfInBounds i true) (a.put (some d) v) w' := by
  refine ⟨fun hl => ?_, fun hl => ?_, fun hl hk => ?_⟩
  · obtain ⟨g, e, hg⟩ := h.1 (listed_other h1 hl)
    exact ⟨g, by rw [eval_put_ne n1]; exact e, by omega⟩
  · obtain ⟨g, e, hg⟩ := h.2.1 (listed_other h2 hl)
    exact ⟨g, by rw [eval_put_ne n2]; exact e, by omega⟩
  · rw [eval_put_ne n1, eval_put_ne n2]
    exact h.2.2 (listed_other h1 hl) (listed_other h2 hk)
theorem Pair.one {i1 i2 d1 d2 : Nat} {listed : Array Bool} {a : Act} {w w' : World} (h : Pair i1 i2 d1 d2 listed a w) (hne : i1 ≠ i2) (hdd : d1 ≠ d2) (_ : i1 < listed.size) (hd : d1 < a.tmps.size) (hs : w.heap.size < w'.heap.size) :
    Pair i1 i2 d1 d2 (listed.setIfInBounds i1 true) (a.put (some d1) (.pointer (some ⟨w.heap.size, 0, none⟩))) w' := by
  refine ⟨fun _ => ⟨_, eval_put_eq hd, hs⟩, fun hl => ?_, fun _ hk => ?_⟩
  · obtain ⟨g, e, hg⟩ := h.2.1 (listed_other hne hl)
    exact ⟨g, by rw [eval_put_ne hdd]; exact e, by omega⟩
  · obtain ⟨g, e, hg⟩ := h.2.1 (listed_other hne hk)
    rw [eval_put_eq hd, eval_put_ne hdd, e]
    intro hh
    injection hh with hh
    injection hh with hh
    injection hh with hh
    omega
theorem run_alloc49 {o : Oper} (ho : o.op = .alloc 49) (a : Act) (w : World) : (execOp a.eval o).run Tryd.prog w = .ok (.value (.pointer (some ⟨w.heap.size, 0, none⟩))) (w.alloc (.cells (ec Fe.z) 49)) := by
  unfold execOp
  rw [ho]
  kernel_rfl
theorem wpAny_pair {i1 i2 d1 d2 : Nat} (h1m : i1 < m) (h2m : i2 < m) (hne : i1 ≠ i2) (hd1 : dstOf ops i1 = some d1) (hd2 : dstOf ops i2 = some d2) (ho1 : ∀ o, ops[i1]? = some o → o.op = .alloc 49 ∧ o.guard = none) (ho2 : ∀ o, ops[i2]? = some o → o.op = .alloc 49 ∧ o.guard = none) (hs1 : specs i1 = newRow w0) (hs2 : specs i2 = newRow w0) (hf : fits5 ops m a0.tmps.size = true) (hops : Hops2 Tryd.prog m ops specs Q a0 w0 0 (ops.toList.take m))
    (hend : ∀ a w, Below w0.heap.size w0 w → a.tmps.size = a0.tmps.size → (∀ i d, i < m → dstOf ops i = some d → (specs i).meets (a.eval (.tmp d)) w) → a.defers = a0.defers → (∀ t, free2 ops m t = true → a.eval (.tmp t) = a0.eval (.tmp t)) → a.eval (.tmp d1) ≠ a.eval (.tmp d2) → wpSeq Tryd.prog ops Q (ops.toList.drop m) a w) :
    ∀ (fuel : Nat) (listed : Array Bool) (a : Act) (w : World), listed.toList.count false ≤ fuel → Inv2 m ops specs a0 w0 listed a w → Closed ops m listed → Ahead ops m listed → Pair i1 i2 d1 d2 listed a w → wpAny Tryd.prog .any ops Q fuel listed a w := by
  have hsz := fits5_size hf
  intro fuel
  induction fuel with
  | zero =>
    intro listed a w hc h hcl hah hJ
    exfalso
    have := count_pos (by rw [h.lsize]; exact hsz) (hah m (Nat.le_refl _) hsz)
    omega
  | succ fuel ih =>
    intro listed a w hc h hcl hah hJ
    by_cases hdone : ∀ j, j < m → listed.getD j false = true
    · exact wpAny_seq hf _ m (Nat.le_refl _) rfl _ listed a w h.lsize (fun j hj _ => hdone j hj) hah hc (hend a w h.below h.tsize (fun j d hj hd => h.known j d hj hd (hdone j hj)) h.defers h.rest (hJ.2.2 (hdone i1 h1m) (hdone i2 h2m)))
    · have hl2 : ∀ i, m ≤ i → (∀ o, ops[i]? = some o → ∀ e ∈ o.after, Region.binds .any e = true → listed.getD e.on false = true) → i < ops.size → False := by
        intro i hmi hall hlt
        obtain ⟨o, ho⟩ : ∃ o, ops[i]? = some o := ⟨_, Array.getElem?_eq_getElem hlt⟩
        by_cases him : i = m
        · subst him
          refine hdone ?_
          have hl3 : ∀ n j, i - j ≤ n → j < i → listed.getD j false = true := by
            intro n
            induction n with
            | zero => intro j h1 h2; omega
            | succ n ihn =>
              intro j h1 h2
              obtain ⟨k, ok, e, hjk, hki, hok, he, hb, hon⟩ := fits5_waits hf h2
              rw [← hon]
              rcases Nat.lt_or_ge k i with hlt | hge
              · exact hcl k ok e hlt hok (ihn k (by omega) hlt) he hb
              · obtain rfl : k = i := by omega
                exact hall ok hok e he hb
          exact fun j hj => hl3 (i - j) j (Nat.le_refl _) hj
        · obtain ⟨e, he, hb, hon⟩ := (fits5_late hf hmi ho).2 (by omega)
          have h3 := hall o ho e he hb
          rw [hon, hah (i - 1) (by omega) (by omega)] at h3
          cases h3
      refine ⟨fun hr => ?_, fun i hi => ?_⟩
      · exfalso
        have hall : ∀ n i, i < n → i < m → listed.getD i false = true := by
          intro n
          induction n with
          | zero => intro i hi; omega
          | succ n ihn =>
            intro i hi hlt
            by_cases hin : i < n
            · exact ihn i hin hlt
            · obtain ⟨o, ho⟩ : ∃ o, ops[i]? = some o := ⟨_, Array.getElem?_eq_getElem (by omega)⟩
              obtain ⟨_, _, _, _, haf⟩ := fits5_dst hf hlt ho
              cases hl : listed.getD i false with
              | true => rfl
              | false =>
                have hm : i ∈ Region.ready .any ops listed := by
                  refine mem_ready.2 ⟨?_, o, ho, fun e he hb => ihn e.on (by have := haf e he hb; omega) (by have := haf e he hb; omega)⟩
                  have hs : i < listed.size := by rw [h.lsize]; omega
                  simpa [Array.getElem?_eq_getElem hs] using hl
                rw [hr] at hm; cases hm
        exact hdone fun j hj => hall (j + 1) j (Nat.lt_succ_self _) hj
      · obtain ⟨h0, o, ho, hall⟩ := mem_ready.1 hi
        have hio := (Array.getElem?_eq_some_iff.1 ho).1
        have hs : i < listed.size := by rw [h.lsize]; exact hio
        have hl0 : listed[i] = false := by simpa [Array.getElem?_eq_getElem hs] using h0
        have hcount := count_listed hs hl0 hc
        have him : i < m := by
          apply Decidable.byContradiction
          intro hn
          exact hl2 i (by omega) (fun o' ho' => by obtain rfl := Option.some.inj (ho.symm.trans ho'); exact hall) hio
        have hah2 : Ahead ops m (listed.setIfInBounds i true) := fun j hj hjs => by
          have := hah j hj hjs
          simpa [Array.getElem?_setIfInBounds_ne (show i ≠ j by omega)] using this
        have hdd : d1 ≠ d2 := by
          obtain ⟨o1, ho1'⟩ : ∃ o, ops[i1]? = some o := ⟨_, Array.getElem?_eq_getElem (by omega)⟩
          obtain ⟨d, hd, _, hn, _⟩ := fits5_dst hf h1m ho1'
          have : d = d1 := by have := hd1; simp [dstOf, ho1', hd] at this; exact this
          subst this
          exact fun hh => hn i2 h2m (Ne.symm hne) (hh ▸ hd2)
        by_cases hi1 : i = i1
        · subst hi1
          obtain ⟨hop, hg⟩ := ho1 o ho
          have hdo : o.dst = some d1 := by have := hd1; simp only [dstOf, ho, Option.bind_some] at this; exact this
          have hw : Region.wanted o (yielded ops a.tmps) = true := by simp [Region.wanted, hg]
          unfold wpOp
          simp only [ho, hw, if_true]
          refine Or.inl (wp_value (run_alloc49 hop a w) ?_)
          have hB : Below w.heap.size w (w.alloc (.cells (ec Fe.z) 49)) := (Below.refl _ _).alloc (Nat.le_refl _) _
          refine ih _ _ _ hcount (h.step5 hf him ho (v := .pointer (some ⟨w.heap.size, 0, none⟩)) ?_ hB) (hcl.step ho hall) hah2 ?_
          · rw [hs1]; exact ⟨_, rfl, heap_alloc_new w _, h.below.size⟩
          · rw [hdo]; exact hJ.one hne hdd hs (by rw [h.tsize]; obtain ⟨d, hd, hdn, _⟩ := fits5_dst hf him ho; rw [hdo] at hd; obtain rfl := Option.some.inj hd; exact hdn) (by simp)
        by_cases hi2 : i = i2
        · subst hi2
          obtain ⟨hop, hg⟩ := ho2 o ho
          have hdo : o.dst = some d2 := by have := hd2; simp only [dstOf, ho, Option.bind_some] at this; exact this
          have hw : Region.wanted o (yielded ops a.tmps) = true := by simp [Region.wanted, hg]
          unfold wpOp
          simp only [ho, hw, if_true]
          refine Or.inl (wp_value (run_alloc49 hop a w) ?_)
          have hB : Below w.heap.size w (w.alloc (.cells (ec Fe.z) 49)) := (Below.refl _ _).alloc (Nat.le_refl _) _
          refine ih _ _ _ hcount (h.step5 hf him ho (v := .pointer (some ⟨w.heap.size, 0, none⟩)) ?_ hB) (hcl.step ho hall) hah2 ?_
          · rw [hs2]; exact ⟨_, rfl, heap_alloc_new w _, h.below.size⟩
          · rw [hdo]; exact (hJ.swap.one (Ne.symm hne) (Ne.symm hdd) hs (by rw [h.tsize]; obtain ⟨d, hd, hdn, _⟩ := fits5_dst hf him ho; rw [hdo] at hd; obtain rfl := Option.some.inj hd; exact hdn) (by simp)).swap
        have hJo : ∀ v w', Below w.heap.size w w' → Pair i1 i2 d1 d2 (listed.setIfInBounds i true) (a.put o.dst v) w' := by
          intro v w' hb
          obtain ⟨d, hd, hdn, hn, _⟩ := fits5_dst hf him ho
          rw [hd]
          exact hJ.other hi1 hi2 (fun hh => hn i1 h1m (Ne.symm hi1) (hh ▸ hd1)) (fun hh => hn i2 h2m (Ne.symm hi2) (hh ▸ hd2)) hb.size
        have hhop := hops.get i o (by rw [List.getElem?_take_of_lt him]; simpa using ho)
        rw [Nat.zero_add] at hhop
        rcases hhop a w h.below h.tsize (fun j d hd => by
          unfold deps at hd
          simp only [Bool.and_eq_true, beq_iff_eq] at hd
          obtain ⟨hd1, hd2⟩ := hd
          rw [Array.any_eq_true'] at hd1
          obtain ⟨e, he, heb⟩ := hd1
          simp only [Bool.and_eq_true, beq_iff_eq] at heb
          obtain ⟨hb, rfl⟩ := heb
          obtain ⟨_, _, _, _, haf⟩ := fits5_dst hf him ho
          exact h.known _ d (by have := haf e he hb; omega) hd2 (hall e he hb)) h.rest with ⟨hw, hwp⟩ | ⟨hw, hm⟩
        · unfold wpOp
          simp only [ho, hw, if_true]
          refine Or.inl (Oper.wp_mono ?_ hwp)
          rintro a' w' ⟨v, rfl, hv, hb⟩
          exact ih _ _ _ hcount (h.step5 hf him ho hv hb) (hcl.step ho hall) hah2 (hJo _ _ hb)
        · unfold wpOp
          simp only [ho, hw, Bool.false_eq_true, if_false]
          exact ih _ _ _ hcount (h.step5 hf him ho hm (Below.refl _ _)) (hcl.step ho hall) hah2 (hJo _ _ (Below.refl _ _))

theorem region_pair {id : Nat} (hm : Tryd.prog.follows .mixedOrders = true) (m : Nat) (specs : Nat → Spec) {i1 i2 d1 d2 : Nat} (h1m : i1 < m) (h2m : i2 < m) (hne : i1 ≠ i2) (hd1 : dstOf ops i1 = some d1) (hd2 : dstOf ops i2 = some d2) (ho1 : ∀ o, ops[i1]? = some o → o.op = .alloc 49 ∧ o.guard = none) (ho2 : ∀ o, ops[i2]? = some o → o.op = .alloc 49 ∧ o.guard = none) (hs1 : specs i1 = newRow w0) (hs2 : specs i2 = newRow w0) (hf : fits5 ops m a0.tmps.size = true) (hops : Hops2 Tryd.prog m ops specs Q a0 w0 0 (ops.toList.take m))
    (hend : ∀ a w, Below w0.heap.size w0 w → a.tmps.size = a0.tmps.size → (∀ i d, i < m → dstOf ops i = some d → (specs i).meets (a.eval (.tmp d)) w) → a.defers = a0.defers → (∀ t, free2 ops m t = true → a.eval (.tmp t) = a0.eval (.tmp t)) → a.eval (.tmp d1) ≠ a.eval (.tmp d2) → wpSeq Tryd.prog ops Q (ops.toList.drop m) a w) :
    (Code.region id ops true).wp Tryd.prog Q a0 w0 := by
  refine wp_region_any hm (wpAny_pair h1m h2m hne hd1 hd2 ho1 ho2 hs1 hs2 hf hops hend _ _ _ _ ?_ ?_ ?_ ?_ ?_)
  · simp
  · refine ⟨by simp, ⟨rfl, rfl, rfl, Nat.le_refl _, fun _ _ => rfl⟩, rfl, ?_, fun _ _ => rfl, rfl, ?_⟩
    · intro i d _ _ hl
      simp [Array.getElem?_replicate] at hl
      split at hl <;> simp at hl
    · simp [Array.getElem?_replicate]
      split <;> simp
  · intro j o e _ _ hl _ _
    simp [Array.getElem?_replicate] at hl
    split at hl <;> simp at hl
  · intro j _ _
    simp [Array.getElem?_replicate]
    split <;> simp
  · have hn : ∀ i, (Array.replicate ops.size false).getD i false = true → False := by
      intro i hl
      simp [Array.getElem?_replicate] at hl
      split at hl <;> simp at hl
    exact ⟨fun h => (hn _ h).elim, fun h => (hn _ h).elim, fun h _ => (hn _ h).elim⟩
end
end Grow
end Go.Proofs.YtiinmdleechcgaaDoor
namespace Go.Proofs.YtiinmdleechcgaaDoor
open Go.RowKit
structure Pv.Ok (P : Pv) : Prop where
  x : Fe.Ok P.X
  y : Fe.Ok P.Y
  z : Fe.Ok P.Z
  t : Fe.Ok P.T
/-- What is known of the memory: points, elements, and that all else is only added to. -/
structure Sq (w0 : World) (pts : List (Nat × Pv)) (rows : List (Nat × Fe.E)) (w : World) : Prop where
  pts : ∀ r ∈ pts, w.heap[r.1]? = some (.cells (pc r.2) 51 (0, 0))
  rows : ∀ r ∈ rows, w.heap[r.1]? = some (.cells (ec r.2) 49 (0, 0))
  dbl : Dbl w
  bb : Below w0.heap.size w0 w
section
variable {w0 w w5 : World} {pts : List (Nat × Pv)} {rows : List (Nat × Fe.E)}
theorem Sq.below (h : Sq w0 pts rows w) (hb : Below w.heap.size w w5) : Sq w0 pts rows w5 :=
  ⟨fun r hr => (hb.block _ (lt_of_block (h.pts r hr))).trans (h.pts r hr), fun r hr => (hb.block _ (lt_of_block (h.rows r hr))).trans (h.rows r hr), h.dbl.below hb h.dbl.1, h.bb.trans (hb.mono h.bb.size)⟩
theorem Sq.put (h : Sq w0 pts rows w) (hb : Below w.heap.size w w5) {g : Nat} (hg : w.heap.size ≤ g) {y : Fe.E} (hz : w5.heap[g]? = some (.cells (ec y) 49 (0, 0))) (x : Fe.E) : Sq w0 pts ((g, x) :: rows) (w5.setRow g (ec x)) := by
  refine ⟨fun r hr => ?_, fun r hr => ?_, h.dbl.below (below_setRow hb hg _) h.dbl.1, below_setRow (h.bb.trans (hb.mono h.bb.size)) (Nat.le_trans h.bb.size hg) _⟩
  · have h1 := lt_of_block (h.pts r hr)
    rw [setRow_other _ _ _ _ (by omega)]
    exact (hb.block _ h1).trans (h.pts r hr)
  · rcases List.mem_cons.1 hr with rfl | hr
    · exact setRow_heap w5 g _ (ec x) 49 _ hz
    · have h1 := lt_of_block (h.rows r hr)
      rw [setRow_other _ _ _ _ (by omega)]
      exact (hb.block _ h1).trans (h.rows r hr)
theorem Sq.put2 (h : Sq w0 pts rows w) (hb : Below w.heap.size w w5) {g k : Nat} (hg : w.heap.size ≤ g) (hk : w.heap.size ≤ k) (hne : g ≠ k) {y z : Fe.E} (hz : w5.heap[g]? = some (.cells (ec y) 49 (0, 0))) (hz2 : w5.heap[k]? = some (.cells (ec z) 49 (0, 0))) (x u : Fe.E) : Sq w0 pts ((k, u) :: (g, x) :: rows) ((w5.setRow g (ec x)).setRow k (ec u)) := by
  have h1 := h.put hb hg hz x
  have e2 : (w5.setRow g (ec x)).heap[k]? = some (.cells (ec z) 49 (0, 0)) := (setRow_other _ _ _ _ (Ne.symm hne)).trans hz2
  refine ⟨fun r hr => ?_, fun r hr => ?_, h.dbl.below (below_setRow (below_setRow hb hg _) hk _) h.dbl.1, below_setRow h1.bb (Nat.le_trans h.bb.size hk) _⟩
  · have h3 := lt_of_block (h.pts r hr)
    rw [setRow_other _ _ _ _ (by omega)]
    exact h1.pts r hr
  · rcases List.mem_cons.1 hr with rfl | hr
    · exact setRow_heap _ k _ (ec u) 49 _ e2
    · rcases List.mem_cons.1 hr with rfl | hr
      · rw [setRow_other _ _ _ _ hne]
        exact h1.rows (g, x) (by simp)
      · have h3 := lt_of_block (h.rows r hr)
        rw [setRow_other _ _ _ _ (by omega)]
        exact h1.rows r (by simp [hr])
theorem Sq.start2 (hd : Dbl w) (P R : Pv) : Sq w [(w.heap.size, P), (w.heap.size + 1, R), (w.heap.size + 2, pz)] [] (((w.alloc (.cells (pc P) 51)).alloc (.cells (pc R) 51)).alloc (.cells (pc pz) 51)) := by
  have h := heap_alloc3 w (.cells (pc P) 51) (.cells (pc R) 51) (.cells (pc pz) 51)
  refine ⟨fun r hr => ?_, fun r hr => (List.not_mem_nil hr).elim, hd.below h.2 hd.1, h.2⟩
  simp only [List.mem_cons, List.not_mem_nil, or_false] at hr
  rcases hr with rfl | rfl | rfl
  · exact h.1.1
  · exact h.1.2.1
  · exact h.1.2.2
end
def Pv.add (P R : Pv) : Pv :=
  let xo := Fe.mul (Fe.num 121666) (Fe.add (Fe.mul P.X R.Y) (Fe.mul P.Y R.X))
  let yo := Fe.mul (Fe.num 121666) (Fe.add (Fe.mul P.Y R.Y) (Fe.mul P.X R.X))
  let ones := Fe.mul (Fe.num 121666) (Fe.mul P.Z R.Z)
  let turn := Fe.mul (Fe.num 121665) (Fe.mul P.T R.T)
  ⟨Fe.mul xo (Fe.add ones turn), Fe.mul yo (Fe.sub ones turn), Fe.mul (Fe.sub ones turn) (Fe.add ones turn), Fe.mul xo yo⟩
namespace Grow
theorem enter55 (args : Array Value) (w : World) : (callFunc 55 args).run Tryd.prog w = .ok (.enter 55 args) w := by
  have := Tryd.func55
  go_simp
end Grow
set_option maxRecDepth 100000 in
set_option maxHeartbeats 2000000 in
theorem Add_any (w : World) (hd : Dbl w) (P R : Pv) (hP : P.Ok) (hR : R.Ok) :
    Calls Tryd.prog 28 #[.agg (pc P), .agg (pc R)] w fun e w' => e = .returned (.agg (pc (Pv.add P R))) ∧ Below w.heap.size w w' := by
  have S0 := Lib.hid (Sq.start2 hd P R)
  have HP := Lib.hid hP
  have HR := Lib.hid hR
  have L6 : Fe.Ok (Fe.num 121666) := Fe.num_ok _ (by decide) (by decide)
  have L5 : Fe.Ok (Fe.num 121665) := Fe.num_ok _ (by decide) (by decide)
  obtain ⟨xo, hxo⟩ : ∃ z, z = Fe.mul (Fe.num 121666) (Fe.add (Fe.mul P.X R.Y) (Fe.mul P.Y R.X)) := ⟨_, rfl⟩
  have Oxo : Hid (Fe.Ok xo) := by rw [hxo]; exact Fe.mul_ok L6 (Fe.add_ok (Fe.mul_ok hP.x hR.y) (Fe.mul_ok hP.y hR.x))
  have Hxo : Hid (xo = Fe.mul (Fe.num 121666) (Fe.add (Fe.mul P.X R.Y) (Fe.mul P.Y R.X))) := hxo
  clear hxo
  obtain ⟨yo, hyo⟩ : ∃ z, z = Fe.mul (Fe.num 121666) (Fe.add (Fe.mul P.Y R.Y) (Fe.mul P.X R.X)) := ⟨_, rfl⟩
  have Oyo : Hid (Fe.Ok yo) := by rw [hyo]; exact Fe.mul_ok L6 (Fe.add_ok (Fe.mul_ok hP.y hR.y) (Fe.mul_ok hP.x hR.x))
  have Hyo : Hid (yo = Fe.mul (Fe.num 121666) (Fe.add (Fe.mul P.Y R.Y) (Fe.mul P.X R.X))) := hyo
  clear hyo
  obtain ⟨on, hon⟩ : ∃ z, z = Fe.mul (Fe.num 121666) (Fe.mul P.Z R.Z) := ⟨_, rfl⟩
  have Oon : Hid (Fe.Ok on) := by rw [hon]; exact Fe.mul_ok L6 (Fe.mul_ok hP.z hR.z)
  have Hon : Hid (on = Fe.mul (Fe.num 121666) (Fe.mul P.Z R.Z)) := hon
  clear hon
  obtain ⟨tu, htu⟩ : ∃ z, z = Fe.mul (Fe.num 121665) (Fe.mul P.T R.T) := ⟨_, rfl⟩
  have Otu : Hid (Fe.Ok tu) := by rw [htu]; exact Fe.mul_ok L5 (Fe.mul_ok hP.t hR.t)
  have Htu : Hid (tu = Fe.mul (Fe.num 121665) (Fe.mul P.T R.T)) := htu
  clear htu
  obtain ⟨xu, hxu⟩ : ∃ z, z = Fe.sub on tu := ⟨_, rfl⟩
  have Oxu : Hid (Fe.Ok xu) := by rw [hxu]; exact Fe.sub_ok Oon.out Otu.out
  have Hxu : Hid (xu = Fe.sub on tu) := hxu
  clear hxu
  obtain ⟨yu, hyu⟩ : ∃ z, z = Fe.add on tu := ⟨_, rfl⟩
  have Oyu : Hid (Fe.Ok yu) := by rw [hyu]; exact Fe.add_ok Oon.out Otu.out
  have Hyu : Hid (yu = Fe.add on tu) := hyu
  clear hyu
  obtain ⟨V, hV⟩ : ∃ V : Pv, V = ⟨Fe.mul xo yu, Fe.mul yo xu, Fe.mul xu yu, Fe.mul xo yo⟩ := ⟨_, rfl⟩
  have HV : Hid (V = ⟨Fe.mul xo yu, Fe.mul yo xu, Fe.mul xu yu, Fe.mul xo yo⟩) := hV
  have HE : Hid (Pv.add P R = V) := by rw [hV, Hyu.out, Hxu.out, Hxo.out, Hyo.out, Hon.out, Htu.out]; rfl
  clear hd hP hR L6 L5 hV
  go_enter Tryd.func28, Tryd.ntmps28
  go_upto_region 1 with fail
  change Code.wp _ _ _ _ (((w.alloc (.cells (pc P) 51)).alloc (.cells (pc R) 51)).alloc (.cells (pc pz) 51))
  generalize ((w.alloc (.cells (pc P) 51)).alloc (.cells (pc R) 51)).alloc (.cells (pc pz) 51) = w0 at *
  refine Grow.region_rest (by kernel_rfl) 13 (fun i => List.getD (Grow.Spec.is (.pointer (some ⟨w.heap.size, 5 * 0, none⟩)) :: Grow.Spec.is (.agg (ec P.X)) :: Grow.Spec.is (.pointer (some ⟨(w.heap.size + 1), 5 * 1, none⟩)) :: Grow.Spec.is (.agg (ec R.Y)) :: Grow.Spec.is (.agg (ec (Fe.mul P.X R.Y))) :: Grow.Spec.is (.pointer (some ⟨w.heap.size, 5 * 1, none⟩)) :: Grow.Spec.is (.agg (ec P.Y)) :: Grow.Spec.is (.pointer (some ⟨(w.heap.size + 1), 5 * 0, none⟩)) :: Grow.Spec.is (.agg (ec R.X)) :: Grow.Spec.is (.agg (ec (Fe.mul P.Y R.X))) :: Grow.Spec.is (.agg (ec (Fe.add (Fe.mul P.X R.Y) (Fe.mul P.Y R.X)))) :: Grow.Spec.is (.agg (ec xo)) :: Grow.newRow w0 :: []) i (Grow.Spec.is undef)) (by kernel_rfl) ⟨
    Grow.h2_faddr (Or.inl rfl) 2 w.heap.size 0 (by decide) rfl (by kernel_rfl) rfl rfl,
    Grow.h2_part (Or.inl rfl) 0 11 w.heap.size 0 P (by decide) rfl (by kernel_rfl) rfl (S0.out.pts (w.heap.size, P) (by simp)) rfl,
    Grow.h2_faddr (Or.inl rfl) 3 (w.heap.size + 1) 1 (by decide) rfl (by kernel_rfl) rfl rfl,
    Grow.h2_part (Or.inl rfl) 2 13 (w.heap.size + 1) 1 R (by decide) rfl (by kernel_rfl) rfl (S0.out.pts (w.heap.size + 1, R) (by simp)) rfl,
    Grow.h2_call2 (Or.inl rfl) 50 Grow.enter50 _ _ _ rfl (fun a wx hk => by have e1 : a.eval (.tmp 12) = .agg (ec P.X) := (hk.deps 1 12 (by kernel_rfl)); have e2 : a.eval (.tmp 14) = .agg (ec R.Y) := (hk.deps 3 14 (by kernel_rfl)); rw [e1, e2]; refine (mul_any wx P.X R.Y HP.out.x HR.out.y).mono ?_; rintro e w5 ⟨rfl, hb⟩; exact ⟨_, rfl, rfl, hb⟩),
    Grow.h2_faddr (Or.inl rfl) 2 w.heap.size 1 (by decide) rfl (by kernel_rfl) rfl rfl,
    Grow.h2_part (Or.inl rfl) 5 16 w.heap.size 1 P (by decide) rfl (by kernel_rfl) rfl (S0.out.pts (w.heap.size, P) (by simp)) rfl,
    Grow.h2_faddr (Or.inl rfl) 3 (w.heap.size + 1) 0 (by decide) rfl (by kernel_rfl) rfl rfl,
    Grow.h2_part (Or.inl rfl) 7 18 (w.heap.size + 1) 0 R (by decide) rfl (by kernel_rfl) rfl (S0.out.pts (w.heap.size + 1, R) (by simp)) rfl,
    Grow.h2_call2 (Or.inl rfl) 50 Grow.enter50 _ _ _ rfl (fun a wx hk => by have e1 : a.eval (.tmp 17) = .agg (ec P.Y) := (hk.deps 6 17 (by kernel_rfl)); have e2 : a.eval (.tmp 19) = .agg (ec R.X) := (hk.deps 8 19 (by kernel_rfl)); rw [e1, e2]; refine (mul_any wx P.Y R.X HP.out.y HR.out.x).mono ?_; rintro e w5 ⟨rfl, hb⟩; exact ⟨_, rfl, rfl, hb⟩),
    Grow.h2_call2 (Or.inl rfl) 56 Grow.enter56 _ _ _ rfl (fun a wx hk => by have e1 : a.eval (.tmp 15) = .agg (ec (Fe.mul P.X R.Y)) := (hk.deps 4 15 (by kernel_rfl)); have e2 : a.eval (.tmp 20) = .agg (ec (Fe.mul P.Y R.X)) := (hk.deps 9 20 (by kernel_rfl)); rw [e1, e2]; refine (add_any wx (Fe.mul P.X R.Y) (Fe.mul P.Y R.X) (Fe.mul_ok HP.out.x HR.out.y) (Fe.mul_ok HP.out.y HR.out.x)).mono ?_; rintro e w5 ⟨rfl, hb⟩; exact ⟨_, rfl, rfl, hb⟩),
    Grow.h2_call2 (Or.inl rfl) 55 Grow.enter55 _ _ _ rfl (fun a wx hk => by have e2 : a.eval (.tmp 21) = .agg (ec (Fe.add (Fe.mul P.X R.Y) (Fe.mul P.Y R.X))) := (hk.deps 10 21 (by kernel_rfl)); rw [e2]; refine (ctimes_any wx (S0.out.dbl.below hk.below S0.out.dbl.1) 121666 (by decide) (by decide) (Fe.add (Fe.mul P.X R.Y) (Fe.mul P.Y R.X)) (Fe.add_ok (Fe.mul_ok HP.out.x HR.out.y) (Fe.mul_ok HP.out.y HR.out.x))).mono ?_; rintro e w5 ⟨rfl, hb⟩; exact ⟨_, rfl, congrArg (fun z => Value.agg (ec z)) Hxo.out.symm, hb⟩),
    Grow.h2_alloc (Or.inl rfl) rfl rfl,
    trivial⟩ ?_
  intro a w4 hb hts hk hdf hfr
  have ev : a.eval (.tmp 22) = .agg (ec xo) := hk 11 22 (by decide) rfl
  obtain ⟨g5, eg, hz, hgs⟩ : ∃ g, a.eval (.tmp 5) = .pointer (some ⟨g, 0, none⟩) ∧ w4.heap[g]? = some (.cells (ec Fe.z) 49 (0, 0)) ∧ w0.heap.size ≤ g := hk 12 5 (by decide) rfl
  refine ⟨rfl, wp_store_row 49 (.tmp 5) (.tmp 22) rfl g5 (ec xo) eg ev 49 (ec Fe.z) hz i30 rfl (ec_one _) ?_⟩
  have S1 := Lib.hid (S0.out.put hb hgs hz xo)
  have ha := Grow.act_after hts hdf hfr
  rw [show Grow.dsts _ 13 = [11, 12, 13, 14, 15, 16, 17, 18, 19, 20, 21, 22, 5] from by kernel_rfl] at ha
  simp only [Grow.putAll, eg] at ha
  generalize a.eval (.tmp 11) = u11 at ha
  generalize a.eval (.tmp 12) = u12 at ha
  generalize a.eval (.tmp 13) = u13 at ha
  generalize a.eval (.tmp 14) = u14 at ha
  generalize a.eval (.tmp 15) = u15 at ha
  generalize a.eval (.tmp 16) = u16 at ha
  generalize a.eval (.tmp 17) = u17 at ha
  generalize a.eval (.tmp 18) = u18 at ha
  generalize a.eval (.tmp 19) = u19 at ha
  generalize a.eval (.tmp 20) = u20 at ha
  generalize a.eval (.tmp 21) = u21 at ha
  generalize a.eval (.tmp 22) = u22 at ha
  clear hk hts hdf hfr ev eg hb hz hgs S0
  simp [Act.put] at ha
  subst ha
  generalize w4.setRow g5 (ec xo) = w1 at *
  unfold Grow.wpSeq
  go_upto_region 2 with fail
  refine Grow.region_rest (by kernel_rfl) 13 (fun i => List.getD (Grow.Spec.is (.pointer (some ⟨w.heap.size, 5 * 1, none⟩)) :: Grow.Spec.is (.agg (ec P.Y)) :: Grow.Spec.is (.pointer (some ⟨(w.heap.size + 1), 5 * 1, none⟩)) :: Grow.Spec.is (.agg (ec R.Y)) :: Grow.Spec.is (.agg (ec (Fe.mul P.Y R.Y))) :: Grow.Spec.is (.pointer (some ⟨w.heap.size, 5 * 0, none⟩)) :: Grow.Spec.is (.agg (ec P.X)) :: Grow.Spec.is (.pointer (some ⟨(w.heap.size + 1), 5 * 0, none⟩)) :: Grow.Spec.is (.agg (ec R.X)) :: Grow.Spec.is (.agg (ec (Fe.mul P.X R.X))) :: Grow.Spec.is (.agg (ec (Fe.add (Fe.mul P.Y R.Y) (Fe.mul P.X R.X)))) :: Grow.Spec.is (.agg (ec yo)) :: Grow.newRow w1 :: []) i (Grow.Spec.is undef)) (by kernel_rfl) ⟨
    Grow.h2_faddr (Or.inl rfl) 2 w.heap.size 1 (by decide) rfl (by kernel_rfl) rfl rfl,
    Grow.h2_part (Or.inl rfl) 0 23 w.heap.size 1 P (by decide) rfl (by kernel_rfl) rfl (S1.out.pts (w.heap.size, P) (by simp)) rfl,
    Grow.h2_faddr (Or.inl rfl) 3 (w.heap.size + 1) 1 (by decide) rfl (by kernel_rfl) rfl rfl,
    Grow.h2_part (Or.inl rfl) 2 25 (w.heap.size + 1) 1 R (by decide) rfl (by kernel_rfl) rfl (S1.out.pts (w.heap.size + 1, R) (by simp)) rfl,
    Grow.h2_call2 (Or.inl rfl) 50 Grow.enter50 _ _ _ rfl (fun a wx hk => by have e1 : a.eval (.tmp 24) = .agg (ec P.Y) := (hk.deps 1 24 (by kernel_rfl)); have e2 : a.eval (.tmp 26) = .agg (ec R.Y) := (hk.deps 3 26 (by kernel_rfl)); rw [e1, e2]; refine (mul_any wx P.Y R.Y HP.out.y HR.out.y).mono ?_; rintro e w5 ⟨rfl, hb⟩; exact ⟨_, rfl, rfl, hb⟩),
    Grow.h2_faddr (Or.inl rfl) 2 w.heap.size 0 (by decide) rfl (by kernel_rfl) rfl rfl,
    Grow.h2_part (Or.inl rfl) 5 28 w.heap.size 0 P (by decide) rfl (by kernel_rfl) rfl (S1.out.pts (w.heap.size, P) (by simp)) rfl,
    Grow.h2_faddr (Or.inl rfl) 3 (w.heap.size + 1) 0 (by decide) rfl (by kernel_rfl) rfl rfl,
    Grow.h2_part (Or.inl rfl) 7 30 (w.heap.size + 1) 0 R (by decide) rfl (by kernel_rfl) rfl (S1.out.pts (w.heap.size + 1, R) (by simp)) rfl,
    Grow.h2_call2 (Or.inl rfl) 50 Grow.enter50 _ _ _ rfl (fun a wx hk => by have e1 : a.eval (.tmp 29) = .agg (ec P.X) := (hk.deps 6 29 (by kernel_rfl)); have e2 : a.eval (.tmp 31) = .agg (ec R.X) := (hk.deps 8 31 (by kernel_rfl)); rw [e1, e2]; refine (mul_any wx P.X R.X HP.out.x HR.out.x).mono ?_; rintro e w5 ⟨rfl, hb⟩; exact ⟨_, rfl, rfl, hb⟩),
    Grow.h2_call2 (Or.inl rfl) 56 Grow.enter56 _ _ _ rfl (fun a wx hk => by have e1 : a.eval (.tmp 27) = .agg (ec (Fe.mul P.Y R.Y)) := (hk.deps 4 27 (by kernel_rfl)); have e2 : a.eval (.tmp 32) = .agg (ec (Fe.mul P.X R.X)) := (hk.deps 9 32 (by kernel_rfl)); rw [e1, e2]; refine (add_any wx (Fe.mul P.Y R.Y) (Fe.mul P.X R.X) (Fe.mul_ok HP.out.y HR.out.y) (Fe.mul_ok HP.out.x HR.out.x)).mono ?_; rintro e w5 ⟨rfl, hb⟩; exact ⟨_, rfl, rfl, hb⟩),
    Grow.h2_call2 (Or.inl rfl) 55 Grow.enter55 _ _ _ rfl (fun a wx hk => by have e2 : a.eval (.tmp 33) = .agg (ec (Fe.add (Fe.mul P.Y R.Y) (Fe.mul P.X R.X))) := (hk.deps 10 33 (by kernel_rfl)); rw [e2]; refine (ctimes_any wx (S1.out.dbl.below hk.below S1.out.dbl.1) 121666 (by decide) (by decide) (Fe.add (Fe.mul P.Y R.Y) (Fe.mul P.X R.X)) (Fe.add_ok (Fe.mul_ok HP.out.y HR.out.y) (Fe.mul_ok HP.out.x HR.out.x))).mono ?_; rintro e w5 ⟨rfl, hb⟩; exact ⟨_, rfl, congrArg (fun z => Value.agg (ec z)) Hyo.out.symm, hb⟩),
    Grow.h2_alloc (Or.inl rfl) rfl rfl,
    trivial⟩ ?_
  intro a w4 hb hts hk hdf hfr
  have ev : a.eval (.tmp 34) = .agg (ec yo) := hk 11 34 (by decide) rfl
  obtain ⟨g6, eg, hz, hgs⟩ : ∃ g, a.eval (.tmp 6) = .pointer (some ⟨g, 0, none⟩) ∧ w4.heap[g]? = some (.cells (ec Fe.z) 49 (0, 0)) ∧ w1.heap.size ≤ g := hk 12 6 (by decide) rfl
  refine ⟨rfl, wp_store_row 49 (.tmp 6) (.tmp 34) rfl g6 (ec yo) eg ev 49 (ec Fe.z) hz i30 rfl (ec_one _) ?_⟩
  have S2 := Lib.hid (S1.out.put hb hgs hz yo)
  have ha := Grow.act_after hts hdf hfr
  rw [show Grow.dsts _ 13 = [23, 24, 25, 26, 27, 28, 29, 30, 31, 32, 33, 34, 6] from by kernel_rfl] at ha
  simp only [Grow.putAll, eg] at ha
  generalize a.eval (.tmp 23) = u23 at ha
  generalize a.eval (.tmp 24) = u24 at ha
  generalize a.eval (.tmp 25) = u25 at ha
  generalize a.eval (.tmp 26) = u26 at ha
  generalize a.eval (.tmp 27) = u27 at ha
  generalize a.eval (.tmp 28) = u28 at ha
  generalize a.eval (.tmp 29) = u29 at ha
  generalize a.eval (.tmp 30) = u30 at ha
  generalize a.eval (.tmp 31) = u31 at ha
  generalize a.eval (.tmp 32) = u32 at ha
  generalize a.eval (.tmp 33) = u33 at ha
  generalize a.eval (.tmp 34) = u34 at ha
  clear hk hts hdf hfr ev eg hb hz hgs S1
  simp [Act.put] at ha
  subst ha
  generalize w4.setRow g6 (ec yo) = w2 at *
  unfold Grow.wpSeq
  go_upto_region 3 with fail
  refine Grow.region_line 7 (fun i => List.getD (Grow.Spec.is (.pointer (some ⟨w.heap.size, 5 * 2, none⟩)) :: Grow.Spec.is (.agg (ec P.Z)) :: Grow.Spec.is (.pointer (some ⟨(w.heap.size + 1), 5 * 2, none⟩)) :: Grow.Spec.is (.agg (ec R.Z)) :: Grow.Spec.is (.agg (ec (Fe.mul P.Z R.Z))) :: Grow.Spec.is (.agg (ec on)) :: Grow.newRow w2 :: []) i (Grow.Spec.is undef)) (by kernel_rfl) ⟨
    Grow.h2_faddr (Or.inl rfl) 2 w.heap.size 2 (by decide) rfl (by kernel_rfl) rfl rfl,
    Grow.h2_part (Or.inl rfl) 0 35 w.heap.size 2 P (by decide) rfl (by kernel_rfl) rfl (S2.out.pts (w.heap.size, P) (by simp)) rfl,
    Grow.h2_faddr (Or.inl rfl) 3 (w.heap.size + 1) 2 (by decide) rfl (by kernel_rfl) rfl rfl,
    Grow.h2_part (Or.inl rfl) 2 37 (w.heap.size + 1) 2 R (by decide) rfl (by kernel_rfl) rfl (S2.out.pts (w.heap.size + 1, R) (by simp)) rfl,
    Grow.h2_call2 (Or.inl rfl) 50 Grow.enter50 _ _ _ rfl (fun a wx hk => by have e1 : a.eval (.tmp 36) = .agg (ec P.Z) := (hk.deps 1 36 (by kernel_rfl)); have e2 : a.eval (.tmp 38) = .agg (ec R.Z) := (hk.deps 3 38 (by kernel_rfl)); rw [e1, e2]; refine (mul_any wx P.Z R.Z HP.out.z HR.out.z).mono ?_; rintro e w5 ⟨rfl, hb⟩; exact ⟨_, rfl, rfl, hb⟩),
    Grow.h2_call2 (Or.inl rfl) 55 Grow.enter55 _ _ _ rfl (fun a wx hk => by have e2 : a.eval (.tmp 39) = .agg (ec (Fe.mul P.Z R.Z)) := (hk.deps 4 39 (by kernel_rfl)); rw [e2]; refine (ctimes_any wx (S2.out.dbl.below hk.below S2.out.dbl.1) 121666 (by decide) (by decide) (Fe.mul P.Z R.Z) (Fe.mul_ok HP.out.z HR.out.z)).mono ?_; rintro e w5 ⟨rfl, hb⟩; exact ⟨_, rfl, congrArg (fun z => Value.agg (ec z)) Hon.out.symm, hb⟩),
    Grow.h2_alloc (Or.inl rfl) rfl rfl,
    trivial⟩ ?_
  intro a w4 hb hts hk hdf hfr
  have ev : a.eval (.tmp 40) = .agg (ec on) := hk 5 40 (by decide) rfl
  obtain ⟨g7, eg, hz, hgs⟩ : ∃ g, a.eval (.tmp 7) = .pointer (some ⟨g, 0, none⟩) ∧ w4.heap[g]? = some (.cells (ec Fe.z) 49 (0, 0)) ∧ w2.heap.size ≤ g := hk 6 7 (by decide) rfl
  refine ⟨rfl, wp_store_row 49 (.tmp 7) (.tmp 40) rfl g7 (ec on) eg ev 49 (ec Fe.z) hz i30 rfl (ec_one _) ?_⟩
  have S3 := Lib.hid (S2.out.put hb hgs hz on)
  have ha := Grow.act_after hts hdf hfr
  rw [show Grow.dsts _ 7 = [35, 36, 37, 38, 39, 40, 7] from by kernel_rfl] at ha
  simp only [Grow.putAll, eg] at ha
  generalize a.eval (.tmp 35) = u35 at ha
  generalize a.eval (.tmp 36) = u36 at ha
  generalize a.eval (.tmp 37) = u37 at ha
  generalize a.eval (.tmp 38) = u38 at ha
  generalize a.eval (.tmp 39) = u39 at ha
  generalize a.eval (.tmp 40) = u40 at ha
  clear hk hts hdf hfr ev eg hb hz hgs S2
  simp [Act.put] at ha
  subst ha
  generalize w4.setRow g7 (ec on) = w3 at *
  unfold Grow.wpSeq
  go_upto_region 4 with fail
  refine Grow.region_line 7 (fun i => List.getD (Grow.Spec.is (.pointer (some ⟨w.heap.size, 5 * 3, none⟩)) :: Grow.Spec.is (.agg (ec P.T)) :: Grow.Spec.is (.pointer (some ⟨(w.heap.size + 1), 5 * 3, none⟩)) :: Grow.Spec.is (.agg (ec R.T)) :: Grow.Spec.is (.agg (ec (Fe.mul P.T R.T))) :: Grow.Spec.is (.agg (ec tu)) :: Grow.newRow w3 :: []) i (Grow.Spec.is undef)) (by kernel_rfl) ⟨
    Grow.h2_faddr (Or.inl rfl) 2 w.heap.size 3 (by decide) rfl (by kernel_rfl) rfl rfl,
    Grow.h2_part (Or.inl rfl) 0 41 w.heap.size 3 P (by decide) rfl (by kernel_rfl) rfl (S3.out.pts (w.heap.size, P) (by simp)) rfl,
    Grow.h2_faddr (Or.inl rfl) 3 (w.heap.size + 1) 3 (by decide) rfl (by kernel_rfl) rfl rfl,
    Grow.h2_part (Or.inl rfl) 2 43 (w.heap.size + 1) 3 R (by decide) rfl (by kernel_rfl) rfl (S3.out.pts (w.heap.size + 1, R) (by simp)) rfl,
    Grow.h2_call2 (Or.inl rfl) 50 Grow.enter50 _ _ _ rfl (fun a wx hk => by have e1 : a.eval (.tmp 42) = .agg (ec P.T) := (hk.deps 1 42 (by kernel_rfl)); have e2 : a.eval (.tmp 44) = .agg (ec R.T) := (hk.deps 3 44 (by kernel_rfl)); rw [e1, e2]; refine (mul_any wx P.T R.T HP.out.t HR.out.t).mono ?_; rintro e w5 ⟨rfl, hb⟩; exact ⟨_, rfl, rfl, hb⟩),
    Grow.h2_call2 (Or.inl rfl) 55 Grow.enter55 _ _ _ rfl (fun a wx hk => by have e2 : a.eval (.tmp 45) = .agg (ec (Fe.mul P.T R.T)) := (hk.deps 4 45 (by kernel_rfl)); rw [e2]; refine (ctimes_any wx (S3.out.dbl.below hk.below S3.out.dbl.1) 121665 (by decide) (by decide) (Fe.mul P.T R.T) (Fe.mul_ok HP.out.t HR.out.t)).mono ?_; rintro e w5 ⟨rfl, hb⟩; exact ⟨_, rfl, congrArg (fun z => Value.agg (ec z)) Htu.out.symm, hb⟩),
    Grow.h2_alloc (Or.inl rfl) rfl rfl,
    trivial⟩ ?_
  intro a w4 hb hts hk hdf hfr
  have ev : a.eval (.tmp 46) = .agg (ec tu) := hk 5 46 (by decide) rfl
  obtain ⟨g8, eg, hz, hgs⟩ : ∃ g, a.eval (.tmp 8) = .pointer (some ⟨g, 0, none⟩) ∧ w4.heap[g]? = some (.cells (ec Fe.z) 49 (0, 0)) ∧ w3.heap.size ≤ g := hk 6 8 (by decide) rfl
  refine ⟨rfl, wp_store_row 49 (.tmp 8) (.tmp 46) rfl g8 (ec tu) eg ev 49 (ec Fe.z) hz i30 rfl (ec_one _) ?_⟩
  have S4 := Lib.hid (S3.out.put hb hgs hz tu)
  have ha := Grow.act_after hts hdf hfr
  rw [show Grow.dsts _ 7 = [41, 42, 43, 44, 45, 46, 8] from by kernel_rfl] at ha
  simp only [Grow.putAll, eg] at ha
  generalize a.eval (.tmp 41) = u41 at ha
  generalize a.eval (.tmp 42) = u42 at ha
  generalize a.eval (.tmp 43) = u43 at ha
  generalize a.eval (.tmp 44) = u44 at ha
  generalize a.eval (.tmp 45) = u45 at ha
  generalize a.eval (.tmp 46) = u46 at ha
  clear hk hts hdf hfr ev eg hb hz hgs S3
  simp [Act.put] at ha
  subst ha
  generalize w4.setRow g8 (ec tu) = w6 at *
  unfold Grow.wpSeq
  go_upto_region 5 with fail
  refine Grow.region_pair (by kernel_rfl) 8 (fun i => List.getD (Grow.Spec.is (.agg (ec on)) :: Grow.Spec.is (.agg (ec tu)) :: Grow.Spec.is (.agg (ec xu)) :: Grow.Spec.is (.agg (ec on)) :: Grow.Spec.is (.agg (ec tu)) :: Grow.Spec.is (.agg (ec yu)) :: Grow.newRow w6 :: Grow.newRow w6 :: []) i (Grow.Spec.is undef)) (i1 := 6) (i2 := 7) (d1 := 9) (d2 := 10) (by decide) (by decide) (by decide) (by kernel_rfl) (by kernel_rfl) (fun o ho => by obtain rfl := Option.some.inj ho; exact ⟨rfl, rfl⟩) (fun o ho => by obtain rfl := Option.some.inj ho; exact ⟨rfl, rfl⟩) rfl rfl (by kernel_rfl) ⟨
    Grow.h2_row (Or.inl rfl) 7 g7 49 (ec on) _ rfl Tryd.underlying49 i30 rfl (by kernel_rfl) rfl (S4.out.rows (g7, on) (by simp)) rfl,
    Grow.h2_row (Or.inl rfl) 8 g8 49 (ec tu) _ rfl Tryd.underlying49 i30 rfl (by kernel_rfl) rfl (S4.out.rows (g8, tu) (by simp)) rfl,
    Grow.h2_call2 (Or.inl rfl) 57 Grow.enter57 _ _ _ rfl (fun a wx hk => by have e1 : a.eval (.tmp 47) = .agg (ec on) := (hk.deps 0 47 (by kernel_rfl)); have e2 : a.eval (.tmp 48) = .agg (ec tu) := (hk.deps 1 48 (by kernel_rfl)); rw [e1, e2]; refine (sub_any wx on tu Oon.out Otu.out (S4.out.dbl.below hk.below S4.out.dbl.1)).mono ?_; rintro e w5 ⟨rfl, hb⟩; exact ⟨_, rfl, congrArg (fun z => Value.agg (ec z)) Hxu.out.symm, hb⟩),
    Grow.h2_row (Or.inl rfl) 7 g7 49 (ec on) _ rfl Tryd.underlying49 i30 rfl (by kernel_rfl) rfl (S4.out.rows (g7, on) (by simp)) rfl,
    Grow.h2_row (Or.inl rfl) 8 g8 49 (ec tu) _ rfl Tryd.underlying49 i30 rfl (by kernel_rfl) rfl (S4.out.rows (g8, tu) (by simp)) rfl,
    Grow.h2_call2 (Or.inl rfl) 56 Grow.enter56 _ _ _ rfl (fun a wx hk => by have e1 : a.eval (.tmp 50) = .agg (ec on) := (hk.deps 3 50 (by kernel_rfl)); have e2 : a.eval (.tmp 51) = .agg (ec tu) := (hk.deps 4 51 (by kernel_rfl)); rw [e1, e2]; refine (add_any wx on tu Oon.out Otu.out).mono ?_; rintro e w5 ⟨rfl, hb⟩; exact ⟨_, rfl, congrArg (fun z => Value.agg (ec z)) Hyu.out.symm, hb⟩),
    Grow.h2_alloc (Or.inl rfl) rfl rfl,
    Grow.h2_alloc (Or.inl rfl) rfl rfl,
    trivial⟩ ?_
  intro a w4 hb hts hk hdf hfr hne
  have e49 : a.eval (.tmp 49) = .agg (ec xu) := hk 2 49 (by decide) rfl
  have e52 : a.eval (.tmp 52) = .agg (ec yu) := hk 5 52 (by decide) rfl
  obtain ⟨g9, e9, hz9, hg9⟩ : ∃ g, a.eval (.tmp 9) = .pointer (some ⟨g, 0, none⟩) ∧ w4.heap[g]? = some (.cells (ec Fe.z) 49 (0, 0)) ∧ w6.heap.size ≤ g := hk 6 9 (by decide) rfl
  obtain ⟨g10, e10, hz10, hg10⟩ : ∃ g, a.eval (.tmp 10) = .pointer (some ⟨g, 0, none⟩) ∧ w4.heap[g]? = some (.cells (ec Fe.z) 49 (0, 0)) ∧ w6.heap.size ≤ g := hk 7 10 (by decide) rfl
  have hgg : g9 ≠ g10 := by intro hh; apply hne; rw [e9, e10, hh]
  refine ⟨rfl, wp_store_row 49 (.tmp 9) (.tmp 49) rfl g9 (ec xu) e9 e49 49 (ec Fe.z) hz9 i30 rfl (ec_one _) ?_⟩
  refine ⟨rfl, wp_store_row 49 (.tmp 10) (.tmp 52) rfl g10 (ec yu) e10 e52 49 (ec Fe.z) ((setRow_other _ _ _ _ (Ne.symm hgg)).trans hz10) i30 rfl (ec_one _) ?_⟩
  have S5 := Lib.hid (S4.out.put2 hb hg9 hg10 hgg hz9 hz10 xu yu)
  have ha := Grow.act_after hts hdf hfr
  rw [show Grow.dsts _ 8 = [47, 48, 49, 50, 51, 52, 9, 10] from by kernel_rfl] at ha
  simp only [Grow.putAll, e9, e10] at ha
  generalize a.eval (.tmp 47) = u47 at ha
  generalize a.eval (.tmp 48) = u48 at ha
  generalize a.eval (.tmp 49) = u49 at ha
  generalize a.eval (.tmp 50) = u50 at ha
  generalize a.eval (.tmp 51) = u51 at ha
  generalize a.eval (.tmp 52) = u52 at ha
  clear hk hts hdf hfr e49 e52 e9 e10 hb hz9 hz10 hg9 hg10 hgg hne S4
  simp [Act.put] at ha
  subst ha
  generalize (w4.setRow g9 (ec xu)).setRow g10 (ec yu) = w7 at *
  unfold Grow.wpSeq
  go_upto_region 6 with fail
  refine Grow.region_rest (by kernel_rfl) 13 (fun i => List.getD (Grow.Spec.is (.agg (ec xo)) :: Grow.Spec.is (.agg (ec yu)) :: Grow.Spec.is (.agg (ec (Fe.mul xo yu))) :: Grow.Spec.is (.agg (ec yo)) :: Grow.Spec.is (.agg (ec xu)) :: Grow.Spec.is (.agg (ec (Fe.mul yo xu))) :: Grow.Spec.is (.agg (ec xu)) :: Grow.Spec.is (.agg (ec yu)) :: Grow.Spec.is (.agg (ec (Fe.mul xu yu))) :: Grow.Spec.is (.agg (ec xo)) :: Grow.Spec.is (.agg (ec yo)) :: Grow.Spec.is (.agg (ec (Fe.mul xo yo))) :: Grow.Spec.is (.agg (pc ⟨Fe.mul xo yu, Fe.mul yo xu, Fe.mul xu yu, Fe.mul xo yo⟩)) :: []) i (Grow.Spec.is undef)) (by kernel_rfl) ⟨
    Grow.h2_row (Or.inl rfl) 5 g5 49 (ec xo) _ rfl Tryd.underlying49 i30 rfl (by kernel_rfl) rfl (S5.out.rows (g5, xo) (by simp)) rfl,
    Grow.h2_row (Or.inl rfl) 10 g10 49 (ec yu) _ rfl Tryd.underlying49 i30 rfl (by kernel_rfl) rfl (S5.out.rows (g10, yu) (by simp)) rfl,
    Grow.h2_call2 (Or.inl rfl) 50 Grow.enter50 _ _ _ rfl (fun a wx hk => by have e1 : a.eval (.tmp 53) = .agg (ec xo) := (hk.deps 0 53 (by kernel_rfl)); have e2 : a.eval (.tmp 54) = .agg (ec yu) := (hk.deps 1 54 (by kernel_rfl)); rw [e1, e2]; refine (mul_any wx xo yu Oxo.out Oyu.out).mono ?_; rintro e w5 ⟨rfl, hb⟩; exact ⟨_, rfl, rfl, hb⟩),
    Grow.h2_row (Or.inl rfl) 6 g6 49 (ec yo) _ rfl Tryd.underlying49 i30 rfl (by kernel_rfl) rfl (S5.out.rows (g6, yo) (by simp)) rfl,
    Grow.h2_row (Or.inl rfl) 9 g9 49 (ec xu) _ rfl Tryd.underlying49 i30 rfl (by kernel_rfl) rfl (S5.out.rows (g9, xu) (by simp)) rfl,
    Grow.h2_call2 (Or.inl rfl) 50 Grow.enter50 _ _ _ rfl (fun a wx hk => by have e1 : a.eval (.tmp 56) = .agg (ec yo) := (hk.deps 3 56 (by kernel_rfl)); have e2 : a.eval (.tmp 57) = .agg (ec xu) := (hk.deps 4 57 (by kernel_rfl)); rw [e1, e2]; refine (mul_any wx yo xu Oyo.out Oxu.out).mono ?_; rintro e w5 ⟨rfl, hb⟩; exact ⟨_, rfl, rfl, hb⟩),
    Grow.h2_row (Or.inl rfl) 9 g9 49 (ec xu) _ rfl Tryd.underlying49 i30 rfl (by kernel_rfl) rfl (S5.out.rows (g9, xu) (by simp)) rfl,
    Grow.h2_row (Or.inl rfl) 10 g10 49 (ec yu) _ rfl Tryd.underlying49 i30 rfl (by kernel_rfl) rfl (S5.out.rows (g10, yu) (by simp)) rfl,
    Grow.h2_call2 (Or.inl rfl) 50 Grow.enter50 _ _ _ rfl (fun a wx hk => by have e1 : a.eval (.tmp 59) = .agg (ec xu) := (hk.deps 6 59 (by kernel_rfl)); have e2 : a.eval (.tmp 60) = .agg (ec yu) := (hk.deps 7 60 (by kernel_rfl)); rw [e1, e2]; refine (mul_any wx xu yu Oxu.out Oyu.out).mono ?_; rintro e w5 ⟨rfl, hb⟩; exact ⟨_, rfl, rfl, hb⟩),
    Grow.h2_row (Or.inl rfl) 5 g5 49 (ec xo) _ rfl Tryd.underlying49 i30 rfl (by kernel_rfl) rfl (S5.out.rows (g5, xo) (by simp)) rfl,
    Grow.h2_row (Or.inl rfl) 6 g6 49 (ec yo) _ rfl Tryd.underlying49 i30 rfl (by kernel_rfl) rfl (S5.out.rows (g6, yo) (by simp)) rfl,
    Grow.h2_call2 (Or.inl rfl) 50 Grow.enter50 _ _ _ rfl (fun a wx hk => by have e1 : a.eval (.tmp 62) = .agg (ec xo) := (hk.deps 9 62 (by kernel_rfl)); have e2 : a.eval (.tmp 63) = .agg (ec yo) := (hk.deps 10 63 (by kernel_rfl)); rw [e1, e2]; refine (mul_any wx xo yo Oxo.out Oyo.out).mono ?_; rintro e w5 ⟨rfl, hb⟩; exact ⟨_, rfl, rfl, hb⟩),
    Grow.h2_build51 (Or.inl rfl) ⟨Fe.mul xo yu, Fe.mul yo xu, Fe.mul xu yu, Fe.mul xo yo⟩ 2 55 5 58 8 61 11 64 rfl (by kernel_rfl) (by kernel_rfl) (by kernel_rfl) (by kernel_rfl) rfl rfl rfl rfl rfl,
    trivial⟩ ?_
  intro a w4 hb hts hk hdf hfr
  have e65 : a.eval (.tmp 65) = .agg (pc V) := by rw [HV.out]; exact hk 12 65 (by decide) rfl
  have e4 : a.eval (.tmp 4) = .pointer (some ⟨w.heap.size + 2, 0, none⟩) := hfr 4 (by kernel_rfl)
  have S6 := S5.out.below hb
  have hz := S6.pts (w.heap.size + 2, pz) (by simp)
  refine ⟨rfl, wp_store_row 51 (.tmp 4) (.tmp 65) rfl (w.heap.size + 2) (pc V) e4 e65 51 (pc pz) hz i51 rfl (pc_one _) ?_⟩
  have hS := setRow_heap w4 (w.heap.size + 2) _ (pc V) 51 _ hz
  have hB : Below w.heap.size w (w4.setRow (w.heap.size + 2) (pc V)) := below_setRow S6.bb (by omega) _
  generalize w4.setRow (w.heap.size + 2) (pc V) = w5 at *
  have ha := Grow.act_after hts hdf hfr
  rw [show Grow.dsts _ 13 = [53, 54, 55, 56, 57, 58, 59, 60, 61, 62, 63, 64, 65] from by kernel_rfl] at ha
  simp only [Grow.putAll] at ha
  generalize a.eval (.tmp 53) = u53 at ha
  generalize a.eval (.tmp 54) = u54 at ha
  generalize a.eval (.tmp 55) = u55 at ha
  generalize a.eval (.tmp 56) = u56 at ha
  generalize a.eval (.tmp 57) = u57 at ha
  generalize a.eval (.tmp 58) = u58 at ha
  generalize a.eval (.tmp 59) = u59 at ha
  generalize a.eval (.tmp 60) = u60 at ha
  generalize a.eval (.tmp 61) = u61 at ha
  generalize a.eval (.tmp 62) = u62 at ha
  generalize a.eval (.tmp 63) = u63 at ha
  generalize a.eval (.tmp 64) = u64 at ha
  generalize a.eval (.tmp 65) = u65 at ha
  clear hk hts hdf hfr e65 e4 hb hz S6 S5
  simp [Act.put] at ha
  subst ha
  unfold Grow.wpSeq
  go_wp2
  exact bodyPost_ret (results_cell_row Tryd.results28 _ _ (w.heap.size + 2) 51 _ (0, 0) _ rfl hS Tryd.underlying51 rfl i51) rfl ⟨by rw [HE.out], hB⟩
end Go.Proofs.YtiinmdleechcgaaDoor
namespace Go.Proofs.YtiinmdleechcgaaDoor
open Go.RowKit
theorem q_P : Ed.q = Fe.P := Fe.P_PN.symm
theorem Fe.Re.cg {x : Fe.E} {n : Int} (h : Fe.Re x n) : Ed.Cg (Fe.val x) n := Ed.Cg.of_mod (by rw [q_P]; exact h.eq)
theorem Fe.Re.of_cg {x : Fe.E} {n m : Int} (h : Fe.Re x n) (hc : Ed.Cg n m) : Fe.Re x m := h.to (by rw [← q_P]; exact hc.mod)
/-- What stands for a point. -/
structure Rp (P : Pv) (A : Ed.Pt) : Prop where
  ok : P.Ok
  good : A.Good
  rep : Ed.Rep (Fe.val P.X) (Fe.val P.Y) (Fe.val P.Z) (Fe.val P.T) A
theorem Pv.add_ok {P R : Pv} (hP : P.Ok) (hR : R.Ok) : (Pv.add P R).Ok := by
  have L6 : Fe.Ok (Fe.num 121666) := Fe.num_ok _ (by decide) (by decide)
  have L5 : Fe.Ok (Fe.num 121665) := Fe.num_ok _ (by decide) (by decide)
  have a := Fe.mul_ok L6 (Fe.add_ok (Fe.mul_ok hP.x hR.y) (Fe.mul_ok hP.y hR.x))
  have b := Fe.mul_ok L6 (Fe.add_ok (Fe.mul_ok hP.y hR.y) (Fe.mul_ok hP.x hR.x))
  have c := Fe.mul_ok L6 (Fe.mul_ok hP.z hR.z)
  have d := Fe.mul_ok L5 (Fe.mul_ok hP.t hR.t)
  exact ⟨Fe.mul_ok a (Fe.add_ok c d), Fe.mul_ok b (Fe.sub_ok c d), Fe.mul_ok (Fe.sub_ok c d) (Fe.add_ok c d), Fe.mul_ok a b⟩
theorem Rp.add {P R : Pv} {A B : Ed.Pt} (hP : Rp P A) (hR : Rp R B) : Rp (Pv.add P R) (Ed.add A B) := by
  have L6 : Fe.Re (Fe.num 121666) Ed.lower := Fe.Re.num (by decide) (by decide)
  have L5 : Fe.Re (Fe.num 121665) Ed.upper := Fe.Re.num (by decide) (by decide)
  have px := Fe.Re.self hP.ok.x
  have py := Fe.Re.self hP.ok.y
  have pz := Fe.Re.self hP.ok.z
  have pt := Fe.Re.self hP.ok.t
  have rx := Fe.Re.self hR.ok.x
  have ry := Fe.Re.self hR.ok.y
  have rz := Fe.Re.self hR.ok.z
  have rt := Fe.Re.self hR.ok.t
  have a := L6.mul ((px.mul ry).add (py.mul rx))
  have b := L6.mul ((py.mul ry).add (px.mul rx))
  have c := L6.mul (pz.mul rz)
  have d := L5.mul (pt.mul rt)
  have e := c.sub d
  have f := c.add d
  refine ⟨Pv.add_ok hP.ok hR.ok, Ed.add_good hP.good hR.good, ?_⟩
  exact Ed.Rep.of_eqs hP.good hR.good hP.rep hR.rep a.cg b.cg e.cg f.cg
    ((Fe.Re.self a.ok).mul (Fe.Re.self f.ok)).cg ((Fe.Re.self b.ok).mul (Fe.Re.self e.ok)).cg ((Fe.Re.self e.ok).mul (Fe.Re.self f.ok)).cg ((Fe.Re.self a.ok).mul (Fe.Re.self b.ok)).cg
/-- A point told by its two numbers. -/
def Pv.flat (x y : Fe.E) : Pv := ⟨x, y, Fe.num 1, Fe.mul x y⟩
theorem Rp.flat {x y : Fe.E} {A : Ed.Pt} (hA : A.Good) (hx : Fe.Re x A.x) (hy : Fe.Re y A.y) : Rp (Pv.flat x y) A := by
  have h1 : Fe.Re (Fe.num 1) 1 := Fe.Re.num (by decide) (by decide)
  exact ⟨⟨hx.ok, hy.ok, h1.ok, Fe.mul_ok hx.ok hy.ok⟩, hA, (Ed.Rep.flat A).cg hx.cg hy.cg h1.cg (hx.mul hy).cg⟩
theorem Rp.origin : Rp (Pv.flat (Fe.num 0) (Fe.num 1)) Ed.O := Rp.flat Ed.O_good (Fe.Re.num (by decide) (by decide)) (Fe.Re.num (by decide) (by decide))
theorem Grow.enter75 (args : Array Value) (w : World) : (callFunc 75 args).run Tryd.prog w = .ok (.enter 75 args) w := by
  have := Tryd.func75
  go_simp
set_option maxRecDepth 100000 in
set_option maxHeartbeats 2000000 in
theorem origin_any (w : World) : Calls Tryd.prog 51 #[] w fun e w' => e = .returned (.agg (pc (Pv.flat (Fe.num 0) (Fe.num 1)))) ∧ Below w.heap.size w w' := by
  go_enter Tryd.func51, Tryd.ntmps51
  go_upto_region 1 with fail
  change Code.wp _ _ _ _ (w.alloc (.cells (pc pz) 51))
  have g0 : (w.alloc (.cells (pc pz) 51)).heap[w.heap.size]? = some (.cells (pc pz) 51 (0, 0)) := heap_alloc_new w _
  have hb0 : Below w.heap.size w (w.alloc (.cells (pc pz) 51)) := (Below.refl _ _).alloc (Nat.le_refl _) _
  generalize w.alloc (.cells (pc pz) 51) = w3 at *
  refine Grow.region_line 3 (fun i => List.getD (Grow.Spec.is (.agg (ec (Fe.num 0))) :: Grow.Spec.is (.agg (ec (Fe.num 1))) :: Grow.Spec.is (.agg (pc (Pv.flat (Fe.num 0) (Fe.num 1)))) :: []) i (Grow.Spec.is undef)) (by kernel_rfl) ⟨
    Grow.h2_call1 (Or.inl rfl) 53 Grow.enter53 _ _ rfl (fun a wx hk => by refine (num_any wx 0 (by decide) (by decide)).mono ?_; rintro e w5 ⟨rfl, hb⟩; exact ⟨_, rfl, rfl, hb⟩),
    Grow.h2_call1 (Or.inl rfl) 53 Grow.enter53 _ _ rfl (fun a wx hk => by refine (num_any wx 1 (by decide) (by decide)).mono ?_; rintro e w5 ⟨rfl, hb⟩; exact ⟨_, rfl, rfl, hb⟩),
    Grow.h2_call2 (Or.inl rfl) 75 Grow.enter75 _ _ _ rfl (fun a wx hk => by have e1 : a.eval (.tmp 1) = .agg (ec (Fe.num 0)) := (hk.deps 0 1 (by kernel_rfl)); have e2 : a.eval (.tmp 2) = .agg (ec (Fe.num 1)) := (hk.deps 1 2 (by kernel_rfl)); rw [e1, e2]; refine (flat_any wx _ _ (Fe.num_ok _ (by decide) (by decide)) (Fe.num_ok _ (by decide) (by decide))).mono ?_; rintro e w5 ⟨rfl, hb⟩; exact ⟨_, rfl, rfl, hb⟩),
    trivial⟩ ?_
  intro a w4 hb hts hk hdf hfr
  have e3 : a.eval (.tmp 3) = .agg (pc (Pv.flat (Fe.num 0) (Fe.num 1))) := hk 2 3 (by decide) rfl
  have e0 : a.eval (.tmp 0) = .pointer (some ⟨w.heap.size, 0, none⟩) := hfr 0 (by kernel_rfl)
  have hz := (hb.block _ (lt_of_block g0)).trans g0
  generalize hR : Pv.flat (Fe.num 0) (Fe.num 1) = R at e3
  refine ⟨rfl, wp_store_row 51 (.tmp 0) (.tmp 3) rfl w.heap.size (pc R) e0 e3 51 (pc pz) hz i51 rfl (pc_one _) ?_⟩
  have hS := setRow_heap w4 w.heap.size _ (pc R) 51 _ hz
  have hB : Below w.heap.size w (w4.setRow w.heap.size (pc R)) := below_setRow (hb0.trans (hb.mono hb0.size)) (Nat.le_refl _) _
  generalize w4.setRow w.heap.size (pc R) = w5 at *
  have ha := Grow.act_after hts hdf hfr
  rw [show Grow.dsts _ 3 = [1, 2, 3] from by kernel_rfl] at ha
  simp only [Grow.putAll] at ha
  generalize a.eval (.tmp 1) = u1 at ha
  generalize a.eval (.tmp 2) = u2 at ha
  generalize a.eval (.tmp 3) = u3 at ha
  clear hk hts hdf hfr e3 e0 hb hz g0 hb0
  simp [Act.put] at ha
  subst ha
  unfold Grow.wpSeq
  go_wp2
  exact bodyPost_ret (results_cell_row Tryd.results51 _ _ w.heap.size 51 _ (0, 0) _ rfl hS Tryd.underlying51 rfl i51) rfl ⟨by rw [hR], hB⟩
set_option maxRecDepth 100000 in
set_option maxHeartbeats 2000000 in
/-- A bit of a number of 32 bytes. -/
theorem cbit_any (w : World) (e : List Int) (he : e.length = 32) (h8 : ∀ b ∈ e, W8 b) (k : Nat) (hk : k < 256) :
    Calls Tryd.prog 52 #[bv e, .int .i64 k] w fun r w' => r = .returned (.bool (decide (Bt.bit (Bt.low e) k = 1))) ∧ Below w.heap.size w w' := by
  have hB : Below w.heap.size w (w.alloc (.cells (e.map (Value.int .u8)).toArray 44)) := (Below.refl _ _).alloc (Nat.le_refl _) _
  have h0 : Blk (w.alloc (.cells (e.map (Value.int .u8)).toArray 44)) w.heap.size .u8 44 e := heap_alloc_new w _
  have HB := Lib.hid hB
  have c1 := h0.cell (k / 8) (by omega)
  have hpl := Bt.place_low e (k / 8) h8 (by omega)
  rw [← hpl] at c1
  have hbit := Bt.bit_place 8 32 (Bt.low e) k (by decide) (by have := Bt.low_lt e h8; rwa [he] at this)
  rw [he] at c1
  have hp8 := Bt.place_lt 8 (Bt.low e) (8 * 32) (k / 8)
  have hb1 := Bt.bit_le (Bt.low e) k
  generalize Bt.place 8 (Bt.low e) (8 * 32) (k / 8) = v at *
  have hm := and1_8 ((v : Int) / 2 ^ (k % 8)) (Int.ediv_nonneg (by omega) (Int.le_of_lt (Int.pow_pos (by decide)))) (Int.le_trans (Int.ediv_le_self _ (by omega)) (by simp only [Nat.reducePow] at hp8; omega))
  have hvb : ((v : Int) / 2 ^ (k % 8)) % 2 = ((Bt.bit (Bt.low e) k : Nat) : Int) := by
    rw [← hbit]
    simp
  rw [hvb] at hm
  clear hbit hpl hvb hB h0 h8
  unfold bv
  by_cases hb : Bt.bit (Bt.low e) k = 1
  · rw [show decide (Bt.bit (Bt.low e) k = 1) = true from decide_eq_true hb]
    rw [hb] at hm
    clear hb hb1 hp8
    go_enter Tryd.func52, Tryd.ntmps52
    go_upto_region 1 with fail
    generalize (w.alloc (.cells (e.map (Value.int .u8)).toArray 44)) = w3 at *
    go_wp2
    go_ret
    exact ⟨rfl, HB.out⟩
  · rw [show decide (Bt.bit (Bt.low e) k = 1) = false from decide_eq_false hb]
    have hb0 : Bt.bit (Bt.low e) k = 0 := by omega
    rw [hb0] at hm
    clear hb hb0 hb1 hp8
    go_enter Tryd.func52, Tryd.ntmps52
    go_upto_region 1 with fail
    generalize (w.alloc (.cells (e.map (Value.int .u8)).toArray 44)) = w3 at *
    go_wp2
    go_ret
    exact ⟨rfl, HB.out⟩
end Go.Proofs.YtiinmdleechcgaaDoor
namespace Go.Proofs.YtiinmdleechcgaaDoor
open Go.RowKit
theorem Ed.mul_more (A : Ed.Pt) (hA : A.Good) (N k : Nat) : Ed.mul (N % 2 ^ (k + 1)) A = if Bt.bit N k = 1 then Ed.add (Ed.mul (N % 2 ^ k) A) (Ed.mul (2 ^ k) A) else Ed.mul (N % 2 ^ k) A := by
  rw [Bt.mod_more]
  have := Bt.bit_le N k
  split
  · next h => rw [h, Nat.mul_one, Ed.mul_add hA]
  · next h => rw [show Bt.bit N k = 0 by omega, Nat.mul_zero, Nat.add_zero]
theorem Ed.mul_twice (A : Ed.Pt) (hA : A.Good) (k : Nat) : Ed.mul (2 ^ (k + 1)) A = Ed.add (Ed.mul (2 ^ k) A) (Ed.mul (2 ^ k) A) := by
  rw [Nat.pow_succ, Nat.mul_two, Ed.mul_add hA]
/-- What lies where while a point is taken so many times. -/
structure TLay (w : World) (go : Nat) (A : Ed.Pt) (e : List Int) (ka ko : Nat) (a o : Pv) (wr : World) : Prop where
  aa : wr.heap[w.heap.size]? = some (.cells (pc a) 51 (0, 0))
  ee : Blk wr (w.heap.size + 1) .u8 44 e
  zz : wr.heap[w.heap.size + 1 + 1]? = some (.cells (pc pz) 51 (0, 0))
  oo : wr.heap[go]? = some (.cells (pc o) 51 (0, 0))
  ra : Rp a (Ed.mul (2 ^ ka) A)
  ro : Rp o (Ed.mul (Bt.low e % 2 ^ ko) A)
  bb : Below w.heap.size w wr
  dbl : Dbl wr
theorem TLay.setO {w wr w6 : World} {go ka ko kn : Nat} {A : Ed.Pt} {e : List Int} {a o o' : Pv} (h : TLay w go A e ka ko a o wr) (hd : Dbl w) (hgo : w.heap.size + 1 + 1 < go) (hb : Below wr.heap.size wr w6) (hr : Rp o' (Ed.mul (Bt.low e % 2 ^ kn) A)) : TLay w go A e ka kn a o' (w6.setRow go (pc o')) := by
  have hB : Below w.heap.size w (w6.setRow go (pc o')) := below_setRow (h.bb.trans (hb.mono h.bb.size)) (by omega) _
  refine ⟨?_, ?_, ?_, ?_, h.ra, hr, hB, hd.below hB hd.1⟩
  · rw [setRow_other _ _ _ _ (by omega)]
    exact (hb.block _ (lt_of_block h.aa)).trans h.aa
  · refine Blk.other ?_ (setRow_other _ _ _ _ (by omega))
    exact h.ee.other (hb.block _ h.ee.lt)
  · rw [setRow_other _ _ _ _ (by omega)]
    exact (hb.block _ (lt_of_block h.zz)).trans h.zz
  · exact setRow_heap w6 go _ (pc o') 51 _ ((hb.block _ (lt_of_block h.oo)).trans h.oo)
theorem TLay.setA {w wr w6 : World} {go ka ko kn : Nat} {A : Ed.Pt} {e : List Int} {a o a' : Pv} (h : TLay w go A e ka ko a o wr) (hd : Dbl w) (hgo : w.heap.size + 1 + 1 < go) (hb : Below wr.heap.size wr w6) (hr : Rp a' (Ed.mul (2 ^ kn) A)) : TLay w go A e kn ko a' o (w6.setRow w.heap.size (pc a')) := by
  have hB : Below w.heap.size w (w6.setRow w.heap.size (pc a')) := below_setRow (h.bb.trans (hb.mono h.bb.size)) (by omega) _
  refine ⟨?_, ?_, ?_, ?_, hr, h.ro, hB, hd.below hB hd.1⟩
  · exact setRow_heap w6 w.heap.size _ (pc a') 51 _ ((hb.block _ (lt_of_block h.aa)).trans h.aa)
  · refine Blk.other ?_ (setRow_other _ _ _ _ (by omega))
    exact h.ee.other (hb.block _ h.ee.lt)
  · rw [setRow_other _ _ _ _ (by omega)]
    exact (hb.block _ (lt_of_block h.zz)).trans h.zz
  · rw [setRow_other _ _ _ _ (by omega)]
    exact (hb.block _ (lt_of_block h.oo)).trans h.oo
theorem TLay.grow {w wr w6 : World} {go ka ko : Nat} {A : Ed.Pt} {e : List Int} {a o : Pv} (h : TLay w go A e ka ko a o wr) (hb : Below wr.heap.size wr w6) : TLay w go A e ka ko a o w6 :=
  ⟨(hb.block _ (lt_of_block h.aa)).trans h.aa, h.ee.other (hb.block _ h.ee.lt), (hb.block _ (lt_of_block h.zz)).trans h.zz, (hb.block _ (lt_of_block h.oo)).trans h.oo, h.ra, h.ro, h.bb.trans (hb.mono h.bb.size), h.dbl.below hb h.dbl.1⟩
theorem i44 : (Tryd.prog.info? 44).map (·.size) = some 32 := by kernel_rfl

set_option maxRecDepth 100000 in
set_option maxHeartbeats 2000000 in
theorem ptimes_any (w : World) (hd : Dbl w) (P : Pv) (A : Ed.Pt) (hP : Rp P A) (e : List Int) (he : e.length = 32) (h8 : ∀ b ∈ e, W8 b) :
    Calls Tryd.prog 26 #[.agg (pc P), bv e] w fun r w' => ∃ R, r = .returned (.agg (pc R)) ∧ Rp R (Ed.mul (Bt.low e) A) ∧ Below w.heap.size w w' := by
  obtain ⟨⟨h1, h2, h3⟩, h4⟩ := heap_alloc3 w (.cells (pc P) 51) (.cells (e.map (Value.int .u8)).toArray 44) (.cells (pc pz) 51)
  have hgo : w.heap.size + 1 + 1 < (((w.alloc (.cells (pc P) 51)).alloc (.cells (e.map (Value.int .u8)).toArray 44)).alloc (.cells (pc pz) 51)).heap.size := lt_of_block h3
  have H1 := Lib.hid h1
  have H2 : Hid (Blk (((w.alloc (.cells (pc P) 51)).alloc (.cells (e.map (Value.int .u8)).toArray 44)).alloc (.cells (pc pz) 51)) (w.heap.size + 1) .u8 44 e) := h2
  have H3 := Lib.hid h3
  have H4 := Lib.hid h4
  have HD := Lib.hid hd
  have HX := Lib.hid hP
  have H8 := Lib.hid h8
  have HE := Lib.hid he
  have HNP := Lib.hid (Bt.low_lt e h8)
  clear h1 h2 h3 h4 hP h8 he hd
  have HBV : Hid (bv e = .agg (e.map (Value.int .u8)).toArray) := rfl
  have HEZ : Hid ((e.map (Value.int .u8)).toArray.size = 32) := by
    have := HE.out
    show _ = _
    simp [this]
  unfold bv
  go_enter Tryd.func26, Tryd.ntmps26
  go_upto_region 1 with fail
  change Code.wp _ _ _ _ (((w.alloc (.cells (pc P) 51)).alloc (.cells (e.map (Value.int .u8)).toArray 44)).alloc (.cells (pc pz) 51))
  generalize (((w.alloc (.cells (pc P) 51)).alloc (.cells (e.map (Value.int .u8)).toArray 44)).alloc (.cells (pc pz) 51)) = w3 at *
  go_wp2_with (first
    | ((with_reducible refine wpList_store_row (o := ⟨none, _, _, _, _, _⟩) rfl 51 (.tmp 5) (.tmp 7) rfl w4.heap.size (pc (Pv.flat (Fe.num 0) (Fe.num 1))) rfl rfl 51 _ HZ4.out ?_ ?_ ?_ ?_); exact i51; exact rfl; exact pc_one _)
    | (go_at_call 51; refine (origin_any w3).mono ?_; rintro r w4 ⟨rfl, hb⟩; have HB4 := Lib.hid hb; have HZ4 : Hid ((w4.alloc (.cells #[.int .u64 0, .int .u64 0, .int .u64 0, .int .u64 0, .int .u64 0, .int .u64 0, .int .u64 0, .int .u64 0, .int .u64 0, .int .u64 0, .int .u64 0, .int .u64 0, .int .u64 0, .int .u64 0, .int .u64 0, .int .u64 0, .int .u64 0, .int .u64 0, .int .u64 0, .int .u64 0] 51)).heap[w4.heap.size]? = some (.cells (pc pz) 51 (0, 0))) := heap_alloc_new w4 _; clear hb))
  have HB5 := Lib.hid (H4.out.trans (HB4.out.mono H4.out.size))
  have hgo4 : w.heap.size + 1 + 1 < w4.heap.size := Nat.lt_of_lt_of_le hgo HB4.out.size
  have PL : Hid (TLay w w4.heap.size A e 0 0 P (Pv.flat (Fe.num 0) (Fe.num 1)) (w4.alloc (.cells (pc (Pv.flat (Fe.num 0) (Fe.num 1))) 51))) := by
    have hB : Below w.heap.size w (w4.alloc (.cells (pc (Pv.flat (Fe.num 0) (Fe.num 1))) 51)) := HB5.out.alloc HB5.out.size _
    refine ⟨?_, ?_, ?_, ?_, ?_, ?_, hB, HD.out.below hB HD.out.1⟩
    · exact (Below.heap_alloc _ _ _ (by omega)).trans ((HB4.out.block _ (lt_of_block H1.out)).trans H1.out)
    · exact (Below.heap_alloc _ _ _ (by omega)).trans ((HB4.out.block _ H2.out.lt).trans H2.out)
    · exact (Below.heap_alloc _ _ _ (by omega)).trans ((HB4.out.block _ (lt_of_block H3.out)).trans H3.out)
    · exact heap_alloc_new w4 _
    · rw [Nat.pow_zero]; show Rp P (Ed.add Ed.O A); rw [Ed.O_add HX.out.good]; exact HX.out
    · rw [Nat.pow_zero, Nat.mod_one]; exact Rp.origin
  clear H1 H2 H3 H4 HB4 HB5 hgo
  rw [World.setRow_alloc_new]
  generalize (w4.alloc (.cells (pc (Pv.flat (Fe.num 0) (Fe.num 1))) 51)) = w5 at *
  generalize w4.heap.size = go at *
  go_loopw [8] (fun i wr => ∃ (k : Nat) (a o : Pv), k ≤ 256 ∧ i = .int .i64 k ∧ Hid (TLay w go A e k k a o wr)) (fun i _ => 256 - (intOf i).toNat)
  case atStart => exact ⟨0, P, (Pv.flat (Fe.num 0) (Fe.num 1)), by omega, rfl, PL⟩
  case round =>
    clear PL
    obtain ⟨k, a, o, hk, rfl, PL⟩ := hrel
    by_cases hlt : k < 256
    · have HMORE := Lib.hid (Ed.mul_more A HX.out.good (Bt.low e) k)
      have HTW := Lib.hid (Ed.mul_twice A HX.out.good k)
      have hee : wr.heap[w.heap.size + 1]? = some (.cells (e.map (Value.int .u8)).toArray 44 (0, 0)) := PL.out.ee
      have HCB := Lib.hid (cbit_any wr e HE.out H8.out k hlt)
      by_cases hb : Bt.bit (Bt.low e) k = 1
      · rw [if_pos hb] at HMORE
        rw [decide_eq_true hb] at HCB
        clear hb
        go_wp2_with (first
          | ((with_reducible refine wpList_store_row (o := ⟨none, _, _, _, _, _⟩) rfl 51 (.tmp 2) (.tmp 19) rfl w.heap.size (pc (Pv.add a a)) rfl rfl 51 _ HA7.out ?_ ?_ ?_ ?_); exact i51; exact rfl; exact pc_one _)
          | (go_at_call 28; refine (Add_any (w6.setRow go (pc (Pv.add o a))) PL6.out.dbl a a PL6.out.ra.ok PL6.out.ra.ok).mono ?_; rintro e1 w7 ⟨rfl, hb7⟩; have HB7 := Lib.hid hb7; have HA7 := Lib.hid ((hb7.block _ (lt_of_block PL6.out.aa)).trans PL6.out.aa); clear hb7)
          | ((with_reducible refine wpList_load_row (o := ⟨some 17, _, _, _, _, _⟩) rfl 51 (.tmp 2) rfl w.heap.size rfl 51 _ (0, 0) _ PL6.out.aa Tryd.underlying51 rfl ?_ ?_); exact i51)
          | ((with_reducible refine wpList_load_row (o := ⟨some 18, _, _, _, _, _⟩) rfl 51 (.tmp 2) rfl w.heap.size rfl 51 _ (0, 0) _ PL6.out.aa Tryd.underlying51 rfl ?_ ?_); exact i51)
          | ((with_reducible refine wpList_store_row (o := ⟨none, _, _, _, _, _⟩) rfl 51 (.tmp 5) (.tmp 16) rfl go (pc (Pv.add o a)) rfl rfl 51 _ HO6.out ?_ ?_ ?_ ?_); exact i51; exact rfl; exact pc_one _)
          | (go_at_call 28; refine (Add_any wb PLb.out.dbl o a PLb.out.ro.ok PLb.out.ra.ok).mono ?_; rintro e1 w6 ⟨rfl, hb6⟩; have HO6 := Lib.hid ((hb6.block _ (lt_of_block PLb.out.oo)).trans PLb.out.oo); have PL6 := Lib.hid (PLb.out.setO (kn := k + 1) (o' := Pv.add o a) HD.out hgo4 hb6 (by rw [HMORE.out]; exact PLb.out.ro.add PLb.out.ra)); clear hb6)
          | ((with_reducible refine wpList_load_row (o := ⟨some 14, _, _, _, _, _⟩) rfl 51 (.tmp 5) rfl go rfl 51 _ (0, 0) _ PLb.out.oo Tryd.underlying51 rfl ?_ ?_); exact i51)
          | ((with_reducible refine wpList_load_row (o := ⟨some 15, _, _, _, _, _⟩) rfl 51 (.tmp 2) rfl w.heap.size rfl 51 _ (0, 0) _ PLb.out.aa Tryd.underlying51 rfl ?_ ?_); exact i51)
          | (go_at_call 52; refine HCB.out.mono ?_; rintro r wb ⟨rfl, hbb⟩; have PLb := Lib.hid (PL.out.grow hbb); clear hbb)
          | ((with_reducible refine wpList_load_row (o := ⟨some 11, _, _, _, _, _⟩) rfl 44 (.tmp 3) rfl (w.heap.size + 1) rfl 44 _ (0, 0) _ hee Tryd.underlying44 rfl ?_ ?_); exact i44.trans (congrArg some HEZ.out.symm)))
        have PL7 := Lib.hid (PL6.out.setA (kn := k + 1) (a' := Pv.add a a) HD.out hgo4 HB7.out (by rw [HTW.out]; exact PL.out.ra.add PL.out.ra))
        go_roundw
        case rel => exact ⟨k + 1, Pv.add a a, Pv.add o a, by omega, by go_num, PL7⟩
        case measure => simp [intOf]; omega
      · rw [if_neg hb] at HMORE
        rw [decide_eq_false hb] at HCB
        clear hb
        go_wp2_with (first
          | ((with_reducible refine wpList_store_row (o := ⟨none, _, _, _, _, _⟩) rfl 51 (.tmp 2) (.tmp 19) rfl w.heap.size (pc (Pv.add a a)) rfl rfl 51 _ HA7.out ?_ ?_ ?_ ?_); exact i51; exact rfl; exact pc_one _)
          | (go_at_call 28; refine (Add_any wb PLb.out.dbl a a PLb.out.ra.ok PLb.out.ra.ok).mono ?_; rintro e1 w7 ⟨rfl, hb7⟩; have HB7 := Lib.hid hb7; have HA7 := Lib.hid ((hb7.block _ (lt_of_block PLb.out.aa)).trans PLb.out.aa); clear hb7)
          | ((with_reducible refine wpList_load_row (o := ⟨some 17, _, _, _, _, _⟩) rfl 51 (.tmp 2) rfl w.heap.size rfl 51 _ (0, 0) _ PLb.out.aa Tryd.underlying51 rfl ?_ ?_); exact i51)
          | ((with_reducible refine wpList_load_row (o := ⟨some 18, _, _, _, _, _⟩) rfl 51 (.tmp 2) rfl w.heap.size rfl 51 _ (0, 0) _ PLb.out.aa Tryd.underlying51 rfl ?_ ?_); exact i51)
          | (go_at_call 52; refine HCB.out.mono ?_; rintro r wb ⟨rfl, hbb⟩; have PLb := Lib.hid (PL.out.grow hbb); clear hbb)
          | ((with_reducible refine wpList_load_row (o := ⟨some 11, _, _, _, _, _⟩) rfl 44 (.tmp 3) rfl (w.heap.size + 1) rfl 44 _ (0, 0) _ hee Tryd.underlying44 rfl ?_ ?_); exact i44.trans (congrArg some HEZ.out.symm)))
        have PL7 := Lib.hid (PLb.out.setA (kn := k + 1) (a' := Pv.add a a) HD.out hgo4 HB7.out (by rw [HTW.out]; exact PL.out.ra.add PL.out.ra))
        have PL8 : Hid (TLay w go A e (k + 1) (k + 1) (Pv.add a a) o (w7.setRow w.heap.size (pc (Pv.add a a)))) := ⟨PL7.out.aa, PL7.out.ee, PL7.out.zz, PL7.out.oo, PL7.out.ra, by rw [HMORE.out]; exact PL7.out.ro, PL7.out.bb, PL7.out.dbl⟩
        go_roundw
        case rel => exact ⟨k + 1, Pv.add a a, o, by omega, by go_num, PL8⟩
        case measure => simp [intOf]; omega
    · have hk5 : ((k : Nat) : Int) = 256 := by omega
      rw [hk5]
      clear hk5
      obtain rfl : k = 256 := by omega
      have ho := PL.out.oo
      have hz := PL.out.zz
      have HR : Hid (Rp o (Ed.mul (Bt.low e) A)) := by
        have h1 := PL.out.ro
        have h2 := HNP.out
        rw [HE.out] at h2
        rwa [Nat.mod_eq_of_lt h2] at h1
      go_wp2_with (first
        | ((with_reducible refine wpList_load_row (o := ⟨some 21, _, _, _, _, _⟩) rfl 51 (.tmp 5) rfl go rfl 51 _ (0, 0) _ ho Tryd.underlying51 rfl ?_ ?_); exact i51)
        | ((with_reducible refine wpList_store_row (o := ⟨none, _, _, _, _, _⟩) rfl 51 (.tmp 4) (.tmp 21) rfl (w.heap.size + 1 + 1) (pc o) rfl rfl 51 _ hz ?_ ?_ ?_ ?_); exact i51; exact rfl; exact pc_one _))
      exact bodyPost_ret (results_cell_row Tryd.results26 _ _ (w.heap.size + 1 + 1) 51 _ (0, 0) _ rfl (setRow_heap wr (w.heap.size + 1 + 1) _ (pc o) 51 _ hz) Tryd.underlying51 rfl i51) rfl ⟨o, rfl, HR.out, below_setRow PL.out.bb (by omega) _⟩
end Go.Proofs.YtiinmdleechcgaaDoor
namespace Go.Proofs.YtiinmdleechcgaaDoor
open Go.RowKit
namespace Grow
/-- As in fits5, but that operation f is awaited by the second of those behind alone. -/
def fits6 (ops : Array Oper) (m f n : Nat) : Bool :=
  (decide (m + 1 < ops.size) && decide (f < m)) && ((((List.range m).all fun i => (match dstOf ops i with
    | some d => decide (d < n) && (List.range m).all fun j => j == i || dstOf ops j != some d
    | none => false) && (match ops[i]? with | some o => o.after.all fun e => !Region.binds .any e || decide (e.on < i) | none => false)) &&
   ((List.range m).all fun i => i == f || (List.range (m + 1)).any fun j => (decide (i < j) && !(j == f)) && waits ops j i)) &&
   (((List.range ops.size).all fun k => decide (k < m) || (match ops[k]? with | some o => o.after.all (fun e => !Region.binds .any e || decide (e.on < k)) && (k == m || waits ops k (k - 1)) | none => false)) &&
    waits ops (m + 1) f))
section
variable {P : Program} {m f : Nat} {ops : Array Oper} {Q : Exit → Act → World → Prop} {specs : Nat → Spec} {a0 : Act} {w0 : World}
theorem fits6_size {n : Nat} (h : fits6 ops m f n = true) : m + 1 < ops.size ∧ f < m := by
  unfold fits6 at h
  simp only [Bool.and_eq_true, decide_eq_true_eq] at h
  exact h.1
theorem fits6_dst {n : Nat} (h : fits6 ops m f n = true) {i : Nat} {o : Oper} (hm : i < m) (hi : ops[i]? = some o) : ∃ d, o.dst = some d ∧ d < n ∧ (∀ j, j < m → j ≠ i → dstOf ops j ≠ some d) ∧ ∀ e ∈ o.after, Region.binds .any e = true → e.on < i := by
  unfold fits6 at h
  simp only [Bool.and_eq_true] at h
  have h0 := h.2.1.1
  rw [List.all_eq_true] at h0
  have h1 := h0 i (List.mem_range.2 hm)
  simp only [Bool.and_eq_true, hi] at h1
  obtain ⟨h2, h3⟩ := h1
  have hd : dstOf ops i = o.dst := by simp [dstOf, hi]
  rw [hd] at h2
  cases hod : o.dst with
  | none => rw [hod] at h2; cases h2
  | some d =>
    rw [hod] at h2
    simp only [Bool.and_eq_true, decide_eq_true_eq, List.all_eq_true, List.mem_range] at h2
    refine ⟨d, rfl, h2.1, fun j hj hne => ?_, fun e he hb => ?_⟩
    · have := h2.2 j hj
      simp only [Bool.or_eq_true, beq_iff_eq, bne_iff_ne, ne_eq] at this
      rcases this with h | h
      · exact absurd h hne
      · exact h
    · rw [Array.all_eq_true_iff_forall_mem] at h3
      have h4 := h3 e he
      simpa [hb] using h4
theorem fits6_waits {n : Nat} (h : fits6 ops m f n = true) {i : Nat} (hi : i < m) (hif : i ≠ f) : ∃ j o e, i < j ∧ j ≤ m ∧ j ≠ f ∧ ops[j]? = some o ∧ e ∈ o.after ∧ Region.binds .any e = true ∧ e.on = i := by
  unfold fits6 at h
  simp only [Bool.and_eq_true] at h
  have h0 := h.2.1.2
  rw [List.all_eq_true] at h0
  have h1 := h0 i (List.mem_range.2 hi)
  rw [Bool.or_eq_true, beq_iff_eq] at h1
  have h1 := h1.resolve_left hif
  rw [List.any_eq_true] at h1
  obtain ⟨j, hj, h2⟩ := h1
  simp only [Bool.and_eq_true, decide_eq_true_eq, Bool.not_eq_true', beq_eq_false_iff_ne, ne_eq] at h2
  obtain ⟨⟨h3, h5⟩, h4⟩ := h2
  have hjm := List.mem_range.1 hj
  obtain ⟨o, e, h6⟩ := waits_get h4
  exact ⟨j, o, e, h3, by omega, h5, h6⟩
theorem fits6_late {n : Nat} (h : fits6 ops m f n = true) {k : Nat} {o : Oper} (hk : m ≤ k) (ho : ops[k]? = some o) : (∀ e ∈ o.after, Region.binds .any e = true → e.on < k) ∧ (m < k → ∃ e ∈ o.after, Region.binds .any e = true ∧ e.on = k - 1) := by
  unfold fits6 at h
  simp only [Bool.and_eq_true] at h
  have h0 := h.2.2.1
  rw [List.all_eq_true] at h0
  have h1 := h0 k (List.mem_range.2 (Array.getElem?_eq_some_iff.1 ho).1)
  rw [ho] at h1
  simp only [Bool.or_eq_true, decide_eq_true_eq, Bool.and_eq_true, beq_iff_eq, Array.all_eq_true_iff_forall_mem] at h1
  rcases h1 with h1 | ⟨h1, h2⟩
  · omega
  · refine ⟨fun e he hb => by rcases h1 e he with h | h; (simp [hb] at h); exact h, fun hmk => ?_⟩
    rcases h2 with h2 | h2
    · omega
    · obtain ⟨o', e, h3, h4, h5, h6⟩ := waits_get h2
      obtain rfl := Option.some.inj (ho.symm.trans h3)
      exact ⟨e, h4, h5, h6⟩
theorem fits6_float {n : Nat} (h : fits6 ops m f n = true) : ∃ o e, ops[m + 1]? = some o ∧ e ∈ o.after ∧ Region.binds .any e = true ∧ e.on = f := by
  unfold fits6 at h
  simp only [Bool.and_eq_true] at h
  exact waits_get h.2.2.2
theorem Inv2.step6 {listed : Array Bool} {a : Act} {w : World} (hf : fits6 ops m f a0.tmps.size = true) (h : Inv2 m ops specs a0 w0 listed a w) {i : Nat} {o : Oper} (him : i < m) (hi : ops[i]? = some o) {v : Value} {w' : World}
    (hv : (specs i).meets v w') (hb : Below w.heap.size w w') : Inv2 m ops specs a0 w0 (listed.setIfInBounds i true) (a.put o.dst v) w' := by
  obtain ⟨d, hd, hdn, hne, -⟩ := fits6_dst hf him hi
  have hlt : i < ops.size := (Array.getElem?_eq_some_iff.1 hi).1
  have hdi : dstOf ops i = some d := by simp [dstOf, hi, hd]
  rw [hd]
  refine ⟨by simp [h.lsize], h.below.trans (hb.mono h.below.size), by simp [Act.put, h.tsize], ?_, ?_, by simp [Act.put, h.defers], ?_⟩
  · intro j e hjm hj hl
    by_cases hji : j = i
    · subst hji
      obtain rfl : d = e := Option.some.inj (hdi.symm.trans hj)
      rw [eval_put_eq (by rw [h.tsize]; exact hdn)]
      exact hv
    · have hde : d ≠ e := fun hh => hne j hjm hji (hh ▸ hj)
      rw [eval_put_ne hde]
      refine ((specs j).keeps (h.known j e hjm hj ?_) hb)
      simpa [Array.getElem?_setIfInBounds_ne (Ne.symm hji)] using hl
  · intro t ht
    have : d ≠ t := by
      intro hh
      subst hh
      unfold free2 at ht
      rw [List.all_eq_true] at ht
      have := ht i (List.mem_range.2 him)
      rw [hdi] at this
      simp at this
    rw [eval_put_ne this]
    exact h.rest t ht
  · simpa [Array.getElem?_setIfInBounds_ne (show i ≠ m by omega)] using h.last
theorem wpAny_seq6 (hlate : ∀ k o, m ≤ k → ops[k]? = some o → (∀ e ∈ o.after, Region.binds .any e = true → e.on < k) ∧ (m < k → ∃ e ∈ o.after, Region.binds .any e = true ∧ e.on = k - 1)) : ∀ (l : List Oper) (k : Nat), m ≤ k → ops.toList.drop k = l → ∀ (fuel : Nat) (listed : Array Bool) (a : Act) (w : World), listed.size = ops.size → (∀ j, j < k → j < ops.size → listed.getD j false = true) → (∀ j, k ≤ j → j < ops.size → listed.getD j false = false) → listed.toList.count false ≤ fuel → wpSeq P ops Q l a w → wpAny P .any ops Q fuel listed a w
  | [], k, hk, hd, fuel, listed, a, w, hs, h1, _, _, hq => by
    have hks : ops.size ≤ k := by have := List.drop_eq_nil_iff.1 hd; simpa using this
    exact wpAny_all (fun i hi => h1 i (by omega) hi) hs hq fuel
  | o :: r, k, hk, hd, fuel, listed, a, w, hs, h1, h2, hc, hq => by
    have hks : k < ops.size := by
      have := congrArg List.length hd
      simp at this
      omega
    have ho : ops[k]? = some o := by
      have := congrArg (fun l => l[0]?) hd
      simpa [List.getElem?_drop] using this
    have hr : ops.toList.drop (k + 1) = r := by
      have := congrArg (List.drop 1) hd
      simpa [List.drop_drop] using this
    have hlk := h2 k (Nat.le_refl _) hks
    obtain ⟨fuel, rfl⟩ : ∃ f, fuel = f + 1 := ⟨fuel - 1, by have := count_pos (by omega) hlk; omega⟩
    have hl := hlate k o hk ho
    refine ⟨fun hr => ?_, fun i hi => ?_⟩
    · exfalso
      have hm : k ∈ Region.ready .any ops listed := by
        refine mem_ready.2 ⟨?_, o, ho, fun e he hb => h1 e.on (hl.1 e he hb) (by have := hl.1 e he hb; omega)⟩
        have hs' : k < listed.size := by omega
        simpa [Array.getElem?_eq_getElem hs'] using hlk
      rw [hr] at hm; cases hm
    · obtain ⟨h0, o', ho', hall⟩ := mem_ready.1 hi
      have hio := (Array.getElem?_eq_some_iff.1 ho').1
      have hsi : i < listed.size := by omega
      have hik : k ≤ i := by
        apply Decidable.byContradiction
        intro hn
        have := h1 i (by omega) hio
        simp [Array.getElem?_eq_getElem hsi] at h0 this
        rw [h0] at this; cases this
      have him : i = k := by
        apply Decidable.byContradiction
        intro hn
        obtain ⟨e, he, hb, hon⟩ := (hlate i o' (by omega) ho').2 (by omega)
        have h3 := hall e he hb
        rw [hon] at h3
        have h4 := h2 (i - 1) (by omega) (by omega)
        rw [h4] at h3; cases h3
      subst him
      obtain rfl := Option.some.inj (ho.symm.trans ho')
      have hl0 : listed[i] = false := by simpa [Array.getElem?_eq_getElem hsi] using h0
      have hcount := count_listed hsi hl0 hc
      obtain ⟨hw, hwp⟩ := hq
      unfold wpOp
      simp only [ho, hw, if_true]
      refine Or.inl (Oper.wp_mono ?_ hwp)
      intro a' w' hq'
      refine wpAny_seq6 hlate r (i + 1) (by omega) hr fuel _ a' w' (by simp [hs]) (fun j hj hjs => ?_) (fun j hj hjs => ?_) hcount hq'
      · by_cases hji : j = i
        · subst hji
          simp [Array.getElem?_setIfInBounds_self_of_lt hsi]
        · have := h1 j (by omega) hjs
          simpa [Array.getElem?_setIfInBounds_ne (Ne.symm hji)] using this
      · have := h2 j (by omega) hjs
        simpa [Array.getElem?_setIfInBounds_ne (show i ≠ j by omega)] using this
/-- What operation f reads and what it makes, whatever else there is. -/
def Floats (ops : Array Oper) (specs : Nat → Spec) (o : Oper) (s : Nat) : Prop :=
  ∀ (a : Act) (w : World), (∀ j d, deps .any ops o j d = true → (specs j).meets (a.eval (.tmp d)) w) → ∃ v, ∀ (b : Act) (w2 : World), b.eval (.tmp s) = a.eval (.tmp s) → (execOp b.eval o).run Tryd.prog w2 = .ok (.value v) w2
theorem wpAny_late {of om : Oper} {s d : Nat} (hf : fits6 ops m f a0.tmps.size = true) (hof : ops[f]? = some of) (hofg : of.guard = none) (hofd : of.dst = some d) (hfl : Floats ops specs of s)
    (hom : ops[m]? = some om) (homg : om.guard = none) (homd : om.dst = none) (hsame : ∀ (b : Act) (v : Value), (execOp (b.put (some d) v).eval om) = execOp b.eval om)
    (hops : Hops2 Tryd.prog m ops specs Q a0 w0 0 (ops.toList.take m))
    (hend : ∀ a w, Below w0.heap.size w0 w → a.tmps.size = a0.tmps.size → (∀ i d, i < m → dstOf ops i = some d → (specs i).meets (a.eval (.tmp d)) w) → a.defers = a0.defers → (∀ t, free2 ops m t = true → a.eval (.tmp t) = a0.eval (.tmp t)) → ∃ w', (execOp a.eval om).run Tryd.prog w = .ok .skip w' ∧ wpSeq Tryd.prog ops Q (ops.toList.drop (m + 1)) a w') :
    ∀ (fuel : Nat) (listed : Array Bool) (a : Act) (w : World), listed.toList.count false ≤ fuel → Inv2 m ops specs a0 w0 listed a w → Closed ops m listed → Ahead ops m listed → wpAny Tryd.prog .any ops Q fuel listed a w := by
  obtain ⟨hsz, hfm⟩ := fits6_size hf
  have homw : ∀ a : Act, Region.wanted om (yielded ops a.tmps) = true := fun a => by simp [Region.wanted, homg]
  have hofw : ∀ a : Act, Region.wanted of (yielded ops a.tmps) = true := fun a => by simp [Region.wanted, hofg]
  have hdrop : ops.toList.drop m = om :: ops.toList.drop (m + 1) := by
    rw [List.drop_eq_getElem_cons (show m < ops.toList.length by simp; omega)]
    congr 1
    have := (Array.getElem?_eq_some_iff.1 hom).2
    simpa using this
  have hend2 : ∀ a w, Below w0.heap.size w0 w → a.tmps.size = a0.tmps.size → (∀ i d, i < m → dstOf ops i = some d → (specs i).meets (a.eval (.tmp d)) w) → a.defers = a0.defers → (∀ t, free2 ops m t = true → a.eval (.tmp t) = a0.eval (.tmp t)) → wpSeq Tryd.prog ops Q (ops.toList.drop m) a w := by
    intro a w h1 h2 h3 h4 h5
    obtain ⟨w', h6, h7⟩ := hend a w h1 h2 h3 h4 h5
    rw [hdrop]
    refine ⟨homw a, ?_⟩
    unfold Oper.wp
    rw [h6]
    show wpSeq Tryd.prog ops Q _ (a.put om.dst undef) w'
    rw [homd]
    exact h7
  have hlate : ∀ k o, m ≤ k → ops[k]? = some o → (∀ e ∈ o.after, Region.binds .any e = true → e.on < k) ∧ (m < k → ∃ e ∈ o.after, Region.binds .any e = true ∧ e.on = k - 1) := fun k o hk ho => fits6_late hf hk ho
  intro fuel
  induction fuel with
  | zero =>
    intro listed a w hc h hcl hah
    exfalso
    have := count_pos (by rw [h.lsize]; omega) (hah m (Nat.le_refl _) (by omega))
    omega
  | succ fuel ih =>
    intro listed a w hc h hcl hah
    by_cases hdone : ∀ j, j < m → listed.getD j false = true
    · exact wpAny_seq6 hlate _ m (Nat.le_refl _) rfl _ listed a w h.lsize (fun j hj _ => hdone j hj) hah hc (hend2 a w h.below h.tsize (fun j d hj hd => h.known j d hj hd (hdone j hj)) h.defers h.rest)
    · have hl2 : ∀ i, m ≤ i → (∀ o, ops[i]? = some o → ∀ e ∈ o.after, Region.binds .any e = true → listed.getD e.on false = true) → i < ops.size → i = m ∧ ∀ j, j < m → j ≠ f → listed.getD j false = true := by
        intro i hmi hall hlt
        obtain ⟨o, ho⟩ : ∃ o, ops[i]? = some o := ⟨_, Array.getElem?_eq_getElem hlt⟩
        by_cases him : i = m
        · subst him
          refine ⟨rfl, ?_⟩
          have hl3 : ∀ n j, i - j ≤ n → j < i → j ≠ f → listed.getD j false = true := by
            intro n
            induction n with
            | zero => intro j h1 h2; omega
            | succ n ihn =>
              intro j h1 h2 hjf
              obtain ⟨k, ok, e, hjk, hki, hkf, hok, he, hb, hon⟩ := fits6_waits hf h2 hjf
              rw [← hon]
              rcases Nat.lt_or_ge k i with hlt | hge
              · exact hcl k ok e hlt hok (ihn k (by omega) hlt hkf) he hb
              · obtain rfl : k = i := by omega
                exact hall ok hok e he hb
          exact fun j hj hjf => hl3 (i - j) j (Nat.le_refl _) hj hjf
        · exfalso
          obtain ⟨e, he, hb, hon⟩ := (hlate i o hmi ho).2 (by omega)
          have h3 := hall o ho e he hb
          rw [hon, hah (i - 1) (by omega) (by omega)] at h3
          cases h3
      have hdeps : ∀ i o, i < m → ops[i]? = some o → (∀ e ∈ o.after, Region.binds .any e = true → listed.getD e.on false = true) → ∀ j d, deps .any ops o j d = true → (specs j).meets (a.eval (.tmp d)) w := by
        intro i o him ho hall j d hd
        unfold deps at hd
        simp only [Bool.and_eq_true, beq_iff_eq] at hd
        obtain ⟨hd1, hd2⟩ := hd
        rw [Array.any_eq_true'] at hd1
        obtain ⟨e, he, heb⟩ := hd1
        simp only [Bool.and_eq_true, beq_iff_eq] at heb
        obtain ⟨hb, rfl⟩ := heb
        obtain ⟨_, _, _, _, haf⟩ := fits6_dst hf him ho
        exact h.known _ d (by have := haf e he hb; omega) hd2 (hall e he hb)
      refine ⟨fun hr => ?_, fun i hi => ?_⟩
      · exfalso
        have hall : ∀ n i, i < n → i < m → listed.getD i false = true := by
          intro n
          induction n with
          | zero => intro i hi; omega
          | succ n ihn =>
            intro i hi hlt
            by_cases hin : i < n
            · exact ihn i hin hlt
            · obtain ⟨o, ho⟩ : ∃ o, ops[i]? = some o := ⟨_, Array.getElem?_eq_getElem (by omega)⟩
              obtain ⟨_, _, _, _, haf⟩ := fits6_dst hf hlt ho
              cases hl : listed.getD i false with
              | true => rfl
              | false =>
                have hm : i ∈ Region.ready .any ops listed := by
                  refine mem_ready.2 ⟨?_, o, ho, fun e he hb => ihn e.on (by have := haf e he hb; omega) (by have := haf e he hb; omega)⟩
                  have hs : i < listed.size := by rw [h.lsize]; omega
                  simpa [Array.getElem?_eq_getElem hs] using hl
                rw [hr] at hm; cases hm
        exact hdone fun j hj => hall (j + 1) j (Nat.lt_succ_self _) hj
      · obtain ⟨h0, o, ho, hall⟩ := mem_ready.1 hi
        have hio := (Array.getElem?_eq_some_iff.1 ho).1
        have hs : i < listed.size := by rw [h.lsize]; exact hio
        have hl0 : listed[i] = false := by simpa [Array.getElem?_eq_getElem hs] using h0
        have hcount := count_listed hs hl0 hc
        by_cases him : i < m
        · have hah2 : Ahead ops m (listed.setIfInBounds i true) := fun j hj hjs => by
            have := hah j hj hjs
            simpa [Array.getElem?_setIfInBounds_ne (show i ≠ j by omega)] using this
          have hhop := hops.get i o (by rw [List.getElem?_take_of_lt him]; simpa using ho)
          rw [Nat.zero_add] at hhop
          rcases hhop a w h.below h.tsize (hdeps i o him ho hall) h.rest with ⟨hw, hwp⟩ | ⟨hw, hm⟩
          · unfold wpOp
            simp only [ho, hw, if_true]
            refine Or.inl (Oper.wp_mono ?_ hwp)
            rintro a' w' ⟨v, rfl, hv, hb⟩
            exact ih _ _ _ hcount (h.step6 hf him ho hv hb) (hcl.step ho hall) hah2
          · unfold wpOp
            simp only [ho, hw, Bool.false_eq_true, if_false]
            exact ih _ _ _ hcount (h.step6 hf him ho hm (Below.refl _ _)) (hcl.step ho hall) hah2
        · -- the store comes ahead of f
          obtain ⟨rfl, hrest⟩ := hl2 i (by omega) (fun o' ho' => by obtain rfl := Option.some.inj (ho.symm.trans ho'); exact hall) hio
          obtain rfl := Option.some.inj (ho.symm.trans hom)
          have hfl2 : listed.getD f false = false := by
            cases hl : listed.getD f false with
            | false => rfl
            | true => exact absurd (fun j hj => if hjf : j = f then hjf ▸ hl else hrest j hj hjf) hdone
          obtain ⟨d2, hd2, hdn, hdne, haf⟩ := fits6_dst hf hfm hof
          obtain rfl : d = d2 := Option.some.inj (hofd.symm.trans hd2)
          have hfall : ∀ e ∈ of.after, Region.binds .any e = true → listed.getD e.on false = true := fun e he hb => hrest e.on (by have := haf e he hb; omega) (by have := haf e he hb; omega)
          have hfd := hdeps f of hfm hof hfall
          obtain ⟨v, hv⟩ := hfl a w hfd
          have hhop := hops.get f of (by rw [List.getElem?_take_of_lt hfm]; simpa using hof)
          rw [Nat.zero_add] at hhop
          have hmeets : (specs f).meets v w := by
            rcases hhop a w h.below h.tsize hfd h.rest with ⟨_, hwp⟩ | ⟨hw, _⟩
            · unfold Oper.wp at hwp
              rw [hv a w rfl] at hwp
              obtain ⟨v', e, hm, _⟩ := (hwp : ∃ v', a.put of.dst v = a.put of.dst v' ∧ (specs f).meets v' w ∧ Below w.heap.size w w)
              rw [hofd] at e
              have e2 := congrArg (fun b : Act => b.eval (.tmp d)) e
              change (a.put (some d) v).eval (.tmp d) = (a.put (some d) v').eval (.tmp d) at e2
              rw [eval_put_eq (by rw [h.tsize]; exact hdn), eval_put_eq (by rw [h.tsize]; exact hdn)] at e2
              rw [e2]; exact hm
            · rw [hofw a] at hw; cases hw
          have hI := h.step6 hf hfm hof hmeets (Below.refl _ _)
          rw [hofd] at hI
          obtain ⟨w', h6, h7⟩ := hend (a.put (some d) v) w hI.below hI.tsize (fun j e hj he => hI.known j e hj he (by
            by_cases hjf : j = f
            · subst hjf
              simp [Array.getElem?_setIfInBounds_self_of_lt (show j < listed.size by rw [h.lsize]; omega)]
            · have := hrest j hj hjf
              simpa [Array.getElem?_setIfInBounds_ne (Ne.symm hjf)] using this)) hI.defers hI.rest
          rw [hsame] at h6
          unfold wpOp
          simp only [ho, homw a, if_true]
          refine Or.inl ?_
          unfold Oper.wp
          rw [h6]
          show wpAny Tryd.prog .any ops Q fuel (listed.setIfInBounds i true) (a.put o.dst undef) w'
          rw [homd]
          show wpAny Tryd.prog .any ops Q fuel (listed.setIfInBounds i true) a w'
          -- now f alone is ready
          have hfi : f ≠ i := by omega
          have hs2 : f < (listed.setIfInBounds i true).size := by simp; rw [h.lsize]; omega
          have hflf : (listed.setIfInBounds i true).getD f false = false := by simpa [Array.getElem?_setIfInBounds_ne (Ne.symm hfi)] using hfl2
          obtain ⟨fuel, rfl⟩ : ∃ g, fuel = g + 1 := ⟨fuel - 1, by have := count_pos hs2 hflf; omega⟩
          have hon : ∀ j, j < i → j ≠ f → (listed.setIfInBounds i true).getD j false = true := fun j hj hjf => by
            have := hrest j hj hjf
            simpa [Array.getElem?_setIfInBounds_ne (show i ≠ j by omega)] using this
          refine ⟨fun hr => ?_, fun k hk => ?_⟩
          · exfalso
            have hm : f ∈ Region.ready .any ops (listed.setIfInBounds i true) := by
              refine mem_ready.2 ⟨?_, of, hof, fun e he hb => hon e.on (by have := haf e he hb; omega) (by have := haf e he hb; omega)⟩
              simpa [Array.getElem?_eq_getElem hs2] using hflf
            rw [hr] at hm; cases hm
          · obtain ⟨k0, ok, hok, hkall⟩ := mem_ready.1 hk
            have hkio := (Array.getElem?_eq_some_iff.1 hok).1
            have hks : k < (listed.setIfInBounds i true).size := by simp; rw [h.lsize]; exact hkio
            have hk0 : (listed.setIfInBounds i true)[k] = false := by simpa [Array.getElem?_eq_getElem hks] using k0
            have hk1 : (listed.setIfInBounds i true).getD k false = false := by simpa [Array.getElem?_eq_getElem hks] using hk0
            have hkf : k = f := by
              apply Decidable.byContradiction
              intro hn
              rcases Nat.lt_or_ge k i with hlt | hge
              · rw [hon k hlt hn] at hk1; cases hk1
              rcases Nat.eq_or_lt_of_le hge with rfl | hgt
              · simp [Array.getElem?_setIfInBounds_self_of_lt hs] at hk1
              by_cases hk2 : k = i + 1
              · subst hk2
                obtain ⟨o1, e, h1, he, hb, hone⟩ := fits6_float hf
                obtain rfl := Option.some.inj (hok.symm.trans h1)
                have := hkall e he hb
                rw [hone, hflf] at this; cases this
              · obtain ⟨e, he, hb, hone⟩ := (hlate k ok (by omega) hok).2 (by omega)
                have := hkall e he hb
                rw [hone] at this
                have h8 := hah (k - 1) (by omega) (by omega)
                have h9 : (listed.setIfInBounds i true).getD (k - 1) false = false := by simpa [Array.getElem?_setIfInBounds_ne (show i ≠ k - 1 by omega)] using h8
                rw [h9] at this; cases this
            subst hkf
            obtain rfl := Option.some.inj (hok.symm.trans hof)
            unfold wpOp
            simp only [hok, hofw a, if_true]
            refine Or.inl ?_
            unfold Oper.wp
            rw [hv a w' rfl]
            show wpAny Tryd.prog .any ops Q fuel ((listed.setIfInBounds i true).setIfInBounds k true) (a.put ok.dst v) w'
            rw [hofd]
            refine wpAny_seq6 (m := i) hlate _ (i + 1) (by omega) rfl fuel _ _ w' (by simp [h.lsize]) (fun j hj hjs => ?_) (fun j hj hjs => ?_) (count_listed hs2 hk0 hcount) h7
            · by_cases hjk : j = k
              · subst hjk
                simp [Array.getElem?_setIfInBounds_self_of_lt hs2]
              · rcases Nat.lt_or_ge j i with hlt | hge
                · have := hon j hlt hjk
                  simpa [Array.getElem?_setIfInBounds_ne (Ne.symm hjk)] using this
                · obtain rfl : j = i := by omega
                  have : (listed.setIfInBounds j true).getD j false = true := by simp [Array.getElem?_setIfInBounds_self_of_lt hs]
                  simpa [Array.getElem?_setIfInBounds_ne (Ne.symm hjk)] using this
            · have h8 := hah j (by omega) hjs
              have h9 : (listed.setIfInBounds i true).getD j false = false := by simpa [Array.getElem?_setIfInBounds_ne (show i ≠ j by omega)] using h8
              simpa [Array.getElem?_setIfInBounds_ne (show k ≠ j by omega)] using h9
theorem region_late {id : Nat} (hm : Tryd.prog.follows .mixedOrders = true) (m f : Nat) {of om : Oper} {s d : Nat} (specs : Nat → Spec) (hf : fits6 ops m f a0.tmps.size = true) (hof : ops[f]? = some of) (hofg : of.guard = none) (hofd : of.dst = some d) (hfl : Floats ops specs of s)
    (hom : ops[m]? = some om) (homg : om.guard = none) (homd : om.dst = none) (hsame : ∀ (b : Act) (v : Value), (execOp (b.put (some d) v).eval om) = execOp b.eval om)
    (hops : Hops2 Tryd.prog m ops specs Q a0 w0 0 (ops.toList.take m))
    (hend : ∀ a w, Below w0.heap.size w0 w → a.tmps.size = a0.tmps.size → (∀ i d, i < m → dstOf ops i = some d → (specs i).meets (a.eval (.tmp d)) w) → a.defers = a0.defers → (∀ t, free2 ops m t = true → a.eval (.tmp t) = a0.eval (.tmp t)) → ∃ w', (execOp a.eval om).run Tryd.prog w = .ok .skip w' ∧ wpSeq Tryd.prog ops Q (ops.toList.drop (m + 1)) a w') :
    (Code.region id ops true).wp Tryd.prog Q a0 w0 := by
  refine wp_region_any hm (wpAny_late hf hof hofg hofd hfl hom homg homd hsame hops hend _ _ _ _ ?_ ?_ ?_ ?_)
  · simp
  · refine ⟨by simp, ⟨rfl, rfl, rfl, Nat.le_refl _, fun _ _ => rfl⟩, rfl, ?_, fun _ _ => rfl, rfl, ?_⟩
    · intro i d _ _ hl
      simp [Array.getElem?_replicate] at hl
      split at hl <;> simp at hl
    · simp [Array.getElem?_replicate]
      split <;> simp
  · intro j o e _ _ hl _ _
    simp [Array.getElem?_replicate] at hl
    split at hl <;> simp at hl
  · intro j _ _
    simp [Array.getElem?_replicate]
    split <;> simp
/-- A store reads but two slots. -/
theorem store_same {o : Oper} (ty : TypeId) (x y d : Nat) (ho : o.op = .store ty (.tmp x) (.tmp y)) (hx : d ≠ x) (hy : d ≠ y) (b : Act) (v : Value) : (execOp (b.put (some d) v).eval o) = execOp b.eval o := by
  unfold execOp
  rw [ho]
  simp only [eval_put_ne hx, eval_put_ne hy]
/-- A tuple's part. -/
theorem floats_extract {o : Oper} {s j : Nat} (k : Nat) (ho : o.op = .extract (.tmp s) k) (hj : deps .any ops o j s = true) (ht : ∀ u w, (specs j).meets u w → ∃ vs : Array Value, u = .tuple vs ∧ k < vs.size) : Floats ops specs o s := by
  intro a w hk
  obtain ⟨vs, e, hs⟩ := ht _ w (hk j s hj)
  refine ⟨vs[k], fun b w2 hb => ?_⟩
  unfold execOp
  rw [ho]
  simp only [hb, e]
  have : vs[k]? = some vs[k] := Array.getElem?_eq_getElem hs
  simp [Instr.extract, this]
/-- What a store of a row does. -/
theorem run_store_row {o : Oper} {a : Act} {w : World} (ty : TypeId) (x y : Operand) (ho : o.op = .store ty x y)
    (g : Nat) (cells : Array Value) (hx : a.eval x = .pointer (some ⟨g, 0, none⟩)) (hy : a.eval y = .agg cells)
    (t : TypeId) (old : Array Value) (hg : w.heap[g]? = some (.cells old t (0, 0))) (hi : (Tryd.prog.info? ty).map (·.size) = some cells.size)
    (hold : old.size = cells.size) (h1 : cells.all (·.oneCell') = true) : (execOp a.eval o).run Tryd.prog w = .ok .skip (w.setRow g cells) := by
  unfold execOp
  simp only [ho, hx, hy, Instr.storeAt, Instr.sureAddr, Sem.run_bind, Sem.run_pure, Result.andThen_ok, run_storeVar_row w g t ty old cells hg hi hold h1]
end
end Grow
end Go.Proofs.YtiinmdleechcgaaDoor
namespace Go.Proofs.YtiinmdleechcgaaDoor
open Go.RowKit
theorem Sq.two {w : World} (hd : Dbl w) (P R : Pv) : Sq w [(w.heap.size, P), (w.heap.size + 1, R)] [] ((w.alloc (.cells (pc P) 51)).alloc (.cells (pc R) 51)) := by
  have h3 : Below w.heap.size w ((w.alloc (.cells (pc P) 51)).alloc (.cells (pc R) 51)) := ((Below.refl _ _).alloc (Nat.le_refl _) _).alloc (by simp) _
  refine ⟨fun r hr => ?_, fun r hr => (List.not_mem_nil hr).elim, hd.below h3 hd.1, h3⟩
  simp only [List.mem_cons, List.not_mem_nil, or_false] at hr
  rcases hr with rfl | rfl
  · exact heap_alloc2_old w _ _
  · exact heap_alloc2_new w _ _
theorem Rp.cross {P R : Pv} {A : Ed.Pt} (hP : Rp P A) (hR : Rp R A) : Fe.val (Fe.mul P.X R.Z) % Fe.P = Fe.val (Fe.mul R.X P.Z) % Fe.P ∧ Fe.val (Fe.mul P.Y R.Z) % Fe.P = Fe.val (Fe.mul R.Y P.Z) % Fe.P := by
  have m : ∀ {a b : Fe.E}, Fe.Ok a → Fe.Ok b → Ed.Cg (Fe.val (Fe.mul a b)) (Fe.val a * Fe.val b) := fun ha hb => ((Fe.Re.self ha).mul (Fe.Re.self hb)).cg
  rw [← q_P]
  constructor
  · refine Ed.Cg.mod ((m hP.ok.x hR.ok.z).trans (Ed.Cg.trans ?_ (m hR.ok.x hP.ok.z).symm))
    exact (hP.rep.x.mul (Ed.Cg.refl _)).trans ((Ed.Cg.of_eq (by grind)).trans (hR.rep.x.mul (Ed.Cg.refl _)).symm)
  · refine Ed.Cg.mod ((m hP.ok.y hR.ok.z).trans (Ed.Cg.trans ?_ (m hR.ok.y hP.ok.z).symm))
    exact (hP.rep.y.mul (Ed.Cg.refl _)).trans ((Ed.Cg.of_eq (by grind)).trans (hR.rep.y.mul (Ed.Cg.refl _)).symm)
set_option maxRecDepth 100000 in
set_option maxHeartbeats 2000000 in
theorem psame_any (w : World) (hd : Dbl w) (P R : Pv) (A : Ed.Pt) (hP : Rp P A) (hR : Rp R A) :
    Calls Tryd.prog 25 #[.agg (pc P), .agg (pc R)] w fun e w' => e = .returned (.bool true) ∧ Below w.heap.size w w' := by
  have S0 := Lib.hid (Sq.two hd P R)
  have T1 := Lib.hid (decide_eq_true (hP.cross hR).1)
  have T2 := Lib.hid (decide_eq_true (hP.cross hR).2)
  have HP := Lib.hid hP.ok
  have HR := Lib.hid hR.ok
  clear hd hP hR
  go_enter Tryd.func25, Tryd.ntmps25
  go_upto_region 1 with fail
  change Code.wp _ _ _ _ ((w.alloc (.cells (pc P) 51)).alloc (.cells (pc R) 51))
  generalize (w.alloc (.cells (pc P) 51)).alloc (.cells (pc R) 51) = w0 at *
  refine Grow.region_rest (by kernel_rfl) 24 (fun i => List.getD (Grow.Spec.is (.pointer (some ⟨w.heap.size, 5 * 0, none⟩)) :: Grow.Spec.is (.agg (ec P.X)) :: Grow.Spec.is (.pointer (some ⟨(w.heap.size + 1), 5 * 2, none⟩)) :: Grow.Spec.is (.agg (ec R.Z)) :: Grow.Spec.is (.agg (ec (Fe.mul P.X R.Z))) :: Grow.Spec.is (.pointer (some ⟨(w.heap.size + 1), 5 * 0, none⟩)) :: Grow.Spec.is (.agg (ec R.X)) :: Grow.Spec.is (.pointer (some ⟨w.heap.size, 5 * 2, none⟩)) :: Grow.Spec.is (.agg (ec P.Z)) :: Grow.Spec.is (.agg (ec (Fe.mul R.X P.Z))) :: Grow.Spec.is (.bool true) :: Grow.Spec.is (.bool true) :: Grow.Spec.is (.pointer (some ⟨w.heap.size, 5 * 1, none⟩)) :: Grow.Spec.is (.agg (ec P.Y)) :: Grow.Spec.is (.pointer (some ⟨(w.heap.size + 1), 5 * 2, none⟩)) :: Grow.Spec.is (.agg (ec R.Z)) :: Grow.Spec.is (.agg (ec (Fe.mul P.Y R.Z))) :: Grow.Spec.is (.pointer (some ⟨(w.heap.size + 1), 5 * 1, none⟩)) :: Grow.Spec.is (.agg (ec R.Y)) :: Grow.Spec.is (.pointer (some ⟨w.heap.size, 5 * 2, none⟩)) :: Grow.Spec.is (.agg (ec P.Z)) :: Grow.Spec.is (.agg (ec (Fe.mul R.Y P.Z))) :: Grow.Spec.is (.bool true) :: Grow.Spec.is (.bool true) :: []) i (Grow.Spec.is undef)) (by kernel_rfl) ⟨
    Grow.h2_faddr (Or.inl rfl) 2 w.heap.size 0 (by decide) rfl (by kernel_rfl) rfl rfl,
    Grow.h2_part (Or.inl rfl) 0 5 w.heap.size 0 P (by decide) rfl (by kernel_rfl) rfl (S0.out.pts (w.heap.size, P) (by simp)) rfl,
    Grow.h2_faddr (Or.inl rfl) 3 (w.heap.size + 1) 2 (by decide) rfl (by kernel_rfl) rfl rfl,
    Grow.h2_part (Or.inl rfl) 2 7 (w.heap.size + 1) 2 R (by decide) rfl (by kernel_rfl) rfl (S0.out.pts (w.heap.size + 1, R) (by simp)) rfl,
    Grow.h2_call2 (Or.inl rfl) 50 Grow.enter50 _ _ _ rfl (fun a wx hk => by have e1 : a.eval (.tmp 6) = .agg (ec P.X) := (hk.deps 1 6 (by kernel_rfl)); have e2 : a.eval (.tmp 8) = .agg (ec R.Z) := (hk.deps 3 8 (by kernel_rfl)); rw [e1, e2]; refine (mul_any wx P.X R.Z HP.out.x HR.out.z).mono ?_; rintro e w5 ⟨rfl, hb⟩; exact ⟨_, rfl, rfl, hb⟩),
    Grow.h2_faddr (Or.inl rfl) 3 (w.heap.size + 1) 0 (by decide) rfl (by kernel_rfl) rfl rfl,
    Grow.h2_part (Or.inl rfl) 5 10 (w.heap.size + 1) 0 R (by decide) rfl (by kernel_rfl) rfl (S0.out.pts (w.heap.size + 1, R) (by simp)) rfl,
    Grow.h2_faddr (Or.inl rfl) 2 w.heap.size 2 (by decide) rfl (by kernel_rfl) rfl rfl,
    Grow.h2_part (Or.inl rfl) 7 12 w.heap.size 2 P (by decide) rfl (by kernel_rfl) rfl (S0.out.pts (w.heap.size, P) (by simp)) rfl,
    Grow.h2_call2 (Or.inl rfl) 50 Grow.enter50 _ _ _ rfl (fun a wx hk => by have e1 : a.eval (.tmp 11) = .agg (ec R.X) := (hk.deps 6 11 (by kernel_rfl)); have e2 : a.eval (.tmp 13) = .agg (ec P.Z) := (hk.deps 8 13 (by kernel_rfl)); rw [e1, e2]; refine (mul_any wx R.X P.Z HR.out.x HP.out.z).mono ?_; rintro e w5 ⟨rfl, hb⟩; exact ⟨_, rfl, rfl, hb⟩),
    Grow.h2_call2 (Or.inl rfl) 49 Grow.enter49 _ _ _ rfl (fun a wx hk => by have e1 : a.eval (.tmp 9) = .agg (ec (Fe.mul P.X R.Z)) := (hk.deps 4 9 (by kernel_rfl)); have e2 : a.eval (.tmp 14) = .agg (ec (Fe.mul R.X P.Z)) := (hk.deps 9 14 (by kernel_rfl)); rw [e1, e2]; refine (same_any wx (Fe.mul P.X R.Z) (Fe.mul R.X P.Z) (Fe.mul_ok HP.out.x HR.out.z) (Fe.mul_ok HR.out.x HP.out.z)).mono ?_; rintro e w5 ⟨rfl, hb⟩; rw [T1.out]; exact ⟨_, rfl, rfl, hb⟩),
    Grow.h2_move (Or.inl rfl) (.tmp 15) (Or.inl rfl) (fun a wx hk => hk.deps 10 15 (by kernel_rfl)),
    Grow.h2_faddr (Or.inr ⟨11, 16, true, rfl, by kernel_rfl, rfl, Nat.le_of_ble_eq_true rfl⟩) 2 w.heap.size 1 (by decide) rfl (by kernel_rfl) rfl rfl,
    Grow.h2_part (Or.inr ⟨11, 16, true, rfl, by kernel_rfl, rfl, Nat.le_of_ble_eq_true rfl⟩) 12 17 w.heap.size 1 P (by decide) rfl (by kernel_rfl) rfl (S0.out.pts (w.heap.size, P) (by simp)) rfl,
    Grow.h2_faddr (Or.inr ⟨11, 16, true, rfl, by kernel_rfl, rfl, Nat.le_of_ble_eq_true rfl⟩) 3 (w.heap.size + 1) 2 (by decide) rfl (by kernel_rfl) rfl rfl,
    Grow.h2_part (Or.inr ⟨11, 16, true, rfl, by kernel_rfl, rfl, Nat.le_of_ble_eq_true rfl⟩) 14 19 (w.heap.size + 1) 2 R (by decide) rfl (by kernel_rfl) rfl (S0.out.pts (w.heap.size + 1, R) (by simp)) rfl,
    Grow.h2_call2 (Or.inr ⟨11, 16, true, rfl, by kernel_rfl, rfl, Nat.le_of_ble_eq_true rfl⟩) 50 Grow.enter50 _ _ _ rfl (fun a wx hk => by have e1 : a.eval (.tmp 18) = .agg (ec P.Y) := (hk.deps 13 18 (by kernel_rfl)); have e2 : a.eval (.tmp 20) = .agg (ec R.Z) := (hk.deps 15 20 (by kernel_rfl)); rw [e1, e2]; refine (mul_any wx P.Y R.Z HP.out.y HR.out.z).mono ?_; rintro e w5 ⟨rfl, hb⟩; exact ⟨_, rfl, rfl, hb⟩),
    Grow.h2_faddr (Or.inr ⟨11, 16, true, rfl, by kernel_rfl, rfl, Nat.le_of_ble_eq_true rfl⟩) 3 (w.heap.size + 1) 1 (by decide) rfl (by kernel_rfl) rfl rfl,
    Grow.h2_part (Or.inr ⟨11, 16, true, rfl, by kernel_rfl, rfl, Nat.le_of_ble_eq_true rfl⟩) 17 22 (w.heap.size + 1) 1 R (by decide) rfl (by kernel_rfl) rfl (S0.out.pts (w.heap.size + 1, R) (by simp)) rfl,
    Grow.h2_faddr (Or.inr ⟨11, 16, true, rfl, by kernel_rfl, rfl, Nat.le_of_ble_eq_true rfl⟩) 2 w.heap.size 2 (by decide) rfl (by kernel_rfl) rfl rfl,
    Grow.h2_part (Or.inr ⟨11, 16, true, rfl, by kernel_rfl, rfl, Nat.le_of_ble_eq_true rfl⟩) 19 24 w.heap.size 2 P (by decide) rfl (by kernel_rfl) rfl (S0.out.pts (w.heap.size, P) (by simp)) rfl,
    Grow.h2_call2 (Or.inr ⟨11, 16, true, rfl, by kernel_rfl, rfl, Nat.le_of_ble_eq_true rfl⟩) 50 Grow.enter50 _ _ _ rfl (fun a wx hk => by have e1 : a.eval (.tmp 23) = .agg (ec R.Y) := (hk.deps 18 23 (by kernel_rfl)); have e2 : a.eval (.tmp 25) = .agg (ec P.Z) := (hk.deps 20 25 (by kernel_rfl)); rw [e1, e2]; refine (mul_any wx R.Y P.Z HR.out.y HP.out.z).mono ?_; rintro e w5 ⟨rfl, hb⟩; exact ⟨_, rfl, rfl, hb⟩),
    Grow.h2_call2 (Or.inr ⟨11, 16, true, rfl, by kernel_rfl, rfl, Nat.le_of_ble_eq_true rfl⟩) 49 Grow.enter49 _ _ _ rfl (fun a wx hk => by have e1 : a.eval (.tmp 21) = .agg (ec (Fe.mul P.Y R.Z)) := (hk.deps 16 21 (by kernel_rfl)); have e2 : a.eval (.tmp 26) = .agg (ec (Fe.mul R.Y P.Z)) := (hk.deps 21 26 (by kernel_rfl)); rw [e1, e2]; refine (same_any wx (Fe.mul P.Y R.Z) (Fe.mul R.Y P.Z) (Fe.mul_ok HP.out.y HR.out.z) (Fe.mul_ok HR.out.y HP.out.z)).mono ?_; rintro e w5 ⟨rfl, hb⟩; rw [T2.out]; exact ⟨_, rfl, rfl, hb⟩),
    Grow.h2_pick (Or.inl rfl) 11 16 22 27 _ rfl (by kernel_rfl) (by kernel_rfl) rfl rfl,
    trivial⟩ ?_
  intro a w4 hb hts hk hdf hfr
  have e28 : a.eval (.tmp 28) = .bool true := hk 23 28 (by decide) rfl
  have hB : Below w.heap.size w w4 := S0.out.bb.trans (hb.mono S0.out.bb.size)
  refine ⟨rfl, Grow.wp_assign 4 (.tmp 28) rfl rfl ?_⟩
  rw [e28]
  have ha := Grow.act_after hts hdf hfr
  rw [show Grow.dsts _ 24 = [5, 6, 7, 8, 9, 10, 11, 12, 13, 14, 15, 16, 17, 18, 19, 20, 21, 22, 23, 24, 25, 26, 27, 28] from by kernel_rfl] at ha
  simp only [Grow.putAll] at ha
  generalize a.eval (.tmp 5) = u5 at ha
  generalize a.eval (.tmp 6) = u6 at ha
  generalize a.eval (.tmp 7) = u7 at ha
  generalize a.eval (.tmp 8) = u8 at ha
  generalize a.eval (.tmp 9) = u9 at ha
  generalize a.eval (.tmp 10) = u10 at ha
  generalize a.eval (.tmp 11) = u11 at ha
  generalize a.eval (.tmp 12) = u12 at ha
  generalize a.eval (.tmp 13) = u13 at ha
  generalize a.eval (.tmp 14) = u14 at ha
  generalize a.eval (.tmp 15) = u15 at ha
  generalize a.eval (.tmp 16) = u16 at ha
  generalize a.eval (.tmp 17) = u17 at ha
  generalize a.eval (.tmp 18) = u18 at ha
  generalize a.eval (.tmp 19) = u19 at ha
  generalize a.eval (.tmp 20) = u20 at ha
  generalize a.eval (.tmp 21) = u21 at ha
  generalize a.eval (.tmp 22) = u22 at ha
  generalize a.eval (.tmp 23) = u23 at ha
  generalize a.eval (.tmp 24) = u24 at ha
  generalize a.eval (.tmp 25) = u25 at ha
  generalize a.eval (.tmp 26) = u26 at ha
  generalize a.eval (.tmp 27) = u27 at ha
  generalize a.eval (.tmp 28) = u28 at ha
  clear hk hts hdf hfr e28 hb S0
  simp [Act.put] at ha
  subst ha
  unfold Grow.wpSeq
  go_wp2
  go_ret
  exact ⟨rfl, hB⟩
end Go.Proofs.YtiinmdleechcgaaDoor
