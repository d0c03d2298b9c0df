/- Layer 3, part 7 of the proof. -/
import Derived.Test.YtgebangnhgmmoaaDoorG6
import Derived.ArgAppend
/- The statement of products, the walk. -/
namespace Go.Proofs.YtgebangnhgmmoaaDoor
open Go.RowKit
namespace Grow
theorem h2_conv3628 {m : Nat} {ops : Array Oper} {Q : Exit → Act → World → Prop} {specs : Nat → Spec} {a0 : Act} {w0 : World} {i : Nat} {o : Oper} (hr : Runs2 ops specs a0 o) (j d : Nat) (n : Int) (hn : 0 ≤ n ∧ n ≤ 4294967295) (ho : o.op = .convert 36 28 (.tmp d)) (hj : deps .any ops o j d = true) (hs : specs j = .is (.int .u32 n)) (hi : specs i = .is (.int .u64 n)) : Hop2 Tryd.prog m ops specs Q a0 w0 i o :=
  h2_val hr fun a w hk => by
    have h1 := hk.deps j d hj
    rw [hs] at h1
    have h1 : a.eval (.tmp d) = .int .u32 n := h1
    have hu := Tryd.underlying36
    have hu2 := Tryd.underlying28
    obtain ⟨n0, n1⟩ := hn
    refine ⟨.int .u64 n, w, ?_, by rw [hi]; rfl, Below.refl _ _⟩
    unfold execOp
    rw [ho]
    simp only [h1]
    have hw : IntKind.u64.wrap n = n := by rw [IntKind.wrap_u64]; exact Int.emod_eq_of_lt n0 (by omega)
    go_simp
theorem c_is {w : World} {x : Fe.E} {u : Value} {N : Int} (hx : Fe.Ok x) (hu : (nat N).meets u w) (h : Fe.val x % Fe.P = N) : Calls Tryd.prog 12 #[.agg (ec x), u] w fun e w' => ∃ v, e = .returned v ∧ (Spec.is (.bool true)).meets v w' ∧ Below w.heap.size w w' := by
  obtain ⟨l, h1, h2, h3, h4⟩ := hu
  refine (is_any w x hx u l h1 h4).mono ?_
  rintro e w' ⟨rfl, hb⟩
  rw [decide_eq_true (h.trans h2.symm)]
  exact ⟨_, rfl, rfl, hb⟩
theorem c_rmul {w : World} {u v : Value} {N M : Int} (hu : (nat N).meets u w) (hv : (nat M).meets v w) : Calls Tryd.prog 26 #[u, v] w fun e w' => ∃ v, e = .returned v ∧ (nat (N * M % Fe.P)).meets v w' ∧ Below w.heap.size w w' := by
  obtain ⟨l, h1, h2, h3, h4⟩ := hu
  obtain ⟨k, k1, k2, k3, k4⟩ := hv
  refine (rmul_any w u v l k h1 k1 h4 k4).mono ?_
  rintro e w' ⟨v', r, rfl, r1, r2, r3, r4, hb⟩
  exact ⟨_, rfl, ⟨r, r1, by rw [r2, h2, k2], r3, Nat.le_trans r4 (by decide)⟩, hb⟩
theorem c_small {w : World} {n : Int} (h0 : 0 ≤ n) (h1 : n ≤ 4294967295) : Calls Tryd.prog 29 #[.int .u64 n] w fun e w' => ∃ v, e = .returned v ∧ (nat n).meets v w' ∧ Below w.heap.size w w' := by
  refine (small_any w n h0 (by omega)).mono ?_
  rintro e w' ⟨v', r, rfl, r1, r2, r3, r4, hb⟩
  exact ⟨_, rfl, ⟨r, r1, r2, r3, Nat.le_trans r4 (by decide)⟩, hb⟩
end Grow
theorem St.put {w0 w w5 : World} {rows : List (Nat × Fe.E)} {bys : List (Nat × List Int)} {nums : List (Value × List Int)} (h : St w0 rows bys nums w) (hb : Below w.heap.size w w5) {g : Nat} (hg : w.heap.size ≤ g) {y : Fe.E} (hz : w5.heap[g]? = some (.cells (ec y) 30 (0, 0))) (x : Fe.E) : St w0 ((g, x) :: rows) bys nums (w5.setRow g (ec x)) := by
  refine ⟨fun r hr => ?_, fun r hr => ?_, fun r hr => ?_, ?_, below_setRow (h.bb.trans (hb.mono h.bb.size)) (Nat.le_trans h.bb.size hg) _⟩
  · rcases List.mem_cons.1 hr with rfl | hr
    · exact setRow_heap w5 g _ (ec x) 30 _ hz
    · have h1 := lt_of_block (h.rows r hr)
      rw [setRow_other _ _ _ _ (by omega)]
      exact (hb.block _ h1).trans (h.rows r hr)
  · have h1 := (h.bys r hr).lt
    refine Blk.other ?_ (setRow_other _ _ _ _ (by omega))
    exact (h.bys r hr).other (hb.block _ h1)
  · exact (h.nums r hr).below (below_setRow hb hg _) (Nat.le_refl _)
  · exact h.dbl.below (below_setRow hb hg _) h.dbl.1
theorem twice_mod (x y : Int) : ((x % Fe.P + y % Fe.P) % Fe.P + y % Fe.P) % Fe.P = (x + y - -y) % Fe.P := by
  rw [Int.sub_neg, Int.add_emod (x + y) y, Int.add_emod x y]
theorem mul_mod2 (x y : Int) : x % Fe.P * (y % Fe.P) % Fe.P = x * y % Fe.P := (Int.mul_emod _ _ _).symm
theorem small_mod {n : Int} (h0 : 0 ≤ n) (h1 : n ≤ 4294967295) : n % Fe.P = n := Int.emod_eq_of_lt h0 (Int.lt_of_le_of_lt h1 (by decide))

set_option maxRecDepth 100000 in
set_option maxHeartbeats 2000000 in
theorem products_walk (w : World) (hd : Dbl w) (p q : List Int) (hp : p.length = 32) (hq : q.length = 32) (wp : ∀ x ∈ p, W8 x) (wq : ∀ x ∈ q, W8 x) (n : Int) (n0 : 0 ≤ n) (n1 : n ≤ 4294967295) :
    Calls Tryd.prog 5 #[bv p, bv q, .int .u32 n] w fun e w' => e = .returned (.bool true) ∧ Below w.heap.size w w' := by
  have S0 := Lib.hid (St.two hd p q)
  have WP := Lib.hid wp
  have WQ := Lib.hid wq
  have LP := Lib.hid hp
  have LQ := Lib.hid hq
  clear hd wp wq hp hq
  unfold bv
  go_enter Tryd.func5, Tryd.ntmps5
  go_wp2_with (first
    | (go_at_call 10; refine (of_32 _ _ _ q LQ.out (slc_blk (S5.out.bys (w.heap.size + 1, q) (by simp)) LQ.out WQ.out)).mono ?_; rintro e wq6 ⟨vy, ly, rfl, hn, hv, hne, hl, hb⟩; have S6 := Lib.hid ((S5.out.below hb).num (hn.below (Below.refl _ _) (Nat.le_refl _))); have Vy : Hid (Nt.val ly = nb q % Fe.P) := hv; have Ly : Hid (ly.length ≤ 20000) := Nat.le_trans hl (by decide); have NEy := Lib.hid hne; clear hn hv hl hne; clear hb)
    | (go_at_call 10; refine (of_32 _ _ _ p LP.out (slc_blk (S4.out.bys (w.heap.size, p) (by simp)) LP.out WP.out)).mono ?_; rintro e wq5 ⟨vx, lx, rfl, hn, hv, hne, hl, hb⟩; have S5 := Lib.hid ((S4.out.below hb).num (hn.below (Below.refl _ _) (Nat.le_refl _))); have Vx : Hid (Nt.val lx = nb p % Fe.P) := hv; have Lx : Hid (lx.length ≤ 20000) := Nat.le_trans hl (by decide); have NEx := Lib.hid hne; clear hn hv hl hne; clear hb)
    | ((with_reducible refine wpList_store_row (o := ⟨none, _, _, _, _, _⟩) rfl 30 (.tmp 8) (.tmp 16) rfl wq3.heap.size (ec (Fe.rd (Bt.low q))) rfl rfl 30 _ (zero_new wq3) ?_ ?_ ?_ ?_); exact i30; exact rfl; exact ec_one _; have S4 := Lib.hid (S3.out.row (Fe.rd (Bt.low q))))
    | (go_at_call 11; refine (read_32 _ _ _ q LQ.out (slc_blk (S2.out.bys (w.heap.size + 1, q) (by simp)) LQ.out WQ.out)).mono ?_; rintro e wq3 ⟨rfl, hb⟩; have S3 := Lib.hid (S2.out.below hb); clear hb)
    | ((with_reducible refine wpList_store_row (o := ⟨none, _, _, _, _, _⟩) rfl 30 (.tmp 7) (.tmp 14) rfl wq1.heap.size (ec (Fe.rd (Bt.low p))) rfl rfl 30 _ (zero_new wq1) ?_ ?_ ?_ ?_); exact i30; exact rfl; exact ec_one _; have S2 := Lib.hid (S1.out.row (Fe.rd (Bt.low p))))
    | (go_at_call 11; refine (read_32 _ _ _ p LP.out (slc_blk (S0.out.bys (w.heap.size, p) (by simp)) LP.out WP.out)).mono ?_; rintro e wq1 ⟨rfl, hb⟩; have S1 := Lib.hid (S0.out.below hb); clear hb))
  refine Grow.region_tail (by kernel_rfl) 7 (fun i => ([.is (.agg (ec (Fe.rd (Bt.low p)))), .is (.agg (ec (Fe.rd (Bt.low q)))), .is (.agg (ec (Fe.add (Fe.rd (Bt.low p)) (Fe.rd (Bt.low q))))), .is (.agg (ec (Fe.rd (Bt.low q)))), .is (.agg (ec (Fe.neg (Fe.rd (Bt.low q))))), .is (.agg (ec (Fe.sub (Fe.add (Fe.rd (Bt.low p)) (Fe.rd (Bt.low q))) (Fe.neg (Fe.rd (Bt.low q)))))), Grow.newRow wq6] : List Grow.Spec).getD i (.is undef)) (by kernel_rfl) ⟨
    Grow.h2_row (Or.inl rfl) 7 (wq1.heap.size) 30 (ec (Fe.rd (Bt.low p))) _ rfl Tryd.underlying30 i30 rfl (by kernel_rfl) rfl (S6.out.rows (wq1.heap.size, Fe.rd (Bt.low p)) (by simp)) rfl,
    Grow.h2_row (Or.inl rfl) 8 (wq3.heap.size) 30 (ec (Fe.rd (Bt.low q))) _ rfl Tryd.underlying30 i30 rfl (by kernel_rfl) rfl (S6.out.rows (wq3.heap.size, Fe.rd (Bt.low q)) (by simp)) rfl,
    Grow.h2_call2 (Or.inl rfl) 18 Grow.enter18 _ _ _ rfl (fun a w hk => by have e21 : a.eval (.tmp 21) = .agg (ec (Fe.rd (Bt.low p))) := (hk.deps 0 21 (by kernel_rfl)); have e22 : a.eval (.tmp 22) = .agg (ec (Fe.rd (Bt.low q))) := (hk.deps 1 22 (by kernel_rfl)); rw [e21, e22]; refine (add_any w (Fe.rd (Bt.low p)) (Fe.rd (Bt.low q)) (Fe.rd_ok _) (Fe.rd_ok _)).mono ?_; rintro e w5 ⟨rfl, hb⟩; exact ⟨_, rfl, rfl, hb⟩),
    Grow.h2_row (Or.inl rfl) 8 (wq3.heap.size) 30 (ec (Fe.rd (Bt.low q))) _ rfl Tryd.underlying30 i30 rfl (by kernel_rfl) rfl (S6.out.rows (wq3.heap.size, Fe.rd (Bt.low q)) (by simp)) rfl,
    Grow.h2_call1 (Or.inl rfl) 22 Grow.enter22 _ _ rfl (fun a w hk => by have e24 : a.eval (.tmp 24) = .agg (ec (Fe.rd (Bt.low q))) := (hk.deps 3 24 (by kernel_rfl)); rw [e24]; refine (neg_any w (Fe.rd (Bt.low q)) (Fe.rd_ok _) (S6.out.dbl.below hk.below S6.out.dbl.1)).mono ?_; rintro e w5 ⟨rfl, hb⟩; exact ⟨_, rfl, rfl, hb⟩),
    Grow.h2_call2 (Or.inl rfl) 20 Grow.enter20 _ _ _ rfl (fun a w hk => by have e23 : a.eval (.tmp 23) = .agg (ec (Fe.add (Fe.rd (Bt.low p)) (Fe.rd (Bt.low q)))) := (hk.deps 2 23 (by kernel_rfl)); have e25 : a.eval (.tmp 25) = .agg (ec (Fe.neg (Fe.rd (Bt.low q)))) := (hk.deps 4 25 (by kernel_rfl)); rw [e23, e25]; refine (sub_any w (Fe.add (Fe.rd (Bt.low p)) (Fe.rd (Bt.low q))) (Fe.neg (Fe.rd (Bt.low q))) (Fe.add_ok (Fe.rd_ok _) (Fe.rd_ok _)) (Fe.sub_ok Fe.z_ok (Fe.rd_ok _)) (S6.out.dbl.below hk.below S6.out.dbl.1)).mono ?_; rintro e w5 ⟨rfl, hb⟩; exact ⟨_, rfl, rfl, hb⟩),
    Grow.h2_alloc (Or.inl rfl) rfl rfl,
    trivial⟩ ?_
  intro o a w5 ho hb hts hk hdf hfr
  obtain rfl := Option.some.inj ho
  have e26 : a.eval (.tmp 26) = .agg (ec (Fe.sub (Fe.add (Fe.rd (Bt.low p)) (Fe.rd (Bt.low q))) (Fe.neg (Fe.rd (Bt.low q))))) := hk 5 26 (by decide) rfl
  obtain ⟨gs, e11, hz, hgs⟩ : ∃ g, a.eval (.tmp 11) = .pointer (some ⟨g, 0, none⟩) ∧ w5.heap[g]? = some (.cells (ec Fe.z) 30 (0, 0)) ∧ wq6.heap.size ≤ g := hk 6 11 (by decide) rfl
  refine ⟨rfl, wp_store_row 30 (.tmp 11) (.tmp 26) rfl gs (ec (Fe.sub (Fe.add (Fe.rd (Bt.low p)) (Fe.rd (Bt.low q))) (Fe.neg (Fe.rd (Bt.low q))))) e11 e26 30 (ec Fe.z) hz i30 rfl (ec_one _) ?_⟩
  have ha := Grow.act_after hts hdf hfr
  rw [show Grow.dsts _ 7 = [21, 22, 23, 24, 25, 26, 11] from by kernel_rfl] at ha
  simp only [Grow.putAll, e26, e11] at ha
  generalize a.eval (.tmp 21) = u21 at ha
  generalize a.eval (.tmp 22) = u22 at ha
  generalize a.eval (.tmp 23) = u23 at ha
  generalize a.eval (.tmp 24) = u24 at ha
  generalize a.eval (.tmp 25) = u25 at ha
  have S7 := Lib.hid (S6.out.put hb hgs hz (Fe.sub (Fe.add (Fe.rd (Bt.low p)) (Fe.rd (Bt.low q))) (Fe.neg (Fe.rd (Bt.low q)))))
  clear hk hts hdf hfr e26 e11 hb hz hgs
  subst ha
  generalize w5.setRow gs (ec (Fe.sub (Fe.add (Fe.rd (Bt.low p)) (Fe.rd (Bt.low q))) (Fe.neg (Fe.rd (Bt.low q))))) = w6 at *
  go_wp2_with (first
    | (go_at_call 19; refine (radd_any _ _ _ ls ly (S8.out.nums (vs, ls) (by simp)) (S8.out.nums (vy, ly) (by simp)) Ls.out Ly.out).mono ?_; rintro e wq9 ⟨vt, lt, rfl, hn, hv, hne, hl, hb⟩; have S9 := Lib.hid ((S8.out.below hb).num (hn.below (Below.refl _ _) (Nat.le_refl _))); have Vt := Lib.hid hv; have Lt : Hid (lt.length ≤ 20000) := Nat.le_trans hl (by decide); have NEt := Lib.hid hne; clear hn hv hl hne; clear hb)
    | (go_at_call 19; refine (radd_any _ _ _ lx ly (S7.out.nums (vx, lx) (by simp)) (S7.out.nums (vy, ly) (by simp)) Lx.out Ly.out).mono ?_; rintro e wq8 ⟨vs, ls, rfl, hn, hv, hne, hl, hb⟩; have S8 := Lib.hid ((S7.out.below hb).num (hn.below (Below.refl _ _) (Nat.le_refl _))); have Vs := Lib.hid hv; have Ls : Hid (ls.length ≤ 20000) := Nat.le_trans hl (by decide); have NEs := Lib.hid hne; clear hn hv hl hne; clear hb))
  have VT : Hid (Nt.val lt = (nb p + nb q - -nb q) % Fe.P) := by
    show _ = _
    rw [Vt.out, Vs.out, Vx.out, Vy.out, twice_mod]
  have RS : Hid (Fe.Re (Fe.sub (Fe.add (Fe.rd (Bt.low p)) (Fe.rd (Bt.low q))) (Fe.neg (Fe.rd (Bt.low q)))) (nb p + nb q - -nb q)) := ((rd_re p).add (rd_re q)).sub (rd_re q).neg
  refine Grow.region_tail (by kernel_rfl) 38 (fun i => ([.is (.bool true), .is (.bool true), .is (.agg (ec (Fe.rd (Bt.low p)))), .is (.agg (ec (Fe.rd (Bt.low q)))), .is (.agg (ec (Fe.mul (Fe.rd (Bt.low p)) (Fe.rd (Bt.low q))))), Grow.nat (nb p % Fe.P), Grow.nat (nb q % Fe.P), Grow.nat ((nb p % Fe.P) * (nb q % Fe.P) % Fe.P), .is (.bool true), .is (.bool true), .is (.bool true), .is (.agg (ec (Fe.sub (Fe.add (Fe.rd (Bt.low p)) (Fe.rd (Bt.low q))) (Fe.neg (Fe.rd (Bt.low q)))))), .is (.agg (ec (Fe.mul (Fe.sub (Fe.add (Fe.rd (Bt.low p)) (Fe.rd (Bt.low q))) (Fe.neg (Fe.rd (Bt.low q)))) (Fe.sub (Fe.add (Fe.rd (Bt.low p)) (Fe.rd (Bt.low q))) (Fe.neg (Fe.rd (Bt.low q))))))), Grow.nat ((nb p + nb q - -nb q) % Fe.P), Grow.nat ((nb p + nb q - -nb q) % Fe.P), Grow.nat (((nb p + nb q - -nb q) % Fe.P) * ((nb p + nb q - -nb q) % Fe.P) % Fe.P), .is (.bool true), .is (.bool true), .is (.bool true), .is (.agg (ec (Fe.sub (Fe.add (Fe.rd (Bt.low p)) (Fe.rd (Bt.low q))) (Fe.neg (Fe.rd (Bt.low q)))))), .is (.int .u32 n), .is (.agg (ec (Fe.num n))), .is (.agg (ec (Fe.mul (Fe.sub (Fe.add (Fe.rd (Bt.low p)) (Fe.rd (Bt.low q))) (Fe.neg (Fe.rd (Bt.low q)))) (Fe.num n)))), Grow.nat ((nb p + nb q - -nb q) % Fe.P), .is (.int .u32 n), .is (.int .u64 n), Grow.nat (n), Grow.nat (((nb p + nb q - -nb q) % Fe.P) * n % Fe.P), .is (.bool true), .is (.bool true), .is (.bool true), .is (.int .u32 n), .is (.agg (ec (Fe.num n))), .is (.int .u32 n), .is (.int .u64 n), Grow.nat (n), .is (.bool true), .is (.bool true)] : List Grow.Spec).getD i (.is undef)) (by kernel_rfl) ⟨
    Grow.h2_call0 (Or.inl rfl) 9 Grow.enter9 _ rfl (fun a w hk => by refine (awake_any w (S9.out.dbl.below hk.below S9.out.dbl.1)).mono ?_; rintro e w5 ⟨rfl, hb⟩; exact ⟨_, rfl, rfl, hb⟩),
    Grow.h2_move (Or.inl rfl) _ (Or.inl rfl) (fun a w hk => (hk.deps 0 32 (by kernel_rfl))),
    Grow.h2_row (Or.inr ⟨1, 33, true, rfl, by kernel_rfl, rfl, Nat.le_of_ble_eq_true rfl⟩) 7 (wq1.heap.size) 30 (ec (Fe.rd (Bt.low p))) _ rfl Tryd.underlying30 i30 rfl (by kernel_rfl) rfl (S9.out.rows (wq1.heap.size, Fe.rd (Bt.low p)) (by simp)) rfl,
    Grow.h2_row (Or.inr ⟨1, 33, true, rfl, by kernel_rfl, rfl, Nat.le_of_ble_eq_true rfl⟩) 8 (wq3.heap.size) 30 (ec (Fe.rd (Bt.low q))) _ rfl Tryd.underlying30 i30 rfl (by kernel_rfl) rfl (S9.out.rows (wq3.heap.size, Fe.rd (Bt.low q)) (by simp)) rfl,
    Grow.h2_call2 (Or.inr ⟨1, 33, true, rfl, by kernel_rfl, rfl, Nat.le_of_ble_eq_true rfl⟩) 25 Grow.enter25 _ _ _ rfl (fun a w hk => by have e34 : a.eval (.tmp 34) = .agg (ec (Fe.rd (Bt.low p))) := (hk.deps 2 34 (by kernel_rfl)); have e35 : a.eval (.tmp 35) = .agg (ec (Fe.rd (Bt.low q))) := (hk.deps 3 35 (by kernel_rfl)); rw [e34, e35]; refine (mul_any w (Fe.rd (Bt.low p)) (Fe.rd (Bt.low q)) (Fe.rd_ok _) (Fe.rd_ok _)).mono ?_; rintro e w5 ⟨rfl, hb⟩; exact ⟨_, rfl, rfl, hb⟩),
    Grow.h2_move (Or.inr ⟨1, 33, true, rfl, by kernel_rfl, rfl, Nat.le_of_ble_eq_true rfl⟩) _ (Or.inl rfl) (fun a w hk => by have e : a.eval (.tmp 9) = _ := hk.rest 9 (by kernel_rfl); rw [e]; exact ⟨lx, (S9.out.nums (vx, lx) (by simp)).below hk.below (Nat.le_refl _), Vx.out, NEx.out, Lx.out⟩),
    Grow.h2_move (Or.inr ⟨1, 33, true, rfl, by kernel_rfl, rfl, Nat.le_of_ble_eq_true rfl⟩) _ (Or.inl rfl) (fun a w hk => by have e : a.eval (.tmp 10) = _ := hk.rest 10 (by kernel_rfl); rw [e]; exact ⟨ly, (S9.out.nums (vy, ly) (by simp)).below hk.below (Nat.le_refl _), Vy.out, NEy.out, Ly.out⟩),
    Grow.h2_call2 (Or.inr ⟨1, 33, true, rfl, by kernel_rfl, rfl, Nat.le_of_ble_eq_true rfl⟩) 26 Grow.enter26 _ _ _ rfl (fun a w hk => by exact Grow.c_rmul (hk.deps 5 37 (by kernel_rfl)) (hk.deps 6 38 (by kernel_rfl))),
    Grow.h2_call2 (Or.inr ⟨1, 33, true, rfl, by kernel_rfl, rfl, Nat.le_of_ble_eq_true rfl⟩) 12 Grow.enter12 _ _ _ rfl (fun a w hk => by have e36 : a.eval (.tmp 36) = .agg (ec (Fe.mul (Fe.rd (Bt.low p)) (Fe.rd (Bt.low q)))) := (hk.deps 4 36 (by kernel_rfl)); rw [e36]; exact Grow.c_is (Fe.mul_ok (Fe.rd_ok _) (Fe.rd_ok _)) (hk.deps 7 39 (by kernel_rfl)) (by rw [((rd_re p).mul (rd_re q)).eq, mul_mod2])),
    Grow.h2_pick (Or.inl rfl) 1 33 8 40 _ rfl (by kernel_rfl) (by kernel_rfl) rfl rfl,
    Grow.h2_move (Or.inl rfl) _ (Or.inl rfl) (fun a w hk => (hk.deps 9 41 (by kernel_rfl))),
    Grow.h2_row (Or.inr ⟨10, 42, true, rfl, by kernel_rfl, rfl, Nat.le_of_ble_eq_true rfl⟩) 11 (gs) 30 (ec (Fe.sub (Fe.add (Fe.rd (Bt.low p)) (Fe.rd (Bt.low q))) (Fe.neg (Fe.rd (Bt.low q))))) _ rfl Tryd.underlying30 i30 rfl (by kernel_rfl) rfl (S9.out.rows (gs, Fe.sub (Fe.add (Fe.rd (Bt.low p)) (Fe.rd (Bt.low q))) (Fe.neg (Fe.rd (Bt.low q)))) (by simp)) rfl,
    Grow.h2_call1 (Or.inr ⟨10, 42, true, rfl, by kernel_rfl, rfl, Nat.le_of_ble_eq_true rfl⟩) 27 Grow.enter27 _ _ rfl (fun a w hk => by have e43 : a.eval (.tmp 43) = .agg (ec (Fe.sub (Fe.add (Fe.rd (Bt.low p)) (Fe.rd (Bt.low q))) (Fe.neg (Fe.rd (Bt.low q))))) := (hk.deps 11 43 (by kernel_rfl)); rw [e43]; refine (square_any w (Fe.sub (Fe.add (Fe.rd (Bt.low p)) (Fe.rd (Bt.low q))) (Fe.neg (Fe.rd (Bt.low q)))) RS.out.ok).mono ?_; rintro e w5 ⟨rfl, hb⟩; exact ⟨_, rfl, rfl, hb⟩),
    Grow.h2_move (Or.inr ⟨10, 42, true, rfl, by kernel_rfl, rfl, Nat.le_of_ble_eq_true rfl⟩) _ (Or.inl rfl) (fun a w hk => by have e : a.eval (.tmp 12) = _ := hk.rest 12 (by kernel_rfl); rw [e]; exact ⟨lt, (S9.out.nums (vt, lt) (by simp)).below hk.below (Nat.le_refl _), VT.out, NEt.out, Lt.out⟩),
    Grow.h2_move (Or.inr ⟨10, 42, true, rfl, by kernel_rfl, rfl, Nat.le_of_ble_eq_true rfl⟩) _ (Or.inl rfl) (fun a w hk => by have e : a.eval (.tmp 12) = _ := hk.rest 12 (by kernel_rfl); rw [e]; exact ⟨lt, (S9.out.nums (vt, lt) (by simp)).below hk.below (Nat.le_refl _), VT.out, NEt.out, Lt.out⟩),
    Grow.h2_call2 (Or.inr ⟨10, 42, true, rfl, by kernel_rfl, rfl, Nat.le_of_ble_eq_true rfl⟩) 26 Grow.enter26 _ _ _ rfl (fun a w hk => by exact Grow.c_rmul (hk.deps 13 45 (by kernel_rfl)) (hk.deps 14 46 (by kernel_rfl))),
    Grow.h2_call2 (Or.inr ⟨10, 42, true, rfl, by kernel_rfl, rfl, Nat.le_of_ble_eq_true rfl⟩) 12 Grow.enter12 _ _ _ rfl (fun a w hk => by have e44 : a.eval (.tmp 44) = .agg (ec (Fe.mul (Fe.sub (Fe.add (Fe.rd (Bt.low p)) (Fe.rd (Bt.low q))) (Fe.neg (Fe.rd (Bt.low q)))) (Fe.sub (Fe.add (Fe.rd (Bt.low p)) (Fe.rd (Bt.low q))) (Fe.neg (Fe.rd (Bt.low q)))))) := (hk.deps 12 44 (by kernel_rfl)); rw [e44]; exact Grow.c_is (Fe.mul_ok RS.out.ok RS.out.ok) (hk.deps 15 47 (by kernel_rfl)) (by rw [(RS.out.mul RS.out).eq, mul_mod2])),
    Grow.h2_pick (Or.inl rfl) 10 42 16 48 _ rfl (by kernel_rfl) (by kernel_rfl) rfl rfl,
    Grow.h2_move (Or.inl rfl) _ (Or.inl rfl) (fun a w hk => (hk.deps 17 49 (by kernel_rfl))),
    Grow.h2_row (Or.inr ⟨18, 50, true, rfl, by kernel_rfl, rfl, Nat.le_of_ble_eq_true rfl⟩) 11 (gs) 30 (ec (Fe.sub (Fe.add (Fe.rd (Bt.low p)) (Fe.rd (Bt.low q))) (Fe.neg (Fe.rd (Bt.low q))))) _ rfl Tryd.underlying30 i30 rfl (by kernel_rfl) rfl (S9.out.rows (gs, Fe.sub (Fe.add (Fe.rd (Bt.low p)) (Fe.rd (Bt.low q))) (Fe.neg (Fe.rd (Bt.low q)))) (by simp)) rfl,
    Grow.h2_move (Or.inr ⟨18, 50, true, rfl, by kernel_rfl, rfl, Nat.le_of_ble_eq_true rfl⟩) _ (Or.inl rfl) (fun a w hk => by have e : a.eval (.tmp 2) = _ := hk.rest 2 (by kernel_rfl); rw [e]; exact rfl),
    Grow.h2_call1 (Or.inr ⟨18, 50, true, rfl, by kernel_rfl, rfl, Nat.le_of_ble_eq_true rfl⟩) 28 Grow.enter28 _ _ rfl (fun a w hk => by have e52 : a.eval (.tmp 52) = .int .u32 n := (hk.deps 20 52 (by kernel_rfl)); rw [e52]; refine (num_any w n n0 n1).mono ?_; rintro e w5 ⟨rfl, hb⟩; exact ⟨_, rfl, rfl, hb⟩),
    Grow.h2_call2 (Or.inr ⟨18, 50, true, rfl, by kernel_rfl, rfl, Nat.le_of_ble_eq_true rfl⟩) 25 Grow.enter25 _ _ _ rfl (fun a w hk => by have e51 : a.eval (.tmp 51) = .agg (ec (Fe.sub (Fe.add (Fe.rd (Bt.low p)) (Fe.rd (Bt.low q))) (Fe.neg (Fe.rd (Bt.low q))))) := (hk.deps 19 51 (by kernel_rfl)); have e53 : a.eval (.tmp 53) = .agg (ec (Fe.num n)) := (hk.deps 21 53 (by kernel_rfl)); rw [e51, e53]; refine (mul_any w (Fe.sub (Fe.add (Fe.rd (Bt.low p)) (Fe.rd (Bt.low q))) (Fe.neg (Fe.rd (Bt.low q)))) (Fe.num n) RS.out.ok (Fe.num_ok n n0 n1)).mono ?_; rintro e w5 ⟨rfl, hb⟩; exact ⟨_, rfl, rfl, hb⟩),
    Grow.h2_move (Or.inr ⟨18, 50, true, rfl, by kernel_rfl, rfl, Nat.le_of_ble_eq_true rfl⟩) _ (Or.inl rfl) (fun a w hk => by have e : a.eval (.tmp 12) = _ := hk.rest 12 (by kernel_rfl); rw [e]; exact ⟨lt, (S9.out.nums (vt, lt) (by simp)).below hk.below (Nat.le_refl _), VT.out, NEt.out, Lt.out⟩),
    Grow.h2_move (Or.inr ⟨18, 50, true, rfl, by kernel_rfl, rfl, Nat.le_of_ble_eq_true rfl⟩) _ (Or.inl rfl) (fun a w hk => by have e : a.eval (.tmp 2) = _ := hk.rest 2 (by kernel_rfl); rw [e]; exact rfl),
    Grow.h2_conv3628 (Or.inr ⟨18, 50, true, rfl, by kernel_rfl, rfl, Nat.le_of_ble_eq_true rfl⟩) 24 56 n ⟨n0, n1⟩ rfl (by kernel_rfl) rfl rfl,
    Grow.h2_call1 (Or.inr ⟨18, 50, true, rfl, by kernel_rfl, rfl, Nat.le_of_ble_eq_true rfl⟩) 29 Grow.enter29 _ _ rfl (fun a w hk => by have e57 : a.eval (.tmp 57) = .int .u64 n := (hk.deps 25 57 (by kernel_rfl)); rw [e57]; exact Grow.c_small n0 n1),
    Grow.h2_call2 (Or.inr ⟨18, 50, true, rfl, by kernel_rfl, rfl, Nat.le_of_ble_eq_true rfl⟩) 26 Grow.enter26 _ _ _ rfl (fun a w hk => by exact Grow.c_rmul (hk.deps 23 55 (by kernel_rfl)) (hk.deps 26 58 (by kernel_rfl))),
    Grow.h2_call2 (Or.inr ⟨18, 50, true, rfl, by kernel_rfl, rfl, Nat.le_of_ble_eq_true rfl⟩) 12 Grow.enter12 _ _ _ rfl (fun a w hk => by have e54 : a.eval (.tmp 54) = .agg (ec (Fe.mul (Fe.sub (Fe.add (Fe.rd (Bt.low p)) (Fe.rd (Bt.low q))) (Fe.neg (Fe.rd (Bt.low q)))) (Fe.num n))) := (hk.deps 22 54 (by kernel_rfl)); rw [e54]; exact Grow.c_is (Fe.mul_ok RS.out.ok (Fe.num_ok n n0 n1)) (hk.deps 27 59 (by kernel_rfl)) (by rw [(RS.out.mul (Fe.Re.num n0 n1)).eq, ← mul_mod2, small_mod n0 n1])),
    Grow.h2_pick (Or.inl rfl) 18 50 28 60 _ rfl (by kernel_rfl) (by kernel_rfl) rfl rfl,
    Grow.h2_move (Or.inl rfl) _ (Or.inl rfl) (fun a w hk => (hk.deps 29 61 (by kernel_rfl))),
    Grow.h2_move (Or.inr ⟨30, 62, true, rfl, by kernel_rfl, rfl, Nat.le_of_ble_eq_true rfl⟩) _ (Or.inl rfl) (fun a w hk => by have e : a.eval (.tmp 2) = _ := hk.rest 2 (by kernel_rfl); rw [e]; exact rfl),
    Grow.h2_call1 (Or.inr ⟨30, 62, true, rfl, by kernel_rfl, rfl, Nat.le_of_ble_eq_true rfl⟩) 28 Grow.enter28 _ _ rfl (fun a w hk => by have e63 : a.eval (.tmp 63) = .int .u32 n := (hk.deps 31 63 (by kernel_rfl)); rw [e63]; refine (num_any w n n0 n1).mono ?_; rintro e w5 ⟨rfl, hb⟩; exact ⟨_, rfl, rfl, hb⟩),
    Grow.h2_move (Or.inr ⟨30, 62, true, rfl, by kernel_rfl, rfl, Nat.le_of_ble_eq_true rfl⟩) _ (Or.inl rfl) (fun a w hk => by have e : a.eval (.tmp 2) = _ := hk.rest 2 (by kernel_rfl); rw [e]; exact rfl),
    Grow.h2_conv3628 (Or.inr ⟨30, 62, true, rfl, by kernel_rfl, rfl, Nat.le_of_ble_eq_true rfl⟩) 33 65 n ⟨n0, n1⟩ rfl (by kernel_rfl) rfl rfl,
    Grow.h2_call1 (Or.inr ⟨30, 62, true, rfl, by kernel_rfl, rfl, Nat.le_of_ble_eq_true rfl⟩) 29 Grow.enter29 _ _ rfl (fun a w hk => by have e66 : a.eval (.tmp 66) = .int .u64 n := (hk.deps 34 66 (by kernel_rfl)); rw [e66]; exact Grow.c_small n0 n1),
    Grow.h2_call2 (Or.inr ⟨30, 62, true, rfl, by kernel_rfl, rfl, Nat.le_of_ble_eq_true rfl⟩) 12 Grow.enter12 _ _ _ rfl (fun a w hk => by have e64 : a.eval (.tmp 64) = .agg (ec (Fe.num n)) := (hk.deps 32 64 (by kernel_rfl)); rw [e64]; exact Grow.c_is (Fe.num_ok n n0 n1) (hk.deps 35 67 (by kernel_rfl)) (by rw [Fe.num_val, small_mod n0 n1])),
    Grow.h2_pick (Or.inl rfl) 30 62 36 68 _ rfl (by kernel_rfl) (by kernel_rfl) rfl rfl,
    trivial⟩ ?_
  intro o a w8 ho hb hts hk hdf hfr
  obtain rfl := Option.some.inj ho
  have e69 : a.eval (.tmp 69) = .bool true := hk 37 69 (by decide) rfl
  refine ⟨rfl, Grow.wp_move (.tmp 69) (Or.inr rfl) ?_⟩
  have hs6 : 6 < a.tmps.size := by rw [hts]; exact Nat.le_of_ble_eq_true rfl
  have HBF := Lib.hid (S9.out.bb.trans (hb.mono S9.out.bb.size))
  clear hk hfr
  rw [e69]
  go_wp2
  refine bodyPost_ret (results_tmp rfl _ _ _) rfl ?_
  exact ⟨congrArg Ending.returned (Grow.eval_put_eq hs6), HBF.out⟩
end Go.Proofs.YtgebangnhgmmoaaDoor

/- More operations of such a region, each by one law; a number's bytes. -/
namespace Go.Proofs.YtgebangnhgmmoaaDoor
open Go.RowKit

theorem conv_at {w : World} {go off n c : Nat} {l : List Int} (h : At w .u8 go off l) (hl : l.length = n) : (convert 22 9 (.slice (some ⟨go, off, none⟩) n c)).run Tryd.prog w = .ok (.string (strOfNums l)) w :=
  run_convert_bytes_arg w 22 5 Tryd.underlying22 Tryd.underlying5 go off n c l hl (fun i hi => h i (by omega)) 9 Tryd.underlying9
theorem conv_slc {w : World} {v : Value} {l : List Int} (h : Slc w v l) : (convert 22 9 v).run Tryd.prog w = .ok (.string (strOfNums l)) w := by
  obtain ⟨a, cap, rfl, hc, h8, hm⟩ := h
  rcases hm with rfl | ⟨b, off, rfl, h2, h3⟩
  · cases a with
    | none => exact run_convert_bytes_nil w 22 5 Tryd.underlying22 Tryd.underlying5 0 cap 9 Tryd.underlying9
    | some ad =>
      have hl : (loadCells ad 0).run Tryd.prog w = .ok ([] : List Value).toArray w := run_loadCells_list (P := Tryd.prog) w ad [] (fun j v hj => by simp at hj)
      rw [List.length_nil, run_convert_bytes_string w 22 9 5 _ 0 cap Tryd.underlying22 Tryd.underlying5 Tryd.underlying9, run_bytesToString w _ 0 cap [] hl]
      rfl
  · exact conv_at h3 rfl
namespace Grow
section
variable {m : Nat} {ops : Array Oper} {Q : Exit → Act → World → Prop} {specs : Nat → Spec} {a0 : Act} {w0 : World} {i : Nat} {o : Oper}
theorem h2_conv (hr : Runs2 ops specs a0 o) (j d : Nat) (l : List Int) (ho : o.op = .convert 22 9 (.tmp d)) (hj : deps .any ops o j d = true) (hs : specs j = .slc l) (hi : specs i = .is (.string (strOfNums l))) : Hop2 Tryd.prog m ops specs Q a0 w0 i o :=
  h2_val hr fun a w hk => by
    have h := hk.deps j d hj
    rw [hs] at h
    refine ⟨.string (strOfNums l), w, ?_, by rw [hi]; rfl, Below.refl _ _⟩
    unfold execOp
    rw [ho]
    simp only [Sem.run_bind, conv_slc h, Result.andThen_ok, Sem.run_pure]
theorem h2_eqls (hr : Runs2 ops specs a0 o) (j1 d1 j2 d2 : Nat) (s : ByteArray) (ho : o.op = .binOp .eql 9 (.tmp d1) (.tmp d2) 9) (hj1 : deps .any ops o j1 d1 = true) (hj2 : deps .any ops o j2 d2 = true) (hs1 : specs j1 = .is (.string s)) (hs2 : specs j2 = .is (.string s)) (hi : specs i = .is (.bool true)) : Hop2 Tryd.prog m ops specs Q a0 w0 i o :=
  h2_val hr fun a w hk => by
    have h1 := hk.deps j1 d1 hj1
    have h2 := hk.deps j2 d2 hj2
    rw [hs1] at h1
    rw [hs2] at h2
    have h1 : a.eval (.tmp d1) = .string s := h1
    have h2 : a.eval (.tmp d2) = .string s := h2
    have hu := Tryd.underlying9
    refine ⟨.bool true, w, ?_, by rw [hi]; rfl, Below.refl _ _⟩
    unfold execOp
    rw [ho]
    simp only [h1, h2]
    go_simp
/-- A number against a constant. -/
theorem h2_eql36 (hr : Runs2 ops specs a0 o) (j d : Nat) (n c : Int) (b : Bool) (ho : o.op = .binOp .eql 36 (.tmp d) (.const (.int .u32 c)) 36) (hj : deps .any ops o j d = true) (hs : specs j = .is (.int .u32 n)) (hb : (n == c) = b) (hi : specs i = .is (.bool b)) : Hop2 Tryd.prog m ops specs Q a0 w0 i o :=
  h2_val hr fun a w hk => by
    have h1 := hk.deps j d hj
    rw [hs] at h1
    have h1 : a.eval (.tmp d) = .int .u32 n := h1
    have hu := Tryd.underlying36
    refine ⟨.bool b, w, ?_, by rw [hi]; rfl, Below.refl _ _⟩
    unfold execOp
    rw [ho]
    simp only [h1]
    go_simp
theorem h2_eql3 (hr : Runs2 ops specs a0 o) (j d : Nat) (n c : Int) (b : Bool) (ho : o.op = .binOp .eql 3 (.tmp d) (.const (.int .i64 c)) 3) (hj : deps .any ops o j d = true) (hs : specs j = .is (.int .i64 n)) (hb : (n == c) = b) (hi : specs i = .is (.bool b)) : Hop2 Tryd.prog m ops specs Q a0 w0 i o :=
  h2_val hr fun a w hk => by
    have h1 := hk.deps j d hj
    rw [hs] at h1
    have h1 : a.eval (.tmp d) = .int .i64 n := h1
    have hu := Tryd.underlying3
    refine ⟨.bool b, w, ?_, by rw [hi]; rfl, Below.refl _ _⟩
    unfold execOp
    rw [ho]
    simp only [h1]
    go_simp
theorem h2_eql4 (hr : Runs2 ops specs a0 o) (j1 d1 j2 d2 : Nat) (b c : Bool) (hbc : b = c) (ho : o.op = .binOp .eql 4 (.tmp d1) (.tmp d2) 4) (hj1 : deps .any ops o j1 d1 = true) (hj2 : deps .any ops o j2 d2 = true) (hs1 : specs j1 = .is (.bool b)) (hs2 : specs j2 = .is (.bool c)) (hi : specs i = .is (.bool true)) : Hop2 Tryd.prog m ops specs Q a0 w0 i o :=
  h2_val hr fun a w hk => by
    have h1 := hk.deps j1 d1 hj1
    have h2 := hk.deps j2 d2 hj2
    rw [hs1] at h1
    rw [hs2] at h2
    have h1 : a.eval (.tmp d1) = .bool b := h1
    have h2 : a.eval (.tmp d2) = .bool c := h2
    subst hbc
    have hu := Tryd.underlying4
    refine ⟨.bool true, w, ?_, by rw [hi]; rfl, Below.refl _ _⟩
    unfold execOp
    rw [ho]
    simp only [h1, h2]
    go_simp
theorem h2_len (hr : Runs2 ops specs a0 o) (j d : Nat) (ad : Option Addr) (n c : Nat) (ho : o.op = .call { callee := .builtin .len, args := #[.tmp d], argTypes := #[26] }) (hj : deps .any ops o j d = true) (hs : specs j = .is (.slice ad n c)) (hi : specs i = .is (.int .i64 n)) : Hop2 Tryd.prog m ops specs Q a0 w0 i o :=
  h2_val hr fun a w hk => by
    have h1 := hk.deps j d hj
    rw [hs] at h1
    have h1 : a.eval (.tmp d) = .slice ad n c := h1
    refine ⟨.int .i64 n, w, ?_, by rw [hi]; rfl, Below.refl _ _⟩
    unfold execOp
    rw [ho]
    have h2 : a.tmps[d]?.getD undef = .slice ad n c := by
      rw [← h1]; simp [Act.eval]
    have hu := Tryd.underlying26
    go_simp
end
end Grow
namespace Nt
theorem byte_word (x y : Int) (r : Nat) (hr : r < 4) : (x + B * y) / 2 ^ (8 * r) % 256 = x / 2 ^ (8 * r) % 256 := by
  unfold B
  match r, hr with
  | 0, _ => simp only [Nat.mul_zero, Int.pow_zero, Int.ediv_one]; omega
  | 1, _ => simp only [Nat.mul_one, Int.reducePow]; omega
  | 2, _ => simp only [Nat.reduceMul, Int.reducePow]; omega
  | 3, _ => simp only [Nat.reduceMul, Int.reducePow]; omega
theorem byte_val {a : List Int} (ha : Ws a) (j : Nat) : byte a j = val a / 2 ^ (8 * j) % 256 := by
  have e : (2 : Int) ^ (8 * j) = pw (j / 4) * 2 ^ (8 * (j % 4)) := by
    rw [← pw_two]; congr 1; omega
  rw [e, ← Int.ediv_ediv_of_nonneg (Int.le_of_lt (pw_pos _)), val_high ha, drop_word, byte_word _ _ _ (by omega)]
  rfl
theorem bytes_row {a : List Int} (ha : Ws a) {N : Nat} (hv : val a = (N : Int)) (hN : N < 2 ^ 255) : (List.range 32).map (byte a) = Bt.row 8 32 N 255 := by
  unfold Bt.row
  refine List.map_congr_left fun j _ => ?_
  rw [byte_val ha, hv]
  unfold Bt.place
  rw [Nat.mod_eq_of_lt hN]
  simp
end Nt
theorem fe_odd {x : Fe.E} (hx : Fe.Ok x) {N : Nat} (hN : Fe.val x % Fe.P = (N : Int)) : decide ((Fe.least x).a % 2 = 1) = decide (((N : Int)) % 2 = 1) := by
  have h1 := (Fe.least_val hx).1
  rw [hN] at h1
  have h2 : Fe.val (Fe.least x) % 2 = (Fe.least x).a % 2 := by unfold Fe.val Fe.M; omega
  rw [← h2, h1]
end Go.Proofs.YtgebangnhgmmoaaDoor

/- The statement of reads, the walk. -/
namespace Go.Proofs.YtgebangnhgmmoaaDoor
open Go.RowKit

theorem Grow.wp_assign {o : Oper} {a : Act} {w : World} {Q : Exit → Act → World → Prop} {K : Act → World → Prop} (d : Nat) (x : Operand) (ho : o.op = .assign x) (hd : o.dst = some d) (hk : K (a.put (some d) (a.eval x)) w) : o.wp Tryd.prog a w K Q :=
  Grow.wp_move x (Or.inr ho) (by rw [hd]; exact hk)
theorem len_zero {l : List Int} (hw : Nt.Ws l) {X : Nat} (hv : Nt.val l = (X : Int)) (hn : Nt.Neat l) : ((l.length : Int) == 0) = decide ((X : Int) = 0) := by
  by_cases h : l.length = 0
  · have h0 : l = [] := List.eq_nil_of_length_eq_zero h
    subst h0
    have : (X : Int) = 0 := hv.symm
    rw [decide_eq_true this]; rfl
  · have h1 := Nt.neat_le hn hw (by omega)
    have h2 := Nt.pw_pos (l.length - 1)
    rw [decide_eq_false (by omega)]
    have : ¬ ((l.length : Int) = 0) := by omega
    simpa using this
/-- One box. -/
theorem St.one {w : World} (hd : Dbl w) (p : List Int) : St w [] [(w.heap.size, p)] [] (w.alloc (.cells (p.map (Value.int .u8)).toArray 23)) := by
  have h3 : Below w.heap.size w (w.alloc (.cells (p.map (Value.int .u8)).toArray 23)) := (Below.refl _ _).alloc (Nat.le_refl _) _
  refine ⟨fun r hr => (List.not_mem_nil hr).elim, fun r hr => ?_, fun r hr => (List.not_mem_nil hr).elim, hd.below h3 hd.1, h3⟩
  simp only [List.mem_cons, List.not_mem_nil, or_false] at hr
  subst hr
  exact heap_alloc_new w _
/-- What any bytes are read as. -/
def eb (P : List Int) : Fe.E := if P.length = 32 then Fe.rd (Bt.low P) else Fe.z
def nbx (P : List Int) : Int := if P.length = 32 then nb P % Fe.P else 0
theorem eb_ok (P : List Int) : Fe.Ok (eb P) := by
  unfold eb; split
  · exact Fe.rd_ok _
  · exact Fe.z_ok
theorem eb_val (P : List Int) : Fe.val (eb P) % Fe.P = nbx P := by
  unfold eb nbx; split
  · exact (rd_re P).eq
  · rfl
theorem read_all (w : World) (a : Option Addr) (c : Nat) (P : List Int) (h : Slc w (.slice a P.length c) P) : Calls Tryd.prog 11 #[.slice a P.length c] w fun e w' => e = .returned (.agg (ec (eb P))) ∧ Below w.heap.size w w' := by
  unfold eb
  by_cases hl : P.length = 32
  · rw [if_pos hl]
    have := read_32 w a c P hl (by rw [hl] at h; exact h)
    rwa [hl]
  · rw [if_neg hl]
    exact read_none w a P.length c hl
theorem of_all (w : World) (a : Option Addr) (c : Nat) (P : List Int) (h : Slc w (.slice a P.length c) P) : Calls Tryd.prog 10 #[.slice a P.length c] w fun e w' => ∃ v, e = .returned v ∧ (Grow.nat (nbx P)).meets v w' ∧ Below w.heap.size w w' := by
  unfold nbx
  by_cases hl : P.length = 32
  · rw [if_pos hl]
    have := of_32 w a c P hl (by rw [hl] at h; exact h)
    rw [hl]
    refine this.mono ?_
    rintro e w' ⟨v, l, rfl, h1, h2, h3, h4, hb⟩
    exact ⟨v, rfl, ⟨l, h1, h2, h3, Nat.le_trans h4 (by decide)⟩, hb⟩
  · rw [if_neg hl]
    refine (of_none w a P.length c hl).mono ?_
    rintro e w' ⟨rfl, hb⟩
    exact ⟨_, rfl, ⟨[], num_nil _, rfl, fun h => absurd h (by decide), by decide⟩, hb⟩

set_option maxRecDepth 100000 in
set_option maxHeartbeats 1000000 in
theorem reads_long (w : World) (hd : Dbl w) (ap : Option Addr) (n c : Nat) (hn : 100 < n) (q : List Int) :
    Calls Tryd.prog 3 #[.slice ap n c, bv q] w fun e w' => e = .returned (.bool true) ∧ Below w.heap.size w w' := by
  have S0 := Lib.hid (St.one hd q)
  clear hd
  unfold bv
  go_enter Tryd.func3, Tryd.ntmps3
  go_wp2_with (first
    | (go_at_call 9; refine (awake_any _ S1.out.dbl).mono ?_; rintro e wq2 ⟨rfl, hb⟩; have S2 := Lib.hid (S1.out.below hb); clear hb)
    | (go_at_call 9; refine (awake_any _ S0.out.dbl).mono ?_; rintro e wq1 ⟨rfl, hb⟩; have S1 := Lib.hid (S0.out.below hb); clear hb))
  go_ret
  exact ⟨rfl, S2.out.bb⟩

set_option maxRecDepth 100000 in
set_option maxHeartbeats 2000000 in
theorem reads_short (w : World) (hd : Dbl w) (ap : Option Addr) (c : Nat) (P : List Int) (hP : Slc w (.slice ap P.length c) P) (hl : P.length ≤ 100) (q : List Int) (hq : q.length = 32) (wq : ∀ x ∈ q, W8 x) :
    Calls Tryd.prog 3 #[.slice ap P.length c, bv q] w fun e w' => e = .returned (.bool true) ∧ Below w.heap.size w w' := by
  have S0 := Lib.hid (St.one hd q)
  have HP := Lib.hid hP
  have WQ := Lib.hid wq
  have LQ := Lib.hid hq
  clear hd wq hq hP
  unfold bv
  go_enter Tryd.func3, Tryd.ntmps3
  go_wp2_with (first
    | ((with_reducible refine wpList_store_row (o := ⟨none, _, _, _, _, _⟩) rfl 30 (.tmp 7) (.tmp 21) rfl wq5.heap.size (ec (eb P)) rfl rfl 30 _ (zero_new wq5) ?_ ?_ ?_ ?_); exact i30; exact rfl; exact ec_one _; have S6 := Lib.hid (S5.out.row (eb P)))
    | (go_at_call 11; refine (read_all _ _ _ P (HP.out.below S4.out.bb (Nat.le_refl _))).mono ?_; rintro e wq5 ⟨rfl, hb⟩; have S5 := Lib.hid (S4.out.below hb); clear hb)
    | ((with_reducible refine wpList_store_row (o := ⟨none, _, _, _, _, _⟩) rfl 30 (.tmp 6) (.tmp 19) rfl wq3.heap.size (ec (Fe.rd (Bt.low q))) rfl rfl 30 _ (zero_new wq3) ?_ ?_ ?_ ?_); exact i30; exact rfl; exact ec_one _; have S4 := Lib.hid (S3.out.row (Fe.rd (Bt.low q))))
    | (go_at_call 11; refine (read_32 _ _ _ q LQ.out (slc_blk (S2.out.bys (w.heap.size, q) (by simp)) LQ.out WQ.out)).mono ?_; rintro e wq3 ⟨rfl, hb⟩; have S3 := Lib.hid (S2.out.below hb); clear hb)
    | (go_at_call 10; refine (of_32 _ _ _ q LQ.out (slc_blk (S1.out.bys (w.heap.size, q) (by simp)) LQ.out WQ.out)).mono ?_; rintro e wq2 ⟨vx, lx, rfl, hn, hv, hne, hl2, hb⟩; obtain ⟨ax, cx, rfl⟩ := num_form hn; have S2 := Lib.hid ((S1.out.below hb).num hn); have Vx : Hid (Nt.val lx = nb q % Fe.P) := hv; have Lx : Hid (lx.length ≤ 20000) := Nat.le_trans hl2 (by decide); have NEx := Lib.hid hne; clear hn hv hl2 hne; clear hb)
    | (go_at_call 9; refine (awake_any _ S0.out.dbl).mono ?_; rintro e wq1 ⟨rfl, hb⟩; have S1 := Lib.hid (S0.out.below hb); clear hb))
  obtain ⟨X, hX, hX2⟩ := Fe.mod_nat (nb q)
  have VX : Hid (Nt.val lx = (X : Int)) := Vx.out.trans hX
  have WX : Hid (Nt.Ws lx) := by obtain ⟨_, _, _, _, h, _⟩ := S6.out.nums (.slice ax lx.length cx, lx) (by simp); exact h
  have HA : Hid (Fe.val (Fe.rd (Bt.low q)) % Fe.P = (X : Int)) := (rd_re q).eq.trans hX
  have HX2 := Lib.hid hX2
  clear hX hX2
  generalize hw9 : ((wq5.alloc (.cells #[.int .u64 0, .int .u64 0, .int .u64 0, .int .u64 0, .int .u64 0] 30)).setRow wq5.heap.size (ec (eb P))) = w9 at *
  refine Grow.region_tail (by kernel_rfl) 41 (fun i => List.getD (Grow.Spec.is (.agg (ec (Fe.rd (Bt.low q)))) :: Grow.Spec.is (.slice ax lx.length cx) :: Grow.Spec.is (.bool true) :: Grow.Spec.is (.bool true) :: Grow.Spec.is (.agg (ec (eb P))) :: Grow.Spec.is (.slice ap P.length c) :: Grow.nat (nbx P) :: Grow.Spec.is (.bool true) :: Grow.Spec.is (.bool true) :: Grow.Spec.is (.bool true) :: Grow.Spec.is (.agg (ec (Fe.rd (Bt.low q)))) :: Grow.Spec.slc (Bt.row 8 32 X 255) :: Grow.Spec.is (.string (strOfNums (Bt.row 8 32 X 255))) :: Grow.Spec.is (.slice ax lx.length cx) :: Grow.Spec.slc (Bt.row 8 32 X 255) :: Grow.Spec.is (.string (strOfNums (Bt.row 8 32 X 255))) :: Grow.Spec.is (.bool true) :: Grow.Spec.is (.bool true) :: Grow.Spec.is (.bool true) :: Grow.Spec.is (.agg (ec (Fe.rd (Bt.low q)))) :: Grow.Spec.slc (Bt.row 8 32 X 255) :: Grow.Spec.is (.agg (ec (Fe.rd (Bt.low (Bt.row 8 32 X 255))))) :: Grow.Spec.is (.slice ax lx.length cx) :: Grow.Spec.is (.bool true) :: Grow.Spec.is (.bool true) :: Grow.Spec.is (.bool true) :: Grow.Spec.is (.agg (ec (Fe.rd (Bt.low q)))) :: Grow.Spec.is (.bool (decide ((X : Int) % 2 = 1))) :: Grow.Spec.is (.slice ax lx.length cx) :: Grow.Spec.is (.int .u32 ((X : Int) % 2)) :: Grow.Spec.is (.bool (decide ((X : Int) % 2 = 1))) :: Grow.Spec.is (.bool true) :: Grow.Spec.is (.bool true) :: Grow.Spec.is (.bool true) :: Grow.Spec.is (.agg (ec (Fe.rd (Bt.low q)))) :: Grow.Spec.is (.bool (decide ((X : Int) = 0))) :: Grow.Spec.is (.slice ax lx.length cx) :: Grow.Spec.is (.int .i64 lx.length) :: Grow.Spec.is (.bool (decide ((X : Int) = 0))) :: Grow.Spec.is (.bool true) :: Grow.Spec.is (.bool true) :: []) i (Grow.Spec.is undef)) (by kernel_rfl) ⟨
    Grow.h2_row (Or.inl rfl) 6 (wq3.heap.size) 30 (ec (Fe.rd (Bt.low q))) _ rfl Tryd.underlying30 i30 rfl (by kernel_rfl) rfl (S6.out.rows (wq3.heap.size, Fe.rd (Bt.low q)) (by simp)) rfl,
    Grow.h2_move (Or.inl rfl) _ (Or.inl rfl) (fun a w hk => by have e : a.eval (.tmp 5) = _ := hk.rest 5 (by kernel_rfl); rw [e]; exact rfl),
    Grow.h2_call2 (Or.inl rfl) 12 Grow.enter12 _ _ _ rfl (fun a w hk => by have e22 : a.eval (.tmp 22) = .agg (ec (Fe.rd (Bt.low q))) := (hk.deps 0 22 (by kernel_rfl)); have e23 : a.eval (.tmp 23) = .slice ax lx.length cx := (hk.deps 1 23 (by kernel_rfl)); rw [e22, e23]; exact Grow.c_is (Fe.rd_ok _) (show (Grow.nat (X : Int)).meets (.slice ax lx.length cx) w from ⟨lx, (S6.out.nums (.slice ax lx.length cx, lx) (by simp)).below hk.below (Nat.le_refl _), VX.out, NEx.out, Lx.out⟩) HA.out),
    Grow.h2_move (Or.inl rfl) _ (Or.inl rfl) (fun a w hk => (hk.deps 2 24 (by kernel_rfl))),
    Grow.h2_row (Or.inr ⟨3, 25, true, rfl, by kernel_rfl, rfl, Nat.le_of_ble_eq_true rfl⟩) 7 (wq5.heap.size) 30 (ec (eb P)) _ rfl Tryd.underlying30 i30 rfl (by kernel_rfl) rfl (S6.out.rows (wq5.heap.size, eb P) (by simp)) rfl,
    Grow.h2_move (Or.inr ⟨3, 25, true, rfl, by kernel_rfl, rfl, Nat.le_of_ble_eq_true rfl⟩) _ (Or.inl rfl) (fun a w hk => by have e : a.eval (.tmp 0) = _ := hk.rest 0 (by kernel_rfl); rw [e]; exact rfl),
    Grow.h2_call1 (Or.inr ⟨3, 25, true, rfl, by kernel_rfl, rfl, Nat.le_of_ble_eq_true rfl⟩) 10 Grow.enter10 _ _ rfl (fun a w hk => by have e27 : a.eval (.tmp 27) = .slice ap P.length c := (hk.deps 5 27 (by kernel_rfl)); rw [e27]; exact of_all w ap c P (HP.out.below (S6.out.bb.trans (hk.below.mono S6.out.bb.size)) (Nat.le_refl _))),
    Grow.h2_call2 (Or.inr ⟨3, 25, true, rfl, by kernel_rfl, rfl, Nat.le_of_ble_eq_true rfl⟩) 12 Grow.enter12 _ _ _ rfl (fun a w hk => by have e26 : a.eval (.tmp 26) = .agg (ec (eb P)) := (hk.deps 4 26 (by kernel_rfl)); rw [e26]; exact Grow.c_is (eb_ok P) (hk.deps 6 28 (by kernel_rfl)) (eb_val P)),
    Grow.h2_pick (Or.inl rfl) 3 25 7 29 _ rfl (by kernel_rfl) (by kernel_rfl) rfl rfl,
    Grow.h2_move (Or.inl rfl) _ (Or.inl rfl) (fun a w hk => (hk.deps 8 30 (by kernel_rfl))),
    Grow.h2_row (Or.inr ⟨9, 31, true, rfl, by kernel_rfl, rfl, Nat.le_of_ble_eq_true rfl⟩) 6 (wq3.heap.size) 30 (ec (Fe.rd (Bt.low q))) _ rfl Tryd.underlying30 i30 rfl (by kernel_rfl) rfl (S6.out.rows (wq3.heap.size, Fe.rd (Bt.low q)) (by simp)) rfl,
    Grow.h2_call1 (Or.inr ⟨9, 31, true, rfl, by kernel_rfl, rfl, Nat.le_of_ble_eq_true rfl⟩) 13 Grow.enter13 _ _ rfl (fun a w hk => by have e32 : a.eval (.tmp 32) = .agg (ec (Fe.rd (Bt.low q))) := (hk.deps 10 32 (by kernel_rfl)); rw [e32]; refine (bytes_any w (Fe.rd (Bt.low q)) (Fe.rd_ok _) X HA.out).mono ?_; rintro e w5 ⟨g, rfl, hg, hb⟩; exact ⟨_, rfl, slc_blk hg (Bt.row_length _ _ _ _) (Bt.row_W8 X), hb⟩),
    Grow.h2_conv (Or.inr ⟨9, 31, true, rfl, by kernel_rfl, rfl, Nat.le_of_ble_eq_true rfl⟩) 11 33 _ rfl (by kernel_rfl) rfl rfl,
    Grow.h2_move (Or.inr ⟨9, 31, true, rfl, by kernel_rfl, rfl, Nat.le_of_ble_eq_true rfl⟩) _ (Or.inl rfl) (fun a w hk => by have e : a.eval (.tmp 5) = _ := hk.rest 5 (by kernel_rfl); rw [e]; exact rfl),
    Grow.h2_call2 (Or.inr ⟨9, 31, true, rfl, by kernel_rfl, rfl, Nat.le_of_ble_eq_true rfl⟩) 14 Grow.enter14 _ _ _ rfl (fun a w hk => by have e35 : a.eval (.tmp 35) = .slice ax lx.length cx := (hk.deps 13 35 (by kernel_rfl)); rw [e35]; refine (outb_any w _ lx 32 ((S6.out.nums (.slice ax lx.length cx, lx) (by simp)).below hk.below (Nat.le_refl _)) (Nat.le_trans Lx.out (by decide)) (by decide)).mono ?_; rintro e w5 ⟨rfl, hg, hb⟩; rw [Nt.bytes_row WX.out VX.out HX2.out] at hg; exact ⟨_, rfl, slc_blk hg (Bt.row_length _ _ _ _) (Bt.row_W8 X), hb⟩),
    Grow.h2_conv (Or.inr ⟨9, 31, true, rfl, by kernel_rfl, rfl, Nat.le_of_ble_eq_true rfl⟩) 14 36 _ rfl (by kernel_rfl) rfl rfl,
    Grow.h2_eqls (Or.inr ⟨9, 31, true, rfl, by kernel_rfl, rfl, Nat.le_of_ble_eq_true rfl⟩) 12 34 15 37 _ rfl (by kernel_rfl) (by kernel_rfl) rfl rfl rfl,
    Grow.h2_pick (Or.inl rfl) 9 31 16 38 _ rfl (by kernel_rfl) (by kernel_rfl) rfl rfl,
    Grow.h2_move (Or.inl rfl) _ (Or.inl rfl) (fun a w hk => (hk.deps 17 39 (by kernel_rfl))),
    Grow.h2_row (Or.inr ⟨18, 40, true, rfl, by kernel_rfl, rfl, Nat.le_of_ble_eq_true rfl⟩) 6 (wq3.heap.size) 30 (ec (Fe.rd (Bt.low q))) _ rfl Tryd.underlying30 i30 rfl (by kernel_rfl) rfl (S6.out.rows (wq3.heap.size, Fe.rd (Bt.low q)) (by simp)) rfl,
    Grow.h2_call1 (Or.inr ⟨18, 40, true, rfl, by kernel_rfl, rfl, Nat.le_of_ble_eq_true rfl⟩) 13 Grow.enter13 _ _ rfl (fun a w hk => by have e41 : a.eval (.tmp 41) = .agg (ec (Fe.rd (Bt.low q))) := (hk.deps 19 41 (by kernel_rfl)); rw [e41]; refine (bytes_any w (Fe.rd (Bt.low q)) (Fe.rd_ok _) X HA.out).mono ?_; rintro e w5 ⟨g, rfl, hg, hb⟩; exact ⟨_, rfl, slc_blk hg (Bt.row_length _ _ _ _) (Bt.row_W8 X), hb⟩),
    Grow.h2_call1 (Or.inr ⟨18, 40, true, rfl, by kernel_rfl, rfl, Nat.le_of_ble_eq_true rfl⟩) 11 Grow.enter11 _ _ rfl (fun a w hk => by have hs : Slc w (a.eval (.tmp 42)) (Bt.row 8 32 X 255) := (hk.deps 20 42 (by kernel_rfl)); obtain ⟨a8, c8, h8⟩ := slc_form hs; rw [h8] at hs ⊢; rw [Bt.row_length] at hs ⊢; refine (read_32 w a8 c8 (Bt.row 8 32 X 255) (Bt.row_length _ _ _ _) hs).mono ?_; rintro e w5 ⟨rfl, hb⟩; exact ⟨_, rfl, rfl, hb⟩),
    Grow.h2_move (Or.inr ⟨18, 40, true, rfl, by kernel_rfl, rfl, Nat.le_of_ble_eq_true rfl⟩) _ (Or.inl rfl) (fun a w hk => by have e : a.eval (.tmp 5) = _ := hk.rest 5 (by kernel_rfl); rw [e]; exact rfl),
    Grow.h2_call2 (Or.inr ⟨18, 40, true, rfl, by kernel_rfl, rfl, Nat.le_of_ble_eq_true rfl⟩) 12 Grow.enter12 _ _ _ rfl (fun a w hk => by have e43 : a.eval (.tmp 43) = .agg (ec (Fe.rd (Bt.low (Bt.row 8 32 X 255)))) := (hk.deps 21 43 (by kernel_rfl)); have e44 : a.eval (.tmp 44) = .slice ax lx.length cx := (hk.deps 22 44 (by kernel_rfl)); rw [e43, e44]; exact Grow.c_is (Fe.rd_ok _) (show (Grow.nat (X : Int)).meets (.slice ax lx.length cx) w from ⟨lx, (S6.out.nums (.slice ax lx.length cx, lx) (by simp)).below hk.below (Nat.le_refl _), VX.out, NEx.out, Lx.out⟩) (by rw [Bt.low_row HX2.out, Fe.rd_val, Nat.mod_eq_of_lt HX2.out, ← HA.out, Int.emod_emod])),
    Grow.h2_pick (Or.inl rfl) 18 40 23 45 _ rfl (by kernel_rfl) (by kernel_rfl) rfl rfl,
    Grow.h2_move (Or.inl rfl) _ (Or.inl rfl) (fun a w hk => (hk.deps 24 46 (by kernel_rfl))),
    Grow.h2_row (Or.inr ⟨25, 47, true, rfl, by kernel_rfl, rfl, Nat.le_of_ble_eq_true rfl⟩) 6 (wq3.heap.size) 30 (ec (Fe.rd (Bt.low q))) _ rfl Tryd.underlying30 i30 rfl (by kernel_rfl) rfl (S6.out.rows (wq3.heap.size, Fe.rd (Bt.low q)) (by simp)) rfl,
    Grow.h2_call1 (Or.inr ⟨25, 47, true, rfl, by kernel_rfl, rfl, Nat.le_of_ble_eq_true rfl⟩) 15 Grow.enter15 _ _ rfl (fun a w hk => by have e48 : a.eval (.tmp 48) = .agg (ec (Fe.rd (Bt.low q))) := (hk.deps 26 48 (by kernel_rfl)); rw [e48]; refine (odd_any w (Fe.rd (Bt.low q)) (Fe.rd_ok _)).mono ?_; rintro e w5 ⟨rfl, hb⟩; rw [fe_odd (Fe.rd_ok _) HA.out]; exact ⟨_, rfl, rfl, hb⟩),
    Grow.h2_move (Or.inr ⟨25, 47, true, rfl, by kernel_rfl, rfl, Nat.le_of_ble_eq_true rfl⟩) _ (Or.inl rfl) (fun a w hk => by have e : a.eval (.tmp 5) = _ := hk.rest 5 (by kernel_rfl); rw [e]; exact rfl),
    Grow.h2_call2 (Or.inr ⟨25, 47, true, rfl, by kernel_rfl, rfl, Nat.le_of_ble_eq_true rfl⟩) 16 Grow.enter16 _ _ _ rfl (fun a w hk => by have e50 : a.eval (.tmp 50) = .slice ax lx.length cx := (hk.deps 28 50 (by kernel_rfl)); rw [e50]; refine (bit_at w _ lx 0 0 rfl ((S6.out.nums (.slice ax lx.length cx, lx) (by simp)).below hk.below (Nat.le_refl _)) (Nat.le_trans Lx.out (by decide)) (by decide)).mono ?_; rintro e w5 ⟨rfl, rfl⟩; refine ⟨_, rfl, ?_, Below.refl _ _⟩; rw [Nt.bit_val WX.out, VX.out, Int.pow_zero, Int.ediv_one]; rfl),
    Grow.h2_eql36 (Or.inr ⟨25, 47, true, rfl, by kernel_rfl, rfl, Nat.le_of_ble_eq_true rfl⟩) 29 51 _ _ _ rfl (by kernel_rfl) rfl rfl rfl,
    Grow.h2_eql4 (Or.inr ⟨25, 47, true, rfl, by kernel_rfl, rfl, Nat.le_of_ble_eq_true rfl⟩) 27 49 30 52 _ _ rfl rfl (by kernel_rfl) (by kernel_rfl) rfl rfl rfl,
    Grow.h2_pick (Or.inl rfl) 25 47 31 53 _ rfl (by kernel_rfl) (by kernel_rfl) rfl rfl,
    Grow.h2_move (Or.inl rfl) _ (Or.inl rfl) (fun a w hk => (hk.deps 32 54 (by kernel_rfl))),
    Grow.h2_row (Or.inr ⟨33, 55, true, rfl, by kernel_rfl, rfl, Nat.le_of_ble_eq_true rfl⟩) 6 (wq3.heap.size) 30 (ec (Fe.rd (Bt.low q))) _ rfl Tryd.underlying30 i30 rfl (by kernel_rfl) rfl (S6.out.rows (wq3.heap.size, Fe.rd (Bt.low q)) (by simp)) rfl,
    Grow.h2_call1 (Or.inr ⟨33, 55, true, rfl, by kernel_rfl, rfl, Nat.le_of_ble_eq_true rfl⟩) 17 Grow.enter17 _ _ rfl (fun a w hk => by have e56 : a.eval (.tmp 56) = .agg (ec (Fe.rd (Bt.low q))) := (hk.deps 34 56 (by kernel_rfl)); rw [e56]; refine (zero_any w (Fe.rd (Bt.low q)) (Fe.rd_ok _)).mono ?_; rintro e w5 ⟨rfl, hb⟩; rw [HA.out]; exact ⟨_, rfl, rfl, hb⟩),
    Grow.h2_move (Or.inr ⟨33, 55, true, rfl, by kernel_rfl, rfl, Nat.le_of_ble_eq_true rfl⟩) _ (Or.inl rfl) (fun a w hk => by have e : a.eval (.tmp 5) = _ := hk.rest 5 (by kernel_rfl); rw [e]; exact rfl),
    Grow.h2_len (Or.inr ⟨33, 55, true, rfl, by kernel_rfl, rfl, Nat.le_of_ble_eq_true rfl⟩) 36 58 _ _ _ rfl (by kernel_rfl) rfl rfl,
    Grow.h2_eql3 (Or.inr ⟨33, 55, true, rfl, by kernel_rfl, rfl, Nat.le_of_ble_eq_true rfl⟩) 37 59 _ _ _ rfl (by kernel_rfl) rfl (len_zero WX.out VX.out NEx.out) rfl,
    Grow.h2_eql4 (Or.inr ⟨33, 55, true, rfl, by kernel_rfl, rfl, Nat.le_of_ble_eq_true rfl⟩) 35 57 38 60 _ _ rfl rfl (by kernel_rfl) (by kernel_rfl) rfl rfl rfl,
    Grow.h2_pick (Or.inl rfl) 33 55 39 61 _ rfl (by kernel_rfl) (by kernel_rfl) rfl rfl,
    trivial⟩ ?_
  intro o a w8 ho hb hts hk hdf hfr
  obtain rfl := Option.some.inj ho
  have e62 : a.eval (.tmp 62) = .bool true := hk 40 62 (by decide) rfl
  refine ⟨rfl, Grow.wp_assign 4 (.tmp 62) rfl rfl ?_⟩
  have hs4 : 4 < a.tmps.size := by rw [hts]; exact Nat.le_of_ble_eq_true rfl
  have HBF := Lib.hid (S6.out.bb.trans (hb.mono S6.out.bb.size))
  clear hk hfr
  rw [e62]
  go_wp2
  refine bodyPost_ret (results_tmp rfl _ _ _) (by first | exact hdf | rfl) ?_
  exact ⟨congrArg Ending.returned (Grow.eval_put_eq hs4), HBF.out⟩

theorem reads_walk (w : World) (hd : Dbl w) (ap : Option Addr) (c : Nat) (P : List Int) (hP : Slc w (.slice ap P.length c) P) (q : List Int) (hq : q.length = 32) (wq : ∀ x ∈ q, W8 x) :
    Calls Tryd.prog 3 #[.slice ap P.length c, bv q] w fun e w' => e = .returned (.bool true) ∧ Below w.heap.size w w' := by
  by_cases h : 100 < P.length
  · exact reads_long w hd ap _ c h q
  · exact reads_short w hd ap c P hP (by omega) q hq wq
end Go.Proofs.YtgebangnhgmmoaaDoor
