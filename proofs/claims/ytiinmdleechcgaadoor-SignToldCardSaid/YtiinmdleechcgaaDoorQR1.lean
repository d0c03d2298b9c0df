/- Layer 6, a part of the proof: Ra Rb Rc. -/
import Derived.Test.YtiinmdleechcgaaDoorQN2
import Derived.Test.YtiinmdleechcgaaDoorQT2
namespace Go.Proofs.YtiinmdleechcgaaDoor
open Go.RowKit
theorem info29 : (Tryd.prog.info? 29).map (fun i => (i.zero, i.size, i.bytes)) = some (some (.slice none 0 0), 1, 24) := by kernel_rfl
theorem info61 : (Tryd.prog.info? 61).map (fun i => (i.zero, i.size, i.bytes)) = some (some (.int .u32 0), 1, 4) := by kernel_rfl
theorem i33 : (Tryd.prog.info? 33).map (·.size) = some 3 := by kernel_rfl
def rz : Array Value := #[.slice none 0 0, .slice none 0 0, .slice none 0 0]
theorem run_alloc33 (w : World) : (Instr.alloc 33 true (.tuple #[])).run Tryd.prog w = .ok (.pointer (some ⟨w.heap.size, 0, none⟩)) (w.alloc (.cells rz 33)) := by kernel_rfl
theorem run_fa33_0 (w : World) (g : Nat) : (Instr.fieldAt 33 (.pointer (some ⟨g, 0, none⟩)) 0).run Tryd.prog w = .ok (.pointer (some ⟨g, 0, none⟩)) w := by kernel_rfl
theorem run_fa33_1 (w : World) (g : Nat) : (Instr.fieldAt 33 (.pointer (some ⟨g, 0, none⟩)) 1).run Tryd.prog w = .ok (.pointer (some ⟨g, 1, none⟩)) w := by kernel_rfl
theorem run_fa33_2 (w : World) (g : Nat) : (Instr.fieldAt 33 (.pointer (some ⟨g, 0, none⟩)) 2).run Tryd.prog w = .ok (.pointer (some ⟨g, 2, none⟩)) w := by kernel_rfl
theorem run_fa33 (w : World) (g k : Nat) (hk : k < 3) : (Instr.fieldAt 33 (.pointer (some ⟨g, 0, none⟩)) k).run Tryd.prog w = .ok (.pointer (some ⟨g, k, none⟩)) w := by
  have h : k = 0 ∨ k = 1 ∨ k = 2 := by omega
  rcases h with rfl | rfl | rfl
  · exact run_fa33_0 w g
  · exact run_fa33_1 w g
  · exact run_fa33_2 w g
theorem run_build33 (w : World) (a b c : Option Addr) (i j k l m n : Nat) : (Instr.build 33 #[(0, .slice a i j), (1, .slice b k l), (2, .slice c m n)]).run Tryd.prog w = .ok (.agg #[.slice a i j, .slice b k l, .slice c m n]) w := by kernel_rfl
/-- A number of the reference's, as a value. -/
abbrev Nn (w : World) (v : Value) (N : Int) : Prop := (Grow.nat N).meets v w
theorem Nn.below {w w' : World} {v : Value} {N : Int} (h : Nn w v N) (hb : Below w.heap.size w w') : Nn w' v N := (Grow.nat N).keeps h hb
theorem Nn.form {w : World} {v : Value} {N : Int} (h : Nn w v N) : ∃ a n c, v = .slice a n c := by
  obtain ⟨l, h1, _⟩ := h
  obtain ⟨a, c, rfl⟩ := num_form h1
  exact ⟨a, _, c, rfl⟩
theorem Nn.nil (w : World) : Nn w (.slice none 0 0) 0 := ⟨[], ⟨none, 0, rfl, Nat.le_refl _, by simp, Or.inl rfl⟩, rfl, by simp [Nt.Neat], by simp⟩
theorem c_radd {w : World} {u v : Value} {N M : Int} (hu : Nn w u N) (hv : Nn w v M) : Calls Tryd.prog 65 #[u, v] w fun e w' => ∃ v, e = .returned v ∧ Nn w' v ((N + M) % Fe.P) ∧ Below w.heap.size w w' := by
  obtain ⟨l, h1, h2, h3, h4⟩ := hu
  obtain ⟨k, k1, k2, k3, k4⟩ := hv
  refine (radd_any w u v l k h1 k1 h4 k4).mono ?_
  rintro e w' ⟨v', r, rfl, r1, r2, r3, r4, hb⟩
  exact ⟨_, rfl, ⟨r, r1, by rw [r2, h2, k2], r3, by omega⟩, hb⟩
theorem c_rsub {w : World} {u v : Value} {N M : Int} (hu : Nn w u N) (hv : Nn w v M) (hM : M ≤ Fe.P) : Calls Tryd.prog 63 #[u, v] w fun e w' => ∃ v, e = .returned v ∧ Nn w' v ((N - M) % Fe.P) ∧ Below w.heap.size w w' := by
  obtain ⟨l, h1, h2, h3, h4⟩ := hu
  obtain ⟨k, k1, k2, k3, k4⟩ := hv
  refine (rsub_any w u v l k h1 k1 h4 (by rw [k2]; exact hM)).mono ?_
  rintro e w' ⟨v', r, rfl, r1, r2, r3, r4, hb⟩
  exact ⟨_, rfl, ⟨r, r1, by rw [r2, h2, k2], r3, by omega⟩, hb⟩
theorem c_bit {w : World} {u : Value} {N : Nat} (hu : Nn w u (N : Int)) (n : Nat) (hn : n ≤ 10000000) : Calls Tryd.prog 33 #[u, .int .i64 n] w fun e w' => e = .returned (.int .u32 ((Bt.bit N n : Nat) : Int)) ∧ w' = w := by
  obtain ⟨l, h1, h2, h3, h4⟩ := hu
  refine (bit_any w u l n h1 (by omega) hn).mono ?_
  rintro e w' ⟨rfl, rfl⟩
  refine ⟨?_, rfl⟩
  have hw : Nt.Ws l := by obtain ⟨_, _, _, _, h, _⟩ := h1; exact h
  rw [Nt.bit_val hw n, h2]
  rfl
namespace Grow
/-- Three numbers of the reference's. -/
def rpS (X Y Z : Int) : Spec := .held (fun u w => ∃ a b c, u = .agg #[a, b, c] ∧ Nn w a X ∧ Nn w b Y ∧ Nn w c Z) (fun _ _ _ h hb => by
  obtain ⟨a, b, c, h1, h2, h3, h4⟩ := h
  exact ⟨a, b, c, h1, h2.below hb, h3.below hb, h4.below hb⟩)
section
variable {m : Nat} {ops : Array Oper} {Q : Exit → Act → World → Prop} {specs : Nat → Spec} {a0 : Act} {w0 : World} {i : Nat} {o : Oper}
theorem h2_fa33 (hr : Runs2 ops specs a0 o) (t g k : Nat) (hk3 : k < 3) (ho : o.op = .fieldAddr 33 (.tmp t) k) (hf : free2 ops m t = true) (hv : a0.eval (.tmp t) = .pointer (some ⟨g, 0, none⟩)) (hs : specs i = .is (.pointer (some ⟨g, k, none⟩))) : Hop2 Tryd.prog m ops specs Q a0 w0 i o :=
  h2_val hr fun a w hkn => by
    refine ⟨_, w, ?_, by rw [hs]; rfl, Below.refl _ _⟩
    unfold execOp
    rw [ho]
    have hv2 := (hkn.rest t hf).trans hv
    simp only [hv2, Sem.run_bind, Sem.run_pure, run_fa33 w g k hk3, Result.andThen_ok]
theorem h2_load29 (hr : Runs2 ops specs a0 o) (j d g k : Nat) (v : Value) (N : Int) (ho : o.op = .load 29 (.tmp d)) (hj : deps .any ops o j d = true) (hsj : specs j = .is (.pointer (some ⟨g, k, none⟩))) (hg : g < w0.heap.size) (hc : w0.cell? ⟨g, k, none⟩ = some v) (hv : Nn w0 v N) (hs : specs i = nat N) : Hop2 Tryd.prog m ops specs Q a0 w0 i o :=
  h2_val hr fun a w hk => by
    have h := hk.deps j d hj
    rw [hsj] at h
    have h : a.eval (.tmp d) = .pointer (some ⟨g, k, none⟩) := h
    have hcw := (hk.below.cell (p := ⟨g, k, none⟩) hg).trans hc
    have hvw := hv.below hk.below
    obtain ⟨b, n, c, rfl⟩ := hv.form
    refine ⟨.slice b n c, w, ?_, by rw [hs]; exact hvw, Below.refl _ _⟩
    unfold execOp
    rw [ho]
    simp only [h]
    have hu := Tryd.underlying29
    go_simp
theorem h2_lit29 (hr : Runs2 ops specs a0 o) (c : Int) (h0 : 0 < c) (h1 : c ≤ 4294967295) (ho : o.op = .buildSlice 29 1 #[(0, .const (.int .u32 c))]) (hi : specs i = nat c) : Hop2 Tryd.prog m ops specs Q a0 w0 i o :=
  h2_wp hr fun a w hk => by
    obtain ⟨i0, hi0, hz0, hz1, hz2⟩ := info_parts info61
    refine wp_buildSlice 29 61 1 _ ho #[.int .u32 c] i0 (.int .u32 0) Tryd.underlying29 hi0 hz0 (by rw [hz1]; decide) (by rw [hz1]; decide) ?_ ?_
    · rw [hz1]
      simp only [List.map_toArray, List.map_cons, List.map_nil]
      kernel_rfl
    · refine ⟨_, rfl, ?_, (Below.refl _ _).alloc (Nat.le_refl _) _⟩
      rw [hi]
      have hg := heap_alloc_new w (.cells #[.int .u32 c] 61)
      refine ⟨[c], ⟨_, 1, rfl, Nat.le_refl _, ?_, Or.inr ⟨_, 0, rfl, lt_of_block hg, fun q hq => ?_⟩⟩, by simp [Nt.val], ?_, by simp⟩
      · intro x hx
        rw [List.mem_singleton] at hx
        rw [hx]; unfold W32; omega
      · obtain rfl : q = 0 := by simpa using hq
        rw [cell_of_row _ _ _ _ 61 (0, 0) hg]
        rfl
      · have : c ≠ 0 := by omega
        simp [Nt.Neat, this]
theorem h2_build33 (hr : Runs2 ops specs a0 o) (j1 d1 j2 d2 j3 d3 : Nat) (X Y Z : Int) (ho : o.op = .build 33 #[(0, .tmp d1), (1, .tmp d2), (2, .tmp d3)]) (h1 : deps .any ops o j1 d1 = true) (h2 : deps .any ops o j2 d2 = true) (h3 : deps .any ops o j3 d3 = true)
    (s1 : specs j1 = nat X) (s2 : specs j2 = nat Y) (s3 : specs j3 = nat Z) (hs : specs i = rpS X Y Z) : Hop2 Tryd.prog m ops specs Q a0 w0 i o :=
  h2_val hr fun a w hk => by
    have e1 := hk.deps j1 d1 h1; rw [s1] at e1
    have e2 := hk.deps j2 d2 h2; rw [s2] at e2
    have e3 := hk.deps j3 d3 h3; rw [s3] at e3
    obtain ⟨a1, n1, c1, f1⟩ := Nn.form e1
    obtain ⟨a2, n2, c2, f2⟩ := Nn.form e2
    obtain ⟨a3, n3, c3, f3⟩ := Nn.form e3
    rw [f1] at e1
    rw [f2] at e2
    rw [f3] at e3
    refine ⟨.agg #[.slice a1 n1 c1, .slice a2 n2 c2, .slice a3 n3 c3], w, ?_, by rw [hs]; exact ⟨_, _, _, rfl, e1, e2, e3⟩, Below.refl _ _⟩
    have hb := run_build33 w a1 a2 a3 n1 c1 n2 c2 n3 c3
    unfold execOp
    rw [ho]
    simp only [List.map_toArray, List.map_cons, List.map_nil, f1, f2, f3, Sem.run_bind, hb, Result.andThen_ok, Sem.run_pure]
theorem h2_nat (hr : Runs2 ops specs a0 o) (t : Nat) (v : Value) (N : Int) (ho : o.op = .move (.tmp t)) (hf : free2 ops m t = true) (hv : a0.eval (.tmp t) = v) (hn : Nn w0 v N) (hs : specs i = nat N) : Hop2 Tryd.prog m ops specs Q a0 w0 i o :=
  h2_move hr (.tmp t) (Or.inl ho) fun a w hk => by rw [hs, (hk.rest t hf).trans hv]; exact hn.below hk.below
end
end Grow
end Go.Proofs.YtiinmdleechcgaaDoor
namespace Go.Proofs.YtiinmdleechcgaaDoor
namespace Ed
/-- Three numbers that stand for a point. -/
structure R3 (X Y Z : Int) (P : Pt) : Prop where
  z : Nz Z
  x : Cg X (P.x*Z)
  y : Cg Y (P.y*Z)
  xr : 0 ≤ X ∧ X < q
  yr : 0 ≤ Y ∧ Y < q
  zr : 0 ≤ Z ∧ Z < q
theorem R3.sum {X1 Y1 Z1 X2 Y2 Z2 D : Int} {P Q : Pt} (hP : P.Good) (hQ : Q.Good) (hD : Cg D dd) (h1 : R3 X1 Y1 Z1 P) (h2 : R3 X2 Y2 Z2 Q)
    {a b c e f g h u v x y : Int} (ha : Cg a (Z1*Z2)) (hb : Cg b (a*a)) (hc : Cg c (X1*X2)) (he : Cg e (Y1*Y2)) (hf : Cg f (D*(c*e))) (hg : Cg g (b - f)) (hh : Cg h (b + f))
    (hu : Cg u ((X1 + Y1)*(X2 + Y2) - c - e)) (hv : Cg v (e + c)) (hx : Cg x (a*g*u)) (hy : Cg y (a*h*v)) {x' y' z' : Int} (hx' : x' = x % q) (hy' : y' = y % q) (hz' : z' = g*h % q) : R3 x' y' z' (add P Q) := by
  have ax := add_x hP hQ
  have ay := add_y hP hQ
  have n1 : Nz (1 + kk P Q) := plus_nz hP.on hQ.on
  have n2 : Nz (1 - kk P Q) := minus_nz hP.on hQ.on
  have c' : Cg c (P.x*Q.x*a) := hc.trans ((h1.x.mul h2.x).trans ((Cg.of_eq (by grind)).trans ((Cg.refl (P.x*Q.x)).mul ha.symm)))
  have e' : Cg e (P.y*Q.y*a) := he.trans ((h1.y.mul h2.y).trans ((Cg.of_eq (by grind)).trans ((Cg.refl (P.y*Q.y)).mul ha.symm)))
  have f' : Cg f (kk P Q * b) := by
    refine hf.trans ((hD.mul (c'.mul e')).trans ?_)
    refine (Cg.of_eq (show _ = kk P Q * (a*a) by unfold kk; grind)).trans ((Cg.refl _).mul hb.symm)
  have g' : Cg g (b*(1 - kk P Q)) := hg.trans (((Cg.refl b).sub f').trans (Cg.of_eq (by grind)))
  have h' : Cg h (b*(1 + kk P Q)) := hh.trans (((Cg.refl b).add f').trans (Cg.of_eq (by grind)))
  have u' : Cg u ((P.x*Q.y + Q.x*P.y)*a) := by
    refine hu.trans ((((h1.x.add h1.y).mul (h2.x.add h2.y)).sub c').sub e' |>.trans ?_)
    refine (Cg.of_eq (show _ = (P.x*Z1 + P.y*Z1)*(Q.x*Z2 + Q.y*Z2) - P.x*Q.x*a - P.y*Q.y*a by grind)).trans ?_
    refine (((Cg.of_eq (show (P.x*Z1 + P.y*Z1)*(Q.x*Z2 + Q.y*Z2) = (P.x + P.y)*(Q.x + Q.y)*(Z1*Z2) by grind)).trans ((Cg.refl _).mul ha.symm)).sub (Cg.refl _)).sub (Cg.refl _) |>.trans ?_
    exact Cg.of_eq (by grind)
  have v' : Cg v ((P.y*Q.y + P.x*Q.x)*a) := hv.trans ((e'.add c').trans (Cg.of_eq (by grind)))
  have na : Nz a := (h1.z.mul h2.z).cg ha.symm
  have nb : Nz b := (na.mul na).cg hb.symm
  have ng : Nz g := (nb.mul n2).cg g'.symm
  have nh : Nz h := (nb.mul n1).cg h'.symm
  have z2 : Cg z' (g*h) := by rw [hz']; exact Cg.red _
  refine ⟨(ng.mul nh).cg z2.symm, ?_, ?_, hx' ▸ red_lt _, hy' ▸ red_lt _, hz' ▸ red_lt _⟩
  · rw [hx']
    refine (Cg.red _).trans (hx.trans (Cg.trans ?_ ((Cg.refl _).mul z2.symm)))
    refine ((Cg.refl (a*g)).mul u').trans ?_
    refine (Cg.of_eq (show _ = (P.x*Q.y + Q.x*P.y)*(a*a)*g by grind)).trans ?_
    refine ((ax.symm.mul hb.symm).mul (Cg.refl g)).trans ?_
    refine (Cg.of_eq (show _ = (add P Q).x*(g*(b*(1 + kk P Q))) by grind)).trans ?_
    exact (Cg.refl _).mul ((Cg.refl g).mul h'.symm)
  · rw [hy']
    refine (Cg.red _).trans (hy.trans (Cg.trans ?_ ((Cg.refl _).mul z2.symm)))
    refine ((Cg.refl (a*h)).mul v').trans ?_
    refine (Cg.of_eq (show _ = (P.y*Q.y + P.x*Q.x)*(a*a)*h by grind)).trans ?_
    refine ((ay.symm.mul hb.symm).mul (Cg.refl h)).trans ?_
    refine (Cg.of_eq (show _ = (add P Q).y*((b*(1 - kk P Q))*h) by grind)).trans ?_
    exact (Cg.refl _).mul (g'.symm.mul (Cg.refl h))
theorem R3.origin : R3 0 1 1 O := ⟨one_nz, Cg.of_eq (by show (0:Int) = 0*1; rfl), Cg.of_eq (by show (1:Int) = 1*1; rfl), by decide, by decide, by decide⟩
theorem R3.flat {P : Pt} (hP : P.Good) : R3 P.x P.y 1 P := ⟨one_nz, Cg.of_eq (by rw [Int.mul_one]), Cg.of_eq (by rw [Int.mul_one]), hP.x, hP.y, by decide⟩
/-- What the reference's D is. -/
theorem d_ref {t : Int} (ht : t = (121666 : Int) ^ (Nm.PN - 2)) : Cg (-121665 * t) dd := by
  have h5 : Cg (121666 * t) 1 := by rw [ht]; exact Cg.of_mod (by show _ % (Nm.PN : Int) = _; rw [Nm.inv_one (by decide) (by decide)]; decide)
  clear ht
  refine Cg.cancel (c := 121666) ?_ lower_nz
  refine (Cg.of_eq (show _ = -121665*(121666*t) by grind)).trans (((Cg.refl _).mul h5).trans ?_)
  exact (Cg.of_eq (show (-121665)*1 = -upper by decide)).trans (dd_lower.symm.trans (Cg.of_eq (by unfold lower; grind)))
end Ed
end Go.Proofs.YtiinmdleechcgaaDoor
namespace Go.Proofs.YtiinmdleechcgaaDoor
open Go.RowKit
/-- What is known: numbers, points' blocks. -/
structure Rs (w0 : World) (vals : List (Value × Int)) (blks : List (Nat × Array Value)) (w : World) : Prop where
  vals : ∀ r ∈ vals, Nn w r.1 r.2
  blks : ∀ r ∈ blks, w.heap[r.1]? = some (.cells r.2 33 (0, 0))
  be : Below w0.heap.size w0 w
section
variable {w0 w w5 : World} {vals : List (Value × Int)} {blks : List (Nat × Array Value)}
theorem Rs.below (h : Rs w0 vals blks w) (hb : Below w.heap.size w w5) : Rs w0 vals blks w5 :=
  ⟨fun r hr => (h.vals r hr).below hb, fun r hr => (hb.block _ (lt_of_block (h.blks r hr))).trans (h.blks r hr), h.be.trans (hb.mono h.be.size)⟩
theorem Rs.add (h : Rs w0 vals blks w) {v : Value} {N : Int} (hv : Nn w v N) : Rs w0 ((v, N) :: vals) blks w := by
  refine ⟨fun r hr => ?_, h.blks, h.be⟩
  rcases List.mem_cons.1 hr with rfl | hr
  · exact hv
  · exact h.vals r hr
end
/-- Three numbers of the reference's stand for a point. -/
def Rq (w : World) (v : Value) (P : Ed.Pt) : Prop := ∃ a b c X Y Z, v = .agg #[a, b, c] ∧ Nn w a X ∧ Nn w b Y ∧ Nn w c Z ∧ Ed.R3 X Y Z P
theorem Rq.below {w w' : World} {v : Value} {P : Ed.Pt} (h : Rq w v P) (hb : Below w.heap.size w w') : Rq w' v P := by
  obtain ⟨a, b, c, X, Y, Z, h1, h2, h3, h4, h5⟩ := h
  exact ⟨a, b, c, X, Y, Z, h1, h2.below hb, h3.below hb, h4.below hb, h5⟩
theorem cgP (n : Int) : Ed.Cg (n % Fe.P) n := by rw [← q_P]; exact Ed.Cg.red n
theorem rp_one (a b c : Value) (ha : a.oneCell' = true) (hb : b.oneCell' = true) (hc : c.oneCell' = true) : (#[a, b, c] : Array Value).all (·.oneCell') = true := by simp [ha, hb, hc]
theorem Nn.one {w : World} {v : Value} {N : Int} (h : Nn w v N) : v.oneCell' = true := by
  obtain ⟨a, n, c, rfl⟩ := h.form
  rfl
/-- A number's words lie in no block of slices. -/
theorem nn_set {w : World} {g : Nat} {C R : Array Value} {t : TypeId} {v : Value} {N : Int} (hg : w.heap[g]? = some (.cells C t (0, 0))) (hC : ∀ (j : Nat) (n : Int), C[j]? ≠ some (.int .u32 n)) (h : Nn w v N) : Nn (w.setRow g R) v N := by
  obtain ⟨l, ⟨a, cap, hv, hc, hbd, hm⟩, h2, h3, h4⟩ := h
  refine ⟨l, ⟨a, cap, hv, hc, hbd, ?_⟩, h2, h3, h4⟩
  rcases hm with h | ⟨b, off, h5, h6, h7⟩
  · exact Or.inl h
  by_cases hl : l = []
  · exact Or.inl hl
  have hpos : 0 < l.length := List.length_pos_iff.2 hl
  have hne : b ≠ g := by
    rintro rfl
    have h8 := h7 0 hpos
    rw [Nat.add_zero, cell_of_row w b off C t (0, 0) hg] at h8
    exact hC _ _ h8
  refine Or.inr ⟨b, off, h5, ?_, fun j hj => ?_⟩
  · exact Nat.lt_of_lt_of_le h6 (below_setRow (Below.refl 0 w) (Nat.zero_le _) R).size
  · rw [← h7 j hj]
    simp only [World.cell?, setRow_other _ _ _ _ hne]
theorem rz_noint : ∀ (j : Nat) (n : Int), rz[j]? ≠ some (.int .u32 n) := by
  intro j n h
  have : ∀ x ∈ rz, x ≠ .int .u32 n := by intro x hx; simp [rz] at hx; rw [hx]; simp
  exact this _ (Array.mem_of_getElem? h) rfl
theorem rp_noint {w : World} {a b c : Value} {X Y Z : Int} (ha : Nn w a X) (hb : Nn w b Y) (hc : Nn w c Z) : ∀ (j : Nat) (n : Int), (#[a, b, c] : Array Value)[j]? ≠ some (.int .u32 n) := by
  intro j n h
  obtain ⟨_, _, _, rfl⟩ := ha.form
  obtain ⟨_, _, _, rfl⟩ := hb.form
  obtain ⟨_, _, _, rfl⟩ := hc.form
  have hm := Array.mem_of_getElem? h
  simp at hm
set_option maxRecDepth 100000 in
set_option maxHeartbeats 2000000 in
theorem rsum_any (w : World) (v1 v2 vd : Value) (D : Int) (P Q : Ed.Pt) (hP : P.Good) (hQ : Q.Good) (hD : Ed.Cg D Ed.dd) (hd : Nn w vd D) (h1 : Rq w v1 P) (h2 : Rq w v2 Q) :
    Calls Tryd.prog 37 #[v1, v2, vd] w fun e w' => ∃ v, e = .returned v ∧ Rq w' v (Ed.add P Q) ∧ Below w.heap.size w w' := by
  obtain ⟨x1, y1, z1, X1, Y1, Z1, rfl, hx1, hy1, hz1, hR1⟩ := h1
  obtain ⟨x2, y2, z2, X2, Y2, Z2, rfl, hx2, hy2, hz2, hR2⟩ := h2
  have S0 : Hid (Rs w [(vd, D), (x1, X1), (y1, Y1), (z1, Z1), (x2, X2), (y2, Y2), (z2, Z2)] [(w.heap.size, #[x1, y1, z1]), (w.heap.size + 1, #[x2, y2, z2]), (w.heap.size + 1 + 1, rz)] (((w.alloc (.cells #[x1, y1, z1] 33)).alloc (.cells #[x2, y2, z2] 33)).alloc (.cells rz 33))) := by
    obtain ⟨⟨g1, g2, g3⟩, g4⟩ := heap_alloc3 w (.cells #[x1, y1, z1] 33) (.cells #[x2, y2, z2] 33) (.cells rz 33)
    refine ⟨fun r hr => ?_, fun r hr => ?_, g4⟩
    · simp only [List.mem_cons, List.not_mem_nil, or_false] at hr
      rcases hr with rfl | rfl | rfl | rfl | rfl | rfl | rfl
      · exact hd.below g4
      · exact hx1.below g4
      · exact hy1.below g4
      · exact hz1.below g4
      · exact hx2.below g4
      · exact hy2.below g4
      · exact hz2.below g4
    · simp only [List.mem_cons, List.not_mem_nil, or_false] at hr
      rcases hr with rfl | rfl | rfl
      · exact g1
      · exact g2
      · exact g3
  have HR1 := Lib.hid hR1
  have HR2 := Lib.hid hR2
  have HP := Lib.hid hP
  have HQ := Lib.hid hQ
  have HD := Lib.hid hD
  have o1 : Hid (x1.oneCell' = true ∧ y1.oneCell' = true ∧ z1.oneCell' = true) := ⟨hx1.one, hy1.one, hz1.one⟩
  clear hP hQ hD hd hx1 hy1 hz1 hx2 hy2 hz2 hR1 hR2
  obtain ⟨na, hna⟩ : ∃ z, z = Z1 * Z2 % Fe.P := ⟨_, rfl⟩
  have Hna : Hid (na = Z1 * Z2 % Fe.P) := hna
  clear hna
  obtain ⟨nb, hnb⟩ : ∃ z, z = na * na % Fe.P := ⟨_, rfl⟩
  have Hnb : Hid (nb = na * na % Fe.P) := hnb
  clear hnb
  obtain ⟨nc, hnc⟩ : ∃ z, z = X1 * X2 % Fe.P := ⟨_, rfl⟩
  have Hnc : Hid (nc = X1 * X2 % Fe.P) := hnc
  clear hnc
  obtain ⟨ne, hne⟩ : ∃ z, z = Y1 * Y2 % Fe.P := ⟨_, rfl⟩
  have Hne : Hid (ne = Y1 * Y2 % Fe.P) := hne
  clear hne
  obtain ⟨nt, hnt⟩ : ∃ z, z = nc * ne % Fe.P := ⟨_, rfl⟩
  have Hnt : Hid (nt = nc * ne % Fe.P) := hnt
  clear hnt
  obtain ⟨nf, hnf⟩ : ∃ z, z = D * nt % Fe.P := ⟨_, rfl⟩
  have Hnf : Hid (nf = D * nt % Fe.P) := hnf
  clear hnf
  obtain ⟨ng, hng⟩ : ∃ z, z = (nb - nf) % Fe.P := ⟨_, rfl⟩
  have Hng : Hid (ng = (nb - nf) % Fe.P) := hng
  clear hng
  obtain ⟨nh, hnh⟩ : ∃ z, z = (nb + nf) % Fe.P := ⟨_, rfl⟩
  have Hnh : Hid (nh = (nb + nf) % Fe.P) := hnh
  clear hnh
  obtain ⟨nag, hnag⟩ : ∃ z, z = na * ng % Fe.P := ⟨_, rfl⟩
  have Hnag : Hid (nag = na * ng % Fe.P) := hnag
  clear hnag
  obtain ⟨s1, hs1⟩ : ∃ z, z = (X1 + Y1) % Fe.P := ⟨_, rfl⟩
  have Hs1 : Hid (s1 = (X1 + Y1) % Fe.P) := hs1
  clear hs1
  obtain ⟨s2, hs2⟩ : ∃ z, z = (X2 + Y2) % Fe.P := ⟨_, rfl⟩
  have Hs2 : Hid (s2 = (X2 + Y2) % Fe.P) := hs2
  clear hs2
  obtain ⟨s3, hs3⟩ : ∃ z, z = s1 * s2 % Fe.P := ⟨_, rfl⟩
  have Hs3 : Hid (s3 = s1 * s2 % Fe.P) := hs3
  clear hs3
  obtain ⟨s4, hs4⟩ : ∃ z, z = (s3 - nc) % Fe.P := ⟨_, rfl⟩
  have Hs4 : Hid (s4 = (s3 - nc) % Fe.P) := hs4
  clear hs4
  obtain ⟨nu, hnu⟩ : ∃ z, z = (s4 - ne) % Fe.P := ⟨_, rfl⟩
  have Hnu : Hid (nu = (s4 - ne) % Fe.P) := hnu
  clear hnu
  obtain ⟨nx, hnx⟩ : ∃ z, z = nag * nu % Fe.P := ⟨_, rfl⟩
  have Hnx : Hid (nx = nag * nu % Fe.P) := hnx
  clear hnx
  obtain ⟨nah, hnah⟩ : ∃ z, z = na * nh % Fe.P := ⟨_, rfl⟩
  have Hnah : Hid (nah = na * nh % Fe.P) := hnah
  clear hnah
  obtain ⟨nv, hnv⟩ : ∃ z, z = (ne + nc) % Fe.P := ⟨_, rfl⟩
  have Hnv : Hid (nv = (ne + nc) % Fe.P) := hnv
  clear hnv
  obtain ⟨ny, hny⟩ : ∃ z, z = nah * nv % Fe.P := ⟨_, rfl⟩
  have Hny : Hid (ny = nah * nv % Fe.P) := hny
  clear hny
  obtain ⟨nz, hnz⟩ : ∃ z, z = ng * nh % Fe.P := ⟨_, rfl⟩
  have Hnz : Hid (nz = ng * nh % Fe.P) := hnz
  clear hnz
  have HR : Hid (Ed.R3 nx ny nz (Ed.add P Q)) := by
    have m : ∀ {a n : Int}, Hid (a = n % Fe.P) → Ed.Cg a n := fun h => by rw [h.out]; exact cgP _
    have mq : ∀ {a n : Int}, Hid (a = n % Fe.P) → a = n % Ed.q := fun h => by rw [h.out, q_P]
    exact Ed.R3.sum HP.out HQ.out HD.out HR1.out HR2.out (m Hna) (m Hnb) (m Hnc) (m Hne) ((m Hnf).trans ((Ed.Cg.refl D).mul (m Hnt))) (m Hng) (m Hnh)
      ((m Hnu).trans (((m Hs4).trans (((m Hs3).trans ((m Hs1).mul (m Hs2))).sub (Ed.Cg.refl nc))).sub (Ed.Cg.refl ne))) (m Hnv) ((Ed.Cg.refl (na*ng)).mul (Ed.Cg.refl nu)) ((Ed.Cg.refl (na*nh)).mul (Ed.Cg.refl nv))
      (x' := nx) (y' := ny) (z' := nz) ((mq Hnx).trans (((m Hnag).mul (Ed.Cg.refl nu)).mod)) ((mq Hny).trans (((m Hnah).mul (Ed.Cg.refl nv)).mod)) (mq Hnz)
  clear HR1 HR2 HP HQ HD
  go_enter Tryd.func37, Tryd.ntmps37
  go_upto_region 1 with fail
  change Code.wp _ _ _ _ (((w.alloc (.cells #[x1, y1, z1] 33)).alloc (.cells #[x2, y2, z2] 33)).alloc (.cells rz 33))
  generalize ((w.alloc (.cells #[x1, y1, z1] 33)).alloc (.cells #[x2, y2, z2] 33)).alloc (.cells rz 33) = w0 at *
  refine Grow.region_seq 5 (fun i => List.getD (Grow.Spec.is (.pointer (some ⟨w.heap.size, 2, none⟩)) :: Grow.nat Z1 :: Grow.Spec.is (.pointer (some ⟨(w.heap.size + 1), 2, none⟩)) :: Grow.nat Z2 :: Grow.nat na :: []) i (Grow.Spec.is undef)) (by kernel_rfl) ⟨
    Grow.h2_fa33 (Or.inl rfl) 3 w.heap.size 2 (by decide) rfl (by kernel_rfl) rfl rfl,
    Grow.h2_load29 (Or.inl rfl) 0 16 w.heap.size 2 z1 Z1 rfl (by kernel_rfl) rfl (lt_of_block (S0.out.blks (w.heap.size, #[x1, y1, z1]) (by simp))) (by rw [cell_of_row _ _ _ _ 33 (0, 0) (S0.out.blks (w.heap.size, #[x1, y1, z1]) (by simp))]; rfl) (S0.out.vals (z1, Z1) (by simp)) rfl,
    Grow.h2_fa33 (Or.inl rfl) 4 (w.heap.size + 1) 2 (by decide) rfl (by kernel_rfl) rfl rfl,
    Grow.h2_load29 (Or.inl rfl) 2 18 (w.heap.size + 1) 2 z2 Z2 rfl (by kernel_rfl) rfl (lt_of_block (S0.out.blks ((w.heap.size + 1), #[x2, y2, z2]) (by simp))) (by rw [cell_of_row _ _ _ _ 33 (0, 0) (S0.out.blks ((w.heap.size + 1), #[x2, y2, z2]) (by simp))]; rfl) (S0.out.vals (z2, Z2) (by simp)) rfl,
    Grow.h2_call2 (Or.inl rfl) 32 Grow.enter32 _ _ _ rfl (fun a wx hk => by have e1 : Nn wx (a.eval (.tmp 17)) Z1 := (hk.deps 1 17 (by kernel_rfl)); have e2 : Nn wx (a.eval (.tmp 19)) Z2 := (hk.deps 3 19 (by kernel_rfl)); refine (Grow.c_rmul e1 e2).mono ?_; rintro e w5 ⟨v, rfl, hv, hb⟩; exact ⟨_, rfl, Hna.out.symm ▸ hv, hb⟩),
    trivial⟩ ?_
  intro a w1 hb hts hk hdf hfr
  have hva : Nn w1 (a.eval (.tmp 20)) na := hk 4 20 (by decide) rfl
  have S1 := Lib.hid ((S0.out.below hb).add hva)
  refine ⟨rfl, Grow.wp_assign 7 (.tmp 20) rfl rfl ?_⟩
  have ha := Grow.act_after hts hdf hfr
  rw [show Grow.dsts _ 5 = [16, 17, 18, 19, 20] from by kernel_rfl] at ha
  simp only [Grow.putAll] at ha
  generalize a.eval (.tmp 20) = va at *
  generalize a.eval (.tmp 16) = u16 at ha
  generalize a.eval (.tmp 17) = u17 at ha
  generalize a.eval (.tmp 18) = u18 at ha
  generalize a.eval (.tmp 19) = u19 at ha
  clear hk hts hdf hfr hb S0 hva
  simp [Act.put] at ha
  subst ha
  unfold Grow.wpSeq
  go_upto_region 2 with fail
  refine Grow.region_seq 3 (fun i => List.getD (Grow.nat na :: Grow.nat na :: Grow.nat nb :: []) i (Grow.Spec.is undef)) (by kernel_rfl) ⟨
    Grow.h2_nat (Or.inl rfl) 7 va na rfl (by kernel_rfl) rfl (S1.out.vals (va, na) (by simp)) rfl,
    Grow.h2_nat (Or.inl rfl) 7 va na rfl (by kernel_rfl) rfl (S1.out.vals (va, na) (by simp)) rfl,
    Grow.h2_call2 (Or.inl rfl) 32 Grow.enter32 _ _ _ rfl (fun a wx hk => by have e1 : Nn wx (a.eval (.tmp 21)) na := (hk.deps 0 21 (by kernel_rfl)); have e2 : Nn wx (a.eval (.tmp 22)) na := (hk.deps 1 22 (by kernel_rfl)); refine (Grow.c_rmul e1 e2).mono ?_; rintro e w5 ⟨v, rfl, hv, hb⟩; exact ⟨_, rfl, Hnb.out.symm ▸ hv, hb⟩),
    trivial⟩ ?_
  intro a w2 hb hts hk hdf hfr
  have hvb : Nn w2 (a.eval (.tmp 23)) nb := hk 2 23 (by decide) rfl
  have S2 := Lib.hid ((S1.out.below hb).add hvb)
  refine ⟨rfl, Grow.wp_assign 8 (.tmp 23) rfl rfl ?_⟩
  have ha := Grow.act_after hts hdf hfr
  rw [show Grow.dsts _ 3 = [21, 22, 23] from by kernel_rfl] at ha
  simp only [Grow.putAll] at ha
  generalize a.eval (.tmp 23) = vb at *
  generalize a.eval (.tmp 21) = u21 at ha
  generalize a.eval (.tmp 22) = u22 at ha
  clear hk hts hdf hfr hb S1 hvb
  simp [Act.put] at ha
  subst ha
  unfold Grow.wpSeq
  go_upto_region 3 with fail
  refine Grow.region_seq 5 (fun i => List.getD (Grow.Spec.is (.pointer (some ⟨w.heap.size, 0, none⟩)) :: Grow.nat X1 :: Grow.Spec.is (.pointer (some ⟨(w.heap.size + 1), 0, none⟩)) :: Grow.nat X2 :: Grow.nat nc :: []) i (Grow.Spec.is undef)) (by kernel_rfl) ⟨
    Grow.h2_fa33 (Or.inl rfl) 3 w.heap.size 0 (by decide) rfl (by kernel_rfl) rfl rfl,
    Grow.h2_load29 (Or.inl rfl) 0 24 w.heap.size 0 x1 X1 rfl (by kernel_rfl) rfl (lt_of_block (S2.out.blks (w.heap.size, #[x1, y1, z1]) (by simp))) (by rw [cell_of_row _ _ _ _ 33 (0, 0) (S2.out.blks (w.heap.size, #[x1, y1, z1]) (by simp))]; rfl) (S2.out.vals (x1, X1) (by simp)) rfl,
    Grow.h2_fa33 (Or.inl rfl) 4 (w.heap.size + 1) 0 (by decide) rfl (by kernel_rfl) rfl rfl,
    Grow.h2_load29 (Or.inl rfl) 2 26 (w.heap.size + 1) 0 x2 X2 rfl (by kernel_rfl) rfl (lt_of_block (S2.out.blks ((w.heap.size + 1), #[x2, y2, z2]) (by simp))) (by rw [cell_of_row _ _ _ _ 33 (0, 0) (S2.out.blks ((w.heap.size + 1), #[x2, y2, z2]) (by simp))]; rfl) (S2.out.vals (x2, X2) (by simp)) rfl,
    Grow.h2_call2 (Or.inl rfl) 32 Grow.enter32 _ _ _ rfl (fun a wx hk => by have e1 : Nn wx (a.eval (.tmp 25)) X1 := (hk.deps 1 25 (by kernel_rfl)); have e2 : Nn wx (a.eval (.tmp 27)) X2 := (hk.deps 3 27 (by kernel_rfl)); refine (Grow.c_rmul e1 e2).mono ?_; rintro e w5 ⟨v, rfl, hv, hb⟩; exact ⟨_, rfl, Hnc.out.symm ▸ hv, hb⟩),
    trivial⟩ ?_
  intro a w3 hb hts hk hdf hfr
  have hvc : Nn w3 (a.eval (.tmp 28)) nc := hk 4 28 (by decide) rfl
  have S3 := Lib.hid ((S2.out.below hb).add hvc)
  refine ⟨rfl, Grow.wp_assign 9 (.tmp 28) rfl rfl ?_⟩
  have ha := Grow.act_after hts hdf hfr
  rw [show Grow.dsts _ 5 = [24, 25, 26, 27, 28] from by kernel_rfl] at ha
  simp only [Grow.putAll] at ha
  generalize a.eval (.tmp 28) = vc at *
  generalize a.eval (.tmp 24) = u24 at ha
  generalize a.eval (.tmp 25) = u25 at ha
  generalize a.eval (.tmp 26) = u26 at ha
  generalize a.eval (.tmp 27) = u27 at ha
  clear hk hts hdf hfr hb S2 hvc
  simp [Act.put] at ha
  subst ha
  unfold Grow.wpSeq
  go_upto_region 4 with fail
  refine Grow.region_seq 5 (fun i => List.getD (Grow.Spec.is (.pointer (some ⟨w.heap.size, 1, none⟩)) :: Grow.nat Y1 :: Grow.Spec.is (.pointer (some ⟨(w.heap.size + 1), 1, none⟩)) :: Grow.nat Y2 :: Grow.nat ne :: []) i (Grow.Spec.is undef)) (by kernel_rfl) ⟨
    Grow.h2_fa33 (Or.inl rfl) 3 w.heap.size 1 (by decide) rfl (by kernel_rfl) rfl rfl,
    Grow.h2_load29 (Or.inl rfl) 0 29 w.heap.size 1 y1 Y1 rfl (by kernel_rfl) rfl (lt_of_block (S3.out.blks (w.heap.size, #[x1, y1, z1]) (by simp))) (by rw [cell_of_row _ _ _ _ 33 (0, 0) (S3.out.blks (w.heap.size, #[x1, y1, z1]) (by simp))]; rfl) (S3.out.vals (y1, Y1) (by simp)) rfl,
    Grow.h2_fa33 (Or.inl rfl) 4 (w.heap.size + 1) 1 (by decide) rfl (by kernel_rfl) rfl rfl,
    Grow.h2_load29 (Or.inl rfl) 2 31 (w.heap.size + 1) 1 y2 Y2 rfl (by kernel_rfl) rfl (lt_of_block (S3.out.blks ((w.heap.size + 1), #[x2, y2, z2]) (by simp))) (by rw [cell_of_row _ _ _ _ 33 (0, 0) (S3.out.blks ((w.heap.size + 1), #[x2, y2, z2]) (by simp))]; rfl) (S3.out.vals (y2, Y2) (by simp)) rfl,
    Grow.h2_call2 (Or.inl rfl) 32 Grow.enter32 _ _ _ rfl (fun a wx hk => by have e1 : Nn wx (a.eval (.tmp 30)) Y1 := (hk.deps 1 30 (by kernel_rfl)); have e2 : Nn wx (a.eval (.tmp 32)) Y2 := (hk.deps 3 32 (by kernel_rfl)); refine (Grow.c_rmul e1 e2).mono ?_; rintro e w5 ⟨v, rfl, hv, hb⟩; exact ⟨_, rfl, Hne.out.symm ▸ hv, hb⟩),
    trivial⟩ ?_
  intro a w4 hb hts hk hdf hfr
  have hve : Nn w4 (a.eval (.tmp 33)) ne := hk 4 33 (by decide) rfl
  have S4 := Lib.hid ((S3.out.below hb).add hve)
  refine ⟨rfl, Grow.wp_assign 10 (.tmp 33) rfl rfl ?_⟩
  have ha := Grow.act_after hts hdf hfr
  rw [show Grow.dsts _ 5 = [29, 30, 31, 32, 33] from by kernel_rfl] at ha
  simp only [Grow.putAll] at ha
  generalize a.eval (.tmp 33) = ve at *
  generalize a.eval (.tmp 29) = u29 at ha
  generalize a.eval (.tmp 30) = u30 at ha
  generalize a.eval (.tmp 31) = u31 at ha
  generalize a.eval (.tmp 32) = u32 at ha
  clear hk hts hdf hfr hb S3 hve
  simp [Act.put] at ha
  subst ha
  unfold Grow.wpSeq
  go_upto_region 5 with fail
  refine Grow.region_seq 5 (fun i => List.getD (Grow.nat D :: Grow.nat nc :: Grow.nat ne :: Grow.nat nt :: Grow.nat nf :: []) i (Grow.Spec.is undef)) (by kernel_rfl) ⟨
    Grow.h2_nat (Or.inl rfl) 2 vd D rfl (by kernel_rfl) rfl (S4.out.vals (vd, D) (by simp)) rfl,
    Grow.h2_nat (Or.inl rfl) 9 vc nc rfl (by kernel_rfl) rfl (S4.out.vals (vc, nc) (by simp)) rfl,
    Grow.h2_nat (Or.inl rfl) 10 ve ne rfl (by kernel_rfl) rfl (S4.out.vals (ve, ne) (by simp)) rfl,
    Grow.h2_call2 (Or.inl rfl) 32 Grow.enter32 _ _ _ rfl (fun a wx hk => by have e1 : Nn wx (a.eval (.tmp 35)) nc := (hk.deps 1 35 (by kernel_rfl)); have e2 : Nn wx (a.eval (.tmp 36)) ne := (hk.deps 2 36 (by kernel_rfl)); refine (Grow.c_rmul e1 e2).mono ?_; rintro e w5 ⟨v, rfl, hv, hb⟩; exact ⟨_, rfl, Hnt.out.symm ▸ hv, hb⟩),
    Grow.h2_call2 (Or.inl rfl) 32 Grow.enter32 _ _ _ rfl (fun a wx hk => by have e1 : Nn wx (a.eval (.tmp 34)) D := (hk.deps 0 34 (by kernel_rfl)); have e2 : Nn wx (a.eval (.tmp 37)) nt := (hk.deps 3 37 (by kernel_rfl)); refine (Grow.c_rmul e1 e2).mono ?_; rintro e w5 ⟨v, rfl, hv, hb⟩; exact ⟨_, rfl, Hnf.out.symm ▸ hv, hb⟩),
    trivial⟩ ?_
  intro a w5 hb hts hk hdf hfr
  have hvf : Nn w5 (a.eval (.tmp 38)) nf := hk 4 38 (by decide) rfl
  have S5 := Lib.hid ((S4.out.below hb).add hvf)
  refine ⟨rfl, Grow.wp_assign 11 (.tmp 38) rfl rfl ?_⟩
  have ha := Grow.act_after hts hdf hfr
  rw [show Grow.dsts _ 5 = [34, 35, 36, 37, 38] from by kernel_rfl] at ha
  simp only [Grow.putAll] at ha
  generalize a.eval (.tmp 38) = vf at *
  generalize a.eval (.tmp 34) = u34 at ha
  generalize a.eval (.tmp 35) = u35 at ha
  generalize a.eval (.tmp 36) = u36 at ha
  generalize a.eval (.tmp 37) = u37 at ha
  clear hk hts hdf hfr hb S4 hvf
  simp [Act.put] at ha
  subst ha
  unfold Grow.wpSeq
  go_upto_region 6 with fail
  refine Grow.region_seq 6 (fun i => List.getD (Grow.nat nb :: Grow.nat nf :: Grow.nat ng :: Grow.nat nb :: Grow.nat nf :: Grow.nat nh :: []) i (Grow.Spec.is undef)) (by kernel_rfl) ⟨
    Grow.h2_nat (Or.inl rfl) 8 vb nb rfl (by kernel_rfl) rfl (S5.out.vals (vb, nb) (by simp)) rfl,
    Grow.h2_nat (Or.inl rfl) 11 vf nf rfl (by kernel_rfl) rfl (S5.out.vals (vf, nf) (by simp)) rfl,
    Grow.h2_call2 (Or.inl rfl) 63 Grow.enter63 _ _ _ rfl (fun a wx hk => by have e1 : Nn wx (a.eval (.tmp 39)) nb := (hk.deps 0 39 (by kernel_rfl)); have e2 : Nn wx (a.eval (.tmp 40)) nf := (hk.deps 1 40 (by kernel_rfl)); refine (c_rsub e1 e2 (by rw [Hnf.out]; exact mod_P_le _)).mono ?_; rintro e w5 ⟨v, rfl, hv, hb⟩; exact ⟨_, rfl, Hng.out.symm ▸ hv, hb⟩),
    Grow.h2_nat (Or.inl rfl) 8 vb nb rfl (by kernel_rfl) rfl (S5.out.vals (vb, nb) (by simp)) rfl,
    Grow.h2_nat (Or.inl rfl) 11 vf nf rfl (by kernel_rfl) rfl (S5.out.vals (vf, nf) (by simp)) rfl,
    Grow.h2_call2 (Or.inl rfl) 65 Grow.enter65 _ _ _ rfl (fun a wx hk => by have e1 : Nn wx (a.eval (.tmp 42)) nb := (hk.deps 3 42 (by kernel_rfl)); have e2 : Nn wx (a.eval (.tmp 43)) nf := (hk.deps 4 43 (by kernel_rfl)); refine (c_radd e1 e2).mono ?_; rintro e w5 ⟨v, rfl, hv, hb⟩; exact ⟨_, rfl, Hnh.out.symm ▸ hv, hb⟩),
    trivial⟩ ?_
  intro a w6 hb hts hk hdf hfr
  have hvg : Nn w6 (a.eval (.tmp 41)) ng := hk 2 41 (by decide) rfl
  have hvh : Nn w6 (a.eval (.tmp 44)) nh := hk 5 44 (by decide) rfl
  have S6 := Lib.hid (((S5.out.below hb).add hvg).add hvh)
  refine ⟨rfl, Grow.wp_assign 12 (.tmp 41) rfl rfl ?_⟩
  refine ⟨rfl, Grow.wp_assign 13 (.tmp 44) rfl rfl ?_⟩
  rw [Grow.eval_put_ne (by decide)]
  have ha := Grow.act_after hts hdf hfr
  rw [show Grow.dsts _ 6 = [39, 40, 41, 42, 43, 44] from by kernel_rfl] at ha
  simp only [Grow.putAll] at ha
  generalize a.eval (.tmp 41) = vg at *
  generalize a.eval (.tmp 44) = vh at *
  generalize a.eval (.tmp 39) = u39 at ha
  generalize a.eval (.tmp 40) = u40 at ha
  generalize a.eval (.tmp 42) = u42 at ha
  generalize a.eval (.tmp 43) = u43 at ha
  clear hk hts hdf hfr hb S5 hvg hvh
  simp [Act.put] at ha
  subst ha
  unfold Grow.wpSeq
  go_upto_region 7 with fail
  refine Grow.region_rest (by kernel_rfl) 19 (fun i => List.getD (Grow.nat na :: Grow.nat ng :: Grow.nat nag :: Grow.Spec.is (.pointer (some ⟨w.heap.size, 0, none⟩)) :: Grow.nat X1 :: Grow.Spec.is (.pointer (some ⟨w.heap.size, 1, none⟩)) :: Grow.nat Y1 :: Grow.nat s1 :: Grow.Spec.is (.pointer (some ⟨(w.heap.size + 1), 0, none⟩)) :: Grow.nat X2 :: Grow.Spec.is (.pointer (some ⟨(w.heap.size + 1), 1, none⟩)) :: Grow.nat Y2 :: Grow.nat s2 :: Grow.nat s3 :: Grow.nat nc :: Grow.nat s4 :: Grow.nat ne :: Grow.nat nu :: Grow.nat nx :: []) i (Grow.Spec.is undef)) (by kernel_rfl) ⟨
    Grow.h2_nat (Or.inl rfl) 7 va na rfl (by kernel_rfl) rfl (S6.out.vals (va, na) (by simp)) rfl,
    Grow.h2_nat (Or.inl rfl) 12 vg ng rfl (by kernel_rfl) rfl (S6.out.vals (vg, ng) (by simp)) rfl,
    Grow.h2_call2 (Or.inl rfl) 32 Grow.enter32 _ _ _ rfl (fun a wx hk => by have e1 : Nn wx (a.eval (.tmp 45)) na := (hk.deps 0 45 (by kernel_rfl)); have e2 : Nn wx (a.eval (.tmp 46)) ng := (hk.deps 1 46 (by kernel_rfl)); refine (Grow.c_rmul e1 e2).mono ?_; rintro e w5 ⟨v, rfl, hv, hb⟩; exact ⟨_, rfl, Hnag.out.symm ▸ hv, hb⟩),
    Grow.h2_fa33 (Or.inl rfl) 3 w.heap.size 0 (by decide) rfl (by kernel_rfl) rfl rfl,
    Grow.h2_load29 (Or.inl rfl) 3 48 w.heap.size 0 x1 X1 rfl (by kernel_rfl) rfl (lt_of_block (S6.out.blks (w.heap.size, #[x1, y1, z1]) (by simp))) (by rw [cell_of_row _ _ _ _ 33 (0, 0) (S6.out.blks (w.heap.size, #[x1, y1, z1]) (by simp))]; rfl) (S6.out.vals (x1, X1) (by simp)) rfl,
    Grow.h2_fa33 (Or.inl rfl) 3 w.heap.size 1 (by decide) rfl (by kernel_rfl) rfl rfl,
    Grow.h2_load29 (Or.inl rfl) 5 50 w.heap.size 1 y1 Y1 rfl (by kernel_rfl) rfl (lt_of_block (S6.out.blks (w.heap.size, #[x1, y1, z1]) (by simp))) (by rw [cell_of_row _ _ _ _ 33 (0, 0) (S6.out.blks (w.heap.size, #[x1, y1, z1]) (by simp))]; rfl) (S6.out.vals (y1, Y1) (by simp)) rfl,
    Grow.h2_call2 (Or.inl rfl) 65 Grow.enter65 _ _ _ rfl (fun a wx hk => by have e1 : Nn wx (a.eval (.tmp 49)) X1 := (hk.deps 4 49 (by kernel_rfl)); have e2 : Nn wx (a.eval (.tmp 51)) Y1 := (hk.deps 6 51 (by kernel_rfl)); refine (c_radd e1 e2).mono ?_; rintro e w5 ⟨v, rfl, hv, hb⟩; exact ⟨_, rfl, Hs1.out.symm ▸ hv, hb⟩),
    Grow.h2_fa33 (Or.inl rfl) 4 (w.heap.size + 1) 0 (by decide) rfl (by kernel_rfl) rfl rfl,
    Grow.h2_load29 (Or.inl rfl) 8 53 (w.heap.size + 1) 0 x2 X2 rfl (by kernel_rfl) rfl (lt_of_block (S6.out.blks ((w.heap.size + 1), #[x2, y2, z2]) (by simp))) (by rw [cell_of_row _ _ _ _ 33 (0, 0) (S6.out.blks ((w.heap.size + 1), #[x2, y2, z2]) (by simp))]; rfl) (S6.out.vals (x2, X2) (by simp)) rfl,
    Grow.h2_fa33 (Or.inl rfl) 4 (w.heap.size + 1) 1 (by decide) rfl (by kernel_rfl) rfl rfl,
    Grow.h2_load29 (Or.inl rfl) 10 55 (w.heap.size + 1) 1 y2 Y2 rfl (by kernel_rfl) rfl (lt_of_block (S6.out.blks ((w.heap.size + 1), #[x2, y2, z2]) (by simp))) (by rw [cell_of_row _ _ _ _ 33 (0, 0) (S6.out.blks ((w.heap.size + 1), #[x2, y2, z2]) (by simp))]; rfl) (S6.out.vals (y2, Y2) (by simp)) rfl,
    Grow.h2_call2 (Or.inl rfl) 65 Grow.enter65 _ _ _ rfl (fun a wx hk => by have e1 : Nn wx (a.eval (.tmp 54)) X2 := (hk.deps 9 54 (by kernel_rfl)); have e2 : Nn wx (a.eval (.tmp 56)) Y2 := (hk.deps 11 56 (by kernel_rfl)); refine (c_radd e1 e2).mono ?_; rintro e w5 ⟨v, rfl, hv, hb⟩; exact ⟨_, rfl, Hs2.out.symm ▸ hv, hb⟩),
    Grow.h2_call2 (Or.inl rfl) 32 Grow.enter32 _ _ _ rfl (fun a wx hk => by have e1 : Nn wx (a.eval (.tmp 52)) s1 := (hk.deps 7 52 (by kernel_rfl)); have e2 : Nn wx (a.eval (.tmp 57)) s2 := (hk.deps 12 57 (by kernel_rfl)); refine (Grow.c_rmul e1 e2).mono ?_; rintro e w5 ⟨v, rfl, hv, hb⟩; exact ⟨_, rfl, Hs3.out.symm ▸ hv, hb⟩),
    Grow.h2_nat (Or.inl rfl) 9 vc nc rfl (by kernel_rfl) rfl (S6.out.vals (vc, nc) (by simp)) rfl,
    Grow.h2_call2 (Or.inl rfl) 63 Grow.enter63 _ _ _ rfl (fun a wx hk => by have e1 : Nn wx (a.eval (.tmp 58)) s3 := (hk.deps 13 58 (by kernel_rfl)); have e2 : Nn wx (a.eval (.tmp 59)) nc := (hk.deps 14 59 (by kernel_rfl)); refine (c_rsub e1 e2 (by rw [Hnc.out]; exact mod_P_le _)).mono ?_; rintro e w5 ⟨v, rfl, hv, hb⟩; exact ⟨_, rfl, Hs4.out.symm ▸ hv, hb⟩),
    Grow.h2_nat (Or.inl rfl) 10 ve ne rfl (by kernel_rfl) rfl (S6.out.vals (ve, ne) (by simp)) rfl,
    Grow.h2_call2 (Or.inl rfl) 63 Grow.enter63 _ _ _ rfl (fun a wx hk => by have e1 : Nn wx (a.eval (.tmp 60)) s4 := (hk.deps 15 60 (by kernel_rfl)); have e2 : Nn wx (a.eval (.tmp 61)) ne := (hk.deps 16 61 (by kernel_rfl)); refine (c_rsub e1 e2 (by rw [Hne.out]; exact mod_P_le _)).mono ?_; rintro e w5 ⟨v, rfl, hv, hb⟩; exact ⟨_, rfl, Hnu.out.symm ▸ hv, hb⟩),
    Grow.h2_call2 (Or.inl rfl) 32 Grow.enter32 _ _ _ rfl (fun a wx hk => by have e1 : Nn wx (a.eval (.tmp 47)) nag := (hk.deps 2 47 (by kernel_rfl)); have e2 : Nn wx (a.eval (.tmp 62)) nu := (hk.deps 17 62 (by kernel_rfl)); refine (Grow.c_rmul e1 e2).mono ?_; rintro e w5 ⟨v, rfl, hv, hb⟩; exact ⟨_, rfl, Hnx.out.symm ▸ hv, hb⟩),
    trivial⟩ ?_
  intro a w7 hb hts hk hdf hfr
  have hvx : Nn w7 (a.eval (.tmp 63)) nx := hk 18 63 (by decide) rfl
  have S7 := Lib.hid ((S6.out.below hb).add hvx)
  refine ⟨rfl, Grow.wp_assign 14 (.tmp 63) rfl rfl ?_⟩
  have ha := Grow.act_after hts hdf hfr
  rw [show Grow.dsts _ 19 = [45, 46, 47, 48, 49, 50, 51, 52, 53, 54, 55, 56, 57, 58, 59, 60, 61, 62, 63] from by kernel_rfl] at ha
  simp only [Grow.putAll] at ha
  generalize a.eval (.tmp 63) = vx at *
  generalize a.eval (.tmp 45) = u45 at ha
  generalize a.eval (.tmp 46) = u46 at ha
  generalize a.eval (.tmp 47) = u47 at ha
  generalize a.eval (.tmp 48) = u48 at ha
  generalize a.eval (.tmp 49) = u49 at ha
  generalize a.eval (.tmp 50) = u50 at ha
  generalize a.eval (.tmp 51) = u51 at ha
  generalize a.eval (.tmp 52) = u52 at ha
  generalize a.eval (.tmp 53) = u53 at ha
  generalize a.eval (.tmp 54) = u54 at ha
  generalize a.eval (.tmp 55) = u55 at ha
  generalize a.eval (.tmp 56) = u56 at ha
  generalize a.eval (.tmp 57) = u57 at ha
  generalize a.eval (.tmp 58) = u58 at ha
  generalize a.eval (.tmp 59) = u59 at ha
  generalize a.eval (.tmp 60) = u60 at ha
  generalize a.eval (.tmp 61) = u61 at ha
  generalize a.eval (.tmp 62) = u62 at ha
  clear hk hts hdf hfr hb S6 hvx
  simp [Act.put] at ha
  subst ha
  unfold Grow.wpSeq
  go_upto_region 8 with fail
  refine Grow.region_seq 7 (fun i => List.getD (Grow.nat na :: Grow.nat nh :: Grow.nat nah :: Grow.nat ne :: Grow.nat nc :: Grow.nat nv :: Grow.nat ny :: []) i (Grow.Spec.is undef)) (by kernel_rfl) ⟨
    Grow.h2_nat (Or.inl rfl) 7 va na rfl (by kernel_rfl) rfl (S7.out.vals (va, na) (by simp)) rfl,
    Grow.h2_nat (Or.inl rfl) 13 vh nh rfl (by kernel_rfl) rfl (S7.out.vals (vh, nh) (by simp)) rfl,
    Grow.h2_call2 (Or.inl rfl) 32 Grow.enter32 _ _ _ rfl (fun a wx hk => by have e1 : Nn wx (a.eval (.tmp 64)) na := (hk.deps 0 64 (by kernel_rfl)); have e2 : Nn wx (a.eval (.tmp 65)) nh := (hk.deps 1 65 (by kernel_rfl)); refine (Grow.c_rmul e1 e2).mono ?_; rintro e w5 ⟨v, rfl, hv, hb⟩; exact ⟨_, rfl, Hnah.out.symm ▸ hv, hb⟩),
    Grow.h2_nat (Or.inl rfl) 10 ve ne rfl (by kernel_rfl) rfl (S7.out.vals (ve, ne) (by simp)) rfl,
    Grow.h2_nat (Or.inl rfl) 9 vc nc rfl (by kernel_rfl) rfl (S7.out.vals (vc, nc) (by simp)) rfl,
    Grow.h2_call2 (Or.inl rfl) 65 Grow.enter65 _ _ _ rfl (fun a wx hk => by have e1 : Nn wx (a.eval (.tmp 67)) ne := (hk.deps 3 67 (by kernel_rfl)); have e2 : Nn wx (a.eval (.tmp 68)) nc := (hk.deps 4 68 (by kernel_rfl)); refine (c_radd e1 e2).mono ?_; rintro e w5 ⟨v, rfl, hv, hb⟩; exact ⟨_, rfl, Hnv.out.symm ▸ hv, hb⟩),
    Grow.h2_call2 (Or.inl rfl) 32 Grow.enter32 _ _ _ rfl (fun a wx hk => by have e1 : Nn wx (a.eval (.tmp 66)) nah := (hk.deps 2 66 (by kernel_rfl)); have e2 : Nn wx (a.eval (.tmp 69)) nv := (hk.deps 5 69 (by kernel_rfl)); refine (Grow.c_rmul e1 e2).mono ?_; rintro e w5 ⟨v, rfl, hv, hb⟩; exact ⟨_, rfl, Hny.out.symm ▸ hv, hb⟩),
    trivial⟩ ?_
  intro a w8 hb hts hk hdf hfr
  have hvy : Nn w8 (a.eval (.tmp 70)) ny := hk 6 70 (by decide) rfl
  have S8 := Lib.hid ((S7.out.below hb).add hvy)
  refine ⟨rfl, Grow.wp_assign 15 (.tmp 70) rfl rfl ?_⟩
  have ha := Grow.act_after hts hdf hfr
  rw [show Grow.dsts _ 7 = [64, 65, 66, 67, 68, 69, 70] from by kernel_rfl] at ha
  simp only [Grow.putAll] at ha
  generalize a.eval (.tmp 70) = vy at *
  generalize a.eval (.tmp 64) = u64 at ha
  generalize a.eval (.tmp 65) = u65 at ha
  generalize a.eval (.tmp 66) = u66 at ha
  generalize a.eval (.tmp 67) = u67 at ha
  generalize a.eval (.tmp 68) = u68 at ha
  generalize a.eval (.tmp 69) = u69 at ha
  clear hk hts hdf hfr hb S7 hvy
  simp [Act.put] at ha
  subst ha
  unfold Grow.wpSeq
  go_upto_region 9 with fail
  refine Grow.region_seq 6 (fun i => List.getD (Grow.nat nx :: Grow.nat ny :: Grow.nat ng :: Grow.nat nh :: Grow.nat nz :: Grow.rpS nx ny nz :: []) i (Grow.Spec.is undef)) (by kernel_rfl) ⟨
    Grow.h2_nat (Or.inl rfl) 14 vx nx rfl (by kernel_rfl) rfl (S8.out.vals (vx, nx) (by simp)) rfl,
    Grow.h2_nat (Or.inl rfl) 15 vy ny rfl (by kernel_rfl) rfl (S8.out.vals (vy, ny) (by simp)) rfl,
    Grow.h2_nat (Or.inl rfl) 12 vg ng rfl (by kernel_rfl) rfl (S8.out.vals (vg, ng) (by simp)) rfl,
    Grow.h2_nat (Or.inl rfl) 13 vh nh rfl (by kernel_rfl) rfl (S8.out.vals (vh, nh) (by simp)) rfl,
    Grow.h2_call2 (Or.inl rfl) 32 Grow.enter32 _ _ _ rfl (fun a wx hk => by have e1 : Nn wx (a.eval (.tmp 73)) ng := (hk.deps 2 73 (by kernel_rfl)); have e2 : Nn wx (a.eval (.tmp 74)) nh := (hk.deps 3 74 (by kernel_rfl)); refine (Grow.c_rmul e1 e2).mono ?_; rintro e w5 ⟨v, rfl, hv, hb⟩; exact ⟨_, rfl, Hnz.out.symm ▸ hv, hb⟩),
    Grow.h2_build33 (Or.inl rfl) 0 71 1 72 4 75 _ _ _ rfl (by kernel_rfl) (by kernel_rfl) (by kernel_rfl) rfl rfl rfl rfl,
    trivial⟩ ?_
  intro a w9 hb hts hk hdf hfr
  obtain ⟨ra, rb, rc, e76, hra, hrb, hrc⟩ : ∃ a' b' c', a.eval (.tmp 76) = .agg #[a', b', c'] ∧ Nn w9 a' nx ∧ Nn w9 b' ny ∧ Nn w9 c' nz := hk 5 76 (by decide) rfl
  have e6 : a.eval (.tmp 6) = .pointer (some ⟨w.heap.size + 1 + 1, 0, none⟩) := hfr 6 (by kernel_rfl)
  have hz := (S8.out.below hb).blks (w.heap.size + 1 + 1, rz) (by simp)
  refine ⟨rfl, wp_store_row 33 (.tmp 6) (.tmp 76) rfl (w.heap.size + 1 + 1) #[ra, rb, rc] e6 e76 33 rz hz i33 rfl (rp_one _ _ _ hra.one hrb.one hrc.one) ?_⟩
  have hS := setRow_heap w9 (w.heap.size + 1 + 1) _ #[ra, rb, rc] 33 _ hz
  have hB : Below w.heap.size w (w9.setRow (w.heap.size + 1 + 1) #[ra, rb, rc]) := below_setRow (S8.out.below hb).be (by omega) _
  have hq : Rq (w9.setRow (w.heap.size + 1 + 1) #[ra, rb, rc]) (.agg #[ra, rb, rc]) (Ed.add P Q) := ⟨ra, rb, rc, nx, ny, nz, rfl, nn_set hz rz_noint hra, nn_set hz rz_noint hrb, nn_set hz rz_noint hrc, HR.out⟩
  generalize w9.setRow (w.heap.size + 1 + 1) #[ra, rb, rc] = w10 at *
  have ha := Grow.act_after hts hdf hfr
  rw [show Grow.dsts _ 6 = [71, 72, 73, 74, 75, 76] from by kernel_rfl] at ha
  simp only [Grow.putAll] at ha
  generalize a.eval (.tmp 71) = u71 at ha
  generalize a.eval (.tmp 72) = u72 at ha
  generalize a.eval (.tmp 73) = u73 at ha
  generalize a.eval (.tmp 74) = u74 at ha
  generalize a.eval (.tmp 75) = u75 at ha
  generalize a.eval (.tmp 76) = u76 at ha
  clear hk hts hdf hfr e76 e6 hb hz S8 hra hrb hrc
  simp [Act.put] at ha
  subst ha
  unfold Grow.wpSeq
  go_wp2
  exact bodyPost_ret (results_cell_row Tryd.results37 _ _ (w.heap.size + 1 + 1) 33 _ (0, 0) _ rfl hS Tryd.underlying33 rfl i33) rfl ⟨_, rfl, hq, hB⟩
end Go.Proofs.YtiinmdleechcgaaDoor
