/- A turn of the code, walked: regions that read words and write one. -/
import Derived.Test.YticoefnojgaplaaAi
namespace Go.Proofs.Yticoefnojgaplaa
open Go.RowKit Go.Lib

/-- Only one block that was there changes. -/
def Only (g : Nat) (w w' : World) : Prop := w.grownBy w' (some g)
theorem Only.refl (g : Nat) (w : World) : Only g w w := ⟨rfl, rfl, rfl, Nat.le_refl _, fun _ _ _ => rfl⟩
theorem Only.trans {g : Nat} {a b c : World} (h : Only g a b) (k : Only g b c) : Only g a c :=
  ⟨k.os.trans h.os, k.tape.trans h.tape, k.output.trans h.output, Nat.le_trans h.size k.size, fun i hi hn => (k.block i (Nat.lt_of_lt_of_le hi h.size) hn).trans (h.block i hi hn)⟩
theorem Only.below {g : Nat} {a b : World} (h : Below a.heap.size a b) : Only g a b := ⟨h.os, h.tape, h.output, h.size, fun k hk _ => h.block k hk⟩
theorem Only.setCell {g : Nat} (w : World) (j : Nat) (v : Value) : Only g w (w.setCell ⟨g, j, none⟩ v) :=
  ⟨rfl, rfl, rfl, by simp [World.setCell], fun k _ hn => heap_setCell_other w ⟨g, j, none⟩ k v (fun e => hn (by rw [e]))⟩
theorem Only.toBelow {g B : Nat} {a b : World} (h : Only g a b) (hB : B ≤ g) (ha : B ≤ a.heap.size) : Below B a b := ⟨h.os, h.tape, h.output, h.size, fun k hk => h.block k (by omega) (by simp; omega)⟩
namespace Grow
section
variable {m : Nat} {ops : Array Oper} {Q : Exit → Act → World → Prop} {specs : Nat → Spec} {a0 : Act} {w0 : World} {i : Nat} {o : Oper}
theorem h2_nil (hr : Runs2 ops specs a0 o) (j d g : Nat) (ho : o.op = .nilCheck (.tmp d)) (hj : deps .any ops o j d = true) (hs : specs j = .is (.pointer (some ⟨g, 0, none⟩))) (hi : specs i = .is (.pointer (some ⟨g, 0, none⟩))) : Hop2 Try.prog m ops specs Q a0 w0 i o :=
  h2_val hr fun a w hk => by
    have h := hk.deps j d hj
    rw [hs] at h
    have h : a.eval (.tmp d) = .pointer (some ⟨g, 0, none⟩) := h
    refine ⟨.pointer (some ⟨g, 0, none⟩), w, ?_, by rw [hi]; rfl, Below.refl _ _⟩
    unfold execOp
    rw [ho]
    simp only [h]
    rfl
theorem h2_idx37 (hr : Runs2 ops specs a0 o) (j1 d1 j2 d2 g k : Nat) (hk16 : k < 16) (ho : o.op = .indexAddr 37 (.tmp d1) (.tmp d2)) (hj1 : deps .any ops o j1 d1 = true) (hj2 : deps .any ops o j2 d2 = true) (hs1 : specs j1 = .is (.pointer (some ⟨g, 0, none⟩))) (hs2 : specs j2 = .is (.int .i64 (k : Int))) (hi : specs i = .is (.pointer (some ⟨g, k, none⟩))) : Hop2 Try.prog m ops specs Q a0 w0 i o :=
  h2_val hr fun a w hk => by
    have h1 := hk.deps j1 d1 hj1
    have h2 := hk.deps j2 d2 hj2
    rw [hs1] at h1
    rw [hs2] at h2
    have h1 : a.eval (.tmp d1) = .pointer (some ⟨g, 0, none⟩) := h1
    have h2 : a.eval (.tmp d2) = .int .i64 (k : Int) := h2
    refine ⟨.pointer (some ⟨g, k, none⟩), w, ?_, by rw [hi]; rfl, Below.refl _ _⟩
    unfold execOp
    rw [ho]
    simp only [h1, h2]
    go_simp
    intro hh
    omega
theorem h2_load23 (hr : Runs2 ops specs a0 o) (j d g k : Nat) (x : Int) (ho : o.op = .load 23 (.tmp d)) (hj : deps .any ops o j d = true) (hs : specs j = .is (.pointer (some ⟨g, k, none⟩))) (hg : g < w0.heap.size) (hc : w0.cell? ⟨g, k, none⟩ = some (.int .u32 x)) (hi : specs i = .is (.int .u32 x)) : Hop2 Try.prog m ops specs Q a0 w0 i o :=
  h2_val hr fun a w hk => by
    have h := hk.deps j d hj
    rw [hs] at h
    have h : a.eval (.tmp d) = .pointer (some ⟨g, k, none⟩) := h
    have hcw := (hk.below.cell (p := ⟨g, k, none⟩) hg).trans hc
    refine ⟨.int .u32 x, w, ?_, by rw [hi]; rfl, Below.refl _ _⟩
    unfold execOp
    rw [ho]
    simp only [h]
    have hu := Try.underlying23
    go_simp
theorem h2_add23 (hr : Runs2 ops specs a0 o) (j1 d1 j2 d2 : Nat) (x y : Int) (ho : o.op = .binOp .add 23 (.tmp d1) (.tmp d2) 23) (hj1 : deps .any ops o j1 d1 = true) (hj2 : deps .any ops o j2 d2 = true) (hs1 : specs j1 = .is (.int .u32 x)) (hs2 : specs j2 = .is (.int .u32 y)) (hi : specs i = .is (.int .u32 (Ch.ad x y))) : Hop2 Try.prog m ops specs Q a0 w0 i o :=
  h2_val hr fun a w hk => by
    have h1 := hk.deps j1 d1 hj1
    have h2 := hk.deps j2 d2 hj2
    rw [hs1] at h1
    rw [hs2] at h2
    have h1 : a.eval (.tmp d1) = .int .u32 x := h1
    have h2 : a.eval (.tmp d2) = .int .u32 y := h2
    refine ⟨.int .u32 (Ch.ad x y), w, ?_, by rw [hi]; rfl, Below.refl _ _⟩
    unfold execOp
    rw [ho]
    simp only [h1, h2]
    unfold Ch.ad
    rfl
theorem h2_xor23 (hr : Runs2 ops specs a0 o) (j1 d1 j2 d2 : Nat) (x y : Int) (ho : o.op = .binOp .xor 23 (.tmp d1) (.tmp d2) 23) (hj1 : deps .any ops o j1 d1 = true) (hj2 : deps .any ops o j2 d2 = true) (hs1 : specs j1 = .is (.int .u32 x)) (hs2 : specs j2 = .is (.int .u32 y)) (hi : specs i = .is (.int .u32 (Ch.xr x y))) : Hop2 Try.prog m ops specs Q a0 w0 i o :=
  h2_val hr fun a w hk => by
    have h1 := hk.deps j1 d1 hj1
    have h2 := hk.deps j2 d2 hj2
    rw [hs1] at h1
    rw [hs2] at h2
    have h1 : a.eval (.tmp d1) = .int .u32 x := h1
    have h2 : a.eval (.tmp d2) = .int .u32 y := h2
    refine ⟨.int .u32 (Ch.xr x y), w, ?_, by rw [hi]; rfl, Below.refl _ _⟩
    unfold execOp
    rw [ho]
    simp only [h1, h2]
    unfold Ch.xr
    rfl
/-- A word written. -/
theorem wp_store23 {a : Act} {w : World} {K : Act → World → Prop} (x y : Operand) (ho : o.op = .store 23 x y) (g k : Nat) (n old : Int) (hx : a.eval x = .pointer (some ⟨g, k, none⟩)) (hy : a.eval y = .int .u32 n) (hc : w.cell? ⟨g, k, none⟩ = some (.int .u32 old)) (hf : w.frozen? ⟨g, k, none⟩ = false) (h : K (a.put o.dst undef) (w.setCell ⟨g, k, none⟩ (.int .u32 n))) : o.wp Try.prog a w K Q := by
  unfold Oper.wp execOp
  rw [ho]
  simp only [hx, hy]
  have hu := Try.underlying23
  go_simp
  exact h
end
theorem enter49 (args : Array Value) (w : World) : (callFunc 49 args).run Try.prog w = .ok (.enter 49 args) w := by
  have := Try.func49
  go_simp
end Grow

set_option maxRecDepth 100000 in
set_option maxHeartbeats 2000000 in
theorem turn_any (w : World) (g : Nat) (S : List Int) (hS : Blk w g .u32 37 S) (hl : S.length = 16) (t s o n : Nat) (ht : t < 16) (hs : s < 16) (ho : o < 16) (hn1 : 1 ≤ n) (hn2 : n ≤ 31) :
    Calls Try.prog 48 #[.pointer (some ⟨g, 0, none⟩), .int .i64 t, .int .i64 s, .int .i64 o, .int .i64 n] w fun e w' => e = .returned (.tuple #[]) ∧ Blk w' g .u32 37 (Ch.turn S t s o n) ∧ Only g w w' := by
  have BL0 := Lib.hid hS
  have LN0 := Lib.hid hl
  clear hS hl
  go_enter Try.func48, Try.ntmps48
  go_wp2_with fail
  refine Grow.region_wait (by kernel_rfl) 13 (fun i => List.getD (Grow.Spec.is (.pointer (some ⟨g, 0, none⟩)) :: Grow.Spec.is (.int .i64 (s : Nat)) :: Grow.Spec.is (.pointer (some ⟨g, 0, none⟩)) :: Grow.Spec.is (.pointer (some ⟨g, s, none⟩)) :: Grow.Spec.is (.int .u32 (S.getD s 0)) :: Grow.Spec.is (.pointer (some ⟨g, 0, none⟩)) :: Grow.Spec.is (.int .i64 (o : Nat)) :: Grow.Spec.is (.pointer (some ⟨g, 0, none⟩)) :: Grow.Spec.is (.pointer (some ⟨g, o, none⟩)) :: Grow.Spec.is (.int .u32 (S.getD o 0)) :: Grow.Spec.is (.int .u32 (Ch.ad (S.getD s 0) (S.getD o 0))) :: Grow.Spec.is (.pointer (some ⟨g, 0, none⟩)) :: Grow.Spec.is (.pointer (some ⟨g, s, none⟩)) :: []) i (Grow.Spec.is undef)) (by kernel_rfl) ⟨
    Grow.h2_move (Or.inl rfl) _ (Or.inl rfl) (fun a wx hk => by have e : a.eval (.tmp 0) = _ := hk.rest 0 (by kernel_rfl); rw [e]; rfl),
    Grow.h2_move (Or.inl rfl) _ (Or.inl rfl) (fun a wx hk => by have e : a.eval (.tmp 2) = _ := hk.rest 2 (by kernel_rfl); rw [e]; rfl),
    Grow.h2_nil (Or.inl rfl) 0 10 g rfl (by kernel_rfl) rfl rfl,
    Grow.h2_idx37 (Or.inl rfl) 2 12 1 11 g s hs rfl (by kernel_rfl) (by kernel_rfl) rfl rfl rfl,
    Grow.h2_load23 (Or.inl rfl) 3 13 g s (S.getD s 0) rfl (by kernel_rfl) rfl BL0.out.lt (BL0.out.cell s (by rw [LN0.out]; exact hs)) rfl,
    Grow.h2_move (Or.inl rfl) _ (Or.inl rfl) (fun a wx hk => by have e : a.eval (.tmp 0) = _ := hk.rest 0 (by kernel_rfl); rw [e]; rfl),
    Grow.h2_move (Or.inl rfl) _ (Or.inl rfl) (fun a wx hk => by have e : a.eval (.tmp 3) = _ := hk.rest 3 (by kernel_rfl); rw [e]; rfl),
    Grow.h2_nil (Or.inl rfl) 5 15 g rfl (by kernel_rfl) rfl rfl,
    Grow.h2_idx37 (Or.inl rfl) 7 17 6 16 g o ho rfl (by kernel_rfl) (by kernel_rfl) rfl rfl rfl,
    Grow.h2_load23 (Or.inl rfl) 8 18 g o (S.getD o 0) rfl (by kernel_rfl) rfl BL0.out.lt (BL0.out.cell o (by rw [LN0.out]; exact ho)) rfl,
    Grow.h2_add23 (Or.inl rfl) 4 14 9 19 _ _ rfl (by kernel_rfl) (by kernel_rfl) rfl rfl rfl,
    Grow.h2_nil (Or.inl rfl) 0 10 g rfl (by kernel_rfl) rfl rfl,
    Grow.h2_idx37 (Or.inl rfl) 11 21 1 11 g s hs rfl (by kernel_rfl) (by kernel_rfl) rfl rfl rfl,
    trivial⟩ ?_
  intro o1 a w1 ho1 hb hts hk hdf hfr
  obtain rfl := Option.some.inj ho1
  clear ho1
  have e22 : a.eval (.tmp 22) = .pointer (some ⟨g, s, none⟩) := hk 12 22 (by decide) rfl
  have e20 : a.eval (.tmp 20) = .int .u32 (Ch.ad (S.getD s 0) (S.getD o 0)) := hk 10 20 (by decide) rfl
  have hb1 : Blk w1 g .u32 37 S := BL0.out.other (hb.block _ BL0.out.lt)
  refine ⟨rfl, Grow.wp_store23 (.tmp 22) (.tmp 20) rfl g s _ _ e22 e20 (hb1.cell s (by rw [LN0.out]; exact hs)) (hb1.free s) ?_⟩
  have ha := Grow.act_after hts hdf hfr
  rw [show Grow.dsts _ 13 = [10, 11, 12, 13, 14, 15, 16, 17, 18, 19, 20, 21, 22] from by kernel_rfl] at ha
  simp only [Grow.putAll] at ha
  generalize a.eval (.tmp 10) = u10 at ha
  generalize a.eval (.tmp 11) = u11 at ha
  generalize a.eval (.tmp 12) = u12 at ha
  generalize a.eval (.tmp 13) = u13 at ha
  generalize a.eval (.tmp 14) = u14 at ha
  generalize a.eval (.tmp 15) = u15 at ha
  generalize a.eval (.tmp 16) = u16 at ha
  generalize a.eval (.tmp 17) = u17 at ha
  generalize a.eval (.tmp 18) = u18 at ha
  generalize a.eval (.tmp 19) = u19 at ha
  generalize a.eval (.tmp 20) = u20 at ha
  generalize a.eval (.tmp 21) = u21 at ha
  generalize a.eval (.tmp 22) = u22 at ha
  simp [Act.put] at ha
  have BL1 := Lib.hid (hb1.set s (Ch.ad (S.getD s 0) (S.getD o 0)))
  have ON1 : Hid (Only g w (w1.setCell ⟨g, s, none⟩ (.int .u32 (Ch.ad (S.getD s 0) (S.getD o 0))))) := (Only.below hb).trans (Only.setCell w1 s _)
  have LN1 : Hid ((S.set s (Ch.ad (S.getD s 0) (S.getD o 0))).length = 16) := by show _ = _; rw [List.length_set]; exact LN0.out
  have HT : Hid (Ch.turn S t s o n = (S.set s (Ch.ad (S.getD s 0) (S.getD o 0))).set t (Ch.rol (Ch.xr ((S.set s (Ch.ad (S.getD s 0) (S.getD o 0))).getD t 0) ((S.set s (Ch.ad (S.getD s 0) (S.getD o 0))).getD s 0)) n)) := rfl
  clear hk hts hdf hfr e22 e20 hb hb1 BL0 LN0
  subst ha
  generalize S.set s (Ch.ad (S.getD s 0) (S.getD o 0)) = S1 at *
  generalize w1.setCell ⟨g, s, none⟩ (.int .u32 (Ch.ad (S.getD s 0) (S.getD o 0))) = w2 at *
  go_wp2_with fail
  refine Grow.region_wait (by kernel_rfl) 17 (fun i => List.getD (Grow.Spec.is (.pointer (some ⟨g, 0, none⟩)) :: Grow.Spec.is (.int .i64 (t : Nat)) :: Grow.Spec.is (.pointer (some ⟨g, 0, none⟩)) :: Grow.Spec.is (.int .i64 (t : Nat)) :: Grow.Spec.is (.pointer (some ⟨g, 0, none⟩)) :: Grow.Spec.is (.pointer (some ⟨g, t, none⟩)) :: Grow.Spec.is (.int .u32 (S1.getD t 0)) :: Grow.Spec.is (.pointer (some ⟨g, 0, none⟩)) :: Grow.Spec.is (.int .i64 (s : Nat)) :: Grow.Spec.is (.pointer (some ⟨g, 0, none⟩)) :: Grow.Spec.is (.pointer (some ⟨g, s, none⟩)) :: Grow.Spec.is (.int .u32 (S1.getD s 0)) :: Grow.Spec.is (.int .u32 (Ch.xr (S1.getD t 0) (S1.getD s 0))) :: Grow.Spec.is (.int .i64 (n : Nat)) :: Grow.Spec.is (.int .u32 (Ch.rol (Ch.xr (S1.getD t 0) (S1.getD s 0)) n)) :: Grow.Spec.is (.pointer (some ⟨g, 0, none⟩)) :: Grow.Spec.is (.pointer (some ⟨g, t, none⟩)) :: []) i (Grow.Spec.is undef)) (by kernel_rfl) ⟨
    Grow.h2_move (Or.inl rfl) _ (Or.inl rfl) (fun a wx hk => by have e : a.eval (.tmp 0) = _ := hk.rest 0 (by kernel_rfl); rw [e]; rfl),
    Grow.h2_move (Or.inl rfl) _ (Or.inl rfl) (fun a wx hk => by have e : a.eval (.tmp 1) = _ := hk.rest 1 (by kernel_rfl); rw [e]; rfl),
    Grow.h2_move (Or.inl rfl) _ (Or.inl rfl) (fun a wx hk => by have e : a.eval (.tmp 0) = _ := hk.rest 0 (by kernel_rfl); rw [e]; rfl),
    Grow.h2_move (Or.inl rfl) _ (Or.inl rfl) (fun a wx hk => by have e : a.eval (.tmp 1) = _ := hk.rest 1 (by kernel_rfl); rw [e]; rfl),
    Grow.h2_nil (Or.inl rfl) 2 25 g rfl (by kernel_rfl) rfl rfl,
    Grow.h2_idx37 (Or.inl rfl) 4 27 3 26 g t ht rfl (by kernel_rfl) (by kernel_rfl) rfl rfl rfl,
    Grow.h2_load23 (Or.inl rfl) 5 28 g t (S1.getD t 0) rfl (by kernel_rfl) rfl BL1.out.lt (BL1.out.cell t (by rw [LN1.out]; exact ht)) rfl,
    Grow.h2_move (Or.inl rfl) _ (Or.inl rfl) (fun a wx hk => by have e : a.eval (.tmp 0) = _ := hk.rest 0 (by kernel_rfl); rw [e]; rfl),
    Grow.h2_move (Or.inl rfl) _ (Or.inl rfl) (fun a wx hk => by have e : a.eval (.tmp 2) = _ := hk.rest 2 (by kernel_rfl); rw [e]; rfl),
    Grow.h2_nil (Or.inl rfl) 7 30 g rfl (by kernel_rfl) rfl rfl,
    Grow.h2_idx37 (Or.inl rfl) 9 32 8 31 g s hs rfl (by kernel_rfl) (by kernel_rfl) rfl rfl rfl,
    Grow.h2_load23 (Or.inl rfl) 10 33 g s (S1.getD s 0) rfl (by kernel_rfl) rfl BL1.out.lt (BL1.out.cell s (by rw [LN1.out]; exact hs)) rfl,
    Grow.h2_xor23 (Or.inl rfl) 6 29 11 34 _ _ rfl (by kernel_rfl) (by kernel_rfl) rfl rfl rfl,
    Grow.h2_move (Or.inl rfl) _ (Or.inl rfl) (fun a wx hk => by have e : a.eval (.tmp 4) = _ := hk.rest 4 (by kernel_rfl); rw [e]; rfl),
    Grow.h2_call2 (Or.inl rfl) 49 Grow.enter49 _ _ _ rfl (fun a wx hk => by have e1 : a.eval (.tmp 35) = .int .u32 (Ch.xr (S1.getD t 0) (S1.getD s 0)) := (hk.deps 12 35 (by kernel_rfl)); have e2 : a.eval (.tmp 36) = .int .i64 (n : Nat) := (hk.deps 13 36 (by kernel_rfl)); rw [e1, e2]; refine (rotl_any _ n wx (Ch.xr_W _ _) hn1 hn2).mono ?_; rintro e w5 ⟨rfl, rfl⟩; exact ⟨_, rfl, rfl, Below.refl _ _⟩),
    Grow.h2_nil (Or.inl rfl) 0 23 g rfl (by kernel_rfl) rfl rfl,
    Grow.h2_idx37 (Or.inl rfl) 15 38 1 24 g t ht rfl (by kernel_rfl) (by kernel_rfl) rfl rfl rfl,
    trivial⟩ ?_
  intro o1 a w3 ho1 hb hts hk hdf hfr
  obtain rfl := Option.some.inj ho1
  clear ho1
  have e39 : a.eval (.tmp 39) = .pointer (some ⟨g, t, none⟩) := hk 16 39 (by decide) rfl
  have e37 : a.eval (.tmp 37) = .int .u32 (Ch.rol (Ch.xr (S1.getD t 0) (S1.getD s 0)) n) := hk 14 37 (by decide) rfl
  have hb1 : Blk w3 g .u32 37 S1 := BL1.out.other (hb.block _ BL1.out.lt)
  refine ⟨rfl, Grow.wp_store23 (.tmp 39) (.tmp 37) rfl g t _ _ e39 e37 (hb1.cell t (by rw [LN1.out]; exact ht)) (hb1.free t) ?_⟩
  refine bodyPost_end (fn := Try.f48) (results_none rfl _ _ _) (by first | exact hdf | rfl) ?_
  exact ⟨rfl, by rw [HT.out]; exact hb1.set t _, ON1.out.trans ((Only.below hb).trans (Only.setCell w3 t _))⟩
end Go.Proofs.Yticoefnojgaplaa
