/- The law of tags. -/
import Derived.Test.YticoefnojgaplaaAe
namespace Go.Proofs.Yticoefnojgaplaa
open Go.RowKit Go.Lib
namespace Grow
section
variable {m : Nat} {ops : Array Oper} {Q : Exit → Act → World → Prop} {specs : Nat → Spec} {a0 : Act} {w0 : World} {i : Nat} {o : Oper}
theorem h2_conv (hr : Runs2 ops specs a0 o) (j d : Nat) (l : List Int) (ho : o.op = .convert 22 9 (.tmp d)) (hj : deps .any ops o j d = true) (hs : specs j = .slc l) (hi : specs i = .is (.string (strOfNums l))) : Hop2 Try.prog m ops specs Q a0 w0 i o :=
  h2_val hr fun a w hk => by
    have h := hk.deps j d hj
    rw [hs] at h
    refine ⟨.string (strOfNums l), w, ?_, by rw [hi]; rfl, Below.refl _ _⟩
    unfold execOp
    rw [ho]
    simp only [Sem.run_bind, conv_slc h, Result.andThen_ok, Sem.run_pure]
theorem h2_eqls (hr : Runs2 ops specs a0 o) (j1 d1 j2 d2 : Nat) (s : ByteArray) (ho : o.op = .binOp .eql 9 (.tmp d1) (.tmp d2) 9) (hj1 : deps .any ops o j1 d1 = true) (hj2 : deps .any ops o j2 d2 = true) (hs1 : specs j1 = .is (.string s)) (hs2 : specs j2 = .is (.string s)) (hi : specs i = .is (.bool true)) : Hop2 Try.prog m ops specs Q a0 w0 i o :=
  h2_val hr fun a w hk => by
    have h1 := hk.deps j1 d1 hj1
    have h2 := hk.deps j2 d2 hj2
    rw [hs1] at h1
    rw [hs2] at h2
    have h1 : a.eval (.tmp d1) = .string s := h1
    have h2 : a.eval (.tmp d2) = .string s := h2
    have hu := Try.underlying9
    refine ⟨.bool true, w, ?_, by rw [hi]; rfl, Below.refl _ _⟩
    unfold execOp
    rw [ho]
    simp only [h1, h2]
    go_simp
end
theorem enter13 (args : Array Value) (w : World) : (callFunc 13 args).run Try.prog w = .ok (.enter 13 args) w := by
  have := Try.func13
  go_simp
theorem enter14 (args : Array Value) (w : World) : (callFunc 14 args).run Try.prog w = .ok (.enter 14 args) w := by
  have := Try.func14
  go_simp
end Grow

set_option maxRecDepth 100000 in
set_option maxHeartbeats 2000000 in
theorem tags_long (w : World) (ak ap : Option Addr) (n ck m cp : Nat) (h : 100 < n ∨ 1000 < m) :
    Calls Try.prog 5 #[.slice ak n ck, .slice ap m cp] w fun e w' => e = .returned (.bool true) ∧ Below w.heap.size w w' := by
  by_cases hn : 100 < n
  · clear h
    go_enter Try.func5, Try.ntmps5
    go_wp2_with (first
      | (go_at_call 8; refine (awake_any w1).mono ?_; rintro e w2 ⟨rfl, hb⟩; have B2 := Lib.hid (B1.out.trans (hb.mono B1.out.size)); clear hb)
      | (go_at_call 8; refine (awake_any w).mono ?_; rintro e w1 ⟨rfl, hb⟩; have B1 := Lib.hid hb; clear hb))
    go_ret
    exact ⟨rfl, B2.out⟩
  · have hm : 1000 < m := by omega
    clear h
    go_enter Try.func5, Try.ntmps5
    go_wp2_with (first
      | (go_at_call 8; refine (awake_any w1).mono ?_; rintro e w2 ⟨rfl, hb⟩; have B2 := Lib.hid (B1.out.trans (hb.mono B1.out.size)); clear hb)
      | (go_at_call 8; refine (awake_any w).mono ?_; rintro e w1 ⟨rfl, hb⟩; have B1 := Lib.hid hb; clear hb))
    go_ret
    exact ⟨rfl, B2.out⟩
set_option maxRecDepth 100000 in
set_option maxHeartbeats 2000000 in
theorem tags_short (w : World) (ak : Option Addr) (ck : Nat) (K : List Int) (hK : Slc w (.slice ak K.length ck) K) (ap : Option Addr) (cp : Nat) (P : List Int) (hP : Slc w (.slice ap P.length cp) P) (h1 : K.length ≤ 100) (h2 : P.length ≤ 1000) :
    Calls Try.prog 5 #[.slice ak K.length ck, .slice ap P.length cp] w fun e w' => e = .returned (.bool true) ∧ Below w.heap.size w w' := by
  have HK := Lib.hid hK
  have HP := Lib.hid hP
  clear hK hP
  go_enter Try.func5, Try.ntmps5
  go_wp2_with (go_at_call 8; refine (awake_any w).mono ?_; rintro e w9 ⟨rfl, hb⟩; have B9 := Lib.hid hb; clear hb)
  have HL2 := Lib.hid h2
  have HK9 := Lib.hid (HK.out.below B9.out (Nat.le_refl _))
  have HP9 := Lib.hid (HP.out.below B9.out (Nat.le_refl _))
  clear HK HP h1 h2
  refine Grow.region_tail (by kernel_rfl) 9 (fun i => List.getD (Grow.Spec.is (.slice ak K.length ck) :: Grow.Spec.is (.slice ap P.length cp) :: Grow.Spec.slc (Po.tag (fit K 32) P) :: Grow.Spec.is (.string (strOfNums (Po.tag (fit K 32) P))) :: Grow.Spec.is (.slice ak K.length ck) :: Grow.Spec.is (.slice ap P.length cp) :: Grow.Spec.slc (Po.tag (fit K 32) P) :: Grow.Spec.is (.string (strOfNums (Po.tag (fit K 32) P))) :: Grow.Spec.is (.bool true) :: []) i (Grow.Spec.is undef)) (by kernel_rfl) ⟨
    Grow.h2_move (Or.inl rfl) _ (Or.inl rfl) (fun a wx hk => by have e : a.eval (.tmp 0) = _ := hk.rest 0 (by kernel_rfl); rw [e]; rfl),
    Grow.h2_move (Or.inl rfl) _ (Or.inl rfl) (fun a wx hk => by have e : a.eval (.tmp 1) = _ := hk.rest 1 (by kernel_rfl); rw [e]; rfl),
    Grow.h2_call2 (Or.inl rfl) 13 Grow.enter13 _ _ _ rfl (fun a wx hk => by have e18 : a.eval (.tmp 18) = .slice ak K.length ck := (hk.deps 0 18 (by kernel_rfl)); have e19 : a.eval (.tmp 19) = .slice ap P.length cp := (hk.deps 1 19 (by kernel_rfl)); rw [e18, e19]; refine (tag_any wx ak ck K (HK9.out.below hk.below (Nat.le_refl _)) ap cp P (HP9.out.below hk.below (Nat.le_refl _))).mono ?_; rintro e w5 ⟨v5, rfl, hv, hb⟩; exact ⟨_, rfl, hv.slc, hb⟩),
    Grow.h2_conv (Or.inl rfl) 2 20 _ rfl (by kernel_rfl) rfl rfl,
    Grow.h2_move (Or.inl rfl) _ (Or.inl rfl) (fun a wx hk => by have e : a.eval (.tmp 0) = _ := hk.rest 0 (by kernel_rfl); rw [e]; rfl),
    Grow.h2_move (Or.inl rfl) _ (Or.inl rfl) (fun a wx hk => by have e : a.eval (.tmp 1) = _ := hk.rest 1 (by kernel_rfl); rw [e]; rfl),
    Grow.h2_call2 (Or.inl rfl) 14 Grow.enter14 _ _ _ rfl (fun a wx hk => by have e22 : a.eval (.tmp 22) = .slice ak K.length ck := (hk.deps 4 22 (by kernel_rfl)); have e23 : a.eval (.tmp 23) = .slice ap P.length cp := (hk.deps 5 23 (by kernel_rfl)); rw [e22, e23]; refine (rtag_any wx ak ck K (HK9.out.below hk.below (Nat.le_refl _)) ap cp P (HP9.out.below hk.below (Nat.le_refl _)) (Nat.le_trans HL2.out (by decide))).mono ?_; rintro e w5 ⟨v5, rfl, hv, hb⟩; exact ⟨_, rfl, hv, hb⟩),
    Grow.h2_conv (Or.inl rfl) 6 24 _ rfl (by kernel_rfl) rfl rfl,
    Grow.h2_eqls (Or.inl rfl) 3 21 7 25 _ rfl (by kernel_rfl) (by kernel_rfl) rfl rfl rfl,
    trivial⟩ ?_
  intro o a w8 ho hb hts hk hdf hfr
  obtain rfl := Option.some.inj ho
  clear ho
  have e26 : a.eval (.tmp 26) = .bool true := hk 8 26 (by decide) rfl
  refine ⟨rfl, Grow.wp_assign 4 (.tmp 26) rfl rfl ?_⟩
  have hs4 : 4 < a.tmps.size := by rw [hts]; exact Nat.le_of_ble_eq_true rfl
  have HBF := Lib.hid (B9.out.trans (hb.mono B9.out.size))
  clear hk hfr
  rw [e26]
  go_wp2
  refine bodyPost_ret (results_tmp rfl _ _ _) (by first | exact hdf | rfl) ?_
  exact ⟨congrArg Ending.returned (Grow.eval_put_eq hs4), HBF.out⟩
theorem tags_walk (w : World) (ak : Option Addr) (ck : Nat) (K : List Int) (hK : Slc w (.slice ak K.length ck) K) (ap : Option Addr) (cp : Nat) (P : List Int) (hP : Slc w (.slice ap P.length cp) P) :
    Calls Try.prog 5 #[.slice ak K.length ck, .slice ap P.length cp] w fun e w' => e = .returned (.bool true) ∧ Below w.heap.size w w' := by
  by_cases h : 100 < K.length ∨ 1000 < P.length
  · exact tags_long w ak ap _ ck _ cp h
  · exact tags_short w ak ck K hK ap cp P hP (by omega) (by omega)
end Go.Proofs.Yticoefnojgaplaa
