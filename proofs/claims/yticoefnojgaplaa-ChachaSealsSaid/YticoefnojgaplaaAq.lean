/- The law of blocks. -/
import Derived.Test.YticoefnojgaplaaAp
namespace Go.Proofs.Yticoefnojgaplaa
open Go.RowKit Go.Lib
namespace Grow
section
variable {m : Nat} {ops : Array Oper} {Q : Exit → Act → World → Prop} {specs : Nat → Spec} {a0 : Act} {w0 : World} {i : Nat} {o : Oper}
theorem h2_call4 (hr : Runs2 ops specs a0 o) (f : FuncId) (he : ∀ args w, (callFunc f args).run Try.prog w = .ok (.enter f args) w) (ts : Array TypeId) (x y z u : Operand) (ho : o.op = .call { callee := .value (.func f), args := #[x, y, z, u], argTypes := ts })
    (h : ∀ a w, Known m ops specs a0 w0 o a w → Calls Try.prog f #[a.eval x, a.eval y, a.eval z, a.eval u] w fun e w' => ∃ v, e = .returned v ∧ (specs i).meets v w' ∧ Below w.heap.size w w') : Hop2 Try.prog m ops specs Q a0 w0 i o :=
  h2_wp hr fun a w hk => by
    refine wp_enter (f := f) (args := #[a.eval x, a.eval y, a.eval z, a.eval u]) ?_ ((h a w hk).mono ?_)
    · unfold execOp
      rw [ho]
      go_simp
    · rintro e w' ⟨v, rfl, h1, h2⟩
      exact ⟨v, rfl, v, rfl, h1, h2⟩
end
theorem enter9 (args : Array Value) (w : World) : (callFunc 9 args).run Try.prog w = .ok (.enter 9 args) w := by
  have := Try.func9
  go_simp
theorem enter10 (args : Array Value) (w : World) : (callFunc 10 args).run Try.prog w = .ok (.enter 10 args) w := by
  have := Try.func10
  go_simp
end Grow
set_option maxRecDepth 100000 in
set_option maxHeartbeats 2000000 in
theorem blocks_long (w : World) (ak an : Option Addr) (x ck y cn : Nat) (n : Int) (h : 100 < x ∨ 100 < y) :
    Calls Try.prog 3 #[.slice ak x ck, .slice an y cn, .int .u32 n] w fun e w' => e = .returned (.bool true) ∧ Below w.heap.size w w' := by
  by_cases hn : 100 < x
  · clear h
    go_enter Try.func3, Try.ntmps3
    go_wp2_with (first
      | (go_at_call 8; refine (awake_any w1).mono ?_; rintro e w2 ⟨rfl, hb⟩; have B2 := Lib.hid (B1.out.trans (hb.mono B1.out.size)); clear hb)
      | (go_at_call 8; refine (awake_any w).mono ?_; rintro e w1 ⟨rfl, hb⟩; have B1 := Lib.hid hb; clear hb))
    go_ret
    exact ⟨rfl, B2.out⟩
  · have hm : 100 < y := by omega
    clear h
    go_enter Try.func3, Try.ntmps3
    go_wp2_with (first
      | (go_at_call 8; refine (awake_any w1).mono ?_; rintro e w2 ⟨rfl, hb⟩; have B2 := Lib.hid (B1.out.trans (hb.mono B1.out.size)); clear hb)
      | (go_at_call 8; refine (awake_any w).mono ?_; rintro e w1 ⟨rfl, hb⟩; have B1 := Lib.hid hb; clear hb))
    go_ret
    exact ⟨rfl, B2.out⟩
set_option maxRecDepth 100000 in
set_option maxHeartbeats 2000000 in
theorem blocks_short (w : World) (ak : Option Addr) (ck : Nat) (K : List Int) (hK : Slc w (.slice ak K.length ck) K) (an : Option Addr) (cn : Nat) (M : List Int) (hM : Slc w (.slice an M.length cn) M) (n : Int) (hn : W32 n) (h1 : K.length ≤ 100) (h2 : M.length ≤ 100) :
    Calls Try.prog 3 #[.slice ak K.length ck, .slice an M.length cn, .int .u32 n] w fun e w' => e = .returned (.bool true) ∧ Below w.heap.size w w' := by
  have HK := Lib.hid hK
  have HM := Lib.hid hM
  have HN := Lib.hid hn
  clear hK hM hn
  go_enter Try.func3, Try.ntmps3
  go_wp2_with (go_at_call 8; refine (awake_any w).mono ?_; rintro e w9 ⟨rfl, hb⟩; have B9 := Lib.hid hb; clear hb)
  have HK9 := Lib.hid (HK.out.below B9.out (Nat.le_refl _))
  have HM9 := Lib.hid (HM.out.below B9.out (Nat.le_refl _))
  clear HK HM h1 h2
  refine Grow.region_tail (by kernel_rfl) 11 (fun i => List.getD (Grow.Spec.is (.slice ak K.length ck) :: Grow.Spec.is (.int .u32 n) :: Grow.Spec.is (.slice an M.length cn) :: Grow.Spec.slc (Ch.block (Ch.st (fit K 32) n (fit M 12))) :: Grow.Spec.is (.string (strOfNums (Ch.block (Ch.st (fit K 32) n (fit M 12))))) :: Grow.Spec.is (.slice ak K.length ck) :: Grow.Spec.is (.int .u32 n) :: Grow.Spec.is (.slice an M.length cn) :: Grow.Spec.slc (Ch.block (Ch.st (fit K 32) n (fit M 12))) :: Grow.Spec.is (.string (strOfNums (Ch.block (Ch.st (fit K 32) n (fit M 12))))) :: Grow.Spec.is (.bool true) :: []) i (Grow.Spec.is undef)) (by kernel_rfl) ⟨
    Grow.h2_move (Or.inl rfl) _ (Or.inl rfl) (fun a wx hk => by have e : a.eval (.tmp 0) = _ := hk.rest 0 (by kernel_rfl); rw [e]; rfl),
    Grow.h2_move (Or.inl rfl) _ (Or.inl rfl) (fun a wx hk => by have e : a.eval (.tmp 2) = _ := hk.rest 2 (by kernel_rfl); rw [e]; rfl),
    Grow.h2_move (Or.inl rfl) _ (Or.inl rfl) (fun a wx hk => by have e : a.eval (.tmp 1) = _ := hk.rest 1 (by kernel_rfl); rw [e]; rfl),
    Grow.h2_call3 (Or.inl rfl) 9 Grow.enter9 _ _ _ _ rfl (fun a wx hk => by have e20 : a.eval (.tmp 20) = .slice ak K.length ck := (hk.deps 0 20 (by kernel_rfl)); have e21 : a.eval (.tmp 21) = .int .u32 n := (hk.deps 1 21 (by kernel_rfl)); have e22 : a.eval (.tmp 22) = .slice an M.length cn := (hk.deps 2 22 (by kernel_rfl)); rw [e20, e21, e22]; refine (Block_any wx ak ck K (HK9.out.below hk.below (Nat.le_refl _)) n HN.out an cn M (HM9.out.below hk.below (Nat.le_refl _))).mono ?_; rintro e w5 ⟨v5, rfl, hv, hb⟩; exact ⟨_, rfl, hv.slc, hb⟩),
    Grow.h2_conv (Or.inl rfl) 3 23 _ rfl (by kernel_rfl) rfl rfl,
    Grow.h2_move (Or.inl rfl) _ (Or.inl rfl) (fun a wx hk => by have e : a.eval (.tmp 0) = _ := hk.rest 0 (by kernel_rfl); rw [e]; rfl),
    Grow.h2_move (Or.inl rfl) _ (Or.inl rfl) (fun a wx hk => by have e : a.eval (.tmp 2) = _ := hk.rest 2 (by kernel_rfl); rw [e]; rfl),
    Grow.h2_move (Or.inl rfl) _ (Or.inl rfl) (fun a wx hk => by have e : a.eval (.tmp 1) = _ := hk.rest 1 (by kernel_rfl); rw [e]; rfl),
    Grow.h2_call3 (Or.inl rfl) 10 Grow.enter10 _ _ _ _ rfl (fun a wx hk => by have e25 : a.eval (.tmp 25) = .slice ak K.length ck := (hk.deps 5 25 (by kernel_rfl)); have e26 : a.eval (.tmp 26) = .int .u32 n := (hk.deps 6 26 (by kernel_rfl)); have e27 : a.eval (.tmp 27) = .slice an M.length cn := (hk.deps 7 27 (by kernel_rfl)); rw [e25, e26, e27]; refine (rBlock_any wx ak ck K (HK9.out.below hk.below (Nat.le_refl _)) n HN.out an cn M (HM9.out.below hk.below (Nat.le_refl _))).mono ?_; rintro e w5 ⟨v5, rfl, hv, hb⟩; exact ⟨_, rfl, hv, hb⟩),
    Grow.h2_conv (Or.inl rfl) 8 28 _ rfl (by kernel_rfl) rfl rfl,
    Grow.h2_eqls (Or.inl rfl) 4 24 9 29 _ rfl (by kernel_rfl) (by kernel_rfl) rfl rfl rfl,
    trivial⟩ ?_
  intro o a w8 ho hb hts hk hdf hfr
  obtain rfl := Option.some.inj ho
  clear ho
  have e30 : a.eval (.tmp 30) = .bool true := hk 10 30 (by decide) rfl
  refine ⟨rfl, Grow.wp_assign 6 (.tmp 30) rfl rfl ?_⟩
  have hs6 : 6 < a.tmps.size := by rw [hts]; exact Nat.le_of_ble_eq_true rfl
  have HBF := Lib.hid (B9.out.trans (hb.mono B9.out.size))
  clear hk hfr
  rw [e30]
  go_wp2
  refine bodyPost_ret (results_tmp rfl _ _ _) (by first | exact hdf | rfl) ?_
  exact ⟨congrArg Ending.returned (Grow.eval_put_eq hs6), HBF.out⟩
theorem blocks_walk (w : World) (ak : Option Addr) (ck : Nat) (K : List Int) (hK : Slc w (.slice ak K.length ck) K) (an : Option Addr) (cn : Nat) (M : List Int) (hM : Slc w (.slice an M.length cn) M) (n : Int) (hn : W32 n) :
    Calls Try.prog 3 #[.slice ak K.length ck, .slice an M.length cn, .int .u32 n] w fun e w' => e = .returned (.bool true) ∧ Below w.heap.size w w' := by
  by_cases h : 100 < K.length ∨ 100 < M.length
  · exact blocks_long w ak an _ ck _ cn n h
  · exact blocks_short w ak ck K hK an cn M hM n hn (by omega) (by omega)
end Go.Proofs.Yticoefnojgaplaa
