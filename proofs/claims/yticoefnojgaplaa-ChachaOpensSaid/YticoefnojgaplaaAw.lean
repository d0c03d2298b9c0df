/- The law of streams. -/
import Derived.Test.YticoefnojgaplaaAv
namespace Go.Proofs.Yticoefnojgaplaa
open Go.RowKit Go.Lib
namespace Grow
theorem enter11 (args : Array Value) (w : World) : (callFunc 11 args).run Try.prog w = .ok (.enter 11 args) w := by
  have := Try.func11
  go_simp
theorem enter12 (args : Array Value) (w : World) : (callFunc 12 args).run Try.prog w = .ok (.enter 12 args) w := by
  have := Try.func12
  go_simp
end Grow
set_option maxRecDepth 100000 in
set_option maxHeartbeats 2000000 in
theorem streams_long (w : World) (ak an ap : Option Addr) (x ck y cn z cp : Nat) (n : Int) (h : 100 < x ∨ 100 < y ∨ 1000 < z) :
    Calls Try.prog 4 #[.slice ak x ck, .slice an y cn, .int .u32 n, .slice ap z cp] w fun e w' => e = .returned (.bool true) ∧ Below w.heap.size w w' := by
  by_cases hn : 100 < x
  · clear h
    go_enter Try.func4, Try.ntmps4
    go_wp2_with (first
      | (go_at_call 8; refine (awake_any w1).mono ?_; rintro e w2 ⟨rfl, hb⟩; have B2 := Lib.hid (B1.out.trans (hb.mono B1.out.size)); clear hb)
      | (go_at_call 8; refine (awake_any w).mono ?_; rintro e w1 ⟨rfl, hb⟩; have B1 := Lib.hid hb; clear hb))
    go_ret
    exact ⟨rfl, B2.out⟩
  by_cases hm : 100 < y
  · clear h
    go_enter Try.func4, Try.ntmps4
    go_wp2_with (first
      | (go_at_call 8; refine (awake_any w1).mono ?_; rintro e w2 ⟨rfl, hb⟩; have B2 := Lib.hid (B1.out.trans (hb.mono B1.out.size)); clear hb)
      | (go_at_call 8; refine (awake_any w).mono ?_; rintro e w1 ⟨rfl, hb⟩; have B1 := Lib.hid hb; clear hb))
    go_ret
    exact ⟨rfl, B2.out⟩
  · have hq : 1000 < z := by omega
    clear h
    go_enter Try.func4, Try.ntmps4
    go_wp2_with (first
      | (go_at_call 8; refine (awake_any w1).mono ?_; rintro e w2 ⟨rfl, hb⟩; have B2 := Lib.hid (B1.out.trans (hb.mono B1.out.size)); clear hb)
      | (go_at_call 8; refine (awake_any w).mono ?_; rintro e w1 ⟨rfl, hb⟩; have B1 := Lib.hid hb; clear hb))
    go_ret
    exact ⟨rfl, B2.out⟩
set_option maxRecDepth 100000 in
set_option maxHeartbeats 2000000 in
theorem streams_short (w : World) (ak : Option Addr) (ck : Nat) (K : List Int) (hK : Slc w (.slice ak K.length ck) K) (an : Option Addr) (cn : Nat) (M : List Int) (hM : Slc w (.slice an M.length cn) M) (n : Int) (hn : W32 n) (ap : Option Addr) (cp : Nat) (P : List Int) (hP : Slc w (.slice ap P.length cp) P) (h1 : K.length ≤ 100) (h2 : M.length ≤ 100) (h3 : P.length ≤ 1000) :
    Calls Try.prog 4 #[.slice ak K.length ck, .slice an M.length cn, .int .u32 n, .slice ap P.length cp] w fun e w' => e = .returned (.bool true) ∧ Below w.heap.size w w' := by
  have HK := Lib.hid hK
  have HM := Lib.hid hM
  have HP := Lib.hid hP
  have HN := Lib.hid hn
  have hp8 : ∀ x ∈ P, W8 x := by obtain ⟨_, _, _, _, h, _⟩ := hP; exact h
  have HTW := Lib.hid (Ch.stream_twice (fit K 32) n (fit M 12) P hp8)
  have HSL := Lib.hid (Ch.stream_length (fit K 32) n (fit M 12) P)
  have HL : Hid (P.length ≤ 100000) := Nat.le_trans h3 (by decide)
  clear hK hM hn hP hp8
  go_enter Try.func4, Try.ntmps4
  go_wp2_with (first
    | (go_at_call 11; refine (stream_any w1 ak ck K HK1.out n HN.out an cn M HM1.out ap cp P HP1.out HL.out).mono ?_; rintro e w9 ⟨v9, rfl, hv, hb⟩; have B9 := Lib.hid (B1.out.trans (hb.mono B1.out.size)); have HK9 := Lib.hid (HK1.out.below hb (Nat.le_refl _)); have HM9 := Lib.hid (HM1.out.below hb (Nat.le_refl _)); have HP9 := Lib.hid (HP1.out.below hb (Nat.le_refl _)); have HS9 := Lib.hid hv.slc; clear hb hv)
    | (go_at_call 8; refine (awake_any w).mono ?_; rintro e w1 ⟨rfl, hb⟩; have B1 := Lib.hid hb; have HK1 := Lib.hid (HK.out.below hb (Nat.le_refl _)); have HM1 := Lib.hid (HM.out.below hb (Nat.le_refl _)); have HP1 := Lib.hid (HP.out.below hb (Nat.le_refl _)); clear hb))
  clear HK HM HP HK1 HM1 HP1 B1 h1 h2 h3
  obtain ⟨sa, cs, hvs⟩ := slc_form HS9.out
  subst hvs
  rw [HSL.out] at HS9 ⊢
  have HSX : Hid (Slc w9 (.slice sa (Ch.stream (fit K 32) n (fit M 12) P).length cs) (Ch.stream (fit K 32) n (fit M 12) P)) := by show Slc _ _ _; rw [HSL.out]; exact HS9.out
  have HLX : Hid ((Ch.stream (fit K 32) n (fit M 12) P).length ≤ 100000) := by show _ ≤ _; rw [HSL.out]; exact HL.out
  refine Grow.region_tail (by kernel_rfl) 20 (fun i => List.getD (Grow.Spec.slc (Ch.stream (fit K 32) n (fit M 12) P) :: Grow.Spec.is (.string (strOfNums (Ch.stream (fit K 32) n (fit M 12) P))) :: Grow.Spec.is (.slice ak K.length ck) :: Grow.Spec.is (.int .u32 n) :: Grow.Spec.is (.slice an M.length cn) :: Grow.Spec.is (.slice ap P.length cp) :: Grow.Spec.slc (Ch.stream (fit K 32) n (fit M 12) P) :: Grow.Spec.is (.string (strOfNums (Ch.stream (fit K 32) n (fit M 12) P))) :: Grow.Spec.is (.bool true) :: Grow.Spec.is (.bool true) :: Grow.Spec.is (.slice ak K.length ck) :: Grow.Spec.is (.int .u32 n) :: Grow.Spec.is (.slice an M.length cn) :: Grow.Spec.is (.slice sa P.length cs) :: Grow.Spec.slc P :: Grow.Spec.is (.string (strOfNums (P))) :: Grow.Spec.slc P :: Grow.Spec.is (.string (strOfNums (P))) :: Grow.Spec.is (.bool true) :: Grow.Spec.is (.bool true) :: []) i (Grow.Spec.is undef)) (by kernel_rfl) ⟨
    Grow.h2_move (Or.inl rfl) _ (Or.inl rfl) (fun a wx hk => by have e : a.eval (.tmp 9) = _ := hk.rest 9 (by kernel_rfl); rw [e]; exact HS9.out.below hk.below (Nat.le_refl _)),
    Grow.h2_conv (Or.inl rfl) 0 33 _ rfl (by kernel_rfl) rfl rfl,
    Grow.h2_move (Or.inl rfl) _ (Or.inl rfl) (fun a wx hk => by have e : a.eval (.tmp 0) = _ := hk.rest 0 (by kernel_rfl); rw [e]; rfl),
    Grow.h2_move (Or.inl rfl) _ (Or.inl rfl) (fun a wx hk => by have e : a.eval (.tmp 2) = _ := hk.rest 2 (by kernel_rfl); rw [e]; rfl),
    Grow.h2_move (Or.inl rfl) _ (Or.inl rfl) (fun a wx hk => by have e : a.eval (.tmp 1) = _ := hk.rest 1 (by kernel_rfl); rw [e]; rfl),
    Grow.h2_move (Or.inl rfl) _ (Or.inl rfl) (fun a wx hk => by have e : a.eval (.tmp 3) = _ := hk.rest 3 (by kernel_rfl); rw [e]; rfl),
    Grow.h2_call4 (Or.inl rfl) 12 Grow.enter12 _ _ _ _ _ rfl (fun a wx hk => by have e35 : a.eval (.tmp 35) = .slice ak K.length ck := (hk.deps 2 35 (by kernel_rfl)); have e36 : a.eval (.tmp 36) = .int .u32 n := (hk.deps 3 36 (by kernel_rfl)); have e37 : a.eval (.tmp 37) = .slice an M.length cn := (hk.deps 4 37 (by kernel_rfl)); have e38 : a.eval (.tmp 38) = .slice ap P.length cp := (hk.deps 5 38 (by kernel_rfl)); rw [e35, e36, e37, e38]; refine (rstream_any wx ak ck K (HK9.out.below hk.below (Nat.le_refl _)) n an cn M (HM9.out.below hk.below (Nat.le_refl _)) ap cp P (HP9.out.below hk.below (Nat.le_refl _)) HL.out).mono ?_; rintro e w5 ⟨v5, rfl, hv, hb⟩; exact ⟨_, rfl, hv.slc, hb⟩),
    Grow.h2_conv (Or.inl rfl) 6 39 _ rfl (by kernel_rfl) rfl rfl,
    Grow.h2_eqls (Or.inl rfl) 1 34 7 40 _ rfl (by kernel_rfl) (by kernel_rfl) rfl rfl rfl,
    Grow.h2_move (Or.inl rfl) _ (Or.inl rfl) (fun a wx hk => (hk.deps 8 41 (by kernel_rfl))),
    Grow.h2_move (Or.inr ⟨9, 42, true, rfl, by kernel_rfl, rfl, Nat.le_of_ble_eq_true rfl⟩) _ (Or.inl rfl) (fun a wx hk => by have e : a.eval (.tmp 0) = _ := hk.rest 0 (by kernel_rfl); rw [e]; rfl),
    Grow.h2_move (Or.inr ⟨9, 42, true, rfl, by kernel_rfl, rfl, Nat.le_of_ble_eq_true rfl⟩) _ (Or.inl rfl) (fun a wx hk => by have e : a.eval (.tmp 2) = _ := hk.rest 2 (by kernel_rfl); rw [e]; rfl),
    Grow.h2_move (Or.inr ⟨9, 42, true, rfl, by kernel_rfl, rfl, Nat.le_of_ble_eq_true rfl⟩) _ (Or.inl rfl) (fun a wx hk => by have e : a.eval (.tmp 1) = _ := hk.rest 1 (by kernel_rfl); rw [e]; rfl),
    Grow.h2_move (Or.inr ⟨9, 42, true, rfl, by kernel_rfl, rfl, Nat.le_of_ble_eq_true rfl⟩) _ (Or.inl rfl) (fun a wx hk => by have e : a.eval (.tmp 9) = _ := hk.rest 9 (by kernel_rfl); rw [e]; rfl),
    Grow.h2_call4 (Or.inr ⟨9, 42, true, rfl, by kernel_rfl, rfl, Nat.le_of_ble_eq_true rfl⟩) 11 Grow.enter11 _ _ _ _ _ rfl (fun a wx hk => by have e43 : a.eval (.tmp 43) = .slice ak K.length ck := (hk.deps 10 43 (by kernel_rfl)); have e44 : a.eval (.tmp 44) = .int .u32 n := (hk.deps 11 44 (by kernel_rfl)); have e45 : a.eval (.tmp 45) = .slice an M.length cn := (hk.deps 12 45 (by kernel_rfl)); have e46 : a.eval (.tmp 46) = .slice sa P.length cs := (hk.deps 13 46 (by kernel_rfl)); rw [e43, e44, e45, e46]; rw [← HSL.out]; refine (stream_any wx ak ck K (HK9.out.below hk.below (Nat.le_refl _)) n HN.out an cn M (HM9.out.below hk.below (Nat.le_refl _)) sa cs (Ch.stream (fit K 32) n (fit M 12) P) (HSX.out.below hk.below (Nat.le_refl _)) HLX.out).mono ?_; rintro e w5 ⟨v5, rfl, hv, hb⟩; exact ⟨_, rfl, by show Slc _ _ _; have hs := hv.slc; rw [HTW.out] at hs; exact hs, hb⟩),
    Grow.h2_conv (Or.inr ⟨9, 42, true, rfl, by kernel_rfl, rfl, Nat.le_of_ble_eq_true rfl⟩) 14 47 _ rfl (by kernel_rfl) rfl rfl,
    Grow.h2_move (Or.inr ⟨9, 42, true, rfl, by kernel_rfl, rfl, Nat.le_of_ble_eq_true rfl⟩) _ (Or.inl rfl) (fun a wx hk => by have e : a.eval (.tmp 3) = _ := hk.rest 3 (by kernel_rfl); rw [e]; exact HP9.out.below hk.below (Nat.le_refl _)),
    Grow.h2_conv (Or.inr ⟨9, 42, true, rfl, by kernel_rfl, rfl, Nat.le_of_ble_eq_true rfl⟩) 16 49 _ rfl (by kernel_rfl) rfl rfl,
    Grow.h2_eqls (Or.inr ⟨9, 42, true, rfl, by kernel_rfl, rfl, Nat.le_of_ble_eq_true rfl⟩) 15 48 17 50 _ rfl (by kernel_rfl) (by kernel_rfl) rfl rfl rfl,
    Grow.h2_pick (Or.inl rfl) 9 42 18 51 _ rfl (by kernel_rfl) (by kernel_rfl) rfl rfl,
    trivial⟩ ?_
  intro o a w8 ho hb hts hk hdf hfr
  obtain rfl := Option.some.inj ho
  clear ho
  have e52 : a.eval (.tmp 52) = .bool true := hk 19 52 (by decide) rfl
  refine ⟨rfl, Grow.wp_assign 8 (.tmp 52) rfl rfl ?_⟩
  have hs8 : 8 < a.tmps.size := by rw [hts]; exact Nat.le_of_ble_eq_true rfl
  have HBF := Lib.hid (B9.out.trans (hb.mono B9.out.size))
  clear hk hfr
  rw [e52]
  go_wp2
  refine bodyPost_ret (results_tmp rfl _ _ _) (by first | exact hdf | rfl) ?_
  exact ⟨congrArg Ending.returned (Grow.eval_put_eq hs8), HBF.out⟩
theorem streams_walk (w : World) (ak : Option Addr) (ck : Nat) (K : List Int) (hK : Slc w (.slice ak K.length ck) K) (an : Option Addr) (cn : Nat) (M : List Int) (hM : Slc w (.slice an M.length cn) M) (n : Int) (hn : W32 n) (ap : Option Addr) (cp : Nat) (P : List Int) (hP : Slc w (.slice ap P.length cp) P) :
    Calls Try.prog 4 #[.slice ak K.length ck, .slice an M.length cn, .int .u32 n, .slice ap P.length cp] w fun e w' => e = .returned (.bool true) ∧ Below w.heap.size w w' := by
  by_cases h : 100 < K.length ∨ 100 < M.length ∨ 1000 < P.length
  · exact streams_long w ak an ap _ ck _ cn _ cp n h
  · exact streams_short w ak ck K hK an cn M hM n hn ap cp P hP (by omega) (by omega) (by omega)
end Go.Proofs.Yticoefnojgaplaa
