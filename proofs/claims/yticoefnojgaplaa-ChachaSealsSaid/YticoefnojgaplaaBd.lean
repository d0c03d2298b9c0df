/- The law of sealed bytes. -/
import Derived.Test.YticoefnojgaplaaBc
namespace Go.Proofs.Yticoefnojgaplaa
open Go.RowKit Go.Lib
namespace Grow
theorem enter17 (args : Array Value) (w : World) : (callFunc 17 args).run Try.prog w = .ok (.enter 17 args) w := by
  have := Try.func17
  go_simp
end Grow
theorem Ch.seald_length (K N W P : List Int) : (Ch.seald K N W P).length = P.length + 16 := by
  unfold Ch.seald
  rw [List.length_append, Ch.stream_length]
  exact congrArg _ (Bt.le_length _ _)
theorem Ch.seald_take (K N W P : List Int) : (Ch.seald K N W P).take ((Ch.seald K N W P).length - 16) = Ch.stream K 1 N P := by
  rw [Ch.seald_length, Nat.add_sub_cancel]
  unfold Ch.seald
  rw [List.take_append_of_le_length (by rw [Ch.stream_length]; exact Nat.le_refl _), List.take_of_length_le (by rw [Ch.stream_length]; exact Nat.le_refl _)]
theorem Ch.seald_drop (K N W P : List Int) : (Ch.seald K N W P).drop ((Ch.seald K N W P).length - 16) = Ch.stag K N W (Ch.stream K 1 N P) := by
  rw [Ch.seald_length, Nat.add_sub_cancel]
  unfold Ch.seald
  rw [List.drop_append_of_le_length (by rw [Ch.stream_length]; exact Nat.le_refl _), List.drop_of_length_le (by rw [Ch.stream_length]; exact Nat.le_refl _), List.nil_append]
set_option maxRecDepth 100000 in
set_option maxHeartbeats 2000000 in
theorem seals_long (w : World) (ak an aw ap : Option Addr) (x ck y cn z cw u cp : Nat) (h : 100 < x ∨ 100 < y ∨ 500 < z ∨ 500 < u) :
    Calls Try.prog 6 #[.slice ak x ck, .slice an y cn, .slice aw z cw, .slice ap u cp] w fun e w' => e = .returned (.bool true) ∧ Below w.heap.size w w' := by
  by_cases hn : 100 < x
  · clear h
    go_enter Try.func6, Try.ntmps6
    go_wp2_with (first
      | (go_at_call 8; refine (awake_any w1).mono ?_; rintro e w2 ⟨rfl, hb⟩; have B2 := Lib.hid (B1.out.trans (hb.mono B1.out.size)); clear hb)
      | (go_at_call 8; refine (awake_any w).mono ?_; rintro e w1 ⟨rfl, hb⟩; have B1 := Lib.hid hb; clear hb))
    go_ret
    exact ⟨rfl, B2.out⟩
  by_cases hm : 100 < y
  · clear h
    go_enter Try.func6, Try.ntmps6
    go_wp2_with (first
      | (go_at_call 8; refine (awake_any w1).mono ?_; rintro e w2 ⟨rfl, hb⟩; have B2 := Lib.hid (B1.out.trans (hb.mono B1.out.size)); clear hb)
      | (go_at_call 8; refine (awake_any w).mono ?_; rintro e w1 ⟨rfl, hb⟩; have B1 := Lib.hid hb; clear hb))
    go_ret
    exact ⟨rfl, B2.out⟩
  by_cases hq : 500 < z
  · clear h
    go_enter Try.func6, Try.ntmps6
    go_wp2_with (first
      | (go_at_call 8; refine (awake_any w1).mono ?_; rintro e w2 ⟨rfl, hb⟩; have B2 := Lib.hid (B1.out.trans (hb.mono B1.out.size)); clear hb)
      | (go_at_call 8; refine (awake_any w).mono ?_; rintro e w1 ⟨rfl, hb⟩; have B1 := Lib.hid hb; clear hb))
    go_ret
    exact ⟨rfl, B2.out⟩
  · have hr : 500 < u := by omega
    clear h
    go_enter Try.func6, Try.ntmps6
    go_wp2_with (first
      | (go_at_call 8; refine (awake_any w1).mono ?_; rintro e w2 ⟨rfl, hb⟩; have B2 := Lib.hid (B1.out.trans (hb.mono B1.out.size)); clear hb)
      | (go_at_call 8; refine (awake_any w).mono ?_; rintro e w1 ⟨rfl, hb⟩; have B1 := Lib.hid hb; clear hb))
    go_ret
    exact ⟨rfl, B2.out⟩
set_option maxRecDepth 100000 in
set_option maxHeartbeats 2000000 in
theorem seals_short (w : World) (ak : Option Addr) (ck : Nat) (K : List Int) (hK : Slc w (.slice ak K.length ck) K) (an : Option Addr) (cn : Nat) (M : List Int) (hM : Slc w (.slice an M.length cn) M) (aw : Option Addr) (cw : Nat) (W : List Int) (hW : Slc w (.slice aw W.length cw) W) (ap : Option Addr) (cp : Nat) (P : List Int) (hP : Slc w (.slice ap P.length cp) P) (h1 : K.length ≤ 100) (h2 : M.length ≤ 100) (h3 : W.length ≤ 500) (h4 : P.length ≤ 500) :
    Calls Try.prog 6 #[.slice ak K.length ck, .slice an M.length cn, .slice aw W.length cw, .slice ap P.length cp] w fun e w' => e = .returned (.bool true) ∧ Below w.heap.size w w' := by
  have HK := Lib.hid hK
  have HM := Lib.hid hM
  have HW := Lib.hid hW
  have HP := Lib.hid hP
  have hp8 : ∀ x ∈ P, W8 x := by obtain ⟨_, _, _, _, h, _⟩ := hP; exact h
  have HTW := Lib.hid (Ch.stream_twice (fit K 32) 1 (fit M 12) P hp8)
  have HSL := Lib.hid (Ch.seald_length (fit K 32) (fit M 12) W P)
  have HST := Lib.hid (Ch.seald_take (fit K 32) (fit M 12) W P)
  have HSD := Lib.hid (Ch.seald_drop (fit K 32) (fit M 12) W P)
  have HLP : Hid (P.length ≤ 500) := h4
  have HLW : Hid (W.length ≤ 500) := h3
  clear hK hM hW hP hp8
  obtain ⟨S, hS⟩ : ∃ S, S = Ch.seald (fit K 32) (fit M 12) W P := ⟨_, rfl⟩
  rw [← hS] at HSL HST HSD
  have HSS := Lib.hid hS
  clear hS
  go_enter Try.func6, Try.ntmps6
  go_wp2_with (first
    | (go_at_call 16; refine (open_yes w2 ak ck K HK2.out an cn M HM2.out aw cw W HW2.out sa cs S HS2.out ?_ ?_ ?_ ?_).mono ?_; exact (Nat.le_trans HLW.out (by decide)); exact (by rw [HSL.out]; have := HLP.out; omega); exact (by rw [HSL.out]; omega); exact (by rw [HST.out, HSD.out]); rintro e w9 ⟨v9, rfl, hv, hb⟩; rw [HST.out, HTW.out] at hv; have B9 := Lib.hid (B2.out.trans (hb.mono B2.out.size)); have HK9 := Lib.hid (HK2.out.below hb (Nat.le_refl _)); have HM9 := Lib.hid (HM2.out.below hb (Nat.le_refl _)); have HW9 := Lib.hid (HW2.out.below hb (Nat.le_refl _)); have HP9 := Lib.hid (HP2.out.below hb (Nat.le_refl _)); have HS9 := Lib.hid (HS2.out.below hb (Nat.le_refl _)); have HT9 := Lib.hid hv.slc; clear hb hv)
    | (go_at_call 15; refine (seal_any w1 ak ck K HK1.out an cn M HM1.out aw cw W HW1.out ap cp P HP1.out (Nat.le_trans HLW.out (by decide)) (Nat.le_trans HLP.out (by decide))).mono ?_; rintro e w2 ⟨v2, rfl, hv, hb⟩; rw [← HSS.out] at hv; have B2 := Lib.hid (B1.out.trans (hb.mono B1.out.size)); have HK2 := Lib.hid (HK1.out.below hb (Nat.le_refl _)); have HM2 := Lib.hid (HM1.out.below hb (Nat.le_refl _)); have HW2 := Lib.hid (HW1.out.below hb (Nat.le_refl _)); have HP2 := Lib.hid (HP1.out.below hb (Nat.le_refl _)); have HS2 := Lib.hid hv.slc; clear hb hv; obtain ⟨sa, cs, rfl⟩ := slc_form HS2.out)
    | (go_at_call 8; refine (awake_any w).mono ?_; rintro e w1 ⟨rfl, hb⟩; have B1 := Lib.hid hb; have HK1 := Lib.hid (HK.out.below hb (Nat.le_refl _)); have HM1 := Lib.hid (HM.out.below hb (Nat.le_refl _)); have HW1 := Lib.hid (HW.out.below hb (Nat.le_refl _)); have HP1 := Lib.hid (HP.out.below hb (Nat.le_refl _)); clear hb))
  clear HK HM HW HP HK1 HM1 HW1 HP1 HK2 HM2 HW2 HP2 HS2 B1 B2 h1 h2 h3 h4
  refine Grow.region_tail (by kernel_rfl) 19 (fun i => List.getD (Grow.Spec.slc S :: Grow.Spec.is (.string (strOfNums (S))) :: Grow.Spec.is (.slice ak K.length ck) :: Grow.Spec.is (.slice an M.length cn) :: Grow.Spec.is (.slice aw W.length cw) :: Grow.Spec.is (.slice ap P.length cp) :: Grow.Spec.slc S :: Grow.Spec.is (.string (strOfNums (S))) :: Grow.Spec.is (.bool true) :: Grow.Spec.is (.bool true) :: Grow.Spec.is (.bool true) :: Grow.Spec.is (.bool true) :: Grow.Spec.is (.bool true) :: Grow.Spec.slc P :: Grow.Spec.is (.string (strOfNums (P))) :: Grow.Spec.slc P :: Grow.Spec.is (.string (strOfNums (P))) :: Grow.Spec.is (.bool true) :: Grow.Spec.is (.bool true) :: []) i (Grow.Spec.is undef)) (by kernel_rfl) ⟨
    Grow.h2_move (Or.inl rfl) _ (Or.inl rfl) (fun a wx hk => by have e : a.eval (.tmp 9) = _ := hk.rest 9 (by kernel_rfl); rw [e]; exact HS9.out.below hk.below (Nat.le_refl _)),
    Grow.h2_conv (Or.inl rfl) 0 48 _ rfl (by kernel_rfl) rfl rfl,
    Grow.h2_move (Or.inl rfl) _ (Or.inl rfl) (fun a wx hk => by have e : a.eval (.tmp 0) = _ := hk.rest 0 (by kernel_rfl); rw [e]; rfl),
    Grow.h2_move (Or.inl rfl) _ (Or.inl rfl) (fun a wx hk => by have e : a.eval (.tmp 1) = _ := hk.rest 1 (by kernel_rfl); rw [e]; rfl),
    Grow.h2_move (Or.inl rfl) _ (Or.inl rfl) (fun a wx hk => by have e : a.eval (.tmp 2) = _ := hk.rest 2 (by kernel_rfl); rw [e]; rfl),
    Grow.h2_move (Or.inl rfl) _ (Or.inl rfl) (fun a wx hk => by have e : a.eval (.tmp 3) = _ := hk.rest 3 (by kernel_rfl); rw [e]; rfl),
    Grow.h2_call4 (Or.inl rfl) 17 Grow.enter17 _ _ _ _ _ rfl (fun a wx hk => by have e50 : a.eval (.tmp 50) = .slice ak K.length ck := (hk.deps 2 50 (by kernel_rfl)); have e51 : a.eval (.tmp 51) = .slice an M.length cn := (hk.deps 3 51 (by kernel_rfl)); have e52 : a.eval (.tmp 52) = .slice aw W.length cw := (hk.deps 4 52 (by kernel_rfl)); have e53 : a.eval (.tmp 53) = .slice ap P.length cp := (hk.deps 5 53 (by kernel_rfl)); rw [e50, e51, e52, e53]; refine (rseal_any wx ak ck K (HK9.out.below hk.below (Nat.le_refl _)) an cn M (HM9.out.below hk.below (Nat.le_refl _)) aw cw W (HW9.out.below hk.below (Nat.le_refl _)) ap cp P (HP9.out.below hk.below (Nat.le_refl _)) (Nat.le_trans HLW.out (by decide)) (Nat.le_trans HLP.out (by decide))).mono ?_; rintro e w5 ⟨v5, rfl, hv, hb⟩; exact ⟨_, rfl, by rw [HSS.out]; exact hv.slc, hb⟩),
    Grow.h2_conv (Or.inl rfl) 6 54 _ rfl (by kernel_rfl) rfl rfl,
    Grow.h2_eqls (Or.inl rfl) 1 49 7 55 _ rfl (by kernel_rfl) (by kernel_rfl) rfl rfl rfl,
    Grow.h2_move (Or.inl rfl) _ (Or.inl rfl) (fun a wx hk => (hk.deps 8 56 (by kernel_rfl))),
    Grow.h2_move (Or.inr ⟨9, 57, true, rfl, by kernel_rfl, rfl, Nat.le_of_ble_eq_true rfl⟩) _ (Or.inl rfl) (fun a wx hk => by have e : a.eval (.tmp 11) = _ := hk.rest 11 (by kernel_rfl); rw [e]; rfl),
    Grow.h2_pick (Or.inl rfl) 9 57 10 58 _ rfl (by kernel_rfl) (by kernel_rfl) rfl rfl,
    Grow.h2_move (Or.inl rfl) _ (Or.inl rfl) (fun a wx hk => (hk.deps 11 59 (by kernel_rfl))),
    Grow.h2_move (Or.inr ⟨12, 60, true, rfl, by kernel_rfl, rfl, Nat.le_of_ble_eq_true rfl⟩) _ (Or.inl rfl) (fun a wx hk => by have e : a.eval (.tmp 10) = _ := hk.rest 10 (by kernel_rfl); rw [e]; exact HT9.out.below hk.below (Nat.le_refl _)),
    Grow.h2_conv (Or.inr ⟨12, 60, true, rfl, by kernel_rfl, rfl, Nat.le_of_ble_eq_true rfl⟩) 13 61 _ rfl (by kernel_rfl) rfl rfl,
    Grow.h2_move (Or.inr ⟨12, 60, true, rfl, by kernel_rfl, rfl, Nat.le_of_ble_eq_true rfl⟩) _ (Or.inl rfl) (fun a wx hk => by have e : a.eval (.tmp 3) = _ := hk.rest 3 (by kernel_rfl); rw [e]; exact HP9.out.below hk.below (Nat.le_refl _)),
    Grow.h2_conv (Or.inr ⟨12, 60, true, rfl, by kernel_rfl, rfl, Nat.le_of_ble_eq_true rfl⟩) 15 63 _ rfl (by kernel_rfl) rfl rfl,
    Grow.h2_eqls (Or.inr ⟨12, 60, true, rfl, by kernel_rfl, rfl, Nat.le_of_ble_eq_true rfl⟩) 14 62 16 64 _ rfl (by kernel_rfl) (by kernel_rfl) rfl rfl rfl,
    Grow.h2_pick (Or.inl rfl) 12 60 17 65 _ rfl (by kernel_rfl) (by kernel_rfl) rfl rfl,
    trivial⟩ ?_
  intro o a w8 ho hb hts hk hdf hfr
  obtain rfl := Option.some.inj ho
  clear ho
  have e66 : a.eval (.tmp 66) = .bool true := hk 18 66 (by decide) rfl
  refine ⟨rfl, Grow.wp_assign 8 (.tmp 66) rfl rfl ?_⟩
  have hs8 : 8 < a.tmps.size := by rw [hts]; exact Nat.le_of_ble_eq_true rfl
  have HBF := Lib.hid (B9.out.trans (hb.mono B9.out.size))
  clear hk hfr
  rw [e66]
  go_wp2
  refine bodyPost_ret (results_tmp rfl _ _ _) (by first | exact hdf | rfl) ?_
  exact ⟨congrArg Ending.returned (Grow.eval_put_eq hs8), HBF.out⟩
theorem seals_walk (w : World) (ak : Option Addr) (ck : Nat) (K : List Int) (hK : Slc w (.slice ak K.length ck) K) (an : Option Addr) (cn : Nat) (M : List Int) (hM : Slc w (.slice an M.length cn) M) (aw : Option Addr) (cw : Nat) (W : List Int) (hW : Slc w (.slice aw W.length cw) W) (ap : Option Addr) (cp : Nat) (P : List Int) (hP : Slc w (.slice ap P.length cp) P) :
    Calls Try.prog 6 #[.slice ak K.length ck, .slice an M.length cn, .slice aw W.length cw, .slice ap P.length cp] w fun e w' => e = .returned (.bool true) ∧ Below w.heap.size w w' := by
  by_cases h : 100 < K.length ∨ 100 < M.length ∨ 500 < W.length ∨ 500 < P.length
  · exact seals_long w ak an aw ap _ ck _ cn _ cw _ cp h
  · exact seals_short w ak ck K hK an cn M hM aw cw W hW ap cp P hP (by omega) (by omega) (by omega) (by omega)
end Go.Proofs.Yticoefnojgaplaa
