/- The law of opened bytes. -/
import Derived.Test.YticoefnojgaplaaBd
namespace Go.Proofs.Yticoefnojgaplaa
open Go.RowKit Go.Lib
theorem Ch.stag_length (K N W C : List Int) : (Ch.stag K N W C).length = 16 := Bt.le_length _ _
theorem Ch.seald_plain (K N W P : List Int) (hP : ∀ x ∈ P, W8 x) : Ch.seald K N W (Ch.stream K 1 N P) = P ++ Ch.stag K N W P := by
  unfold Ch.seald
  rw [Ch.stream_twice K 1 N P hP]
theorem rstream_cut (w : World) (ak : Option Addr) (ck : Nat) (K : List Int) (hK : Slc w (.slice ak K.length ck) K) (an : Option Addr) (cn : Nat) (N : List Int) (hN : Slc w (.slice an N.length cn) N) (v : Value) (P : List Int) (hP : Slc w v P) (hl : P.length ≤ 100000) :
    Calls Try.prog 12 #[.slice ak K.length ck, .int .u32 1, .slice an N.length cn, v] w fun e w' => ∃ v', e = .returned v' ∧ Own w.heap.size w' v' (Ch.stream (fit K 32) 1 (fit N 12) P) ∧ Below w.heap.size w w' := by
  obtain ⟨ap, cp, rfl⟩ := slc_form hP
  exact rstream_any w ak ck K hK 1 an cn N hN ap cp P hP hl
theorem rseal_cut (w : World) (ak : Option Addr) (ck : Nat) (K : List Int) (hK : Slc w (.slice ak K.length ck) K) (an : Option Addr) (cn : Nat) (N : List Int) (hN : Slc w (.slice an N.length cn) N) (aw : Option Addr) (cw : Nat) (W : List Int) (hW : Slc w (.slice aw W.length cw) W) (v : Value) (P : List Int) (hP : Slc w v P) (hlw : W.length ≤ 2000) (hl : P.length ≤ 2000) :
    Calls Try.prog 17 #[.slice ak K.length ck, .slice an N.length cn, .slice aw W.length cw, v] w fun e w' => ∃ v', e = .returned v' ∧ Own w.heap.size w' v' (Ch.seald (fit K 32) (fit N 12) W P) ∧ Below w.heap.size w w' := by
  obtain ⟨ap, cp, rfl⟩ := slc_form hP
  exact rseal_any w ak ck K hK an cn N hN aw cw W hW ap cp P hP hlw hl
theorem slc_W8 {w : World} {v : Value} {l : List Int} (h : Slc w v l) : ∀ x ∈ l, W8 x := by
  obtain ⟨_, _, _, _, h, _⟩ := h
  exact h
set_option maxRecDepth 100000 in
set_option maxHeartbeats 2000000 in
theorem opens_long (w : World) (ak an aw ap : Option Addr) (x ck y cn z cw u cp : Nat) (b : Bool) (h : 100 < x ∨ 100 < y ∨ 300 < z ∨ 300 < u) :
    Calls Try.prog 7 #[.slice ak x ck, .slice an y cn, .slice aw z cw, .slice ap u cp, .bool b] w fun e w' => e = .returned (.bool true) ∧ Below w.heap.size w w' := by
  by_cases hn : 100 < x
  · clear h
    go_enter Try.func7, Try.ntmps7
    go_wp2_with (first
      | (go_at_call 8; refine (awake_any w1).mono ?_; rintro e w2 ⟨rfl, hb⟩; have B2 := Lib.hid (B1.out.trans (hb.mono B1.out.size)); clear hb)
      | (go_at_call 8; refine (awake_any w).mono ?_; rintro e w1 ⟨rfl, hb⟩; have B1 := Lib.hid hb; clear hb))
    go_ret
    exact ⟨rfl, B2.out⟩
  by_cases hm : 100 < y
  · clear h
    go_enter Try.func7, Try.ntmps7
    go_wp2_with (first
      | (go_at_call 8; refine (awake_any w1).mono ?_; rintro e w2 ⟨rfl, hb⟩; have B2 := Lib.hid (B1.out.trans (hb.mono B1.out.size)); clear hb)
      | (go_at_call 8; refine (awake_any w).mono ?_; rintro e w1 ⟨rfl, hb⟩; have B1 := Lib.hid hb; clear hb))
    go_ret
    exact ⟨rfl, B2.out⟩
  by_cases hq : 300 < z
  · clear h
    go_enter Try.func7, Try.ntmps7
    go_wp2_with (first
      | (go_at_call 8; refine (awake_any w1).mono ?_; rintro e w2 ⟨rfl, hb⟩; have B2 := Lib.hid (B1.out.trans (hb.mono B1.out.size)); clear hb)
      | (go_at_call 8; refine (awake_any w).mono ?_; rintro e w1 ⟨rfl, hb⟩; have B1 := Lib.hid hb; clear hb))
    go_ret
    exact ⟨rfl, B2.out⟩
  · have hr : 300 < u := by omega
    clear h
    go_enter Try.func7, Try.ntmps7
    go_wp2_with (first
      | (go_at_call 8; refine (awake_any w1).mono ?_; rintro e w2 ⟨rfl, hb⟩; have B2 := Lib.hid (B1.out.trans (hb.mono B1.out.size)); clear hb)
      | (go_at_call 8; refine (awake_any w).mono ?_; rintro e w1 ⟨rfl, hb⟩; have B1 := Lib.hid hb; clear hb))
    go_ret
    exact ⟨rfl, B2.out⟩
set_option maxRecDepth 100000 in
set_option maxHeartbeats 2000000 in
theorem opens_few_f (w : World) (ak : Option Addr) (ck : Nat) (K : List Int) (hK : Slc w (.slice ak K.length ck) K) (an : Option Addr) (cn : Nat) (M : List Int) (hM : Slc w (.slice an M.length cn) M) (aw : Option Addr) (cw : Nat) (W : List Int) (hW : Slc w (.slice aw W.length cw) W) (ap : Option Addr) (cp : Nat) (P : List Int) (hP : Slc w (.slice ap P.length cp) P) (h1 : K.length ≤ 100) (h2 : M.length ≤ 100) (h3 : W.length ≤ 300) (h4 : P.length ≤ 300) (h16 : P.length < 16) :
    Calls Try.prog 7 #[.slice ak K.length ck, .slice an M.length cn, .slice aw W.length cw, .slice ap P.length cp, .bool false] w fun e w' => e = .returned (.bool true) ∧ Below w.heap.size w w' := by
  have HK := Lib.hid hK
  have HM := Lib.hid hM
  have HW := Lib.hid hW
  have HP := Lib.hid hP
  have HLW : Hid (W.length ≤ 300) := h3
  have HLP : Hid (P.length ≤ 300) := h4
  clear hK hM hW hP
  have hcn := fun w => conv_slc (show Slc w (.slice none 0 0) [] from ⟨none, 0, rfl, Nat.le_refl _, fun _ h => (List.not_mem_nil h).elim, Or.inl rfl⟩)
  go_enter Try.func7, Try.ntmps7
  go_wp2_with (first
    | (go_at_call 16; refine (open_short w1 _ _ _ ap P.length cp h16).mono ?_; rintro e w2 ⟨rfl, hb⟩; have B2 := Lib.hid (B1.out.trans (hb.mono B1.out.size)); clear hb)
    | (go_at_call 8; refine (awake_any w).mono ?_; rintro e w1 ⟨rfl, hb⟩; have B1 := Lib.hid hb; have HK1 := Lib.hid (HK.out.below hb (Nat.le_refl _)); have HM1 := Lib.hid (HM.out.below hb (Nat.le_refl _)); have HW1 := Lib.hid (HW.out.below hb (Nat.le_refl _)); have HP1 := Lib.hid (HP.out.below hb (Nat.le_refl _)); clear hb))
  go_ret
  exact ⟨by simp, B2.out⟩
set_option maxRecDepth 100000 in
set_option maxHeartbeats 2000000 in
theorem opens_few_t (w : World) (ak : Option Addr) (ck : Nat) (K : List Int) (hK : Slc w (.slice ak K.length ck) K) (an : Option Addr) (cn : Nat) (M : List Int) (hM : Slc w (.slice an M.length cn) M) (aw : Option Addr) (cw : Nat) (W : List Int) (hW : Slc w (.slice aw W.length cw) W) (ap : Option Addr) (cp : Nat) (P : List Int) (hP : Slc w (.slice ap P.length cp) P) (h1 : K.length ≤ 100) (h2 : M.length ≤ 100) (h3 : W.length ≤ 300) (h4 : P.length ≤ 300) (h16 : P.length < 16) :
    Calls Try.prog 7 #[.slice ak K.length ck, .slice an M.length cn, .slice aw W.length cw, .slice ap P.length cp, .bool true] w fun e w' => e = .returned (.bool true) ∧ Below w.heap.size w w' := by
  have HK := Lib.hid hK
  have HM := Lib.hid hM
  have HW := Lib.hid hW
  have HP := Lib.hid hP
  have HLW : Hid (W.length ≤ 300) := h3
  have HLP : Hid (P.length ≤ 300) := h4
  clear hK hM hW hP
  have hcn := fun w => conv_slc (show Slc w (.slice none 0 0) [] from ⟨none, 0, rfl, Nat.le_refl _, fun _ h => (List.not_mem_nil h).elim, Or.inl rfl⟩)
  go_enter Try.func7, Try.ntmps7
  go_wp2_with (first
    | (go_at_call 16; refine (open_short w1 _ _ _ ap P.length cp h16).mono ?_; rintro e w2 ⟨rfl, hb⟩; have B2 := Lib.hid (B1.out.trans (hb.mono B1.out.size)); clear hb)
    | (go_at_call 8; refine (awake_any w).mono ?_; rintro e w1 ⟨rfl, hb⟩; have B1 := Lib.hid hb; have HK1 := Lib.hid (HK.out.below hb (Nat.le_refl _)); have HM1 := Lib.hid (HM.out.below hb (Nat.le_refl _)); have HW1 := Lib.hid (HW.out.below hb (Nat.le_refl _)); have HP1 := Lib.hid (HP.out.below hb (Nat.le_refl _)); clear hb))
  go_ret
  exact ⟨by simp, B2.out⟩
set_option maxRecDepth 100000 in
set_option maxHeartbeats 2000000 in
theorem opens_yes (w : World) (ak : Option Addr) (ck : Nat) (K : List Int) (hK : Slc w (.slice ak K.length ck) K) (an : Option Addr) (cn : Nat) (M : List Int) (hM : Slc w (.slice an M.length cn) M) (aw : Option Addr) (cw : Nat) (W : List Int) (hW : Slc w (.slice aw W.length cw) W) (ap : Option Addr) (cp : Nat) (P : List Int) (hP : Slc w (.slice ap P.length cp) P) (h1 : K.length ≤ 100) (h2 : M.length ≤ 100) (h3 : W.length ≤ 300) (h4 : P.length ≤ 300) (h16 : 16 ≤ P.length) (htag : Ch.stag (fit K 32) (fit M 12) W (P.take (P.length - 16)) = P.drop (P.length - 16)) :
    Calls Try.prog 7 #[.slice ak K.length ck, .slice an M.length cn, .slice aw W.length cw, .slice ap P.length cp, .bool false] w fun e w' => e = .returned (.bool true) ∧ Below w.heap.size w w' := by
  have HK := Lib.hid hK
  have HM := Lib.hid hM
  have HW := Lib.hid hW
  have HP := Lib.hid hP
  have HLW : Hid (W.length ≤ 300) := h3
  have HLP : Hid (P.length ≤ 300) := h4
  have HTAG := Lib.hid htag
  obtain ⟨XT, hXT⟩ : ∃ XT, XT = P.take (P.length - 16) := ⟨_, rfl⟩
  obtain ⟨XD, hXD⟩ : ∃ XD, XD = P.drop (P.length - 16) := ⟨_, rfl⟩
  obtain ⟨XS, hXS⟩ : ∃ XS, XS = Ch.seald (fit K 32) (fit M 12) W (Ch.stream (fit K 32) 1 (fit M 12) XT) := ⟨_, rfl⟩
  have hcut0 := slc_cut hP 0 (P.length - 16) (Nat.zero_le _) (Nat.sub_le _ _)
  obtain ⟨ac, cc, hac⟩ := slc_form hcut0
  rw [List.drop_zero, Nat.sub_zero, ← hXT] at hac
  have HCS : Hid (∀ wq, Slc wq (.slice ap P.length cp) P → Slc wq (.slice ac XT.length cc) XT) := fun wq h => by
    have h0 := slc_cut h 0 (P.length - 16) (Nat.zero_le _) (Nat.sub_le _ _)
    rw [List.drop_zero, Nat.sub_zero, ← hXT, hac] at h0
    exact h0
  obtain ⟨mm, hmm⟩ : ∃ mm, mm = P.length - 16 := ⟨_, rfl⟩
  have hrun : ∀ w, (Instr.slice 22 (.slice ap P.length cp) none (some (.int .i64 (mm : Int))) none).run Try.prog w = .ok (.slice ac XT.length cc) w := fun w => by
    have hc : P.length ≤ cp := by
      obtain ⟨a', c', hv, hc, _⟩ := hP
      simp only [Value.slice.injEq] at hv
      obtain ⟨-, -, rfl⟩ := hv
      exact hc
    rw [← hac, ← hmm]
    exact run_cutH ap P.length cp mm (by omega) _ rfl w
  have hsub : (P.length : Int) - 16 = (mm : Int) := by omega
  have hx8 := slc_W8 hP
  have ht8 : ∀ x ∈ XT, W8 x := fun x hx => hx8 x (List.mem_of_mem_take (by rw [← hXT]; exact hx))
  have hXSe : XS = XT ++ Ch.stag (fit K 32) (fit M 12) W XT := by rw [hXS]; exact Ch.seald_plain _ _ _ _ ht8
  have HXT : Hid (XT = P.take (P.length - 16) ∧ XD = P.drop (P.length - 16)) := ⟨hXT, hXD⟩
  have HLX : Hid (P.length ≤ 300) := h4
  have HLY : Hid (16 ≤ P.length) := h16
  have HLS : Hid ((Ch.stream (fit K 32) 1 (fit M 12) XT).length ≤ 2000) := by show _ ≤ _; rw [Ch.stream_length, hXT, List.length_take]; omega
  have HXS := Lib.hid hXS
  have HXX : Hid (XS = P) := by
    show _ = _
    rw [hXSe, hXT, HTAG.out]
    exact List.take_append_drop _ _
  clear hK hM hW hP htag hXT hXD hXS hXSe hx8 ht8 hmm hcut0 hac
  go_enter Try.func7, Try.ntmps7
  go_wp2_with (first
    | (go_at_call 12; refine (rstream_cut w7 ak ck K HK7.out an cn M HM7.out (.slice ac XT.length cc) XT (HCS.out w7 HX7.out) ?_).mono ?_; exact (by rw [HXT.out.1, List.length_take]; have := HLX.out; omega); rintro e w9 ⟨v9, rfl, hv, hb⟩; have HK9 := Lib.hid (HK7.out.below hb (Nat.le_refl _)); have HM9 := Lib.hid (HM7.out.below hb (Nat.le_refl _)); have HW9 := Lib.hid (HW7.out.below hb (Nat.le_refl _)); have HX9 := Lib.hid (HX7.out.below hb (Nat.le_refl _)); have HT9 := Lib.hid (HT7.out.below hb (Nat.le_refl _)); have B9 := Lib.hid (B7.out.trans (hb.mono B7.out.size)); have HS9 := Lib.hid hv.slc; clear hb hv)
    | (go_at_call 16; refine (open_yes w1 ak ck K HK1.out an cn M HM1.out aw cw W HW1.out ap cp P HP1.out ?_ ?_ ?_ ?_).mono ?_; exact (Nat.le_trans HLW.out (by decide)); exact (Nat.le_trans HLX.out (by decide)); exact HLY.out; exact HTAG.out; rintro e w7 ⟨v7, rfl, hv, hb⟩; have HK7 := Lib.hid (HK1.out.below hb (Nat.le_refl _)); have HM7 := Lib.hid (HM1.out.below hb (Nat.le_refl _)); have HW7 := Lib.hid (HW1.out.below hb (Nat.le_refl _)); have HX7 := Lib.hid (HP1.out.below hb (Nat.le_refl _)); have B7 := Lib.hid (B1.out.trans (hb.mono B1.out.size)); have HT7 := Lib.hid hv.slc; clear hb hv)
    | (go_at_call 8; refine (awake_any w).mono ?_; rintro e w1 ⟨rfl, hb⟩; have B1 := Lib.hid hb; have HK1 := Lib.hid (HK.out.below hb (Nat.le_refl _)); have HM1 := Lib.hid (HM.out.below hb (Nat.le_refl _)); have HW1 := Lib.hid (HW.out.below hb (Nat.le_refl _)); have HP1 := Lib.hid (HP.out.below hb (Nat.le_refl _)); have HX1 := HP1; clear hb))
  clear HK HM HW HP HK1 HM1 HW1 HP1 HX1 HK7 HM7 HW7 HX7 B1 B7 h1 h2 h3 h4 h16 hrun hsub
  refine Grow.region_tail (by kernel_rfl) 9 (fun i => List.getD (Grow.Spec.is (.slice ak K.length ck) :: Grow.Spec.is (.slice an M.length cn) :: Grow.Spec.is (.slice aw W.length cw) :: Grow.Spec.slc (Ch.stream (fit K 32) 1 (fit M 12) XT) :: Grow.Spec.slc XS :: Grow.Spec.is (.string (strOfNums (XS))) :: Grow.Spec.slc P :: Grow.Spec.is (.string (strOfNums (P))) :: Grow.Spec.is (.bool true) :: []) i (Grow.Spec.is undef)) (by kernel_rfl) ⟨
    Grow.h2_move (Or.inl rfl) _ (Or.inl rfl) (fun a wx hk => by have e : a.eval (.tmp 0) = _ := hk.rest 0 (by kernel_rfl); rw [e]; rfl),
    Grow.h2_move (Or.inl rfl) _ (Or.inl rfl) (fun a wx hk => by have e : a.eval (.tmp 1) = _ := hk.rest 1 (by kernel_rfl); rw [e]; rfl),
    Grow.h2_move (Or.inl rfl) _ (Or.inl rfl) (fun a wx hk => by have e : a.eval (.tmp 2) = _ := hk.rest 2 (by kernel_rfl); rw [e]; rfl),
    Grow.h2_move (Or.inl rfl) _ (Or.inl rfl) (fun a wx hk => by have e : a.eval (.tmp 17) = _ := hk.rest 17 (by kernel_rfl); rw [e]; exact HS9.out.below hk.below (Nat.le_refl _)),
    Grow.h2_call4 (Or.inl rfl) 17 Grow.enter17 _ _ _ _ _ rfl (fun a wx hk => by have e88 : a.eval (.tmp 88) = .slice ak K.length ck := (hk.deps 0 88 (by kernel_rfl)); have e89 : a.eval (.tmp 89) = .slice an M.length cn := (hk.deps 1 89 (by kernel_rfl)); have e90 : a.eval (.tmp 90) = .slice aw W.length cw := (hk.deps 2 90 (by kernel_rfl)); rw [e88, e89, e90]; refine (rseal_cut wx ak ck K (HK9.out.below hk.below (Nat.le_refl _)) an cn M (HM9.out.below hk.below (Nat.le_refl _)) aw cw W (HW9.out.below hk.below (Nat.le_refl _)) _ _ (hk.deps 3 91 (by kernel_rfl)) (Nat.le_trans HLW.out (by decide)) HLS.out).mono ?_; rintro e w5 ⟨v5, rfl, hv, hb⟩; exact ⟨_, rfl, by rw [HXS.out]; exact hv.slc, hb⟩),
    Grow.h2_conv (Or.inl rfl) 4 92 _ rfl (by kernel_rfl) rfl rfl,
    Grow.h2_move (Or.inl rfl) _ (Or.inl rfl) (fun a wx hk => by have e : a.eval (.tmp 3) = _ := hk.rest 3 (by kernel_rfl); rw [e]; exact HX9.out.below hk.below (Nat.le_refl _)),
    Grow.h2_conv (Or.inl rfl) 6 94 _ rfl (by kernel_rfl) rfl rfl,
    Grow.h2_eqls (Or.inl rfl) 5 93 7 95 _ rfl (by kernel_rfl) (by kernel_rfl) rfl (by rw [← HXX.out]; rfl) rfl,
    trivial⟩ ?_
  intro o a w8 ho hb hts hk hdf hfr
  obtain rfl := Option.some.inj ho
  clear ho
  have e96 : a.eval (.tmp 96) = .bool true := hk 8 96 (by decide) rfl
  refine ⟨rfl, Grow.wp_assign 16 (.tmp 96) rfl rfl ?_⟩
  have HBF := Lib.hid (B9.out.trans (hb.mono B9.out.size))
  have HS8 := Lib.hid (HS9.out.below hb (Nat.le_refl _))
  have HT8 := Lib.hid (HT9.out.below hb (Nat.le_refl _))
  have ha := Grow.act_after hts hdf hfr
  rw [show Grow.dsts _ 9 = [88, 89, 90, 91, 92, 93, 94, 95, 96] from by kernel_rfl] at ha
  rw [e96]
  simp only [Grow.putAll] at ha
  generalize a.eval (.tmp 88) = z88 at ha
  generalize a.eval (.tmp 89) = z89 at ha
  generalize a.eval (.tmp 90) = z90 at ha
  generalize a.eval (.tmp 91) = z91 at ha
  generalize a.eval (.tmp 92) = z92 at ha
  generalize a.eval (.tmp 93) = z93 at ha
  generalize a.eval (.tmp 94) = z94 at ha
  generalize a.eval (.tmp 95) = z95 at ha
  generalize a.eval (.tmp 96) = z96 at ha
  simp [Act.put] at ha
  clear hk hts hdf hfr e96 hb
  subst ha
  have c1 := conv_slc HS8.out
  have c2 := conv_slc HT8.out
  rw [HXT.out.1] at c1
  clear HS8 HT8 HK9 HM9 HW9 HX9 HS9 HT9 HXS HXX
  generalize Ch.stream (fit K 32) 1 (fit M 12) (P.take (P.length - 16)) = PL at *
  go_wp2_with fail
  go_ret
  exact ⟨by simp, HBF.out⟩
set_option maxRecDepth 100000 in
set_option maxHeartbeats 2000000 in
theorem opens_no (w : World) (ak : Option Addr) (ck : Nat) (K : List Int) (hK : Slc w (.slice ak K.length ck) K) (an : Option Addr) (cn : Nat) (M : List Int) (hM : Slc w (.slice an M.length cn) M) (aw : Option Addr) (cw : Nat) (W : List Int) (hW : Slc w (.slice aw W.length cw) W) (ap : Option Addr) (cp : Nat) (P : List Int) (hP : Slc w (.slice ap P.length cp) P) (h1 : K.length ≤ 100) (h2 : M.length ≤ 100) (h3 : W.length ≤ 300) (h4 : P.length ≤ 300) (h16 : 16 ≤ P.length) (htag : ¬ Ch.stag (fit K 32) (fit M 12) W (P.take (P.length - 16)) = P.drop (P.length - 16)) :
    Calls Try.prog 7 #[.slice ak K.length ck, .slice an M.length cn, .slice aw W.length cw, .slice ap P.length cp, .bool false] w fun e w' => e = .returned (.bool true) ∧ Below w.heap.size w w' := by
  have HK := Lib.hid hK
  have HM := Lib.hid hM
  have HW := Lib.hid hW
  have HP := Lib.hid hP
  have HLW : Hid (W.length ≤ 300) := h3
  have HLP : Hid (P.length ≤ 300) := h4
  have HTAG := Lib.hid htag
  obtain ⟨XT, hXT⟩ : ∃ XT, XT = P.take (P.length - 16) := ⟨_, rfl⟩
  obtain ⟨XD, hXD⟩ : ∃ XD, XD = P.drop (P.length - 16) := ⟨_, rfl⟩
  obtain ⟨XS, hXS⟩ : ∃ XS, XS = Ch.seald (fit K 32) (fit M 12) W (Ch.stream (fit K 32) 1 (fit M 12) XT) := ⟨_, rfl⟩
  have hcut0 := slc_cut hP 0 (P.length - 16) (Nat.zero_le _) (Nat.sub_le _ _)
  obtain ⟨ac, cc, hac⟩ := slc_form hcut0
  rw [List.drop_zero, Nat.sub_zero, ← hXT] at hac
  have HCS : Hid (∀ wq, Slc wq (.slice ap P.length cp) P → Slc wq (.slice ac XT.length cc) XT) := fun wq h => by
    have h0 := slc_cut h 0 (P.length - 16) (Nat.zero_le _) (Nat.sub_le _ _)
    rw [List.drop_zero, Nat.sub_zero, ← hXT, hac] at h0
    exact h0
  obtain ⟨mm, hmm⟩ : ∃ mm, mm = P.length - 16 := ⟨_, rfl⟩
  have hrun : ∀ w, (Instr.slice 22 (.slice ap P.length cp) none (some (.int .i64 (mm : Int))) none).run Try.prog w = .ok (.slice ac XT.length cc) w := fun w => by
    have hc : P.length ≤ cp := by
      obtain ⟨a', c', hv, hc, _⟩ := hP
      simp only [Value.slice.injEq] at hv
      obtain ⟨-, -, rfl⟩ := hv
      exact hc
    rw [← hac, ← hmm]
    exact run_cutH ap P.length cp mm (by omega) _ rfl w
  have hsub : (P.length : Int) - 16 = (mm : Int) := by omega
  have hx8 := slc_W8 hP
  have ht8 : ∀ x ∈ XT, W8 x := fun x hx => hx8 x (List.mem_of_mem_take (by rw [← hXT]; exact hx))
  have hXSe : XS = XT ++ Ch.stag (fit K 32) (fit M 12) W XT := by rw [hXS]; exact Ch.seald_plain _ _ _ _ ht8
  have HXT : Hid (XT = P.take (P.length - 16) ∧ XD = P.drop (P.length - 16)) := ⟨hXT, hXD⟩
  have HLX : Hid (P.length ≤ 300) := h4
  have HLY : Hid (16 ≤ P.length) := h16
  have HLS : Hid ((Ch.stream (fit K 32) 1 (fit M 12) XT).length ≤ 2000) := by show _ ≤ _; rw [Ch.stream_length, hXT, List.length_take]; omega
  have HXS := Lib.hid hXS
  have HNE : Hid (¬ strOfNums XS = strOfNums P) := by
    intro hh
    have h8s : ∀ x ∈ XS, W8 x := by
      rw [hXSe]
      intro x hx
      rcases List.mem_append.1 hx with hx | hx
      · exact ht8 x hx
      · exact Bt.le_W8 _ _ x hx
    have hh2 := strOfNums_inj h8s hx8 hh
    rw [hXSe] at hh2
    refine HTAG.out ?_
    have h9 := List.take_append_drop (P.length - 16) P
    rw [← hXT] at h9 ⊢
    exact List.append_cancel_left (hh2.trans h9.symm)
  clear hK hM hW hP htag hXT hXD hXS hXSe hx8 ht8 hmm hcut0 hac
  go_enter Try.func7, Try.ntmps7
  go_wp2_with (first
    | (go_at_call 12; refine (rstream_cut w7 ak ck K HK7.out an cn M HM7.out (.slice ac XT.length cc) XT (HCS.out w7 HX7.out) ?_).mono ?_; exact (by rw [HXT.out.1, List.length_take]; have := HLX.out; omega); rintro e w9 ⟨v9, rfl, hv, hb⟩; have HK9 := Lib.hid (HK7.out.below hb (Nat.le_refl _)); have HM9 := Lib.hid (HM7.out.below hb (Nat.le_refl _)); have HW9 := Lib.hid (HW7.out.below hb (Nat.le_refl _)); have HX9 := Lib.hid (HX7.out.below hb (Nat.le_refl _)); have B9 := Lib.hid (B7.out.trans (hb.mono B7.out.size)); have HS9 := Lib.hid hv.slc; clear hb hv)
    | (go_at_call 16; refine (open_no w1 ak ck K HK1.out an cn M HM1.out aw cw W HW1.out ap cp P HP1.out ?_ ?_ ?_ ?_).mono ?_; exact (Nat.le_trans HLW.out (by decide)); exact (Nat.le_trans HLX.out (by decide)); exact HLY.out; exact HTAG.out; rintro e w7 ⟨rfl, hb⟩; have HK7 := Lib.hid (HK1.out.below hb (Nat.le_refl _)); have HM7 := Lib.hid (HM1.out.below hb (Nat.le_refl _)); have HW7 := Lib.hid (HW1.out.below hb (Nat.le_refl _)); have HX7 := Lib.hid (HP1.out.below hb (Nat.le_refl _)); have B7 := Lib.hid (B1.out.trans (hb.mono B1.out.size)); clear hb)
    | (go_at_call 8; refine (awake_any w).mono ?_; rintro e w1 ⟨rfl, hb⟩; have B1 := Lib.hid hb; have HK1 := Lib.hid (HK.out.below hb (Nat.le_refl _)); have HM1 := Lib.hid (HM.out.below hb (Nat.le_refl _)); have HW1 := Lib.hid (HW.out.below hb (Nat.le_refl _)); have HP1 := Lib.hid (HP.out.below hb (Nat.le_refl _)); have HX1 := HP1; clear hb))
  clear HK HM HW HP HK1 HM1 HW1 HP1 HX1 HK7 HM7 HW7 HX7 B1 B7 h1 h2 h3 h4 h16 hrun hsub
  refine Grow.region_tail (by kernel_rfl) 9 (fun i => List.getD (Grow.Spec.is (.slice ak K.length ck) :: Grow.Spec.is (.slice an M.length cn) :: Grow.Spec.is (.slice aw W.length cw) :: Grow.Spec.slc (Ch.stream (fit K 32) 1 (fit M 12) XT) :: Grow.Spec.slc XS :: Grow.Spec.is (.string (strOfNums (XS))) :: Grow.Spec.slc P :: Grow.Spec.is (.string (strOfNums (P))) :: Grow.Spec.is (.bool false) :: []) i (Grow.Spec.is undef)) (by kernel_rfl) ⟨
    Grow.h2_move (Or.inl rfl) _ (Or.inl rfl) (fun a wx hk => by have e : a.eval (.tmp 0) = _ := hk.rest 0 (by kernel_rfl); rw [e]; rfl),
    Grow.h2_move (Or.inl rfl) _ (Or.inl rfl) (fun a wx hk => by have e : a.eval (.tmp 1) = _ := hk.rest 1 (by kernel_rfl); rw [e]; rfl),
    Grow.h2_move (Or.inl rfl) _ (Or.inl rfl) (fun a wx hk => by have e : a.eval (.tmp 2) = _ := hk.rest 2 (by kernel_rfl); rw [e]; rfl),
    Grow.h2_move (Or.inl rfl) _ (Or.inl rfl) (fun a wx hk => by have e : a.eval (.tmp 17) = _ := hk.rest 17 (by kernel_rfl); rw [e]; exact HS9.out.below hk.below (Nat.le_refl _)),
    Grow.h2_call4 (Or.inl rfl) 17 Grow.enter17 _ _ _ _ _ rfl (fun a wx hk => by have e88 : a.eval (.tmp 88) = .slice ak K.length ck := (hk.deps 0 88 (by kernel_rfl)); have e89 : a.eval (.tmp 89) = .slice an M.length cn := (hk.deps 1 89 (by kernel_rfl)); have e90 : a.eval (.tmp 90) = .slice aw W.length cw := (hk.deps 2 90 (by kernel_rfl)); rw [e88, e89, e90]; refine (rseal_cut wx ak ck K (HK9.out.below hk.below (Nat.le_refl _)) an cn M (HM9.out.below hk.below (Nat.le_refl _)) aw cw W (HW9.out.below hk.below (Nat.le_refl _)) _ _ (hk.deps 3 91 (by kernel_rfl)) (Nat.le_trans HLW.out (by decide)) HLS.out).mono ?_; rintro e w5 ⟨v5, rfl, hv, hb⟩; exact ⟨_, rfl, by rw [HXS.out]; exact hv.slc, hb⟩),
    Grow.h2_conv (Or.inl rfl) 4 92 _ rfl (by kernel_rfl) rfl rfl,
    Grow.h2_move (Or.inl rfl) _ (Or.inl rfl) (fun a wx hk => by have e : a.eval (.tmp 3) = _ := hk.rest 3 (by kernel_rfl); rw [e]; exact HX9.out.below hk.below (Nat.le_refl _)),
    Grow.h2_conv (Or.inl rfl) 6 94 _ rfl (by kernel_rfl) rfl rfl,
    Grow.h2_neqs (Or.inl rfl) 5 93 7 95 _ _ HNE.out rfl (by kernel_rfl) (by kernel_rfl) rfl rfl rfl,
    trivial⟩ ?_
  intro o a w8 ho hb hts hk hdf hfr
  obtain rfl := Option.some.inj ho
  clear ho
  have e96 : a.eval (.tmp 96) = .bool false := hk 8 96 (by decide) rfl
  refine ⟨rfl, Grow.wp_assign 16 (.tmp 96) rfl rfl ?_⟩
  have HBF := Lib.hid (B9.out.trans (hb.mono B9.out.size))
  have HS8 := Lib.hid (HS9.out.below hb (Nat.le_refl _))
  have ha := Grow.act_after hts hdf hfr
  rw [show Grow.dsts _ 9 = [88, 89, 90, 91, 92, 93, 94, 95, 96] from by kernel_rfl] at ha
  rw [e96]
  simp only [Grow.putAll] at ha
  generalize a.eval (.tmp 88) = z88 at ha
  generalize a.eval (.tmp 89) = z89 at ha
  generalize a.eval (.tmp 90) = z90 at ha
  generalize a.eval (.tmp 91) = z91 at ha
  generalize a.eval (.tmp 92) = z92 at ha
  generalize a.eval (.tmp 93) = z93 at ha
  generalize a.eval (.tmp 94) = z94 at ha
  generalize a.eval (.tmp 95) = z95 at ha
  generalize a.eval (.tmp 96) = z96 at ha
  simp [Act.put] at ha
  clear hk hts hdf hfr e96 hb
  subst ha
  have hcn := fun w => conv_slc (show Slc w (.slice none 0 0) [] from ⟨none, 0, rfl, Nat.le_refl _, fun _ h => (List.not_mem_nil h).elim, Or.inl rfl⟩)
  clear HS8 HK9 HM9 HW9 HX9 HS9 HXS HNE
  go_wp2_with fail
  go_ret
  exact ⟨by simp, HBF.out⟩
set_option maxRecDepth 100000 in
set_option maxHeartbeats 2000000 in
theorem opens_seal (w : World) (ak : Option Addr) (ck : Nat) (K : List Int) (hK : Slc w (.slice ak K.length ck) K) (an : Option Addr) (cn : Nat) (M : List Int) (hM : Slc w (.slice an M.length cn) M) (aw : Option Addr) (cw : Nat) (W : List Int) (hW : Slc w (.slice aw W.length cw) W) (ap : Option Addr) (cp : Nat) (P : List Int) (hP : Slc w (.slice ap P.length cp) P) (h1 : K.length ≤ 100) (h2 : M.length ≤ 100) (h3 : W.length ≤ 300) (h4 : P.length ≤ 300) (h16 : 16 ≤ P.length) :
    Calls Try.prog 7 #[.slice ak K.length ck, .slice an M.length cn, .slice aw W.length cw, .slice ap P.length cp, .bool true] w fun e w' => e = .returned (.bool true) ∧ Below w.heap.size w w' := by
  have HK := Lib.hid hK
  have HM := Lib.hid hM
  have HW := Lib.hid hW
  have HP := Lib.hid hP
  have HLW : Hid (W.length ≤ 300) := h3
  have HLP : Hid (P.length ≤ 300) := h4
  obtain ⟨XT, hXT⟩ : ∃ XT, XT = P.take (P.length - 16) := ⟨_, rfl⟩
  obtain ⟨XD, hXD⟩ : ∃ XD, XD = P.drop (P.length - 16) := ⟨_, rfl⟩
  obtain ⟨XS, hXS⟩ : ∃ XS, XS = Ch.seald (fit K 32) (fit M 12) W (Ch.stream (fit K 32) 1 (fit M 12) XT) := ⟨_, rfl⟩
  have hcut0 := slc_cut hP 0 (P.length - 16) (Nat.zero_le _) (Nat.sub_le _ _)
  obtain ⟨ac, cc, hac⟩ := slc_form hcut0
  rw [List.drop_zero, Nat.sub_zero, ← hXT] at hac
  have HCS : Hid (∀ wq, Slc wq (.slice ap P.length cp) P → Slc wq (.slice ac XT.length cc) XT) := fun wq h => by
    have h0 := slc_cut h 0 (P.length - 16) (Nat.zero_le _) (Nat.sub_le _ _)
    rw [List.drop_zero, Nat.sub_zero, ← hXT, hac] at h0
    exact h0
  obtain ⟨mm, hmm⟩ : ∃ mm, mm = P.length - 16 := ⟨_, rfl⟩
  have hrun : ∀ w, (Instr.slice 22 (.slice ap P.length cp) none (some (.int .i64 (mm : Int))) none).run Try.prog w = .ok (.slice ac XT.length cc) w := fun w => by
    have hc : P.length ≤ cp := by
      obtain ⟨a', c', hv, hc, _⟩ := hP
      simp only [Value.slice.injEq] at hv
      obtain ⟨-, -, rfl⟩ := hv
      exact hc
    rw [← hac, ← hmm]
    exact run_cutH ap P.length cp mm (by omega) _ rfl w
  have hsub : (P.length : Int) - 16 = (mm : Int) := by omega
  have hx8 := slc_W8 hP
  have ht8 : ∀ x ∈ XT, W8 x := fun x hx => hx8 x (List.mem_of_mem_take (by rw [← hXT]; exact hx))
  have hXSe : XS = XT ++ Ch.stag (fit K 32) (fit M 12) W XT := by rw [hXS]; exact Ch.seald_plain _ _ _ _ ht8
  have HLS : Hid ((Ch.stream (fit K 32) 1 (fit M 12) XT).length ≤ 2000) := by show _ ≤ _; rw [Ch.stream_length, hXT, List.length_take]; omega
  have HXS := Lib.hid hXS
  have hlt : XT.length = mm := by rw [hXT, List.length_take, hmm]; omega
  have hlx : XS.length = mm + 16 := by rw [hXSe, List.length_append, Ch.stag_length, hlt]
  have hxt : XS.take (XS.length - 16) = XT := by rw [hlx, Nat.add_sub_cancel, hXSe, ← hlt]; exact List.take_left
  have hxd : XS.drop (XS.length - 16) = Ch.stag (fit K 32) (fit M 12) W XT := by rw [hlx, Nat.add_sub_cancel, hXSe, ← hlt]; exact List.drop_left
  have hm284 : mm ≤ 284 := by omega
  have HTAG : Hid (Ch.stag (fit K 32) (fit M 12) W (XS.take (XS.length - 16)) = XS.drop (XS.length - 16)) := by show _ = _; rw [hxt, hxd]
  have HXT : Hid (XT = XS.take (XS.length - 16) ∧ XD = XD) := ⟨hxt.symm, rfl⟩
  have HLX : Hid (XS.length ≤ 300) := by show _ ≤ _; omega
  have HLY : Hid (16 ≤ XS.length) := by show _ ≤ _; omega
  have HXE : Hid (XT ++ Ch.stag (fit K 32) (fit M 12) W XT = XS) := hXSe.symm
  obtain ⟨f, hf⟩ : ∃ f : Option Addr → Nat → Value, ∀ a c, f a c = sliced a mm XS.length c 1 := ⟨fun a c => sliced a mm XS.length c 1, fun _ _ => rfl⟩
  have hcl : ∀ a c w, (Instr.slice 22 (.slice a XS.length c) (some (.int .i64 (mm : Int))) none none).run Try.prog w = .ok (f a c) w := fun a c w => by rw [hf]; exact run_cutL a XS.length c mm (by omega) _ rfl w
  have HF : Hid (∀ w a c, Slc w (.slice a XS.length c) XS → Slc w (f a c) (Ch.stag (fit K 32) (fit M 12) W XT)) := fun w a c h => by
    have h0 := slc_from h mm (by omega)
    rw [show XS.drop mm = Ch.stag (fit K 32) (fit M 12) W XT from by rw [← hxd, hlx, Nat.add_sub_cancel]] at h0
    rw [hf]
    exact h0
  obtain ⟨f2, hf2⟩ : ∃ f : Option Addr → Nat → Value, ∀ a c, f a c = sliced a 0 mm c 1 := ⟨fun a c => sliced a 0 mm c 1, fun _ _ => rfl⟩
  have hch : ∀ a c w, XS.length ≤ c → (Instr.slice 22 (.slice a XS.length c) none (some (.int .i64 (mm : Int))) none).run Try.prog w = .ok (f2 a c) w := fun a c w h => by rw [hf2]; exact run_cutH a XS.length c mm (by omega) _ rfl w
  have HF2 : Hid (∀ w a c, Slc w (.slice a XS.length c) XS → Slc w (f2 a c) XT) := fun w a c h => by
    have h0 := slc_cut h 0 mm (Nat.zero_le _) (by omega)
    rw [List.drop_zero, Nat.sub_zero, show XS.take mm = XT from by rw [← hxt, hlx, Nat.add_sub_cancel]] at h0
    rw [hf2]
    exact h0
  have hsub2 : (XS.length : Int) - 16 = (mm : Int) := by omega
  have hlx16 : ¬ XS.length < 16 := by omega
  have hlx300 : XS.length ≤ 300 := by omega
  have HLT : Hid (XT.length ≤ 300) := by show _ ≤ _; omega
  clear hK hM hW hP hXT hXD hXS hXSe hx8 ht8 hmm hcut0 hac hlt hlx hxt hxd hf hf2
  go_enter Try.func7, Try.ntmps7
  go_wp2_with (first
    | (go_at_call 12; refine (rstream_cut w7 ak ck K HK7.out an cn M HM7.out (f2 ax cx) XT (HF2.out w7 ax cx HX7.out) ?_).mono ?_; exact (Nat.le_trans HLT.out (by decide)); rintro e w9 ⟨v9, rfl, hv, hb⟩; have HK9 := Lib.hid (HK7.out.below hb (Nat.le_refl _)); have HM9 := Lib.hid (HM7.out.below hb (Nat.le_refl _)); have HW9 := Lib.hid (HW7.out.below hb (Nat.le_refl _)); have HX9 := Lib.hid (HX7.out.below hb (Nat.le_refl _)); have HT9 := Lib.hid (HT7.out.below hb (Nat.le_refl _)); have B9 := Lib.hid (B7.out.trans (hb.mono B7.out.size)); have HS9 := Lib.hid hv.slc; clear hb hv)
    | (go_at_call 16; refine (open_yes w5 ak ck K HK5.out an cn M HM5.out aw cw W HW5.out ax cx XS HX5.out ?_ ?_ ?_ ?_).mono ?_; exact (Nat.le_trans HLW.out (by decide)); exact (Nat.le_trans HLX.out (by decide)); exact HLY.out; exact HTAG.out; rintro e w7 ⟨v7, rfl, hv, hb⟩; have HK7 := Lib.hid (HK5.out.below hb (Nat.le_refl _)); have HM7 := Lib.hid (HM5.out.below hb (Nat.le_refl _)); have HW7 := Lib.hid (HW5.out.below hb (Nat.le_refl _)); have HX7 := Lib.hid (HX5.out.below hb (Nat.le_refl _)); have B7 := Lib.hid (B5.out.trans (hb.mono B5.out.size)); have HT7 := Lib.hid hv.slc; clear hb hv)
    | ((with_reducible refine append_slc (o := ⟨some 67, _, _, _, _, _⟩) rfl (.tmp 63) (.tmp 66) rfl w1.heap.size v2 XT rfl OQ4.out (f a4 c4) (Ch.stag (fit K 32) (fit M 12) W XT) rfl (HF.out w4 a4 c4 HS4.out) ?_ w1 BQ4.out ?_); exact (by rw [Ch.stag_length]; have := HLT.out; omega); intro v5 w5 hv hb; rw [HXE.out] at hv; have HK5 := Lib.hid (HK1.out.below hb (Nat.le_refl _)); have HM5 := Lib.hid (HM1.out.below hb (Nat.le_refl _)); have HW5 := Lib.hid (HW1.out.below hb (Nat.le_refl _)); have B5 := Lib.hid (B1.out.trans (hb.mono B1.out.size)); have HX5 := Lib.hid hv.slc; clear hv hb; obtain ⟨ax, cx, hvx, hcx, hrest⟩ := HX5.out; subst hvx; clear hrest)
    | (go_at_call 17; refine (rseal_cut w3 ak ck K HK3.out an cn M HM3.out aw cw W HW3.out v3 _ HS3.out (Nat.le_trans HLW.out (by decide)) HLS.out).mono ?_; rintro e w4 ⟨v4, rfl, hv, hb⟩; rw [← HXS.out] at hv; have HK4 := Lib.hid (HK3.out.below hb (Nat.le_refl _)); have HM4 := Lib.hid (HM3.out.below hb (Nat.le_refl _)); have HW4 := Lib.hid (HW3.out.below hb (Nat.le_refl _)); have B4 := Lib.hid (B3.out.trans (hb.mono B3.out.size)); have OQ4 := Lib.hid (OQ3.out.below hb); have BQ4 := Lib.hid (BQ3.out.trans (hb.mono BQ3.out.size)); have HS4 := Lib.hid hv.slc; clear hv hb; obtain ⟨a4, c4, rfl⟩ := slc_form HS4.out)
    | (go_at_call 12; refine (rstream_cut w2 ak ck K HK2.out an cn M HM2.out v2 XT OQ2.out.slc (Nat.le_trans HLT.out (by decide))).mono ?_; rintro e w3 ⟨v3, rfl, hv, hb⟩; have HK3 := Lib.hid (HK2.out.below hb (Nat.le_refl _)); have HM3 := Lib.hid (HM2.out.below hb (Nat.le_refl _)); have HW3 := Lib.hid (HW2.out.below hb (Nat.le_refl _)); have B3 := Lib.hid (B2.out.trans (hb.mono B2.out.size)); have OQ3 := Lib.hid (OQ2.out.below hb); have BQ3 := Lib.hid (BQ2.out.trans (hb.mono BQ2.out.size)); have HS3 := Lib.hid hv.slc; clear hv hb)
    | ((with_reducible refine append_slc (o := ⟨some 54, _, _, _, _, _⟩) rfl (.tmp 50) (.tmp 53) rfl w1.heap.size (.slice none 0 0) [] rfl ?_ (.slice ac XT.length cc) XT rfl ?_ ?_ w1 ?_ ?_); exact Own.nil w1 (Nat.le_refl _); exact HCS.out w1 HP1.out; exact (by have := HLT.out; simp; omega); exact Below.refl _ _; intro v2 w2 hv hb; rw [List.nil_append] at hv; have OQ2 := Lib.hid hv; have BQ2 := Lib.hid hb; have HK2 := Lib.hid (HK1.out.below hb (Nat.le_refl _)); have HM2 := Lib.hid (HM1.out.below hb (Nat.le_refl _)); have HW2 := Lib.hid (HW1.out.below hb (Nat.le_refl _)); have B2 := Lib.hid (B1.out.trans (hb.mono B1.out.size)); clear hv hb)
    | (go_at_call 8; refine (awake_any w).mono ?_; rintro e w1 ⟨rfl, hb⟩; have B1 := Lib.hid hb; have HK1 := Lib.hid (HK.out.below hb (Nat.le_refl _)); have HM1 := Lib.hid (HM.out.below hb (Nat.le_refl _)); have HW1 := Lib.hid (HW.out.below hb (Nat.le_refl _)); have HP1 := Lib.hid (HP.out.below hb (Nat.le_refl _)); clear hb))
  clear HK HM HW HP HK1 HM1 HW1 HP1 HK2 HM2 HW2 HK3 HM3 HW3 HK4 HM4 HW4 HK5 HM5 HW5 HX5 HK7 HM7 HW7 HX7 B1 B2 B3 B4 B5 B7 OQ2 OQ3 OQ4 BQ2 BQ3 BQ4 HS3 HS4 h1 h2 h3 h4 h16 hrun hsub hsub2 hcl hch HF HF2 hcx
  refine Grow.region_tail (by kernel_rfl) 9 (fun i => List.getD (Grow.Spec.is (.slice ak K.length ck) :: Grow.Spec.is (.slice an M.length cn) :: Grow.Spec.is (.slice aw W.length cw) :: Grow.Spec.slc (Ch.stream (fit K 32) 1 (fit M 12) XT) :: Grow.Spec.slc XS :: Grow.Spec.is (.string (strOfNums (XS))) :: Grow.Spec.slc XS :: Grow.Spec.is (.string (strOfNums (XS))) :: Grow.Spec.is (.bool true) :: []) i (Grow.Spec.is undef)) (by kernel_rfl) ⟨
    Grow.h2_move (Or.inl rfl) _ (Or.inl rfl) (fun a wx hk => by have e : a.eval (.tmp 0) = _ := hk.rest 0 (by kernel_rfl); rw [e]; rfl),
    Grow.h2_move (Or.inl rfl) _ (Or.inl rfl) (fun a wx hk => by have e : a.eval (.tmp 1) = _ := hk.rest 1 (by kernel_rfl); rw [e]; rfl),
    Grow.h2_move (Or.inl rfl) _ (Or.inl rfl) (fun a wx hk => by have e : a.eval (.tmp 2) = _ := hk.rest 2 (by kernel_rfl); rw [e]; rfl),
    Grow.h2_move (Or.inl rfl) _ (Or.inl rfl) (fun a wx hk => by have e : a.eval (.tmp 17) = _ := hk.rest 17 (by kernel_rfl); rw [e]; exact HS9.out.below hk.below (Nat.le_refl _)),
    Grow.h2_call4 (Or.inl rfl) 17 Grow.enter17 _ _ _ _ _ rfl (fun a wx hk => by have e88 : a.eval (.tmp 88) = .slice ak K.length ck := (hk.deps 0 88 (by kernel_rfl)); have e89 : a.eval (.tmp 89) = .slice an M.length cn := (hk.deps 1 89 (by kernel_rfl)); have e90 : a.eval (.tmp 90) = .slice aw W.length cw := (hk.deps 2 90 (by kernel_rfl)); rw [e88, e89, e90]; refine (rseal_cut wx ak ck K (HK9.out.below hk.below (Nat.le_refl _)) an cn M (HM9.out.below hk.below (Nat.le_refl _)) aw cw W (HW9.out.below hk.below (Nat.le_refl _)) _ _ (hk.deps 3 91 (by kernel_rfl)) (Nat.le_trans HLW.out (by decide)) HLS.out).mono ?_; rintro e w5 ⟨v5, rfl, hv, hb⟩; exact ⟨_, rfl, by rw [HXS.out]; exact hv.slc, hb⟩),
    Grow.h2_conv (Or.inl rfl) 4 92 _ rfl (by kernel_rfl) rfl rfl,
    Grow.h2_move (Or.inl rfl) _ (Or.inl rfl) (fun a wx hk => by have e : a.eval (.tmp 3) = _ := hk.rest 3 (by kernel_rfl); rw [e]; exact HX9.out.below hk.below (Nat.le_refl _)),
    Grow.h2_conv (Or.inl rfl) 6 94 _ rfl (by kernel_rfl) rfl rfl,
    Grow.h2_eqls (Or.inl rfl) 5 93 7 95 _ rfl (by kernel_rfl) (by kernel_rfl) rfl rfl rfl,
    trivial⟩ ?_
  intro o a w8 ho hb hts hk hdf hfr
  obtain rfl := Option.some.inj ho
  clear ho
  have e96 : a.eval (.tmp 96) = .bool true := hk 8 96 (by decide) rfl
  refine ⟨rfl, Grow.wp_assign 16 (.tmp 96) rfl rfl ?_⟩
  have HBF := Lib.hid (B9.out.trans (hb.mono B9.out.size))
  have HS8 := Lib.hid (HS9.out.below hb (Nat.le_refl _))
  have HT8 := Lib.hid (HT9.out.below hb (Nat.le_refl _))
  have ha := Grow.act_after hts hdf hfr
  rw [show Grow.dsts _ 9 = [88, 89, 90, 91, 92, 93, 94, 95, 96] from by kernel_rfl] at ha
  rw [e96]
  simp only [Grow.putAll] at ha
  generalize a.eval (.tmp 88) = z88 at ha
  generalize a.eval (.tmp 89) = z89 at ha
  generalize a.eval (.tmp 90) = z90 at ha
  generalize a.eval (.tmp 91) = z91 at ha
  generalize a.eval (.tmp 92) = z92 at ha
  generalize a.eval (.tmp 93) = z93 at ha
  generalize a.eval (.tmp 94) = z94 at ha
  generalize a.eval (.tmp 95) = z95 at ha
  generalize a.eval (.tmp 96) = z96 at ha
  simp [Act.put] at ha
  clear hk hts hdf hfr e96 hb
  subst ha
  have c1 := conv_slc HS8.out
  have c2 := conv_slc HT8.out
  rw [HXT.out.1] at c1
  clear HS8 HT8 HK9 HM9 HW9 HX9 HS9 HT9 HXS
  generalize Ch.stream (fit K 32) 1 (fit M 12) (XS.take (XS.length - 16)) = PL at *
  go_wp2_with fail
  go_ret
  exact ⟨by simp, HBF.out⟩
theorem opens_walk (w : World) (ak : Option Addr) (ck : Nat) (K : List Int) (hK : Slc w (.slice ak K.length ck) K) (an : Option Addr) (cn : Nat) (M : List Int) (hM : Slc w (.slice an M.length cn) M) (aw : Option Addr) (cw : Nat) (W : List Int) (hW : Slc w (.slice aw W.length cw) W) (ap : Option Addr) (cp : Nat) (P : List Int) (hP : Slc w (.slice ap P.length cp) P) (b : Bool) :
    Calls Try.prog 7 #[.slice ak K.length ck, .slice an M.length cn, .slice aw W.length cw, .slice ap P.length cp, .bool b] w fun e w' => e = .returned (.bool true) ∧ Below w.heap.size w w' := by
  by_cases h : 100 < K.length ∨ 100 < M.length ∨ 300 < W.length ∨ 300 < P.length
  · exact opens_long w ak an aw ap _ ck _ cn _ cw _ cp b h
  · have h1 : K.length ≤ 100 := by omega
    have h2 : M.length ≤ 100 := by omega
    have h3 : W.length ≤ 300 := by omega
    have h4 : P.length ≤ 300 := by omega
    by_cases h16 : P.length < 16
    · cases b
      · exact opens_few_f w ak ck K hK an cn M hM aw cw W hW ap cp P hP h1 h2 h3 h4 h16
      · exact opens_few_t w ak ck K hK an cn M hM aw cw W hW ap cp P hP h1 h2 h3 h4 h16
    · cases b
      · by_cases ht : Ch.stag (fit K 32) (fit M 12) W (P.take (P.length - 16)) = P.drop (P.length - 16)
        · exact opens_yes w ak ck K hK an cn M hM aw cw W hW ap cp P hP h1 h2 h3 h4 (by omega) ht
        · exact opens_no w ak ck K hK an cn M hM aw cw W hW ap cp P hP h1 h2 h3 h4 (by omega) ht
      · exact opens_seal w ak ck K hK an cn M hM aw cw W hW ap cp P hP h1 h2 h3 h4 (by omega)
end Go.Proofs.Yticoefnojgaplaa
