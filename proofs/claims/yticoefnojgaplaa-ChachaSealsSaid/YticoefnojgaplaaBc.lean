/- The walks of Open. -/
import Derived.Test.YticoefnojgaplaaBb
namespace Go.Proofs.Yticoefnojgaplaa
open Go.RowKit
set_option maxRecDepth 100000 in
set_option maxHeartbeats 1000000 in
theorem open_short (w : World) (v1 v2 v3 : Value) (ap : Option Addr) (n cp : Nat) (h : n < 16) :
    Calls Try.prog 16 #[v1, v2, v3, .slice ap n cp] w fun e w' => e = .returned (.tuple #[.slice none 0 0, .bool false]) ∧ Below w.heap.size w w' := by
  go_enter Try.func16, Try.ntmps16
  go_wp2
  go_ret2
  exact ⟨rfl, Below.refl _ _⟩
set_option maxRecDepth 100000 in
set_option maxHeartbeats 1000000 in
theorem open_yes (w : World) (ak : Option Addr) (ck : Nat) (K : List Int) (hK : Slc w (.slice ak K.length ck) K) (an : Option Addr) (cn : Nat) (N : List Int) (hN : Slc w (.slice an N.length cn) N) (aw : Option Addr) (cw : Nat) (W : List Int) (hW : Slc w (.slice aw W.length cw) W) (ap : Option Addr) (cp : Nat) (P : List Int) (hP : Slc w (.slice ap P.length cp) P) (hlw : W.length ≤ 100000) (hlp : P.length ≤ 100000) (h16 : 16 ≤ P.length) (hyp : Ch.stag (fit K 32) (fit N 12) W (P.take (P.length - 16)) = P.drop (P.length - 16)) :
    Calls Try.prog 16 #[.slice ak K.length ck, .slice an N.length cn, .slice aw W.length cw, .slice ap P.length cp] w fun e w' => ∃ v', e = .returned (.tuple #[v', .bool true]) ∧ Own w.heap.size w' v' (Ch.stream (fit K 32) 1 (fit N 12) (P.take (P.length - 16))) ∧ Below w.heap.size w w' := by
  have HTG : Hid (∀ wq ac cc, Below w.heap.size w wq → Slc wq (.slice ac (P.take (P.length - 16)).length cc) (P.take (P.length - 16)) → Calls Try.prog 37 #[.slice ak K.length ck, .slice an N.length cn, .slice aw W.length cw, .slice ac (P.take (P.length - 16)).length cc] wq fun e w' => ∃ v', e = .returned v' ∧ Own wq.heap.size w' v' (Ch.stag (fit K 32) (fit N 12) W (P.take (P.length - 16))) ∧ Below wq.heap.size wq w') := fun wq ac cc hb hC => tagOf_any wq ak ck K (hK.below hb (Nat.le_refl _)) an cn N (hN.below hb (Nat.le_refl _)) aw cw W (hW.below hb (Nat.le_refl _)) ac cc _ hC hlw (by rw [List.length_take]; omega)
  have HSM : Hid (∀ wq ac cc, Below w.heap.size w wq → Slc wq (.slice ac (P.take (P.length - 16)).length cc) (P.take (P.length - 16)) → Calls Try.prog 11 #[.slice ak K.length ck, .int .u32 1, .slice an N.length cn, .slice ac (P.take (P.length - 16)).length cc] wq fun e w' => ∃ v', e = .returned v' ∧ Own wq.heap.size w' v' (Ch.stream (fit K 32) 1 (fit N 12) (P.take (P.length - 16))) ∧ Below wq.heap.size wq w') := fun wq ac cc hb hC => stream_any wq ak ck K (hK.below hb (Nat.le_refl _)) 1 w32_one an cn N (hN.below hb (Nat.le_refl _)) ac cc _ hC (by rw [List.length_take]; omega)
  have HP := Lib.hid hP
  have HY := Lib.hid hyp
  clear hK hN hW hP hlw hyp
  go_enter Try.func16, Try.ntmps16
  go_wp2_with fail
  refine Grow.region_all (by kernel_rfl) 12 (fun i => List.getD (Grow.Spec.is (.slice ap P.length cp) :: Grow.Spec.is (.slice ap P.length cp) :: Grow.Spec.is (.int .i64 (P.length : Int)) :: Grow.Spec.is (.int .i64 ((P.length - 16 : Nat) : Int)) :: Grow.Spec.slc (P.take (P.length - 16)) :: Grow.Spec.is (.slice ap P.length cp) :: Grow.Spec.is (.slice ap P.length cp) :: Grow.Spec.is (.int .i64 (P.length : Int)) :: Grow.Spec.is (.int .i64 ((P.length - 16 : Nat) : Int)) :: Grow.Spec.slc (P.drop (P.length - 16)) :: Grow.Spec.slc (P.take (P.length - 16)) :: Grow.Spec.slc (P.drop (P.length - 16)) :: []) i (Grow.Spec.is undef)) rfl (by kernel_rfl) ⟨
    Grow.h2_move (Or.inl rfl) _ (Or.inl rfl) (fun a wx hk => by have e : a.eval (.tmp 3) = _ := hk.rest 3 (by kernel_rfl); rw [e]; rfl),
    Grow.h2_move (Or.inl rfl) _ (Or.inl rfl) (fun a wx hk => by have e : a.eval (.tmp 3) = _ := hk.rest 3 (by kernel_rfl); rw [e]; rfl),
    Grow.h2_len22 (Or.inl rfl) 1 16 ap P.length cp rfl (by kernel_rfl) rfl rfl,
    Grow.h2_sub16 (Or.inl rfl) 2 17 P.length h16 hlp rfl (by kernel_rfl) rfl rfl,
    Grow.h2_cutHt (Or.inl rfl) 0 15 3 18 ap P.length cp (P.length - 16) (Nat.sub_le _ _) P rfl (by kernel_rfl) (by kernel_rfl) rfl rfl HP.out rfl,
    Grow.h2_move (Or.inl rfl) _ (Or.inl rfl) (fun a wx hk => by have e : a.eval (.tmp 3) = _ := hk.rest 3 (by kernel_rfl); rw [e]; rfl),
    Grow.h2_move (Or.inl rfl) _ (Or.inl rfl) (fun a wx hk => by have e : a.eval (.tmp 3) = _ := hk.rest 3 (by kernel_rfl); rw [e]; rfl),
    Grow.h2_len22 (Or.inl rfl) 6 21 ap P.length cp rfl (by kernel_rfl) rfl rfl,
    Grow.h2_sub16 (Or.inl rfl) 7 22 P.length h16 hlp rfl (by kernel_rfl) rfl rfl,
    Grow.h2_cutLt (Or.inl rfl) 5 20 8 23 ap P.length cp (P.length - 16) (Nat.sub_le _ _) P rfl (by kernel_rfl) (by kernel_rfl) rfl rfl HP.out rfl,
    Grow.h2_move (Or.inl rfl) _ (Or.inr rfl) (fun a wx hk => (hk.deps 4 19 (by kernel_rfl))),
    Grow.h2_move (Or.inl rfl) _ (Or.inr rfl) (fun a wx hk => (hk.deps 9 24 (by kernel_rfl))),
    trivial⟩ ?_
  intro a1 w6 hb1 hts hk1 hdf hfr
  have s10 : Slc w6 (a1.eval (.tmp 10)) (P.take (P.length - 16)) := hk1 10 10 (by decide) rfl
  have s11 : Slc w6 (a1.eval (.tmp 11)) (P.drop (P.length - 16)) := hk1 11 11 (by decide) rfl
  have ha := Grow.act_after hts hdf hfr
  rw [show Grow.dsts _ 12 = [15, 16, 17, 18, 19, 20, 21, 22, 23, 24, 10, 11] from by kernel_rfl] at ha
  obtain ⟨a10, c10, e10⟩ := slc_form s10
  obtain ⟨a11, c11, e11⟩ := slc_form s11
  rw [e10] at s10
  rw [e11] at s11
  simp only [Grow.putAll, e10, e11] at ha
  generalize a1.eval (.tmp 15) = u15 at ha
  generalize a1.eval (.tmp 16) = u16 at ha
  generalize a1.eval (.tmp 17) = u17 at ha
  generalize a1.eval (.tmp 18) = u18 at ha
  generalize a1.eval (.tmp 19) = u19 at ha
  generalize a1.eval (.tmp 20) = u20 at ha
  generalize a1.eval (.tmp 21) = u21 at ha
  generalize a1.eval (.tmp 22) = u22 at ha
  generalize a1.eval (.tmp 23) = u23 at ha
  generalize a1.eval (.tmp 24) = u24 at ha
  simp [Act.put, -List.length_take, -List.length_drop] at ha
  have S10 := Lib.hid s10
  have S11 := Lib.hid s11
  have B6 := Lib.hid hb1
  clear hk1 hts hdf hfr s10 s11 hb1 e10 e11
  subst ha
  generalize hPT : P.take (P.length - 16) = PT at *
  have HPT := Lib.hid hPT
  clear hPT
  generalize P.drop (P.length - 16) = PD at *
  generalize Ch.stag (fit K 32) (fit N 12) W PT = TG at *
  go_wp2_with (first
    | (go_at_call 11; refine (HSM.out w7 a10 c10 B7.out S7.out).mono ?_; rintro e w8 ⟨v8, rfl, hv, hb⟩; have S8 := Lib.hid hv; have B8 := Lib.hid (B7.out.trans (hb.mono B7.out.size)); clear hv hb)
    | (go_at_call 38; refine (equal_yes w7 v7 (.slice a11 PD.length c11) PD (by rw [← HY.out]; exact T7.out) D7.out).mono ?_; rintro e w8 ⟨rfl, rfl⟩)
    | (go_at_call 37; refine (HTG.out w6 a10 c10 B6.out S10.out).mono ?_; rintro e w7 ⟨v7, rfl, hv, hb⟩; have T7 := Lib.hid hv.slc; have S7 := Lib.hid (S10.out.below hb (Nat.le_refl _)); have D7 := Lib.hid (S11.out.below hb (Nat.le_refl _)); have B7 := Lib.hid (B6.out.trans (hb.mono B6.out.size)); clear hv hb))
  go_ret2
  exact ⟨_, rfl, by rw [HPT.out]; exact S8.out.mono B7.out.size, B8.out⟩
set_option maxRecDepth 100000 in
set_option maxHeartbeats 1000000 in
theorem open_no (w : World) (ak : Option Addr) (ck : Nat) (K : List Int) (hK : Slc w (.slice ak K.length ck) K) (an : Option Addr) (cn : Nat) (N : List Int) (hN : Slc w (.slice an N.length cn) N) (aw : Option Addr) (cw : Nat) (W : List Int) (hW : Slc w (.slice aw W.length cw) W) (ap : Option Addr) (cp : Nat) (P : List Int) (hP : Slc w (.slice ap P.length cp) P) (hlw : W.length ≤ 100000) (hlp : P.length ≤ 100000) (h16 : 16 ≤ P.length) (hyp : ¬ Ch.stag (fit K 32) (fit N 12) W (P.take (P.length - 16)) = P.drop (P.length - 16)) :
    Calls Try.prog 16 #[.slice ak K.length ck, .slice an N.length cn, .slice aw W.length cw, .slice ap P.length cp] w fun e w' => e = .returned (.tuple #[.slice none 0 0, .bool false]) ∧ Below w.heap.size w w' := by
  have HTG : Hid (∀ wq ac cc, Below w.heap.size w wq → Slc wq (.slice ac (P.take (P.length - 16)).length cc) (P.take (P.length - 16)) → Calls Try.prog 37 #[.slice ak K.length ck, .slice an N.length cn, .slice aw W.length cw, .slice ac (P.take (P.length - 16)).length cc] wq fun e w' => ∃ v', e = .returned v' ∧ Own wq.heap.size w' v' (Ch.stag (fit K 32) (fit N 12) W (P.take (P.length - 16))) ∧ Below wq.heap.size wq w') := fun wq ac cc hb hC => tagOf_any wq ak ck K (hK.below hb (Nat.le_refl _)) an cn N (hN.below hb (Nat.le_refl _)) aw cw W (hW.below hb (Nat.le_refl _)) ac cc _ hC hlw (by rw [List.length_take]; omega)
  have HSM : Hid (∀ wq ac cc, Below w.heap.size w wq → Slc wq (.slice ac (P.take (P.length - 16)).length cc) (P.take (P.length - 16)) → Calls Try.prog 11 #[.slice ak K.length ck, .int .u32 1, .slice an N.length cn, .slice ac (P.take (P.length - 16)).length cc] wq fun e w' => ∃ v', e = .returned v' ∧ Own wq.heap.size w' v' (Ch.stream (fit K 32) 1 (fit N 12) (P.take (P.length - 16))) ∧ Below wq.heap.size wq w') := fun wq ac cc hb hC => stream_any wq ak ck K (hK.below hb (Nat.le_refl _)) 1 w32_one an cn N (hN.below hb (Nat.le_refl _)) ac cc _ hC (by rw [List.length_take]; omega)
  have HP := Lib.hid hP
  have HY := Lib.hid hyp
  clear hK hN hW hP hlw hyp
  go_enter Try.func16, Try.ntmps16
  go_wp2_with fail
  refine Grow.region_all (by kernel_rfl) 12 (fun i => List.getD (Grow.Spec.is (.slice ap P.length cp) :: Grow.Spec.is (.slice ap P.length cp) :: Grow.Spec.is (.int .i64 (P.length : Int)) :: Grow.Spec.is (.int .i64 ((P.length - 16 : Nat) : Int)) :: Grow.Spec.slc (P.take (P.length - 16)) :: Grow.Spec.is (.slice ap P.length cp) :: Grow.Spec.is (.slice ap P.length cp) :: Grow.Spec.is (.int .i64 (P.length : Int)) :: Grow.Spec.is (.int .i64 ((P.length - 16 : Nat) : Int)) :: Grow.Spec.slc (P.drop (P.length - 16)) :: Grow.Spec.slc (P.take (P.length - 16)) :: Grow.Spec.slc (P.drop (P.length - 16)) :: []) i (Grow.Spec.is undef)) rfl (by kernel_rfl) ⟨
    Grow.h2_move (Or.inl rfl) _ (Or.inl rfl) (fun a wx hk => by have e : a.eval (.tmp 3) = _ := hk.rest 3 (by kernel_rfl); rw [e]; rfl),
    Grow.h2_move (Or.inl rfl) _ (Or.inl rfl) (fun a wx hk => by have e : a.eval (.tmp 3) = _ := hk.rest 3 (by kernel_rfl); rw [e]; rfl),
    Grow.h2_len22 (Or.inl rfl) 1 16 ap P.length cp rfl (by kernel_rfl) rfl rfl,
    Grow.h2_sub16 (Or.inl rfl) 2 17 P.length h16 hlp rfl (by kernel_rfl) rfl rfl,
    Grow.h2_cutHt (Or.inl rfl) 0 15 3 18 ap P.length cp (P.length - 16) (Nat.sub_le _ _) P rfl (by kernel_rfl) (by kernel_rfl) rfl rfl HP.out rfl,
    Grow.h2_move (Or.inl rfl) _ (Or.inl rfl) (fun a wx hk => by have e : a.eval (.tmp 3) = _ := hk.rest 3 (by kernel_rfl); rw [e]; rfl),
    Grow.h2_move (Or.inl rfl) _ (Or.inl rfl) (fun a wx hk => by have e : a.eval (.tmp 3) = _ := hk.rest 3 (by kernel_rfl); rw [e]; rfl),
    Grow.h2_len22 (Or.inl rfl) 6 21 ap P.length cp rfl (by kernel_rfl) rfl rfl,
    Grow.h2_sub16 (Or.inl rfl) 7 22 P.length h16 hlp rfl (by kernel_rfl) rfl rfl,
    Grow.h2_cutLt (Or.inl rfl) 5 20 8 23 ap P.length cp (P.length - 16) (Nat.sub_le _ _) P rfl (by kernel_rfl) (by kernel_rfl) rfl rfl HP.out rfl,
    Grow.h2_move (Or.inl rfl) _ (Or.inr rfl) (fun a wx hk => (hk.deps 4 19 (by kernel_rfl))),
    Grow.h2_move (Or.inl rfl) _ (Or.inr rfl) (fun a wx hk => (hk.deps 9 24 (by kernel_rfl))),
    trivial⟩ ?_
  intro a1 w6 hb1 hts hk1 hdf hfr
  have s10 : Slc w6 (a1.eval (.tmp 10)) (P.take (P.length - 16)) := hk1 10 10 (by decide) rfl
  have s11 : Slc w6 (a1.eval (.tmp 11)) (P.drop (P.length - 16)) := hk1 11 11 (by decide) rfl
  have ha := Grow.act_after hts hdf hfr
  rw [show Grow.dsts _ 12 = [15, 16, 17, 18, 19, 20, 21, 22, 23, 24, 10, 11] from by kernel_rfl] at ha
  obtain ⟨a10, c10, e10⟩ := slc_form s10
  obtain ⟨a11, c11, e11⟩ := slc_form s11
  rw [e10] at s10
  rw [e11] at s11
  simp only [Grow.putAll, e10, e11] at ha
  generalize a1.eval (.tmp 15) = u15 at ha
  generalize a1.eval (.tmp 16) = u16 at ha
  generalize a1.eval (.tmp 17) = u17 at ha
  generalize a1.eval (.tmp 18) = u18 at ha
  generalize a1.eval (.tmp 19) = u19 at ha
  generalize a1.eval (.tmp 20) = u20 at ha
  generalize a1.eval (.tmp 21) = u21 at ha
  generalize a1.eval (.tmp 22) = u22 at ha
  generalize a1.eval (.tmp 23) = u23 at ha
  generalize a1.eval (.tmp 24) = u24 at ha
  simp [Act.put, -List.length_take, -List.length_drop] at ha
  have S10 := Lib.hid s10
  have S11 := Lib.hid s11
  have B6 := Lib.hid hb1
  clear hk1 hts hdf hfr s10 s11 hb1 e10 e11
  subst ha
  generalize hPT : P.take (P.length - 16) = PT at *
  have HPT := Lib.hid hPT
  clear hPT
  generalize P.drop (P.length - 16) = PD at *
  generalize Ch.stag (fit K 32) (fit N 12) W PT = TG at *
  go_wp2_with (first
    | (go_at_call 38; refine (equal_no w7 v7 (.slice a11 PD.length c11) TG PD T7.out D7.out HY.out).mono ?_; rintro e w8 ⟨rfl, rfl⟩)
    | (go_at_call 37; refine (HTG.out w6 a10 c10 B6.out S10.out).mono ?_; rintro e w7 ⟨v7, rfl, hv, hb⟩; have T7 := Lib.hid hv.slc; have S7 := Lib.hid (S10.out.below hb (Nat.le_refl _)); have D7 := Lib.hid (S11.out.below hb (Nat.le_refl _)); have B7 := Lib.hid (B6.out.trans (hb.mono B6.out.size)); clear hv hb))
  go_ret2
  exact ⟨rfl, B7.out⟩
end Go.Proofs.Yticoefnojgaplaa
