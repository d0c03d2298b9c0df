/- The walks of Seal, the code's and the reference's. -/
import Derived.Test.YticoefnojgaplaaAy
namespace Go.Proofs.Yticoefnojgaplaa
open Go.RowKit
theorem w32_one : W32 1 := by unfold W32; decide
theorem w32_zero : W32 0 := by unfold W32; decide
set_option maxRecDepth 100000 in
set_option maxHeartbeats 1000000 in
theorem seal_any (w : World) (ak : Option Addr) (ck : Nat) (K : List Int) (hK : Slc w (.slice ak K.length ck) K) (an : Option Addr) (cn : Nat) (N : List Int) (hN : Slc w (.slice an N.length cn) N) (aw : Option Addr) (cw : Nat) (W : List Int) (hW : Slc w (.slice aw W.length cw) W) (ap : Option Addr) (cp : Nat) (P : List Int) (hP : Slc w (.slice ap P.length cp) P) (hlw : W.length ≤ 100000) (hlp : P.length ≤ 100000) :
    Calls Try.prog 15 #[.slice ak K.length ck, .slice an N.length cn, .slice aw W.length cw, .slice ap P.length cp] w fun e w' => ∃ v', e = .returned v' ∧ Own w.heap.size w' v' (Ch.seald (fit K 32) (fit N 12) W P) ∧ Below w.heap.size w w' := by
  have hst := stream_any w ak ck K hK 1 w32_one an cn N hN ap cp P hP hlp
  have hsl := Ch.stream_length (fit K 32) 1 (fit N 12) P
  have HSD : Hid (Ch.stream (fit K 32) 1 (fit N 12) P ++ Ch.stag (fit K 32) (fit N 12) W (Ch.stream (fit K 32) 1 (fit N 12) P) = Ch.seald (fit K 32) (fit N 12) W P) := rfl
  generalize Ch.stream (fit K 32) 1 (fit N 12) P = C at *
  have HSL : Hid (C.length ≤ 100000) := by show _ ≤ _; omega
  have HTG : Hid (∀ wq ac cc, Below w.heap.size w wq → Slc wq (.slice ac C.length cc) C → Calls Try.prog 37 #[.slice ak K.length ck, .slice an N.length cn, .slice aw W.length cw, .slice ac C.length cc] wq fun e w' => ∃ v', e = .returned v' ∧ Own wq.heap.size w' v' (Ch.stag (fit K 32) (fit N 12) W C) ∧ Below wq.heap.size wq w') := fun wq ac cc hb hC => tagOf_any wq ak ck K (hK.below hb (Nat.le_refl _)) an cn N (hN.below hb (Nat.le_refl _)) aw cw W (hW.below hb (Nat.le_refl _)) ac cc C hC hlw HSL.out
  have HTL : Hid ((Ch.stag (fit K 32) (fit N 12) W C).length = 16) := Bt.le_length _ _
  have HST := Lib.hid hst
  clear hK hN hW hP hlw hlp hst hsl
  generalize Ch.stag (fit K 32) (fit N 12) W C = TG at *
  go_enter Try.func15, Try.ntmps15
  go_wp2_with (first
    | ((with_reducible refine append_slc (o := ⟨some 20, _, _, _, _, _⟩) rfl (.tmp 14) (.tmp 19) rfl w.heap.size (.slice a5 C.length c5) C rfl OW6.out (.slice a6 TG.length c6) TG rfl OT6.out.slc ?_ w BW6.out ?_); exact (by have h1 := HSL.out; have h2 := HTL.out; omega); intro v7 w7 hv hb; have OW7 := Lib.hid hv; have BW7 := Lib.hid hb; clear hv hb)
    | (go_at_call 37; refine (HTG.out w5 a5 c5 BW5.out OW5.out.slc).mono ?_; rintro e w6 ⟨v6, rfl, hv, hb⟩; have OT6 := Lib.hid hv; have OW6 := Lib.hid (OW5.out.below hb); have BW6 := Lib.hid (BW5.out.trans (hb.mono BW5.out.size)); clear hv hb; obtain ⟨a6, c6, rfl⟩ := OT6.out.form)
    | (go_at_call 11; refine HST.out.mono ?_; rintro e w5 ⟨v5, rfl, hv, hb⟩; have OW5 := Lib.hid hv; have BW5 := Lib.hid hb; clear hv hb; obtain ⟨a5, c5, rfl⟩ := OW5.out.form))
  go_ret
  exact ⟨_, rfl, by rw [← HSD.out]; exact OW7.out, BW7.out⟩
end Go.Proofs.Yticoefnojgaplaa
