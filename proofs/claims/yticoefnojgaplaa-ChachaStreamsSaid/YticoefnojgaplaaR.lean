/- The reference's numbers, the walks: a sum. -/
import Derived.Test.YticoefnojgaplaaQ
namespace Go.Proofs.Yticoefnojgaplaa
open Go.RowKit

set_option maxRecDepth 100000 in
set_option maxHeartbeats 1000000 in
theorem plusn_any (w : World) (va vb : Value) (a b : List Int) (ha : Num w va a) (hb : Num w vb b) (hla : a.length ≤ 100000) (hlb : b.length ≤ 100000) :
    Calls Try.prog 34 #[va, vb] w fun e w' => ∃ v' l, e = .returned v' ∧ Num w' v' l ∧ Nt.val l = Nt.val a + Nt.val b ∧ Nt.Neat l ∧ l.length ≤ a.length + b.length + 1 ∧ Below w.heap.size w w' := by
  obtain ⟨aa, ca, rfl⟩ := num_form ha
  obtain ⟨ab, cb, rfl⟩ := num_form hb
  have HA := Lib.hid ha
  have HB := Lib.hid hb
  have hwa : Hid (Nt.Ws a) := by obtain ⟨_, _, _, _, h, _⟩ := ha; exact h
  have hwb : Hid (Nt.Ws b) := by obtain ⟨_, _, _, _, h, _⟩ := hb; exact h
  clear ha hb
  go_enter Try.func34, Try.ntmps34
  go_wp2_with fail
  go_loopw [5, 6, 7] (fun v c i wr => ∃ (k : Nat) (O : List Int) (cz : Int), k ≤ a.length + b.length ∧ (k ≤ a.length ∨ k ≤ b.length) ∧ i = .int .i64 k ∧ c = .int .u64 cz ∧ 0 ≤ cz ∧ cz ≤ 1 ∧ O.length = k ∧ Hid (Nt.Ws O) ∧ Hid (Mine .u32 23 w wr v O) ∧ Hid (Nt.val O + cz * Nt.pw k = Nt.val (a.take k) + Nt.val (b.take k))) (fun _ _ i _ => a.length + b.length - (intOf i).toNat)
  case atStart => exact ⟨0, [], 0, Nat.zero_le _, Or.inl (Nat.zero_le _), rfl, rfl, by omega, by omega, rfl, Nt.Ws.nil, Mine.nil _ _ _, by show _ = _; simp [Nt.val]⟩
  case round =>
    obtain ⟨k, O, cz, hk, hk2, rfl, rfl, c0, c1, hO, WO, MO, VO⟩ := hrel
    obtain ⟨a5, c5, rfl⟩ := MO.out.form
    rw [hO]
    have hda : 0 ≤ a.getD k 0 ∧ a.getD k 0 ≤ 4294967295 := hwa.out.getD k
    have hdb : 0 ≤ b.getD k 0 ∧ b.getD k 0 ≤ 4294967295 := hwb.out.getD k
    obtain ⟨t, ht⟩ : ∃ t, t = cz + a.getD k 0 + b.getD k 0 := ⟨_, rfl⟩
    have hmore := Nt.plus_more hO ht VO.out
    unfold Nt.B at hmore
    have hws := WO.out.snoc (x := t % 4294967296) (by unfold W32; omega)
    have HMORE := Lib.hid hmore
    have HWS := Lib.hid hws
    have HOL := Lib.hid hO
    have hol : (O ++ [t % 4294967296]).length = k + 1 := by rw [List.length_append, hO]; rfl
    have HOL2 := Lib.hid hol
    have MO2 : Hid (Mine .u32 23 w wr (.slice a5 k c5) O) := by have := MO.out; rw [hO] at this; exact this
    clear hmore hws hO hol MO
    obtain ⟨da0, da1⟩ := hda
    obtain ⟨db0, db1⟩ := hdb
    by_cases hla2 : k < a.length
    · obtain ⟨b1, o1, rfl, hb1, hc1, hcap1⟩ := num_cell HA.out k hla2
      have hc1' := (MO2.out.2.cell (p := ⟨b1, o1 + k, none⟩) hb1).trans hc1
      by_cases hlb2 : k < b.length
      · obtain ⟨b2, o2, rfl, hb2, hc2, hcap2⟩ := num_cell HB.out k hlb2
        have hc2' := (MO2.out.2.cell (p := ⟨b2, o2 + k, none⟩) hb2).trans hc2
        clear hc1 hc2 VO WO
        generalize a.getD k 0 = xa at *
        generalize b.getD k 0 = xb at *
        subst ht
        go_wp2_with ((with_reducible refine append_word (o := ⟨some 46, _, _, _, _, _⟩) rfl (.tmp 42) (.tmp 45) rfl w (.slice a5 k c5) O rfl ?_ ((cz + xa + xb) % 4294967296) rfl ?_ ?_); exact MO2.out; exact (by have := HOL.out; omega); intro u6 w5 hp2; have HP3 := Lib.hid hp2; clear hp2)
        go_roundw
        case rel => exact ⟨k + 1, O ++ [(cz + xa + xb) % 4294967296], _, by omega, by omega, by go_num, rfl, by omega, by omega, HOL2.out, HWS, HP3, HMORE⟩
        case measure => simp [intOf]; omega
      · clear hc1 VO WO
        have hz : b.getD k 0 = 0 := by simp [List.getD_eq_getElem?_getD, List.getElem?_eq_none (show b.length ≤ k by omega)]
        rw [hz, Int.add_zero] at ht
        clear hz db0 db1 HB
        generalize a.getD k 0 = xa at *
        subst ht
        go_wp2_with ((with_reducible refine append_word (o := ⟨some 46, _, _, _, _, _⟩) rfl (.tmp 42) (.tmp 45) rfl w (.slice a5 k c5) O rfl ?_ ((cz + xa) % 4294967296) rfl ?_ ?_); exact MO2.out; exact (by have := HOL.out; omega); intro u6 w5 hp2; have HP3 := Lib.hid hp2; clear hp2)
        go_roundw
        case rel => exact ⟨k + 1, O ++ [(cz + xa) % 4294967296], _, by omega, by omega, by go_num, rfl, by omega, by omega, HOL2.out, HWS, HP3, HMORE⟩
        case measure => simp [intOf]; omega
    · by_cases hlb2 : k < b.length
      · obtain ⟨b2, o2, rfl, hb2, hc2, hcap2⟩ := num_cell HB.out k hlb2
        have hc2' := (MO2.out.2.cell (p := ⟨b2, o2 + k, none⟩) hb2).trans hc2
        clear hc2 VO WO
        have hz : a.getD k 0 = 0 := by simp [List.getD_eq_getElem?_getD, List.getElem?_eq_none (show a.length ≤ k by omega)]
        rw [hz, Int.add_zero] at ht
        clear hz da0 da1 HA
        generalize b.getD k 0 = xb at *
        subst ht
        go_wp2_with ((with_reducible refine append_word (o := ⟨some 46, _, _, _, _, _⟩) rfl (.tmp 42) (.tmp 45) rfl w (.slice a5 k c5) O rfl ?_ ((cz + xb) % 4294967296) rfl ?_ ?_); exact MO2.out; exact (by have := HOL.out; omega); intro u6 w5 hp2; have HP3 := Lib.hid hp2; clear hp2)
        go_roundw
        case rel => exact ⟨k + 1, O ++ [(cz + xb) % 4294967296], _, by omega, by omega, by go_num, rfl, by omega, by omega, HOL2.out, HWS, HP3, HMORE⟩
        case measure => simp [intOf]; omega
      · have WO' := WO.out
        have hke : Hid (Nt.val (a.take k) = Nt.val a ∧ Nt.val (b.take k) = Nt.val b) := by rw [List.take_of_length_le (by omega), List.take_of_length_le (by omega)]; exact ⟨rfl, rfl⟩
        have HWC : Hid (Nt.Ws (O ++ [cz])) := WO'.snoc (x := cz) (by unfold W32; omega)
        have HLC : Hid ((O ++ [cz]).length ≤ 1000000) := by
          have e : (O ++ [cz]).length = k + 1 := by rw [List.length_append, HOL.out]; rfl
          show _ ≤ _; omega
        have HVC : Hid (Nt.val (O ++ [cz]) = Nt.val a + Nt.val b) := by
          show _ = _
          rw [Nt.val_append, HOL.out, ← hke.out.1, ← hke.out.2, ← VO.out]
          simp [Nt.val, Int.mul_comm]
        clear hke VO WO' HMORE HWS HOL2 ht da0 da1 db0 db1 HA HB
        go_wp2_with (first
          | ((with_reducible refine append_word (o := ⟨some 53, _, _, _, _, _⟩) rfl (.tmp 49) (.tmp 52) rfl w (.slice a5 k c5) O rfl ?_ cz rfl ?_ ?_); exact MO2.out; exact (by have := HOL.out; omega); intro u6 w5 hp2; have HP3 := Lib.hid hp2; clear hp2)
          | ((with_reducible refine append_word (o := ⟨some 53, _, _, _, _, _⟩) rfl (.tmp 49) (.tmp 52) rfl w (.slice a5 k c5) O rfl ?_ (cz % 4294967296) rfl ?_ ?_); exact MO2.out; exact (by have := HOL.out; omega); intro u6 w5 hp2; have HP3 := Lib.hid hp2; clear hp2)
          | (go_at_call 46; refine (trim_any _ _ _ (HP3.out.num HWC.out) HLC.out).mono ?_; rintro e w1 ⟨v1, rfl, h2, h3⟩; have H2 := Lib.hid h2; have H3 := Lib.hid h3; clear h2 h3))
        go_ret
        refine ⟨_, _, rfl, H2.out, ?_, Nt.neat_trim _, ?_, HP3.out.2.trans (H3.out.mono HP3.out.2.size)⟩
        · rw [Nt.val_trim]; exact HVC.out
        · rw [Nt.length_trim]
          refine Nat.le_trans (Nt.cut_le _ _) ?_
          rw [List.length_append, HOL.out]
          show k + 1 ≤ _
          omega
end Go.Proofs.Yticoefnojgaplaa
