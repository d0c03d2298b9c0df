/- The reference's numbers, the walks: a difference. -/
import Derived.Test.YticoefnojgaplaaR
namespace Go.Proofs.Yticoefnojgaplaa
open Go.RowKit

namespace Nt
/-- One word more of a difference. -/
theorem less_more {a b O : List Int} {k : Nat} {c c' r : Int} (hO : O.length = k) (hr : r = a.getD k 0 - b.getD k 0 - c + c' * B) (h : val O = val (a.take k) - val (b.take k) + c * pw k) :
    val (O ++ [r]) = val (a.take (k + 1)) - val (b.take (k + 1)) + c' * pw (k + 1) := by
  rw [val_append, hO, val_take_more, val_take_more, pw_succ]
  have e : val [r] = r := by simp [val]
  rw [e]
  subst hr
  grind
theorem less_end {a b O : List Int} {c : Int} (ha : Ws a) (hb : Ws b) (hO : Ws O) (hl : O.length = a.length) (c0 : 0 ≤ c) (hle : val b ≤ val a) (h : val O = val a - val (b.take a.length) + c * pw a.length) : val O = val a - val b := by
  have hz : val b = val (b.take a.length) := by
    by_cases h1 : b.length ≤ a.length
    · rw [List.take_of_length_le h1]
    · have e := val_split b a.length (by omega)
      have h2 := val_nonneg (hb.drop a.length)
      have h3 := val_nonneg (hb.take a.length)
      have h4 := val_lt ha
      have h5 : ¬ 1 ≤ val (b.drop a.length) := by
        intro h6
        have := Int.mul_le_mul_of_nonneg_left h6 (Int.le_of_lt (pw_pos a.length))
        omega
      rw [e, show val (b.drop a.length) = 0 by omega]
      omega
  have h1 := val_lt hO
  rw [hl] at h1
  have h2 : ¬ 1 ≤ c := by
    intro h3
    have := Int.mul_le_mul_of_nonneg_right h3 (Int.le_of_lt (pw_pos a.length))
    omega
  have h3 : c = 0 := by omega
  rw [h3] at h
  omega
theorem sub_two {x y c : Int} (x0 : 0 ≤ x) (x1 : x ≤ 4294967295) (y0 : 0 ≤ y) (y1 : y ≤ 4294967295) (c0 : 0 ≤ c) (c1 : c ≤ 1) : ∃ X c', X = IntKind.u64.wrap (IntKind.u64.wrap (x - c) - y) ∧ 0 ≤ X ∧ X ≤ 18446744073709551615 ∧ 0 ≤ c' ∧ c' ≤ 1 ∧ X / 9223372036854775808 = c' ∧ X % 4294967296 = x - y - c + c' * 4294967296 := by
  have e : ∀ z, IntKind.u64.wrap z = z % 18446744073709551616 := fun z => rfl
  rw [e, e]
  refine ⟨_, _, rfl, by omega, by omega, ?_, ?_, rfl, ?_⟩ <;> omega
theorem sub_one {x y c : Int} (hy : y = 0) (x0 : 0 ≤ x) (x1 : x ≤ 4294967295) (c0 : 0 ≤ c) (c1 : c ≤ 1) : ∃ X c', X = IntKind.u64.wrap (x - c) ∧ 0 ≤ X ∧ X ≤ 18446744073709551615 ∧ 0 ≤ c' ∧ c' ≤ 1 ∧ X / 9223372036854775808 = c' ∧ X % 4294967296 = x - y - c + c' * 4294967296 := by
  have e : ∀ z, IntKind.u64.wrap z = z % 18446744073709551616 := fun z => rfl
  rw [e]
  refine ⟨_, _, rfl, by omega, by omega, ?_, ?_, rfl, ?_⟩ <;> omega
end Nt

set_option maxRecDepth 100000 in
set_option maxHeartbeats 1000000 in
theorem lessn_any (w : World) (va vb : Value) (a b : List Int) (ha : Num w va a) (hb : Num w vb b) (hla : a.length ≤ 100000) (hle : Nt.val b ≤ Nt.val a) :
    Calls Try.prog 45 #[va, vb] w fun e w' => ∃ v' l, e = .returned v' ∧ Num w' v' l ∧ Nt.val l = Nt.val a - Nt.val b ∧ Nt.Neat l ∧ l.length ≤ a.length ∧ Below w.heap.size w w' := by
  obtain ⟨aa, ca, rfl⟩ := num_form ha
  obtain ⟨ab, cb, rfl⟩ := num_form hb
  have HA := Lib.hid ha
  have HB := Lib.hid hb
  have hwa : Hid (Nt.Ws a) := by obtain ⟨_, _, _, _, h, _⟩ := ha; exact h
  have hwb : Hid (Nt.Ws b) := by obtain ⟨_, _, _, _, h, _⟩ := hb; exact h
  have HLE := Lib.hid hle
  clear ha hb hle
  go_enter Try.func45, Try.ntmps45
  go_wp2_with fail
  go_loopw [5, 6, 7] (fun v c i wr => ∃ (k : Nat) (O : List Int) (cz : Int), k ≤ a.length ∧ i = .int .i64 k ∧ c = .int .u64 cz ∧ 0 ≤ cz ∧ cz ≤ 1 ∧ O.length = k ∧ Hid (Nt.Ws O) ∧ Hid (Mine .u32 23 w wr v O) ∧ Hid (Nt.val O = Nt.val (a.take k) - Nt.val (b.take k) + cz * Nt.pw k)) (fun _ _ i _ => a.length - (intOf i).toNat)
  case atStart => exact ⟨0, [], 0, Nat.zero_le _, rfl, rfl, by omega, by omega, rfl, Nt.Ws.nil, Mine.nil _ _ _, by show _ = _; simp [Nt.val]⟩
  case round =>
    obtain ⟨k, O, cz, hk, rfl, rfl, c0, c1, hO, WO, MO, VO⟩ := hrel
    obtain ⟨a5, c5, rfl⟩ := MO.out.form
    rw [hO]
    have hda : 0 ≤ a.getD k 0 ∧ a.getD k 0 ≤ 4294967295 := hwa.out.getD k
    have hdb : 0 ≤ b.getD k 0 ∧ b.getD k 0 ≤ 4294967295 := hwb.out.getD k
    have MO2 : Hid (Mine .u32 23 w wr (.slice a5 k c5) O) := by have := MO.out; rw [hO] at this; exact this
    have HOL := Lib.hid hO
    by_cases hla2 : k < a.length
    · have hmore := fun c' r hr => Nt.less_more (a := a) (b := b) (c := cz) (c' := c') (r := r) hO hr VO.out
      unfold Nt.B at hmore
      have HMORE := Lib.hid hmore
      clear hmore hO MO
      obtain ⟨da0, da1⟩ := hda
      obtain ⟨db0, db1⟩ := hdb
      obtain ⟨b1, o1, rfl, hb1, hc1, hcap1⟩ := num_cell HA.out k hla2
      have hc1' := (MO2.out.2.cell (p := ⟨b1, o1 + k, none⟩) hb1).trans hc1
      by_cases hlb2 : k < b.length
      · obtain ⟨b2, o2, rfl, hb2, hc2, hcap2⟩ := num_cell HB.out k hlb2
        have hc2' := (MO2.out.2.cell (p := ⟨b2, o2 + k, none⟩) hb2).trans hc2
        clear hc1 hc2 VO
        generalize a.getD k 0 = xa at *
        generalize b.getD k 0 = xb at *
        obtain ⟨X, c', hX, X0, X1, d0, d1, hc', hr⟩ := Nt.sub_two da0 da1 db0 db1 c0 c1
        subst hX
        have hws : Hid (Nt.Ws (O ++ [IntKind.u64.wrap (IntKind.u64.wrap (xa - cz) - xb) % 4294967296])) := WO.out.snoc (x := IntKind.u64.wrap (IntKind.u64.wrap (xa - cz) - xb) % 4294967296) (by unfold W32; omega)
        have hol : Hid ((O ++ [IntKind.u64.wrap (IntKind.u64.wrap (xa - cz) - xb) % 4294967296]).length = k + 1) := by show _ = _; rw [List.length_append, HOL.out]; rfl
        have HV := Lib.hid (HMORE.out c' (IntKind.u64.wrap (IntKind.u64.wrap (xa - cz) - xb) % 4294967296) hr)
        clear HMORE hr WO
        go_wp2_with ((with_reducible refine append_word (o := ⟨some 37, _, _, _, _, _⟩) rfl (.tmp 33) (.tmp 36) rfl w (.slice a5 k c5) O rfl ?_ (IntKind.u64.wrap (IntKind.u64.wrap (xa - cz) - xb) % 4294967296) rfl ?_ ?_); exact MO2.out; exact (by have := HOL.out; omega); intro u6 w5 hp2; have HP3 := Lib.hid hp2; clear hp2)
        go_roundw
        case rel => exact ⟨k + 1, O ++ [IntKind.u64.wrap (IntKind.u64.wrap (xa - cz) - xb) % 4294967296], c', by omega, by go_num, rfl, d0, d1, hol.out, hws, HP3, HV⟩
        case measure => simp [intOf]; omega
      · clear hc1
        have hz : b.getD k 0 = 0 := by simp [List.getD_eq_getElem?_getD, List.getElem?_eq_none (show b.length ≤ k by omega)]
        clear VO HB
        generalize a.getD k 0 = xa at *
        generalize b.getD k 0 = xb at *
        obtain ⟨X, c', hX, X0, X1, d0, d1, hc', hr⟩ := Nt.sub_one hz da0 da1 c0 c1
        subst hX
        have hws : Hid (Nt.Ws (O ++ [IntKind.u64.wrap (xa - cz) % 4294967296])) := WO.out.snoc (x := IntKind.u64.wrap (xa - cz) % 4294967296) (by unfold W32; omega)
        have hol : Hid ((O ++ [IntKind.u64.wrap (xa - cz) % 4294967296]).length = k + 1) := by show _ = _; rw [List.length_append, HOL.out]; rfl
        have HV := Lib.hid (HMORE.out c' (IntKind.u64.wrap (xa - cz) % 4294967296) hr)
        clear HMORE hr WO hz db0 db1
        go_wp2_with ((with_reducible refine append_word (o := ⟨some 37, _, _, _, _, _⟩) rfl (.tmp 33) (.tmp 36) rfl w (.slice a5 k c5) O rfl ?_ (IntKind.u64.wrap (xa - cz) % 4294967296) rfl ?_ ?_); exact MO2.out; exact (by have := HOL.out; omega); intro u6 w5 hp2; have HP3 := Lib.hid hp2; clear hp2)
        go_roundw
        case rel => exact ⟨k + 1, O ++ [IntKind.u64.wrap (xa - cz) % 4294967296], c', by omega, by go_num, rfl, d0, d1, hol.out, hws, HP3, HV⟩
        case measure => simp [intOf]; omega
    · obtain rfl : k = a.length := by omega
      have hv := VO.out
      rw [List.take_length] at hv
      have HVC := Lib.hid (Nt.less_end hwa.out hwb.out WO.out hO c0 HLE.out hv)
      have HLC : Hid (O.length ≤ 1000000) := by show _ ≤ _; omega
      clear hv VO hda hdb HA HB hO
      go_wp2_with (go_at_call 46; refine (trim_any _ _ _ (MO2.out.num WO.out) HLC.out).mono ?_; rintro e w1 ⟨v1, rfl, h2, h3⟩; have H2 := Lib.hid h2; have H3 := Lib.hid h3; clear h2 h3)
      go_ret
      refine ⟨_, _, rfl, H2.out, ?_, Nt.neat_trim _, ?_, MO2.out.2.trans (H3.out.mono MO2.out.2.size)⟩
      · rw [Nt.val_trim]; exact HVC.out
      · rw [Nt.length_trim]
        refine Nat.le_trans (Nt.cut_le _ _) ?_
        rw [HOL.out]
        exact Nat.le_refl _
end Go.Proofs.Yticoefnojgaplaa
