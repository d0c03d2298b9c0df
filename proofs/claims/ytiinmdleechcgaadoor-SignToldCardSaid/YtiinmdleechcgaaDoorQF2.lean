/- Layer 6, a part of the proof: FX FY FZ FAa FAb FAc FAd FAe FAf FAg FBa FBb FBc FBd FBe FBf FPa FPb FBg FBh. -/
import Derived.Test.YtiinmdleechcgaaDoorQF1
import Derived.Maps.AppendAt
import Derived.Deep.WholeRow
namespace Go.Proofs.YtiinmdleechcgaaDoor
open Go.RowKit

theorem own_below {w wr w' : World} {k : Nat} {e : TypeId} {v : Value} {xs : List Value} (hb : Below w.heap.size w wr) (h : wr.ownsRow w.heap.size e 1 v k xs) (hg : wr.grownBy w' v.ownBlock) : Below w.heap.size w w' := by
  refine hb.trans ⟨hg.os, hg.tape, hg.output, hg.size, fun i hi => hg.block i (Nat.lt_of_lt_of_le hi hb.size) ?_⟩
  rcases h.2 with ⟨rfl, _⟩ | ⟨g, cap, cur, rfl, hg', _⟩
  · simp [Value.ownBlock]
  · intro hh
    simp only [Value.ownBlock, Option.some.injEq] at hh
    omega
/-- A row of numbers that was made since. -/
def Mine (k : IntKind) (e : TypeId) (w0 w : World) (v : Value) (xs : List Int) : Prop := w.ownsRow w0.heap.size e 1 v xs.length (xs.map (Value.int k)) ∧ Below w0.heap.size w0 w
theorem Mine.nil (k : IntKind) (e : TypeId) (w : World) : Mine k e w w (.slice none 0 0) [] := ⟨⟨rfl, Or.inl ⟨rfl, rfl⟩⟩, Below.refl _ _⟩
theorem Mine.form {k : IntKind} {e : TypeId} {w0 w : World} {v : Value} {xs : List Int} (h : Mine k e w0 w v xs) : ∃ a c, v = .slice a xs.length c := by
  rcases h.1.2 with ⟨h, h0⟩ | ⟨g, cap, cur, h, _⟩
  · exact ⟨none, 0, by rw [h0]; exact h⟩
  · exact ⟨_, _, h⟩
theorem Mine.num {e : TypeId} {w0 w : World} {v : Value} {xs : List Int} (h : Mine .u32 e w0 w v xs) (hw : Nt.Ws xs) : Num w v xs := by
  rcases h.1.2 with ⟨hv, h0⟩ | ⟨g, cap, cur, h1, h2, h3, h4, h5, h6, h7⟩
  · exact ⟨none, 0, by rw [h0]; exact hv, by rw [h0]; exact Nat.le_refl _, hw, Or.inl (List.eq_nil_of_length_eq_zero h0)⟩
  · refine ⟨_, cap, h1, h4, hw, Or.inr ⟨g, 0, rfl, lt_of_block h3, fun j hj => ?_⟩⟩
    rw [Nat.zero_add, cell_of_row w g j _ e (0, 0) h3]
    have e1 : (cur.toList.take (xs.length * 1))[j]? = some (.int .u32 (xs.getD j 0)) := by rw [h7]; simp [hj]
    rw [List.getElem?_take_of_lt (by omega)] at e1
    simpa using e1
section
variable {w : World} {ops : Array Oper} {rest : List Oper} {o : Oper} {a : Act} {Q : Exit → Act → World → Prop}
/-- One word. -/
theorem append_word (hgd : o.guard = none) (s x : Operand)
    (ho : o.op = .call { callee := .builtin .append, args := #[s, x], argTypes := #[29, 29] })
    (w0 : World) (v : Value) (xs : List Int) (hs : a.eval s = v) (hown : Mine .u32 61 w0 w v xs) (y : Int) (hx : a.eval x = .slice (some ⟨w.heap.size, 0, none⟩) 1 1) (hlen : xs.length ≤ 10000000000000)
    (h : ∀ v' w', Mine .u32 61 w0 w' v' (xs ++ [y]) → wpList Tryd.prog ops Q rest (a.put o.dst v') w') :
    wpList Tryd.prog ops Q (o :: rest) a (w.alloc (.cells #[.int .u32 y] 61)) := by
  obtain ⟨i0, hi, hz0, hz1, hz2⟩ := info_parts info36
  refine wpList_append_own_at (w.alloc (.cells #[.int .u32 y] 61)) hgd s x 29 ho w0.heap.size 61 i0 (.int .u32 0) 1 4 Tryd.underlying29 hi hz0 hz1 hz2 rfl (by decide) v xs.length (xs.map (Value.int .u32)) hs (hown.1.alloc _) ⟨w.heap.size, 0, none⟩ 1 1 [.int .u32 y] hx rfl (cell_one_new w _ _) (by intro u hu; simp at hu; subst hu; rfl) (by unfold maxLen; omega) (by omega) (by have := hown.2.size; simp; omega) ?_
  intro v' w' h1 h2 _ _
  have hb := own_below (hown.2.alloc hown.2.size _) (hown.1.alloc _) h2
  exact h v' w' ⟨by rw [List.length_append, List.map_append]; exact h1, hb⟩
end
namespace Nt
theorem val_take_more (l : List Int) (k : Nat) : val (l.take (k + 1)) = val (l.take k) + pw k * l.getD k 0 := by
  by_cases h : k < l.length
  · exact val_take_succ l k h
  · rw [List.take_of_length_le (by omega), List.take_of_length_le (by omega), show l.getD k 0 = 0 by simp [List.getD_eq_getElem?_getD, List.getElem?_eq_none (show l.length ≤ k by omega)]]
    omega
theorem Ws.snoc {l : List Int} (h : Ws l) {x : Int} (hx : W32 x) : Ws (l ++ [x]) := by
  intro y hy
  rcases List.mem_append.1 hy with hy | hy
  · exact h y hy
  · rw [List.mem_singleton] at hy; rw [hy]; exact hx
/-- One word more of a sum. -/
theorem plus_more {a b O : List Int} {k : Nat} {c t : Int} (hO : O.length = k) (ht : t = c + a.getD k 0 + b.getD k 0) (h : val O + c * pw k = val (a.take k) + val (b.take k)) :
    val (O ++ [t % B]) + t / B * pw (k + 1) = val (a.take (k + 1)) + val (b.take (k + 1)) := by
  rw [val_append, hO, val_take_more, val_take_more, pw_succ]
  have e : val [t % B] = t % B := by simp [val]
  rw [e]
  have h2 : t = B * (t / B) + t % B := (Int.mul_ediv_add_emod t B).symm
  generalize t / B = q at *
  generalize t % B = r at *
  subst h2
  grind
end Nt
end Go.Proofs.YtiinmdleechcgaaDoor
namespace Go.Proofs.YtiinmdleechcgaaDoor
open Go.RowKit

set_option maxRecDepth 100000 in
set_option maxHeartbeats 1000000 in
theorem plusn_any (w : World) (va vb : Value) (a b : List Int) (ha : Num w va a) (hb : Num w vb b) (hla : a.length ≤ 100000) (hlb : b.length ≤ 100000) :
    Calls Tryd.prog 14 #[va, vb] w fun e w' => ∃ v' l, e = .returned v' ∧ Num w' v' l ∧ Nt.val l = Nt.val a + Nt.val b ∧ Nt.Neat l ∧ l.length ≤ a.length + b.length + 1 ∧ Below w.heap.size w w' := by
  obtain ⟨aa, ca, rfl⟩ := num_form ha
  obtain ⟨ab, cb, rfl⟩ := num_form hb
  have HA := Lib.hid ha
  have HB := Lib.hid hb
  have hwa : Hid (Nt.Ws a) := by obtain ⟨_, _, _, _, h, _⟩ := ha; exact h
  have hwb : Hid (Nt.Ws b) := by obtain ⟨_, _, _, _, h, _⟩ := hb; exact h
  clear ha hb
  go_enter Tryd.func14, Tryd.ntmps14
  go_wp2_with fail
  go_loopw [5, 6, 7] (fun v c i wr => ∃ (k : Nat) (O : List Int) (cz : Int), k ≤ a.length + b.length ∧ (k ≤ a.length ∨ k ≤ b.length) ∧ i = .int .i64 k ∧ c = .int .u64 cz ∧ 0 ≤ cz ∧ cz ≤ 1 ∧ O.length = k ∧ Hid (Nt.Ws O) ∧ Hid (Mine .u32 61 w wr v O) ∧ Hid (Nt.val O + cz * Nt.pw k = Nt.val (a.take k) + Nt.val (b.take k))) (fun _ _ i _ => a.length + b.length - (intOf i).toNat)
  case atStart => exact ⟨0, [], 0, Nat.zero_le _, Or.inl (Nat.zero_le _), rfl, rfl, by omega, by omega, rfl, Nt.Ws.nil, Mine.nil _ _ _, by show _ = _; simp [Nt.val]⟩
  case round =>
    obtain ⟨k, O, cz, hk, hk2, rfl, rfl, c0, c1, hO, WO, MO, VO⟩ := hrel
    obtain ⟨a5, c5, rfl⟩ := MO.out.form
    rw [hO]
    have hda : 0 ≤ a.getD k 0 ∧ a.getD k 0 ≤ 4294967295 := hwa.out.getD k
    have hdb : 0 ≤ b.getD k 0 ∧ b.getD k 0 ≤ 4294967295 := hwb.out.getD k
    obtain ⟨t, ht⟩ : ∃ t, t = cz + a.getD k 0 + b.getD k 0 := ⟨_, rfl⟩
    have hmore := Nt.plus_more hO ht VO.out
    unfold Nt.B at hmore
    have hws := WO.out.snoc (x := t % 4294967296) (by unfold W32; omega)
    have HMORE := Lib.hid hmore
    have HWS := Lib.hid hws
    have HOL := Lib.hid hO
    have hol : (O ++ [t % 4294967296]).length = k + 1 := by rw [List.length_append, hO]; rfl
    have HOL2 := Lib.hid hol
    have MO2 : Hid (Mine .u32 61 w wr (.slice a5 k c5) O) := by have := MO.out; rw [hO] at this; exact this
    clear hmore hws hO hol MO
    obtain ⟨da0, da1⟩ := hda
    obtain ⟨db0, db1⟩ := hdb
    by_cases hla2 : k < a.length
    · obtain ⟨b1, o1, rfl, hb1, hc1, hcap1⟩ := num_cell HA.out k hla2
      have hc1' := (MO2.out.2.cell (p := ⟨b1, o1 + k, none⟩) hb1).trans hc1
      by_cases hlb2 : k < b.length
      · obtain ⟨b2, o2, rfl, hb2, hc2, hcap2⟩ := num_cell HB.out k hlb2
        have hc2' := (MO2.out.2.cell (p := ⟨b2, o2 + k, none⟩) hb2).trans hc2
        clear hc1 hc2 VO WO
        generalize a.getD k 0 = xa at *
        generalize b.getD k 0 = xb at *
        subst ht
        go_wp2_with ((with_reducible refine append_word (o := ⟨some 46, _, _, _, _, _⟩) rfl (.tmp 42) (.tmp 45) rfl w (.slice a5 k c5) O rfl ?_ ((cz + xa + xb) % 4294967296) rfl ?_ ?_); exact MO2.out; exact (by have := HOL.out; omega); intro u6 w5 hp2; have HP3 := Lib.hid hp2; clear hp2)
        go_roundw
        case rel => exact ⟨k + 1, O ++ [(cz + xa + xb) % 4294967296], _, by omega, by omega, by go_num, rfl, by omega, by omega, HOL2.out, HWS, HP3, HMORE⟩
        case measure => simp [intOf]; omega
      · clear hc1 VO WO
        have hz : b.getD k 0 = 0 := by simp [List.getD_eq_getElem?_getD, List.getElem?_eq_none (show b.length ≤ k by omega)]
        rw [hz, Int.add_zero] at ht
        clear hz db0 db1 HB
        generalize a.getD k 0 = xa at *
        subst ht
        go_wp2_with ((with_reducible refine append_word (o := ⟨some 46, _, _, _, _, _⟩) rfl (.tmp 42) (.tmp 45) rfl w (.slice a5 k c5) O rfl ?_ ((cz + xa) % 4294967296) rfl ?_ ?_); exact MO2.out; exact (by have := HOL.out; omega); intro u6 w5 hp2; have HP3 := Lib.hid hp2; clear hp2)
        go_roundw
        case rel => exact ⟨k + 1, O ++ [(cz + xa) % 4294967296], _, by omega, by omega, by go_num, rfl, by omega, by omega, HOL2.out, HWS, HP3, HMORE⟩
        case measure => simp [intOf]; omega
    · by_cases hlb2 : k < b.length
      · obtain ⟨b2, o2, rfl, hb2, hc2, hcap2⟩ := num_cell HB.out k hlb2
        have hc2' := (MO2.out.2.cell (p := ⟨b2, o2 + k, none⟩) hb2).trans hc2
        clear hc2 VO WO
        have hz : a.getD k 0 = 0 := by simp [List.getD_eq_getElem?_getD, List.getElem?_eq_none (show a.length ≤ k by omega)]
        rw [hz, Int.add_zero] at ht
        clear hz da0 da1 HA
        generalize b.getD k 0 = xb at *
        subst ht
        go_wp2_with ((with_reducible refine append_word (o := ⟨some 46, _, _, _, _, _⟩) rfl (.tmp 42) (.tmp 45) rfl w (.slice a5 k c5) O rfl ?_ ((cz + xb) % 4294967296) rfl ?_ ?_); exact MO2.out; exact (by have := HOL.out; omega); intro u6 w5 hp2; have HP3 := Lib.hid hp2; clear hp2)
        go_roundw
        case rel => exact ⟨k + 1, O ++ [(cz + xb) % 4294967296], _, by omega, by omega, by go_num, rfl, by omega, by omega, HOL2.out, HWS, HP3, HMORE⟩
        case measure => simp [intOf]; omega
      · have WO' := WO.out
        have hke : Hid (Nt.val (a.take k) = Nt.val a ∧ Nt.val (b.take k) = Nt.val b) := by rw [List.take_of_length_le (by omega), List.take_of_length_le (by omega)]; exact ⟨rfl, rfl⟩
        have HWC : Hid (Nt.Ws (O ++ [cz])) := WO'.snoc (x := cz) (by unfold W32; omega)
        have HLC : Hid ((O ++ [cz]).length ≤ 1000000) := by
          have e : (O ++ [cz]).length = k + 1 := by rw [List.length_append, HOL.out]; rfl
          show _ ≤ _; omega
        have HVC : Hid (Nt.val (O ++ [cz]) = Nt.val a + Nt.val b) := by
          show _ = _
          rw [Nt.val_append, HOL.out, ← hke.out.1, ← hke.out.2, ← VO.out]
          simp [Nt.val, Int.mul_comm]
        clear hke VO WO' HMORE HWS HOL2 ht da0 da1 db0 db1 HA HB
        go_wp2_with (first
          | ((with_reducible refine append_word (o := ⟨some 53, _, _, _, _, _⟩) rfl (.tmp 49) (.tmp 52) rfl w (.slice a5 k c5) O rfl ?_ cz rfl ?_ ?_); exact MO2.out; exact (by have := HOL.out; omega); intro u6 w5 hp2; have HP3 := Lib.hid hp2; clear hp2)
          | ((with_reducible refine append_word (o := ⟨some 53, _, _, _, _, _⟩) rfl (.tmp 49) (.tmp 52) rfl w (.slice a5 k c5) O rfl ?_ (cz % 4294967296) rfl ?_ ?_); exact MO2.out; exact (by have := HOL.out; omega); intro u6 w5 hp2; have HP3 := Lib.hid hp2; clear hp2)
          | (go_at_call 41; refine (trim_any _ _ _ (HP3.out.num HWC.out) HLC.out).mono ?_; rintro e w1 ⟨v1, rfl, h2, h3⟩; have H2 := Lib.hid h2; have H3 := Lib.hid h3; clear h2 h3))
        go_ret
        refine ⟨_, _, rfl, H2.out, ?_, Nt.neat_trim _, ?_, HP3.out.2.trans (H3.out.mono HP3.out.2.size)⟩
        · rw [Nt.val_trim]; exact HVC.out
        · rw [Nt.length_trim]
          refine Nat.le_trans (Nt.cut_le _ _) ?_
          rw [List.length_append, HOL.out]
          show k + 1 ≤ _
          omega
end Go.Proofs.YtiinmdleechcgaaDoor
namespace Go.Proofs.YtiinmdleechcgaaDoor
open Go.RowKit

namespace Nt
/-- One word more of a difference. -/
theorem less_more {a b O : List Int} {k : Nat} {c c' r : Int} (hO : O.length = k) (hr : r = a.getD k 0 - b.getD k 0 - c + c' * B) (h : val O = val (a.take k) - val (b.take k) + c * pw k) :
    val (O ++ [r]) = val (a.take (k + 1)) - val (b.take (k + 1)) + c' * pw (k + 1) := by
  rw [val_append, hO, val_take_more, val_take_more, pw_succ]
  have e : val [r] = r := by simp [val]
  rw [e]
  subst hr
  grind
theorem less_end {a b O : List Int} {c : Int} (ha : Ws a) (hb : Ws b) (hO : Ws O) (hl : O.length = a.length) (c0 : 0 ≤ c) (hle : val b ≤ val a) (h : val O = val a - val (b.take a.length) + c * pw a.length) : val O = val a - val b := by
  have hz : val b = val (b.take a.length) := by
    by_cases h1 : b.length ≤ a.length
    · rw [List.take_of_length_le h1]
    · have e := val_split b a.length (by omega)
      have h2 := val_nonneg (hb.drop a.length)
      have h3 := val_nonneg (hb.take a.length)
      have h4 := val_lt ha
      have h5 : ¬ 1 ≤ val (b.drop a.length) := by
        intro h6
        have := Int.mul_le_mul_of_nonneg_left h6 (Int.le_of_lt (pw_pos a.length))
        omega
      rw [e, show val (b.drop a.length) = 0 by omega]
      omega
  have h1 := val_lt hO
  rw [hl] at h1
  have h2 : ¬ 1 ≤ c := by
    intro h3
    have := Int.mul_le_mul_of_nonneg_right h3 (Int.le_of_lt (pw_pos a.length))
    omega
  have h3 : c = 0 := by omega
  rw [h3] at h
  omega
theorem sub_two {x y c : Int} (x0 : 0 ≤ x) (x1 : x ≤ 4294967295) (y0 : 0 ≤ y) (y1 : y ≤ 4294967295) (c0 : 0 ≤ c) (c1 : c ≤ 1) : ∃ X c', X = IntKind.u64.wrap (IntKind.u64.wrap (x - c) - y) ∧ 0 ≤ X ∧ X ≤ 18446744073709551615 ∧ 0 ≤ c' ∧ c' ≤ 1 ∧ X / 9223372036854775808 = c' ∧ X % 4294967296 = x - y - c + c' * 4294967296 := by
  have e : ∀ z, IntKind.u64.wrap z = z % 18446744073709551616 := fun z => rfl
  rw [e, e]
  refine ⟨_, _, rfl, by omega, by omega, ?_, ?_, rfl, ?_⟩ <;> omega
theorem sub_one {x y c : Int} (hy : y = 0) (x0 : 0 ≤ x) (x1 : x ≤ 4294967295) (c0 : 0 ≤ c) (c1 : c ≤ 1) : ∃ X c', X = IntKind.u64.wrap (x - c) ∧ 0 ≤ X ∧ X ≤ 18446744073709551615 ∧ 0 ≤ c' ∧ c' ≤ 1 ∧ X / 9223372036854775808 = c' ∧ X % 4294967296 = x - y - c + c' * 4294967296 := by
  have e : ∀ z, IntKind.u64.wrap z = z % 18446744073709551616 := fun z => rfl
  rw [e]
  refine ⟨_, _, rfl, by omega, by omega, ?_, ?_, rfl, ?_⟩ <;> omega
end Nt

set_option maxRecDepth 100000 in
set_option maxHeartbeats 1000000 in
theorem lessn_any (w : World) (va vb : Value) (a b : List Int) (ha : Num w va a) (hb : Num w vb b) (hla : a.length ≤ 100000) (hle : Nt.val b ≤ Nt.val a) :
    Calls Tryd.prog 40 #[va, vb] w fun e w' => ∃ v' l, e = .returned v' ∧ Num w' v' l ∧ Nt.val l = Nt.val a - Nt.val b ∧ Nt.Neat l ∧ l.length ≤ a.length ∧ Below w.heap.size w w' := by
  obtain ⟨aa, ca, rfl⟩ := num_form ha
  obtain ⟨ab, cb, rfl⟩ := num_form hb
  have HA := Lib.hid ha
  have HB := Lib.hid hb
  have hwa : Hid (Nt.Ws a) := by obtain ⟨_, _, _, _, h, _⟩ := ha; exact h
  have hwb : Hid (Nt.Ws b) := by obtain ⟨_, _, _, _, h, _⟩ := hb; exact h
  have HLE := Lib.hid hle
  clear ha hb hle
  go_enter Tryd.func40, Tryd.ntmps40
  go_wp2_with fail
  go_loopw [5, 6, 7] (fun v c i wr => ∃ (k : Nat) (O : List Int) (cz : Int), k ≤ a.length ∧ i = .int .i64 k ∧ c = .int .u64 cz ∧ 0 ≤ cz ∧ cz ≤ 1 ∧ O.length = k ∧ Hid (Nt.Ws O) ∧ Hid (Mine .u32 61 w wr v O) ∧ Hid (Nt.val O = Nt.val (a.take k) - Nt.val (b.take k) + cz * Nt.pw k)) (fun _ _ i _ => a.length - (intOf i).toNat)
  case atStart => exact ⟨0, [], 0, Nat.zero_le _, rfl, rfl, by omega, by omega, rfl, Nt.Ws.nil, Mine.nil _ _ _, by show _ = _; simp [Nt.val]⟩
  case round =>
    obtain ⟨k, O, cz, hk, rfl, rfl, c0, c1, hO, WO, MO, VO⟩ := hrel
    obtain ⟨a5, c5, rfl⟩ := MO.out.form
    rw [hO]
    have hda : 0 ≤ a.getD k 0 ∧ a.getD k 0 ≤ 4294967295 := hwa.out.getD k
    have hdb : 0 ≤ b.getD k 0 ∧ b.getD k 0 ≤ 4294967295 := hwb.out.getD k
    have MO2 : Hid (Mine .u32 61 w wr (.slice a5 k c5) O) := by have := MO.out; rw [hO] at this; exact this
    have HOL := Lib.hid hO
    by_cases hla2 : k < a.length
    · have hmore := fun c' r hr => Nt.less_more (a := a) (b := b) (c := cz) (c' := c') (r := r) hO hr VO.out
      unfold Nt.B at hmore
      have HMORE := Lib.hid hmore
      clear hmore hO MO
      obtain ⟨da0, da1⟩ := hda
      obtain ⟨db0, db1⟩ := hdb
      obtain ⟨b1, o1, rfl, hb1, hc1, hcap1⟩ := num_cell HA.out k hla2
      have hc1' := (MO2.out.2.cell (p := ⟨b1, o1 + k, none⟩) hb1).trans hc1
      by_cases hlb2 : k < b.length
      · obtain ⟨b2, o2, rfl, hb2, hc2, hcap2⟩ := num_cell HB.out k hlb2
        have hc2' := (MO2.out.2.cell (p := ⟨b2, o2 + k, none⟩) hb2).trans hc2
        clear hc1 hc2 VO
        generalize a.getD k 0 = xa at *
        generalize b.getD k 0 = xb at *
        obtain ⟨X, c', hX, X0, X1, d0, d1, hc', hr⟩ := Nt.sub_two da0 da1 db0 db1 c0 c1
        subst hX
        have hws : Hid (Nt.Ws (O ++ [IntKind.u64.wrap (IntKind.u64.wrap (xa - cz) - xb) % 4294967296])) := WO.out.snoc (x := IntKind.u64.wrap (IntKind.u64.wrap (xa - cz) - xb) % 4294967296) (by unfold W32; omega)
        have hol : Hid ((O ++ [IntKind.u64.wrap (IntKind.u64.wrap (xa - cz) - xb) % 4294967296]).length = k + 1) := by show _ = _; rw [List.length_append, HOL.out]; rfl
        have HV := Lib.hid (HMORE.out c' (IntKind.u64.wrap (IntKind.u64.wrap (xa - cz) - xb) % 4294967296) hr)
        clear HMORE hr WO
        go_wp2_with ((with_reducible refine append_word (o := ⟨some 37, _, _, _, _, _⟩) rfl (.tmp 33) (.tmp 36) rfl w (.slice a5 k c5) O rfl ?_ (IntKind.u64.wrap (IntKind.u64.wrap (xa - cz) - xb) % 4294967296) rfl ?_ ?_); exact MO2.out; exact (by have := HOL.out; omega); intro u6 w5 hp2; have HP3 := Lib.hid hp2; clear hp2)
        go_roundw
        case rel => exact ⟨k + 1, O ++ [IntKind.u64.wrap (IntKind.u64.wrap (xa - cz) - xb) % 4294967296], c', by omega, by go_num, rfl, d0, d1, hol.out, hws, HP3, HV⟩
        case measure => simp [intOf]; omega
      · clear hc1
        have hz : b.getD k 0 = 0 := by simp [List.getD_eq_getElem?_getD, List.getElem?_eq_none (show b.length ≤ k by omega)]
        clear VO HB
        generalize a.getD k 0 = xa at *
        generalize b.getD k 0 = xb at *
        obtain ⟨X, c', hX, X0, X1, d0, d1, hc', hr⟩ := Nt.sub_one hz da0 da1 c0 c1
        subst hX
        have hws : Hid (Nt.Ws (O ++ [IntKind.u64.wrap (xa - cz) % 4294967296])) := WO.out.snoc (x := IntKind.u64.wrap (xa - cz) % 4294967296) (by unfold W32; omega)
        have hol : Hid ((O ++ [IntKind.u64.wrap (xa - cz) % 4294967296]).length = k + 1) := by show _ = _; rw [List.length_append, HOL.out]; rfl
        have HV := Lib.hid (HMORE.out c' (IntKind.u64.wrap (xa - cz) % 4294967296) hr)
        clear HMORE hr WO hz db0 db1
        go_wp2_with ((with_reducible refine append_word (o := ⟨some 37, _, _, _, _, _⟩) rfl (.tmp 33) (.tmp 36) rfl w (.slice a5 k c5) O rfl ?_ (IntKind.u64.wrap (xa - cz) % 4294967296) rfl ?_ ?_); exact MO2.out; exact (by have := HOL.out; omega); intro u6 w5 hp2; have HP3 := Lib.hid hp2; clear hp2)
        go_roundw
        case rel => exact ⟨k + 1, O ++ [IntKind.u64.wrap (xa - cz) % 4294967296], c', by omega, by go_num, rfl, d0, d1, hol.out, hws, HP3, HV⟩
        case measure => simp [intOf]; omega
    · obtain rfl : k = a.length := by omega
      have hv := VO.out
      rw [List.take_length] at hv
      have HVC := Lib.hid (Nt.less_end hwa.out hwb.out WO.out hO c0 HLE.out hv)
      have HLC : Hid (O.length ≤ 1000000) := by show _ ≤ _; omega
      clear hv VO hda hdb HA HB hO
      go_wp2_with (go_at_call 41; refine (trim_any _ _ _ (MO2.out.num WO.out) HLC.out).mono ?_; rintro e w1 ⟨v1, rfl, h2, h3⟩; have H2 := Lib.hid h2; have H3 := Lib.hid h3; clear h2 h3)
      go_ret
      refine ⟨_, _, rfl, H2.out, ?_, Nt.neat_trim _, ?_, MO2.out.2.trans (H3.out.mono MO2.out.2.size)⟩
      · rw [Nt.val_trim]; exact HVC.out
      · rw [Nt.length_trim]
        refine Nat.le_trans (Nt.cut_le _ _) ?_
        rw [HOL.out]
        exact Nat.le_refl _
end Go.Proofs.YtiinmdleechcgaaDoor
namespace Go.Proofs.YtiinmdleechcgaaDoor
open Go.RowKit

namespace Nt
def bit (a : List Int) (n : Nat) : Int := a.getD (n / 32) 0 / 2 ^ (n % 32) % 2
theorem pw_two (q r : Nat) : (2 : Int) ^ (32 * q + r) = pw q * 2 ^ r := by
  rw [Int.pow_add, Int.pow_mul]; rfl
theorem bit_word (x y : Int) (r : Nat) (hr : r < 32) : (x + B * y) / 2 ^ r % 2 = x / 2 ^ r % 2 := by
  have e : B = 2 ^ r * (2 * 2 ^ (31 - r)) := by
    rw [show (2 : Int) * 2 ^ (31 - r) = 2 ^ (32 - r) by rw [show 32 - r = (31 - r) + 1 by omega, Int.pow_succ, Int.mul_comm], ← Int.pow_add, show r + (32 - r) = 32 by omega]
    rfl
  rw [e, Int.mul_assoc, Int.add_mul_ediv_left _ _ (Int.ne_of_gt (Int.pow_pos (by decide))), Int.mul_assoc, Int.add_mul_emod_self_left]
theorem val_high {a : List Int} (ha : Ws a) (q : Nat) : val a / pw q = val (a.drop q) := by
  by_cases h : q ≤ a.length
  · rw [val_split a q h, Int.add_mul_ediv_left _ _ (Int.ne_of_gt (pw_pos q)), Int.ediv_eq_zero_of_lt (val_nonneg (ha.take q))]
    · omega
    · have := val_lt (ha.take q)
      rw [List.length_take, Nat.min_eq_left h] at this
      exact this
  · rw [List.drop_of_length_le (by omega), Int.ediv_eq_zero_of_lt (val_nonneg ha) (Int.lt_of_lt_of_le (val_lt ha) (pw_le (by omega)))]
    rfl
theorem bit_val {a : List Int} (ha : Ws a) (n : Nat) : bit a n = val a / 2 ^ n % 2 := by
  have e : (2 : Int) ^ n = pw (n / 32) * 2 ^ (n % 32) := by rw [← pw_two, Nat.div_add_mod]
  unfold bit
  rw [e, ← Int.ediv_ediv_of_nonneg (Int.le_of_lt (pw_pos _)), val_high ha]
  by_cases h : n / 32 < a.length
  · rw [val_drop a _ h, bit_word _ _ _ (by omega)]
  · rw [List.drop_of_length_le (by omega), show a.getD (n / 32) 0 = 0 by simp [List.getD_eq_getElem?_getD, List.getElem?_eq_none (show a.length ≤ n / 32 by omega)]]
    rfl
end Nt

theorem and1_32 (v : Int) (h0 : 0 ≤ v) (h1 : v ≤ 4294967295) : bits BinOp.and IntKind.u32 v 1 = v % 2 := by
  obtain ⟨n, rfl⟩ := Int.eq_ofNat_of_zero_le h0
  have h := u32_and_nat n 1 (by omega) (by decide)
  rw [nat_mask1, Int.natCast_emod] at h
  exact h

set_option maxRecDepth 100000 in
set_option maxHeartbeats 1000000 in
theorem bit_any (w : World) (va : Value) (a : List Int) (n : Nat) (ha : Num w va a) (hla : a.length ≤ 100000) (hn : n ≤ 10000000) :
    Calls Tryd.prog 33 #[va, .int .i64 n] w fun e w' => e = .returned (.int .u32 (Nt.bit a n)) ∧ w' = w := by
  obtain ⟨aa, ca, rfl⟩ := num_form ha
  have hwa : Hid (Nt.Ws a) := by obtain ⟨_, _, _, _, h, _⟩ := ha; exact h
  have hda : 0 ≤ a.getD (n / 32) 0 ∧ a.getD (n / 32) 0 ≤ 4294967295 := hwa.out.getD _
  obtain ⟨da0, da1⟩ := hda
  have hbit : Hid (Nt.bit a n = a.getD (n / 32) 0 / 2 ^ (n % 32) % 2) := rfl
  by_cases hlq : n / 32 < a.length
  · obtain ⟨b1, o1, rfl, hb1, hc1, hcap1⟩ := num_cell ha _ hlq
    clear ha hwa
    generalize a.getD (n / 32) 0 = xa at *
    have hm := and1_32 (xa / 2 ^ (n % 32)) (Int.ediv_nonneg (by omega) (Int.le_of_lt (Int.pow_pos (by decide)))) (Int.le_trans (Int.ediv_le_self _ (by omega)) (by omega))
    go_enter Tryd.func33, Tryd.ntmps33
    go_wp2_with fail
    go_ret
    exact ⟨by rw [hbit.out]; rfl, rfl⟩
  · clear hwa
    have hz : a.getD (n / 32) 0 = 0 := by simp [List.getD_eq_getElem?_getD, List.getElem?_eq_none (show a.length ≤ n / 32 by omega)]
    have hb : Hid (Nt.bit a n = 0) := by show _ = _; rw [hbit.out, hz]; simp
    clear hbit da0 da1 hz ha
    go_enter Tryd.func33, Tryd.ntmps33
    go_wp2_with fail
    go_ret
    exact ⟨by rw [hb.out]; rfl, rfl⟩
end Go.Proofs.YtiinmdleechcgaaDoor
namespace Go.Proofs.YtiinmdleechcgaaDoor
open Go.RowKit

theorem bit_at (w : World) (va : Value) (a : List Int) (n : Nat) (i : Int) (hi : i = n) (ha : Num w va a) (hla : a.length ≤ 100000) (hn : n ≤ 10000000) :
    Calls Tryd.prog 33 #[va, .int .i64 i] w fun e w' => e = .returned (.int .u32 (Nt.bit a n)) ∧ w' = w := by
  subst hi
  exact bit_any w va a n ha hla hn
namespace Nt
theorem pow_step (j : Nat) : (2 : Int) ^ (j + 1) = 2 * 2 ^ j := by rw [Int.pow_succ, Int.mul_comm]
theorem bit_down {a : List Int} (ha : Ws a) {j : Nat} (h : val a < 2 ^ (j + 1)) (hb : bit a j = 0) : val a < 2 ^ j := by
  have hp : (0 : Int) < 2 ^ j := Int.pow_pos (by decide)
  rw [bit_val ha] at hb
  rw [pow_step] at h
  have h1 : val a / 2 ^ j < 2 := Int.ediv_lt_of_lt_mul hp h
  have h2 : 0 ≤ val a / 2 ^ j := Int.ediv_nonneg (val_nonneg ha) (Int.le_of_lt hp)
  have h3 : val a / 2 ^ j < 1 := by omega
  have := Int.lt_mul_of_ediv_lt hp h3
  omega
theorem bit_up {a : List Int} (ha : Ws a) {j : Nat} (hb : bit a j ≠ 0) : 2 ^ j ≤ val a := by
  apply Decidable.byContradiction
  intro h
  apply hb
  rw [bit_val ha, Int.ediv_eq_zero_of_lt (val_nonneg ha) (by omega)]
  rfl
theorem val_lt_two {a : List Int} (ha : Ws a) : val a < 2 ^ (32 * a.length) := by
  have := val_lt ha
  rw [show (2 : Int) ^ (32 * a.length) = pw a.length by rw [Int.pow_mul]; rfl]
  exact this
end Nt

set_option maxRecDepth 100000 in
set_option maxHeartbeats 1000000 in
theorem len_any (w : World) (va : Value) (a : List Int) (ha : Num w va a) (hla : a.length ≤ 100000) :
    Calls Tryd.prog 36 #[va] w fun e w' => ∃ m : Nat, e = .returned (.int .i64 m) ∧ Nt.val a < 2 ^ m ∧ (0 < m → 2 ^ (m - 1) ≤ Nt.val a) ∧ m ≤ 32 * a.length ∧ w' = w := by
  obtain ⟨aa, ca, rfl⟩ := num_form ha
  have hwa : Hid (Nt.Ws a) := by obtain ⟨_, _, _, _, h, _⟩ := ha; exact h
  have HA := Lib.hid ha
  clear ha
  go_enter Tryd.func36, Tryd.ntmps36
  go_wp2_with fail
  go_loopw [3] (fun i wr => ∃ k : Nat, k ≤ 32 * a.length ∧ i = .int .i64 k ∧ wr = w ∧ Hid (Nt.val a < 2 ^ k)) (fun i _ => (intOf i).toNat)
  case atStart => exact ⟨32 * a.length, Nat.le_refl _, by simp, rfl, Nt.val_lt_two hwa.out⟩
  case round =>
    obtain ⟨k, hk, rfl, rfl, HV⟩ := hrel
    by_cases hk0 : 0 < k
    · by_cases hb : Nt.bit a (k - 1) = 0
      · have hd : Hid (Nt.val a < 2 ^ (k - 1)) := Nt.bit_down hwa.out (by rw [show k - 1 + 1 = k by omega]; exact HV.out) hb
        have HBT := Lib.hid (bit_at wr _ a (k - 1) ((k : Int) - 1) (by omega) HA.out hla (by omega))
        rw [hb] at HBT
        clear hb
        go_wp2_with (go_at_call 33; refine HBT.out.mono ?_; rintro e w1 ⟨rfl, rfl⟩)
        refine ⟨⟨k - 1, by omega, ?_, trivial, hd⟩, ?_⟩
        · rw [show ((k - 1 : Nat) : Int) = (k : Int) - 1 by omega]
        · simp [intOf]; omega
      · have hu : Hid (2 ^ (k - 1) ≤ Nt.val a) := Nt.bit_up hwa.out hb
        have HBT := Lib.hid (bit_at wr _ a (k - 1) ((k : Int) - 1) (by omega) HA.out hla (by omega))
        generalize Nt.bit a (k - 1) = bv at *
        go_wp2_with (go_at_call 33; refine HBT.out.mono ?_; rintro e w1 ⟨rfl, rfl⟩)
        go_ret
        exact ⟨k, rfl, HV.out, fun _ => hu.out, hk, rfl⟩
    · obtain rfl : k = 0 := by omega
      go_wp2_with fail
      go_ret
      exact ⟨0, rfl, HV.out, fun h => absurd h (by omega), hk, rfl⟩
end Go.Proofs.YtiinmdleechcgaaDoor
namespace Go.Proofs.YtiinmdleechcgaaDoor
open Go.RowKit

namespace Nt
def prime : List Int := [4294967277, 4294967295, 4294967295, 4294967295, 4294967295, 4294967295, 4294967295, 2147483647]
theorem prime_val : val prime = 2 ^ 255 - 19 := by decide
theorem prime_ws : Ws prime := by
  intro x hx
  simp only [prime, List.mem_cons, List.not_mem_nil, or_false] at hx
  rcases hx with rfl | rfl | rfl | rfl | rfl | rfl | rfl | rfl <;> (unfold W32; decide)
end Nt

set_option maxRecDepth 100000 in
set_option maxHeartbeats 400000 in
theorem p_any (w : World) : Calls Tryd.prog 61 #[] w fun e w' => ∃ v', e = .returned v' ∧ Num w' v' Nt.prime ∧ Below w.heap.size w w' := by
  have hb0 : Hid (Blk (w.alloc (.cells (Nt.prime.map (Value.int .u32)).toArray 61)) w.heap.size .u32 61 Nt.prime) := heap_alloc_new w _
  have ho0 : Hid (Below w.heap.size w (w.alloc (.cells (Nt.prime.map (Value.int .u32)).toArray 61))) := (Below.refl _ _).alloc (Nat.le_refl _) _
  go_enter Tryd.func61, Tryd.ntmps61
  go_wp2_with fail
  go_ret
  exact ⟨_, rfl, num_blk hb0.out rfl Nt.prime_ws, ho0.out⟩
end Go.Proofs.YtiinmdleechcgaaDoor
namespace Go.Proofs.YtiinmdleechcgaaDoor
open Go.RowKit

namespace Nt
theorem drop_word (a : List Int) (n : Nat) : val (a.drop n) = a.getD n 0 + B * val (a.drop (n + 1)) := by
  by_cases h : n < a.length
  · exact val_drop a n h
  · rw [List.drop_of_length_le (by omega), List.drop_of_length_le (by omega), show a.getD n 0 = 0 by simp [List.getD_eq_getElem?_getD, List.getElem?_eq_none (show a.length ≤ n by omega)]]
    rfl
theorem down_two (x y z : Int) : (x + B * (y + B * z)) / 2147483648 % B = (x + y * 4294967296) / 2147483648 % B := by
  unfold B; omega
theorem emod_two (x p : Int) (hp : 0 < p) : x % (p * B) = x % p + p * (x / p % B) := by
  have h1 : p * (x / p) + x % p = x := Int.mul_ediv_add_emod x p
  have h2 : B * (x / p / B) + x / p % B = x / p := Int.mul_ediv_add_emod (x / p) B
  have h3 := Int.emod_nonneg x (Int.ne_of_gt hp)
  have h4 := Int.emod_lt_of_pos x hp
  have h5 : 0 ≤ x / p % B := Int.emod_nonneg _ (by decide)
  have h6 : x / p % B < B := Int.emod_lt_of_pos _ (by decide)
  generalize x % p = r at *
  generalize x / p % B = t at *
  generalize x / p / B = s at *
  rw [← h2] at h1
  have e : x = (r + p * t) + (p * B) * s := by rw [← h1]; grind
  have h7 : p * t ≤ p * (B - 1) := Int.mul_le_mul_of_nonneg_left (by omega) (Int.le_of_lt hp)
  have h8 : 0 ≤ p * t := Int.mul_nonneg (Int.le_of_lt hp) h5
  rw [Int.mul_sub, Int.mul_one] at h7
  rw [e, Int.add_mul_emod_self_left, Int.emod_eq_of_lt (by omega) (by omega)]
theorem down_more {a O : List Int} {k : Nat} {t : Int} (ha : Ws a) (hO : O.length = k) (ht : t = (a.getD (k + 7) 0 + a.getD (k + 8) 0 * 4294967296) / 2147483648 % B) (h : val O = val (a.drop 7) / 2147483648 % pw k) :
    val (O ++ [t]) = val (a.drop 7) / 2147483648 % pw (k + 1) := by
  have e : val [t] = t := by simp [val]
  have e2 : val (a.drop 7) / 2147483648 / pw k = val (a.drop (k + 7)) / 2147483648 := by
    rw [Int.ediv_ediv_of_nonneg (by decide), Int.mul_comm, ← Int.ediv_ediv_of_nonneg (Int.le_of_lt (pw_pos k)), val_high (ha.drop 7), List.drop_drop, Nat.add_comm]
  rw [val_append, hO, e, h, ht, ← down_two _ _ (val (a.drop (k + 9))), ← drop_word, ← drop_word, ← e2, pw_succ, Int.mul_comm B, emod_two _ _ (pw_pos k)]
theorem down_end {a O : List Int} {k : Nat} (ha : Ws a) (hk : a.length ≤ k + 7) (h : val O = val (a.drop 7) / 2147483648 % pw k) : val O = val a / 2 ^ 255 := by
  rw [show (2 : Int) ^ 255 = pw 7 * 2147483648 by decide, ← Int.ediv_ediv_of_nonneg (Int.le_of_lt (pw_pos 7)), val_high ha, h]
  have h0 := val_nonneg (ha.drop 7)
  refine Int.emod_eq_of_lt (Int.ediv_nonneg h0 (by decide)) (Int.lt_of_le_of_lt (Int.ediv_le_self _ h0) (Int.lt_of_lt_of_le (val_lt (ha.drop 7)) (pw_le (by rw [List.length_drop]; omega))))
theorem or_words {x y : Int} (x0 : 0 ≤ x) (x1 : x ≤ 4294967295) (y0 : 0 ≤ y) (y1 : y ≤ 4294967295) : bits BinOp.or IntKind.u64 x (y * 4294967296) = x + y * 4294967296 := by
  obtain ⟨n, rfl⟩ := Int.eq_ofNat_of_zero_le x0
  obtain ⟨m, rfl⟩ := Int.eq_ofNat_of_zero_le y0
  rw [show (m : Int) * 4294967296 = ((m * 2 ^ 32 : Nat) : Int) by omega, u64_or_nat _ _ (by omega) (by omega), Nat.or_comm, nat_join 32 _ _ (Nat.mul_mod_left _ _) (by omega)]
  omega
end Nt

set_option maxRecDepth 100000 in
set_option maxHeartbeats 1000000 in
theorem down_any (w : World) (va : Value) (a : List Int) (ha : Num w va a) (hla : a.length ≤ 100000) :
    Calls Tryd.prog 83 #[va, .int .i64 255] w fun e w' => ∃ v' l, e = .returned v' ∧ Num w' v' l ∧ Nt.val l = Nt.val a / 2 ^ 255 ∧ Nt.Neat l ∧ l.length ≤ a.length - 7 ∧ Below w.heap.size w w' := by
  obtain ⟨aa, ca, rfl⟩ := num_form ha
  have HA := Lib.hid ha
  have hwa : Hid (Nt.Ws a) := by obtain ⟨_, _, _, _, h, _⟩ := ha; exact h
  clear ha
  go_enter Tryd.func83, Tryd.ntmps83
  go_wp2_with fail
  go_loopw [5, 6] (fun v i wr => ∃ (k : Nat) (O : List Int), k ≤ a.length - 7 ∧ i = .int .i64 (k + 7) ∧ O.length = k ∧ Hid (Nt.Ws O) ∧ Hid (Mine .u32 61 w wr v O) ∧ Hid (Nt.val O = Nt.val (a.drop 7) / 2147483648 % Nt.pw k)) (fun _ i _ => a.length + 7 - (intOf i).toNat)
  case atStart => exact ⟨0, [], Nat.zero_le _, rfl, rfl, Nt.Ws.nil, Mine.nil _ _ _, by show _ = _; rw [Nt.pw_zero]; simp [Nt.val, Int.emod_one]⟩
  case round =>
    obtain ⟨k, O, hk, rfl, hO, WO, MO, VO⟩ := hrel
    obtain ⟨a5, c5, rfl⟩ := MO.out.form
    rw [hO]
    have hda : 0 ≤ a.getD (k + 7) 0 ∧ a.getD (k + 7) 0 ≤ 4294967295 := hwa.out.getD _
    have hdb : 0 ≤ a.getD (k + 8) 0 ∧ a.getD (k + 8) 0 ≤ 4294967295 := hwa.out.getD _
    have MO2 : Hid (Mine .u32 61 w wr (.slice a5 k c5) O) := by have := MO.out; rw [hO] at this; exact this
    have HOL := Lib.hid hO
    by_cases hla2 : k + 7 < a.length
    · have hmore := fun t ht => Nt.down_more (t := t) hwa.out hO ht VO.out
      unfold Nt.B at hmore
      have HMORE := Lib.hid hmore
      clear hmore hO MO VO
      obtain ⟨da0, da1⟩ := hda
      obtain ⟨db0, db1⟩ := hdb
      by_cases hlb2 : k + 8 < a.length
      · obtain ⟨b1, o1, he, hb1, hc1, hcap1⟩ := num_cell HA.out _ hla2
        obtain ⟨b2, o2, he2, hb2, hc2, hcap2⟩ := num_cell HA.out _ hlb2
        obtain rfl := he
        injection he2 with he3
        injection he3 with he4 he5
        subst he4
        subst he5
        have hc1' := (MO2.out.2.cell (p := ⟨b1, o1 + (k + 7), none⟩) hb1).trans hc1
        have hc2' := (MO2.out.2.cell (p := ⟨b1, o1 + (k + 8), none⟩) hb2).trans hc2
        clear hc1 hc2 HA
        have hor := Nt.or_words da0 da1 db0 db1
        generalize a.getD (k + 7) 0 = xa at *
        generalize a.getD (k + 8) 0 = xb at *
        have hws : Hid (Nt.Ws (O ++ [(xa + xb * 4294967296) / 2147483648 % 4294967296])) := WO.out.snoc (x := (xa + xb * 4294967296) / 2147483648 % 4294967296) (by unfold W32; omega)
        have hol : Hid ((O ++ [(xa + xb * 4294967296) / 2147483648 % 4294967296]).length = k + 1) := by show _ = _; rw [List.length_append, HOL.out]; rfl
        have HV := Lib.hid (HMORE.out _ rfl)
        clear HMORE WO
        go_wp2_with ((with_reducible refine append_word (o := ⟨some 42, _, _, _, _, _⟩) rfl (.tmp 35) (.tmp 41) rfl w (.slice a5 k c5) O rfl ?_ ((xa + xb * 4294967296) / 2147483648 % 4294967296) rfl ?_ ?_); exact MO2.out; exact (by have := HOL.out; omega); intro u6 w5 hp2; have HP3 := Lib.hid hp2; clear hp2)
        go_roundw
        case rel => exact ⟨k + 1, O ++ [(xa + xb * 4294967296) / 2147483648 % 4294967296], by omega, by go_num, hol.out, hws, HP3, HV⟩
        case measure => simp [intOf]; omega
      · obtain ⟨b1, o1, rfl, hb1, hc1, hcap1⟩ := num_cell HA.out _ hla2
        have hc1' := (MO2.out.2.cell (p := ⟨b1, o1 + (k + 7), none⟩) hb1).trans hc1
        have hz : a.getD (k + 8) 0 = 0 := by simp [List.getD_eq_getElem?_getD, List.getElem?_eq_none (show a.length ≤ k + 8 by omega)]
        rw [hz, Int.zero_mul, Int.add_zero] at HMORE
        clear hc1 HA hz db0 db1
        generalize a.getD (k + 7) 0 = xa at *
        have hws : Hid (Nt.Ws (O ++ [xa / 2147483648])) := WO.out.snoc (x := xa / 2147483648) (by unfold W32; omega)
        have hol : Hid ((O ++ [xa / 2147483648]).length = k + 1) := by show _ = _; rw [List.length_append, HOL.out]; rfl
        have HV := Lib.hid (HMORE.out (xa / 2147483648) (by omega))
        clear HMORE WO
        go_wp2_with ((with_reducible refine append_word (o := ⟨some 42, _, _, _, _, _⟩) rfl (.tmp 35) (.tmp 41) rfl w (.slice a5 k c5) O rfl ?_ (xa / 2147483648) rfl ?_ ?_); exact MO2.out; exact (by have := HOL.out; omega); intro u6 w5 hp2; have HP3 := Lib.hid hp2; clear hp2)
        go_roundw
        case rel => exact ⟨k + 1, O ++ [xa / 2147483648], by omega, by go_num, hol.out, hws, HP3, HV⟩
        case measure => simp [intOf]; omega
    · have HVC := Lib.hid (Nt.down_end hwa.out (show a.length ≤ k + 7 by omega) VO.out)
      have HLC : Hid (O.length ≤ 1000000) := by show _ ≤ _; omega
      clear VO hda hdb HA hO
      go_wp2_with (go_at_call 41; refine (trim_any _ _ _ (MO2.out.num WO.out) HLC.out).mono ?_; rintro e w1 ⟨v1, rfl, h2, h3⟩; have H2 := Lib.hid h2; have H3 := Lib.hid h3; clear h2 h3)
      go_ret
      refine ⟨_, _, rfl, H2.out, ?_, Nt.neat_trim _, ?_, MO2.out.2.trans (H3.out.mono MO2.out.2.size)⟩
      · rw [Nt.val_trim]; exact HVC.out
      · rw [Nt.length_trim]
        refine Nat.le_trans (Nt.cut_le _ _) ?_
        rw [HOL.out]
        exact hk
end Go.Proofs.YtiinmdleechcgaaDoor
namespace Go.Proofs.YtiinmdleechcgaaDoor
open Go.RowKit

namespace Nt
theorem word_small {O : List Int} (hw : Ws O) {q r : Nat} (hq : q < O.length) (h : val O < 2 ^ (32 * q + r)) : O.getD q 0 < 2 ^ r := by
  rw [pw_two, val_split O q (by omega), val_drop O q hq] at h
  have h1 := val_nonneg (hw.take q)
  have h2 := val_nonneg (hw.drop (q + 1))
  have h3 : pw q * O.getD q 0 ≤ pw q * (O.getD q 0 + B * val (O.drop (q + 1))) := Int.mul_le_mul_of_nonneg_left (by unfold B; omega) (Int.le_of_lt (pw_pos q))
  exact Int.lt_of_mul_lt_mul_left (show pw q * O.getD q 0 < pw q * 2 ^ r by omega) (Int.le_of_lt (pw_pos q))
theorem or32 (o s b : Nat) (hs : s ≤ 24) (hb : b ≤ 255) (ho : o < 2 ^ s) : bits BinOp.or IntKind.u32 (o : Int) ((b * 2 ^ s : Nat) : Int) = ((o + b * 2 ^ s : Nat) : Int) := by
  have h1 : 2 ^ s ≤ 2 ^ 24 := Nat.pow_le_pow_right (by decide) hs
  simp only [Nat.reducePow] at h1
  have h2 : b * 2 ^ s ≤ 255 * 2 ^ s := Nat.mul_le_mul_right _ hb
  rw [u32_or_nat _ _ (by omega) (by omega), Nat.or_comm, nat_join s _ _ (Nat.mul_mod_left _ _) ho, Nat.add_comm]
theorem low_more : ∀ (p : List Int) (k : Nat), k < p.length → Bt.low (p.take (k + 1)) = Bt.low (p.take k) + 256 ^ k * (p.getD k 0).toNat
  | [], k, h => by simp at h
  | x :: r, 0, _ => by simp [Bt.low]
  | x :: r, k + 1, h => by
    have ih := low_more r k (by simpa using h)
    show x.toNat + 256 * Bt.low (r.take (k + 1)) = x.toNat + 256 * Bt.low (r.take k) + 256 ^ (k + 1) * (r.getD k 0).toNat
    rw [ih, Nat.pow_succ]
    grind
/-- One byte more. -/
theorem low_word {O p : List Int} {k : Nat} {x : Int} (hk : k < p.length) (hO : k / 4 < O.length) (hp : 0 ≤ p.getD k 0) (hx : x = O.getD (k / 4) 0 + p.getD k 0 * 2 ^ (8 * (k % 4))) (h : val O = (Bt.low (p.take k) : Nat)) : val (O.set (k / 4) x) = (Bt.low (p.take (k + 1)) : Nat) := by
  rw [val_set O _ _ hO, h, low_more p k hk, hx]
  have e : ((256 ^ k : Nat) : Int) = pw (k / 4) * 2 ^ (8 * (k % 4)) := by
    rw [← pw_two, show 32 * (k / 4) + 8 * (k % 4) = 8 * k by omega, Int.pow_mul]
    simp
  rw [Int.natCast_add, Int.natCast_mul, e, Int.toNat_of_nonneg hp]
  grind
end Nt
end Go.Proofs.YtiinmdleechcgaaDoor
namespace Go.Proofs.YtiinmdleechcgaaDoor
open Go.RowKit

theorem slc_form {w : World} {v : Value} {l : List Int} (h : Slc w v l) : ∃ a c, v = .slice a l.length c := by
  obtain ⟨a, c, hv, _⟩ := h; exact ⟨a, c, hv⟩
theorem slc_cell {w : World} {a : Option Addr} {c : Nat} {l : List Int} (h : Slc w (.slice a l.length c) l) (j : Nat) (hj : j < l.length) : ∃ b o, a = some ⟨b, o, none⟩ ∧ b < w.heap.size ∧ w.cell? ⟨b, o + j, none⟩ = some (.int .u8 (l.getD j 0)) ∧ l.length ≤ c := by
  obtain ⟨a', c', hv, h0, _, hm⟩ := h
  simp only [Value.slice.injEq] at hv
  obtain ⟨rfl, -, rfl⟩ := hv
  rcases hm with hm | ⟨b, off, rfl, h2, h3⟩
  · rw [hm] at hj; simp at hj
  · exact ⟨b, off, rfl, h2, h3 j hj, h0⟩

set_option maxRecDepth 100000 in
set_option maxHeartbeats 1000000 in
theorem low_any (w : World) (va : Value) (p : List Int) (hp : Slc w va p) (hla : p.length ≤ 100000) :
    Calls Tryd.prog 30 #[va] w fun e w' => ∃ v' l, e = .returned v' ∧ Num w' v' l ∧ Nt.val l = (Bt.low p : Nat) ∧ Nt.Neat l ∧ l.length ≤ (p.length + 3) / 4 ∧ Below w.heap.size w w' := by
  obtain ⟨aa, ca, rfl⟩ := slc_form hp
  have HP := Lib.hid hp
  have h8 : Hid (∀ x ∈ p, W8 x) := by obtain ⟨_, _, _, _, h, _⟩ := hp; exact h
  clear hp
  have hmk := fun w => run_mk w ((p.length + 3) / 4) (((p.length : Int) + 3) / 4) (by omega) (by omega)
  have hb0 : Hid (Blk (w.alloc (.cells ((zs ((p.length + 3) / 4)).map (Value.int .u32)).toArray 61)) w.heap.size .u32 61 (zs ((p.length + 3) / 4))) := heap_alloc_new w _
  have ho0 : Hid (Below w.heap.size w (w.alloc (.cells ((zs ((p.length + 3) / 4)).map (Value.int .u32)).toArray 61))) := (Below.refl _ _).alloc (Nat.le_refl _) _
  go_enter Tryd.func30, Tryd.ntmps30
  go_wp2_with fail
  clear hmk
  go_loopw [4] (fun i wr => ∃ (k : Nat) (O : List Int), k ≤ p.length ∧ i = .int .i64 k ∧ Hid (Blk wr w.heap.size .u32 61 O) ∧ O.length = (p.length + 3) / 4 ∧ Hid (Nt.Ws O) ∧ Hid (Nt.val O = (Bt.low (p.take k) : Nat)) ∧ Hid (Below w.heap.size w wr)) (fun i _ => p.length - (intOf i).toNat)
  case atStart =>
    refine ⟨0, zs ((p.length + 3) / 4), Nat.zero_le _, rfl, hb0, by simp [zs], ?_, ?_, ho0⟩
    · intro x hx
      simp only [zs, List.mem_replicate] at hx
      rw [hx.2]; unfold W32; omega
    · show Nt.val (zs _) = _
      unfold zs
      rw [Nt.val_zeros]; rfl
  case round =>
    clear hb0 ho0
    obtain ⟨k, O, hk, rfl, BK, hlO, WO, VO, BW⟩ := hrel
    by_cases hlt : k < p.length
    · obtain ⟨b1, o1, rfl, hb1, hc1, hcap1⟩ := slc_cell HP.out k hlt
      have hcb := (BW.out.cell (p := ⟨b1, o1 + k, none⟩) hb1).trans hc1
      have hco := BK.out.cell (k / 4) (by omega)
      have hfo := BK.out.free (k / 4)
      have hx8 : 0 ≤ p.getD k 0 ∧ p.getD k 0 ≤ 255 := by
        have hm : p.getD k 0 ∈ p := by rw [List.getD_eq_getElem?_getD, List.getElem?_eq_getElem hlt]; exact List.getElem_mem hlt
        have := h8.out _ hm
        unfold W8 at this; omega
      have hlow : Nt.val O < 2 ^ (32 * (k / 4) + 8 * (k % 4)) := by
        have h1 := Bt.low_lt (p.take k) (fun x hx => h8.out x (List.mem_of_mem_take hx))
        rw [List.length_take, Nat.min_eq_left hk] at h1
        rw [VO.out, show 32 * (k / 4) + 8 * (k % 4) = 8 * k by omega]
        exact_mod_cast h1
      have hsm := Nt.word_small WO.out (by omega : k / 4 < O.length) hlow
      have ho32 := WO.out.getD (k / 4)
      obtain ⟨x0, x1⟩ := hx8
      obtain ⟨o0, o1'⟩ := ho32
      have hmore := fun x hx => Nt.low_word (x := x) hlt (by omega : k / 4 < O.length) x0 hx VO.out
      have hset := fun x => BK.out.set (k / 4) x
      have HMORE := Lib.hid hmore
      have HSET := Lib.hid hset
      clear hlow hmore hset hc1
      generalize p.getD k 0 = x at *
      generalize O.getD (k / 4) 0 = o at *
      obtain ⟨on, rfl⟩ := Int.eq_ofNat_of_zero_le o0
      obtain ⟨xn, rfl⟩ := Int.eq_ofNat_of_zero_le x0
      have hsn : on < 2 ^ (8 * (k % 4)) := by exact_mod_cast hsm
      have hor := Nt.or32 on (8 * (k % 4)) xn (by omega) (by omega) hsn
      have h2p : 2 ^ (8 * (k % 4)) ≤ 2 ^ 24 := Nat.pow_le_pow_right (by decide) (by omega)
      have hbp : xn * 2 ^ (8 * (k % 4)) ≤ 255 * 2 ^ (8 * (k % 4)) := Nat.mul_le_mul_right _ (by omega)
      have hcast : (xn : Int) * 2 ^ (8 * (k % 4)) % 4294967296 = ((xn * 2 ^ (8 * (k % 4)) : Nat) : Int) := by
        rw [show (xn : Int) * 2 ^ (8 * (k % 4)) = ((xn * 2 ^ (8 * (k % 4)) : Nat) : Int) by simp]
        exact Int.emod_eq_of_lt (by omega) (by omega)
      have hval : bits BinOp.or IntKind.u32 (on : Int) ((xn : Int) * 2 ^ (8 * (k % 4)) % 4294967296) = ((on + xn * 2 ^ (8 * (k % 4)) : Nat) : Int) := by rw [hcast]; exact hor
      have hvn : Hid (Nt.val (O.set (k / 4) ((on + xn * 2 ^ (8 * (k % 4)) : Nat) : Int)) = (Bt.low (p.take (k + 1)) : Nat)) := HMORE.out _ (by simp)
      have hws : Hid (Nt.Ws (O.set (k / 4) ((on + xn * 2 ^ (8 * (k % 4)) : Nat) : Int))) := WO.out.set _ (by unfold W32; simp only [Nat.reducePow] at h2p; omega)
      have hlen : Hid ((O.set (k / 4) ((on + xn * 2 ^ (8 * (k % 4)) : Nat) : Int)).length = (p.length + 3) / 4) := by show _ = _; rw [List.length_set]; exact hlO
      have HVAL := Lib.hid hval
      clear hor hval hcast h2p hbp hsn hsm HMORE VO
      go_wp2
      go_region
      all_goals go_wp2
      all_goals go_roundw
      case rel => exact ⟨k + 1, _, by omega, by go_num, by rw [HVAL.out]; exact HSET.out _, hlen.out, hws, hvn, (BW.out.setCell (by simp) _).drew⟩
      case measure => simp [intOf]; omega
    · obtain rfl : k = p.length := by omega
      have hv := VO.out
      rw [List.take_length] at hv
      have HV := Lib.hid hv
      have ht := trim_any wr _ O (num_blk BK.out hlO WO.out) (by omega)
      have HT := Lib.hid ht
      clear ht hv VO WO HP h8
      go_wp2_with (go_at_call 41; refine HT.out.mono ?_; rintro e w1 ⟨v1, rfl, h2, h3⟩; have H2 := Lib.hid h2; have H3 := Lib.hid h3; clear h2 h3)
      go_ret
      refine ⟨_, _, rfl, H2.out, ?_, Nt.neat_trim _, ?_, BW.out.trans (H3.out.mono BW.out.size)⟩
      · rw [Nt.val_trim]; exact HV.out
      · rw [Nt.length_trim, ← hlO]; exact Nt.cut_le _ _
end Go.Proofs.YtiinmdleechcgaaDoor
namespace Go.Proofs.YtiinmdleechcgaaDoor
open Go.RowKit

theorem info5b : (Tryd.prog.info? 5).map (fun i => (i.zero, i.size, i.bytes)) = some (some (.int .u8 0), 1, 1) := by kernel_rfl
theorem run_mk8 (w : World) (n : Nat) (i : Int) (hi : i = n) (hn : n ≤ 1000000) : (Instr.makeSlice 22 (.int .i64 i) (.int .i64 i)).run Tryd.prog w = .ok (.slice (some ⟨w.heap.size, 0, none⟩) n n) (w.alloc (.cells ((zs n).map (Value.int .u8)).toArray 5)) := by
  subst hi
  obtain ⟨i0, hi, hz0, hz1, hz2⟩ := info_parts info5b
  have h := run_make w 22 5 i0 (.int .u8 0) Tryd.underlying22 hi hz0 .i64 .i64 n n (by omega) (by omega) (by rw [hz2]; omega) (by omega)
  rw [h]
  have e : madeCells (Value.int .u8 0).cells ((n : Int).toNat * i0.size) = ((zs n).map (Value.int .u8)).toArray := by
    apply Array.toList_inj.1
    rw [hz1, Nat.mul_one]
    show (madeCells #[Value.int .u8 0] _).toList = _
    rw [toList_madeCells_one]
    simp [zs]
  rw [e]
  rfl
namespace Nt
def byte (a : List Int) (j : Nat) : Int := a.getD (j / 4) 0 / 2 ^ (8 * (j % 4)) % 256
def upto (a : List Int) (n k : Nat) : List Int := (List.range n).map fun j => if j < k then byte a j else 0
theorem upto_length (a : List Int) (n k : Nat) : (upto a n k).length = n := by simp [upto]
theorem upto_zero (a : List Int) (n : Nat) : upto a n 0 = zs n := by
  apply List.ext_getElem
  · simp [upto, zs]
  · intro i h1 h2; simp [upto, zs]
theorem upto_more (a : List Int) (n k : Nat) : (upto a n k).set k (byte a k) = upto a n (k + 1) := by
  apply List.ext_getElem
  · simp [upto]
  · intro i h1 h2
    simp only [upto, List.getElem_set, List.getElem_map, List.getElem_range]
    by_cases h : k = i
    · subst h; simp
    · rw [if_neg h]
      by_cases h3 : i < k
      · rw [if_pos h3, if_pos (by omega)]
      · rw [if_neg h3, if_neg (by omega)]
theorem upto_all (a : List Int) (n k : Nat) (h : n ≤ k ∨ a.length ≤ k / 4) : upto a n k = (List.range n).map (byte a) := by
  apply List.ext_getElem
  · simp [upto]
  · intro i h1 h2
    have hi : i < n := by simpa using h2
    simp only [upto, List.getElem_map, List.getElem_range]
    by_cases h3 : i < k
    · rw [if_pos h3]
    · rw [if_neg h3]
      unfold byte
      rw [show a.getD (i / 4) 0 = 0 by simp [List.getD_eq_getElem?_getD, List.getElem?_eq_none (show a.length ≤ i / 4 by omega)]]
      simp
end Nt

set_option maxRecDepth 100000 in
set_option maxHeartbeats 1000000 in
theorem outb_any (w : World) (va : Value) (a : List Int) (n : Nat) (ha : Num w va a) (hla : a.length ≤ 100000) (hn : n ≤ 100000) :
    Calls Tryd.prog 17 #[va, .int .i64 n] w fun e w' => e = .returned (.slice (some ⟨w.heap.size, 0, none⟩) n n) ∧ Blk w' w.heap.size .u8 5 ((List.range n).map (Nt.byte a)) ∧ Below w.heap.size w w' := by
  obtain ⟨aa, ca, rfl⟩ := num_form ha
  have HA := Lib.hid ha
  have hwa : Hid (Nt.Ws a) := by obtain ⟨_, _, _, _, h, _⟩ := ha; exact h
  clear ha
  have hmk := fun w => run_mk8 w n n rfl (by omega)
  have hb0 : Hid (Blk (w.alloc (.cells ((zs n).map (Value.int .u8)).toArray 5)) w.heap.size .u8 5 (zs n)) := heap_alloc_new w _
  have ho0 : Hid (Below w.heap.size w (w.alloc (.cells ((zs n).map (Value.int .u8)).toArray 5))) := (Below.refl _ _).alloc (Nat.le_refl _) _
  go_enter Tryd.func17, Tryd.ntmps17
  go_wp2_with fail
  clear hmk
  go_loopw [6] (fun i wr => ∃ k : Nat, k ≤ n ∧ i = .int .i64 k ∧ Hid (Blk wr w.heap.size .u8 5 (Nt.upto a n k)) ∧ Hid (Below w.heap.size w wr)) (fun i _ => n - (intOf i).toNat)
  case atStart =>
    exact ⟨0, Nat.zero_le _, rfl, by rw [Nt.upto_zero]; exact hb0, ho0⟩
  case round =>
    clear hb0 ho0
    obtain ⟨k, hk, rfl, BK, BW⟩ := hrel
    by_cases hlt : k < n
    · by_cases hla2 : k / 4 < a.length
      · obtain ⟨b1, o1, rfl, hb1, hc1, hcap1⟩ := num_cell HA.out _ hla2
        have hca := (BW.out.cell (p := ⟨b1, o1 + k / 4, none⟩) hb1).trans hc1
        have hco := BK.out.cell k (by rw [Nt.upto_length]; exact hlt)
        have hfo := BK.out.free k
        have hset := BK.out.set k (Nt.byte a k)
        rw [Nt.upto_more] at hset
        have hby : Hid (Nt.byte a k = a.getD (k / 4) 0 / 2 ^ (8 * (k % 4)) % 256) := rfl
        have hda : 0 ≤ a.getD (k / 4) 0 ∧ a.getD (k / 4) 0 ≤ 4294967295 := hwa.out.getD _
        obtain ⟨da0, da1⟩ := hda
        have HSET := Lib.hid hset
        clear hset hc1 HA hwa
        generalize a.getD (k / 4) 0 = xa at *
        generalize (Nt.upto a n k).getD k 0 = xo at *
        go_wp2
        go_roundw
        case rel => exact ⟨k + 1, by omega, by go_num, by rw [← hby.out]; exact HSET.out, BW.out.setCell (Nat.le_refl _) _⟩
        case measure => simp [intOf]; omega
      · have HF := Lib.hid (Nt.upto_all a n k (Or.inr (by omega)))
        clear HA hwa
        go_wp2_with fail
        go_ret
        exact ⟨rfl, by rw [← HF.out]; exact BK.out, BW.out⟩
    · have HF := Lib.hid (Nt.upto_all a n k (Or.inl (by omega)))
      clear HA hwa
      go_wp2_with fail
      go_ret
      exact ⟨rfl, by rw [← HF.out]; exact BK.out, BW.out⟩
end Go.Proofs.YtiinmdleechcgaaDoor
namespace Go.Proofs.YtiinmdleechcgaaDoor
open Go.RowKit

namespace Nt
theorem len_le {a l : List Int} (ha : Ws a) (hl : Ws l) (hn : Neat l) (h : val l ≤ val a) : l.length ≤ a.length := by
  rcases Nat.lt_or_ge a.length l.length with h1 | h1
  · have := val_lt_of_length ha hl hn h1
    omega
  · exact h1
theorem cut_neat {l : List Int} (h : Neat l) : cut l l.length = l.length := by
  rcases Nat.eq_zero_or_pos l.length with h0 | h0
  · rw [h0]; rfl
  · have h1 := h h0
    obtain ⟨n, hn⟩ : ∃ n, l.length = n + 1 := ⟨l.length - 1, by omega⟩
    rw [hn, Nat.add_sub_cancel] at h1
    rw [hn]
    unfold cut
    rw [if_neg h1]
theorem mod_low {u y p m : Int} (h0 : 0 ≤ u) (h1 : u < p) (hm : 0 < m) : (u + p * y) % (p * m) = u + p * (y % m) := by
  have e : y = m * (y / m) + y % m := (Int.mul_ediv_add_emod y m).symm
  have h2 := Int.emod_nonneg y (Int.ne_of_gt hm)
  have h3 := Int.emod_lt_of_pos y hm
  generalize y % m = r at *
  generalize y / m = q at *
  subst e
  have h4 : p * r ≤ p * (m - 1) := Int.mul_le_mul_of_nonneg_left (by omega) (by omega)
  have h5 : 0 ≤ p * r := Int.mul_nonneg (by omega) h2
  rw [Int.mul_sub, Int.mul_one] at h4
  rw [show u + p * (m * q + r) = (u + p * r) + (p * m) * q by grind, Int.add_mul_emod_self_left, Int.emod_eq_of_lt (by omega) (by omega)]
/-- The lowest 255 bits. -/
def low255 (a : List Int) : List Int := (a.take 8).set 7 (a.getD 7 0 % 2147483648)
theorem low255_val {a : List Int} (ha : Ws a) (h : 8 ≤ a.length) : val (low255 a) = val a % 2 ^ 255 := by
  have e : low255 a = a.take 7 ++ [a.getD 7 0 % 2147483648] := by
    have e1 : a.take 8 = a.take 7 ++ [a.getD 7 0] := by
      rw [List.take_succ_eq_append_getElem (show 7 < a.length by omega)]
      simp [show 7 < a.length by omega]
    unfold low255
    rw [e1, List.set_append]
    have e2 : (a.take 7).length = 7 := by rw [List.length_take]; omega
    rw [e2]
    simp
  have e3 : (a.take 7).length = 7 := by rw [List.length_take]; omega
  have e4 : val [a.getD 7 0 % 2147483648] = a.getD 7 0 % 2147483648 := by simp [val]
  have h1 := val_lt (ha.take 7)
  rw [e3] at h1
  rw [e, val_append, e3, e4, val_split a 7 (by omega), val_drop a 7 (by omega), show (2 : Int) ^ 255 = pw 7 * 2147483648 by decide, mod_low (val_nonneg (ha.take 7)) h1 (by decide)]
  rw [show (a.getD 7 0 + B * val (a.drop (7 + 1))) % 2147483648 = a.getD 7 0 % 2147483648 by unfold B; omega]
theorem low255_len {a : List Int} (h : 8 ≤ a.length) : (low255 a).length = 8 := by
  unfold low255
  rw [List.length_set, List.length_take]; omega
theorem low255_ws {a : List Int} (ha : Ws a) : Ws (low255 a) := by
  refine (ha.take 8).set 7 ?_
  have := (ha.getD 7)
  unfold W32 at *
  omega
/-- What stands above 255 bits counts nineteen times. -/
theorem fold_mod {x y : Int} (h : y = x % 2 ^ 255 + x / 2 ^ 255 * 19) : y % Fe.P = x % Fe.P := by
  have e : x = 2 ^ 255 * (x / 2 ^ 255) + x % 2 ^ 255 := (Int.mul_ediv_add_emod x _).symm
  have e2 : (2 : Int) ^ 255 = Fe.P + 19 := by decide
  have e3 : x = y + Fe.P * (x / 2 ^ 255) := by
    rw [h]
    generalize x / 2 ^ 255 = q at *
    generalize x % 2 ^ 255 = r at *
    rw [e2] at e
    rw [e, Int.add_mul]
    omega
  conv => rhs; rw [e3]
  rw [Int.add_mul_emod_self_left]
theorem fold_lt {x y : Int} (hx : 2 ^ 255 ≤ x) (h : y = x % 2 ^ 255 + x / 2 ^ 255 * 19) : y < x := by
  have e : x = 2 ^ 255 * (x / 2 ^ 255) + x % 2 ^ 255 := (Int.mul_ediv_add_emod x _).symm
  have h1 : 0 < x / 2 ^ 255 := by
    have := Int.emod_lt_of_pos x (show (0 : Int) < 2 ^ 255 by decide)
    have h57 : (2 : Int) ^ 255 = 57896044618658097711785492504343953926634992332820282019728792003956564819968 := by decide
    rw [h57] at *
    omega
  rw [h]
  generalize x / 2 ^ 255 = q at *
  generalize x % 2 ^ 255 = r at *
  rw [e]
  have : (2 : Int) ^ 255 = 57896044618658097711785492504343953926634992332820282019728792003956564819968 := by decide
  rw [this]
  omega
end Nt

/-- What a slice reads. -/
def rdn (w : World) : Value → List Int
  | .slice (some ad) n _ => (List.range n).map fun j => match w.cell? ⟨ad.block, ad.off + j, none⟩ with
    | some (.int _ x) => x
    | _ => 0
  | _ => []
theorem rdn_num {w : World} {v : Value} {l : List Int} (h : Num w v l) : rdn w v = l := by
  obtain ⟨a, cap, rfl, _, _, hm⟩ := h
  rcases hm with rfl | ⟨b, off, rfl, _, h3⟩
  · cases a <;> rfl
  · refine List.ext_getElem (by simp [rdn]) fun j h1 h2 => ?_
    simp only [rdn, List.getElem_map, List.getElem_range]
    rw [h3 j h2]
    simp [h2]
theorem src_of_at {w : World} {k : IntKind} {b off : Nat} {l : List Int} (h : At w k b off l) : ∀ (j : Nat) (u : Value), (l.map (Value.int k))[j]? = some u → w.cell? ((⟨b, off, none⟩ : Addr).add j) = some u := by
  intro j u hu
  have hj : j < l.length := by
    rcases Nat.lt_or_ge j l.length with h | h
    · exact h
    · rw [List.getElem?_eq_none (by simpa using h)] at hu; cases hu
  have e := h j hj
  rw [Addr.add_mid, e]
  simp [hj] at hu
  simp [hj, hu]
/-- A copy. -/
theorem append_copy {w : World} {ops : Array Oper} {rest : List Oper} {o : Oper} {a : Act} {Q : Exit → Act → World → Prop} (hgd : o.guard = none) (s x : Operand)
    (ho : o.op = .call { callee := .builtin .append, args := #[s, x], argTypes := #[29, 29] })
    (hs : a.eval s = .slice none 0 0) (b off c : Nat) (l : List Int) (hx : a.eval x = .slice (some ⟨b, off, none⟩) l.length c) (hl : At w .u32 b off l) (hlen : l.length ≤ 100000000)
    (h : ∀ v' w', Mine .u32 61 w w' v' l → wpList Tryd.prog ops Q rest (a.put o.dst v') w') :
    wpList Tryd.prog ops Q (o :: rest) a w := by
  obtain ⟨i0, hi, hz0, hz1, hz2⟩ := info_parts info36
  refine wpList_append_own_at w hgd s x 29 ho w.heap.size 61 i0 (.int .u32 0) 1 4 Tryd.underlying29 hi hz0 hz1 hz2 rfl (by decide) (.slice none 0 0) 0 [] hs ⟨rfl, Or.inl ⟨rfl, rfl⟩⟩ ⟨b, off, none⟩ l.length c (l.map (Value.int .u32)) hx (by rw [List.length_map, Nat.mul_one]) (src_of_at hl) ?_ (by unfold maxLen; omega) (by omega) (Nat.le_refl _) ?_
  · intro u hu
    simp only [List.mem_map] at hu
    obtain ⟨y, _, rfl⟩ := hu; rfl
  · intro v' w' h1 h2 _ _
    rw [Nat.zero_add, List.nil_append] at h1
    exact h v' w' ⟨h1, own_below (Below.refl _ _) (xs := []) (e := 36) (k := 0) ⟨rfl, Or.inl ⟨rfl, rfl⟩⟩ h2⟩
theorem Mine.block {e : TypeId} {k : IntKind} {w0 w : World} {v : Value} {xs : List Int} (h : Mine k e w0 w v xs) (h0 : 0 < xs.length) : ∃ g cap cur, v = .slice (some ⟨g, 0, none⟩) xs.length cap ∧ w0.heap.size ≤ g ∧ w.heap[g]? = some (.cells cur e (0, 0)) ∧ xs.length ≤ cap ∧ xs.length ≤ cur.size ∧ cur.toList.take xs.length = xs.map (Value.int k) := by
  rcases h.1.2 with ⟨_, h2⟩ | ⟨g, cap, cur, h1, h2, h3, h4, _, h6, h7⟩
  · omega
  · rw [Nat.mul_one] at h6 h7
    exact ⟨g, cap, cur, h1, h2, h3, h4, by omega, h7⟩
theorem sliced_whole (g m cap : Nat) (h : 0 < cap) : sliced (some ⟨g, 0, none⟩) 0 m cap 1 = .slice (some ⟨g, 0, none⟩) m cap := by
  unfold sliced
  rw [if_neg (by omega)]
  simp [Addr.add]

set_option maxRecDepth 100000 in
set_option maxHeartbeats 400000 in
theorem trim_at (w : World) (a : Option Addr) (cap : Nat) (l : List Int) (h : Num w (.slice a l.length cap) l) (hl : l.length ≤ 1000000) :
    Calls Tryd.prog 41 #[.slice a l.length cap] w fun e w' => e = .returned (sliced a 0 (Nt.cut l l.length) cap 1) ∧ Below w.heap.size w w' := by
  obtain ⟨a', cap', hv, hc, hw, hm⟩ := id h
  simp only [Value.slice.injEq] at hv
  obtain ⟨rfl, -, rfl⟩ := hv
  have HM := Lib.hid hm
  clear h hm hw
  go_enter Tryd.func41, Tryd.ntmps41
  go_wp2_with fail
  go_loopw [3] (fun i wr => ∃ n : Nat, n ≤ l.length ∧ i = .int .i64 n ∧ Hid (Nt.cut l n = Nt.cut l l.length) ∧ Hid (Below w.heap.size w wr)) (fun i _ => (intOf i).toNat)
  case atStart => exact ⟨l.length, Nat.le_refl _, rfl, rfl, Below.refl _ _⟩
  case round =>
    obtain ⟨n, hn, rfl, CU, B⟩ := hrel
    cases n with
    | zero =>
      have h0 : Nt.cut l l.length = 0 := CU.out.symm
      have hcut := run_cut26 a l.length cap 0 (Nat.zero_le _) 0 rfl
      obtain ⟨sv, hsv⟩ : ∃ sv, sv = sliced a 0 0 cap 1 := ⟨_, rfl⟩
      rw [← hsv] at hcut
      have HSV : Hid (sv = sliced a 0 (Nt.cut l l.length) cap 1) := by show _ = _; rw [h0]; exact hsv
      clear h0 hsv
      go_wp2
      go_ret
      exact ⟨congrArg Ending.returned HSV.out, B.out⟩
    | succ n =>
      obtain ⟨b, off, rfl, hbw, hAt⟩ : ∃ b off, a = some ⟨b, off, none⟩ ∧ b < w.heap.size ∧ At w .u32 b off l := by
        rcases HM.out with h | h
        · rw [h] at hn; simp at hn
        · exact h
      have hcell : wr.cell? ⟨b, off + n, none⟩ = some (.int .u32 (l.getD n 0)) := (hAt.below B.out hbw) n (by omega)
      by_cases hz : l.getD n 0 = 0
      · have hcu : Nt.cut l n = Nt.cut l l.length := by rw [← CU.out]; conv => rhs; unfold Nt.cut; rw [if_pos hz]
        have HCU := Lib.hid hcu
        rw [hz] at hcell
        clear hcu CU hAt HM hz
        go_wp2
        go_roundw
        case rel => exact ⟨n, by omega, by go_num, HCU, B⟩
        case measure => simp [intOf]
      · have h1 : Nt.cut l l.length = n + 1 := by rw [← CU.out]; unfold Nt.cut; rw [if_neg hz]
        have hcut := run_cut26 (some ⟨b, off, none⟩) l.length cap (n + 1) (by omega) ((n : Int) + 1) (by omega)
        obtain ⟨sv, hsv⟩ : ∃ sv, sv = sliced (some ⟨b, off, none⟩) 0 (n + 1) cap 1 := ⟨_, rfl⟩
        rw [← hsv] at hcut
        have HSV : Hid (sv = sliced (some ⟨b, off, none⟩) 0 (Nt.cut l l.length) cap 1) := by show _ = _; rw [h1]; exact hsv
        clear h1 CU hAt HM hsv
        generalize l.getD n 0 = x at *
        go_wp2
        go_ret
        exact ⟨congrArg Ending.returned HSV.out, B.out⟩
end Go.Proofs.YtiinmdleechcgaaDoor
namespace Go.Proofs.YtiinmdleechcgaaDoor
open Go.RowKit

namespace Nt
theorem len8 {l : List Int} (hw : Ws l) (hn : Neat l) (h : val l < 2 ^ 255) : l.length ≤ 8 := by
  rcases Nat.lt_or_ge 8 l.length with h1 | h1
  · have h2 := neat_le hn hw (by omega)
    have h3 := pw_le (show 8 ≤ l.length - 1 by omega)
    have h4 : (2 : Int) ^ 255 ≤ pw 8 := by decide
    omega
  · exact h1
theorem len_big {l : List Int} (hw : Ws l) (h : 2 ^ 255 ≤ val l) : 8 ≤ l.length := by
  rcases Nat.lt_or_ge l.length 8 with h1 | h1
  · have h2 := val_lt hw
    have h3 := pw_le (show l.length ≤ 7 by omega)
    have h4 : pw 7 ≤ (2 : Int) ^ 255 := by decide
    omega
  · exact h1
theorem bits_big {x : Int} {m : Nat} (hx : 2 ^ 255 ≤ x) (h1 : x < 2 ^ m) : 255 < (m : Int) := by
  rcases Nat.lt_or_ge 255 m with h | h
  · omega
  · have h2 : (2 : Int) ^ m ≤ 2 ^ 255 := by
      exact_mod_cast Nat.pow_le_pow_right (by decide) h
    omega
theorem bits_small {x : Int} {m : Nat} (hx : x < 2 ^ 255) (h1 : 0 < m → 2 ^ (m - 1) ≤ x) : (m : Int) ≤ 255 := by
  rcases Nat.lt_or_ge 255 m with h | h
  · have h2 : (2 : Int) ^ 255 ≤ 2 ^ (m - 1) := by
      exact_mod_cast Nat.pow_le_pow_right (by decide) (show 255 ≤ m - 1 by omega)
    have := h1 (by omega)
    omega
  · omega
theorem last_big {x : Int} (h0 : Fe.P ≤ x) (h1 : x < 2 ^ 255) : x - Fe.P = x % Fe.P := by
  have e : (2 : Int) ^ 255 = Fe.P + 19 := by decide
  rw [e] at h1
  unfold Fe.P at *
  omega
theorem last_small {x : Int} (h0 : 0 ≤ x) (h1 : ¬ Fe.P ≤ x) : x = x % Fe.P := (Int.emod_eq_of_lt h0 (by omega)).symm
theorem prime_P : val prime = Fe.P := by decide
end Nt
theorem mask31 (v : Int) (h0 : 0 ≤ v) (h1 : v ≤ 4294967295) : bits BinOp.and IntKind.u32 v 2147483647 = v % 2147483648 := by
  obtain ⟨n, rfl⟩ := Int.eq_ofNat_of_zero_le h0
  have h := u32_and_nat n 2147483647 (by omega) (by decide)
  have h2 : n &&& 2147483647 = n % 2147483648 := Nat.and_two_pow_sub_one_eq_mod n 31
  rw [h2] at h
  rw [Int.natCast_emod] at h
  exact h
theorem own_mask {w : World} {g cap : Nat} {cur : Array Value} {l : List Int} (hw : Nt.Ws l) (h8 : 8 ≤ l.length) (hg : w.heap[g]? = some (.cells cur 61 (0, 0))) (ht : cur.toList.take l.length = l.map (Value.int .u32)) (hc : l.length ≤ cap) (hs : l.length ≤ cur.size) :
    w.cell? ⟨g, 7, none⟩ = some (.int .u32 (l.getD 7 0)) ∧ w.frozen? ⟨g, 7, none⟩ = false ∧ Num (w.setCell ⟨g, 7, none⟩ (.int .u32 (l.getD 7 0 % 2147483648))) (.slice (some ⟨g, 0, none⟩) 8 cap) (Nt.low255 l) := by
  have hcell : ∀ j, j < l.length → cur[j]? = some (.int .u32 (l.getD j 0)) := by
    intro j hj
    have e : (cur.toList.take l.length)[j]? = some (.int .u32 (l.getD j 0)) := by rw [ht]; simp [hj]
    rw [List.getElem?_take_of_lt hj] at e
    simpa using e
  refine ⟨?_, frozen_of_row w g 7 _ 61 hg, ?_⟩
  · rw [cell_of_row w g 7 _ 61 (0, 0) hg]
    exact hcell 7 (by omega)
  · have hg2 := heap_setCell_same w g 7 _ 61 (.int .u32 (l.getD 7 0 % 2147483648)) hg
    have e8 := Nt.low255_len h8
    refine ⟨_, cap, by rw [e8], by rw [e8]; omega, Nt.low255_ws hw, Or.inr ⟨g, 0, rfl, lt_of_block hg2, fun j hj => ?_⟩⟩
    rw [e8] at hj
    rw [Nat.zero_add, cell_of_row _ g j _ 61 (0, 0) hg2]
    unfold Nt.low255
    rcases Nat.lt_or_ge j 7 with h7 | h7
    · rw [Array.getElem?_setIfInBounds_ne (by omega), hcell j (by omega)]
      simp [List.getD_eq_getElem?_getD, List.getElem?_set_ne (show 7 ≠ j by omega), List.getElem?_take_of_lt (show j < 8 by omega)]
    · obtain rfl : j = 7 := by omega
      rw [Array.getElem?_setIfInBounds_self_of_lt (by omega)]
      simp [show 7 < l.length by omega, List.getElem?_set_self (show 7 < (l.take 8).length by rw [List.length_take]; omega)]

theorem run_cut8 (g n cap : Nat) (hm : 8 ≤ cap) (w : World) : (Instr.slice 29 (.slice (some ⟨g, 0, none⟩) n cap) none (some (.int .i64 8)) none).run Tryd.prog w = .ok (.slice (some ⟨g, 0, none⟩) 8 cap) w := by
  rw [run_cut26 (some ⟨g, 0, none⟩) n cap 8 hm 8 rfl w, sliced_whole _ _ _ (by omega)]

set_option maxRecDepth 100000 in
set_option maxHeartbeats 1000000 in
theorem mod_any (w : World) (va : Value) (a : List Int) (ha : Num w va a) (hn : Nt.Neat a) (hla : a.length ≤ 50000) :
    Calls Tryd.prog 62 #[va] w fun e w' => ∃ v' l, e = .returned v' ∧ Num w' v' l ∧ Nt.val l = Nt.val a % Fe.P ∧ Nt.Neat l ∧ l.length ≤ 8 ∧ Below w.heap.size w w' := by
  obtain ⟨aa, ca, rfl⟩ := num_form ha
  have HA := Lib.hid ha
  have HNA := Lib.hid hn
  clear ha hn
  go_enter Tryd.func62, Tryd.ntmps62
  go_wp2_with fail
  go_loopw [0] (fun v wr => ∃ l, Hid (Num wr v l) ∧ Hid (Nt.Neat l) ∧ l.length ≤ a.length ∧ Hid (Nt.val l % Fe.P = Nt.val a % Fe.P) ∧ Hid (Below w.heap.size w wr)) (fun v wr => (Nt.val (rdn wr v)).toNat)
  case atStart => exact ⟨a, HA, HNA, Nat.le_refl _, rfl, Below.refl _ _⟩
  case round =>
    obtain ⟨l, HL, HN, hll, HV, BW⟩ := hrel
    obtain ⟨ab, cb, rfl⟩ := num_form HL.out
    have hwl : Hid (Nt.Ws l) := by obtain ⟨_, _, _, _, h, _⟩ := HL.out; exact h
    clear HA HNA
    by_cases hbig : 2 ^ 255 ≤ Nt.val l
    · have h8 := Nt.len_big hwl.out hbig
      have HBIG := Lib.hid hbig
      clear hbig
      obtain ⟨b, off, rfl, hbw, hAt⟩ : ∃ b off, ab = some ⟨b, off, none⟩ ∧ b < wr.heap.size ∧ At wr .u32 b off l := by
        obtain ⟨a', c', hv, _, _, hm⟩ := HL.out
        simp only [Value.slice.injEq] at hv
        obtain ⟨rfl, -, -⟩ := hv
        rcases hm with h | h
        · rw [h] at h8; simp at h8
        · exact h
      have HAT := Lib.hid hAt
      have HMEAS : Hid (Nt.val (rdn wr (.slice (some ⟨b, off, none⟩) l.length cb)) = Nt.val l) := by show _ = _; rw [rdn_num HL.out]
      have hx := hwl.out.getD 7
      have HX31 : Hid (bits BinOp.and IntKind.u32 (l.getD 7 0) 2147483647 = l.getD 7 0 % 2147483648) := mask31 _ hx.1 hx.2
      clear hAt hx
      have hl1 : l.length ≤ 100000 := by omega
      have HLEN := Lib.hid (len_any _ _ _ HL.out hl1)
      by_cases h9 : l.length = 8
      · have H9 := Lib.hid h9
        clear h9
        go_wp2_with (first
          | (go_at_call 14; refine (plusn_any _ _ _ _ _ HT7.out HX7.out (by rw [Nt.length_trim]; refine Nat.le_trans (Nt.cut_le _ _) ?_; rw [Nt.low255_len h8]; decide) (by have := HX7L.out; have := HDL.out; have e1 : ([19] : List Int).length = 1 := rfl; omega)).mono ?_; rintro e w8 ⟨v8, l8, rfl, hp1, hp2, hp3, hp4, hp5⟩; have HP1 := Lib.hid hp1; have HP2 := Lib.hid hp2; have HP3' := Lib.hid hp3; have HB8 := Lib.hid (HB7.out.trans (hp5.mono HB7.out.size)); clear hp1 hp2 hp3 hp4 hp5)
          | (go_at_call 15; refine (times_probe _ _ _ _ _ _ [19] (HD6.out.below ((Below.refl _ _).alloc (Nat.le_refl _) _) (Nat.le_refl _)) (num_blk (heap_alloc_new w6 _) rfl (by intro x hx; rw [List.mem_singleton] at hx; rw [hx]; unfold W32; decide)) (by have := HDL.out; omega) (by decide)).mono ?_; rintro e w7 ⟨v7, l7, rfl, hp1, hp2, hp3, hp4, hp5⟩; have HX7 := Lib.hid hp1; have HX7V := Lib.hid hp2; have HX7L := Lib.hid hp4; have HT7 := Lib.hid (HT6.out.below (((Below.refl w6.heap.size w6).alloc (Nat.le_refl _) _).trans (hp5.mono (by simp))) (Nat.le_refl _)); have HB7 := Lib.hid ((HB6.out.alloc HB6.out.size _).trans (hp5.mono (HB6.out.alloc HB6.out.size _).size)); clear hp1 hp2 hp3 hp4 hp5)
          | (go_at_call 41; refine (trim_any _ _ _ HNUM.out (by rw [Nt.low255_len h8]; decide)).mono ?_; rintro e w6 ⟨v6, rfl, hp1, hp2⟩; have HT6 := Lib.hid hp1; have HD6 := Lib.hid (HD1.out.below (HC5.out.trans (hp2.mono HC5.out.size)) (Nat.le_refl _)); have HB6 := Lib.hid (HB2.out.trans ((HC5.out.trans (hp2.mono HC5.out.size)).mono HB2.out.size)); have HTV := Lib.hid (Nt.val_trim (Nt.low255 l)); clear hp1 hp2)
          | (go_at_call 41; refine (trim_at _ _ _ _ (HP3.out.num hwl.out) (by omega)).mono ?_; rintro e w4 ⟨rfl, hb4⟩; rw [Nt.cut_neat HN.out, sliced_whole _ _ _ hcap0, H9.out]; obtain ⟨q1, q2, q3⟩ := own_mask hwl.out h8 ((hb4.block g (lt_of_block hg2)).trans hg2) hg5 hg3 hg4; have HNUM := Lib.hid q3; have HC5 := Lib.hid (((HP3.out.2.trans (hb4.mono HP3.out.2.size)).setCell (p := ⟨g, 7, none⟩) hg1 (.int .u32 (l.getD 7 0 % 2147483648)))); have hx31 := HX31.out; generalize l.getD 7 0 = x at *; clear hb4 q3 hg1 hg2 hg3 hg4 hg5)
          | ((with_reducible refine append_copy (o := ⟨some 11, _, _, _, _, _⟩) rfl (.const (.slice none 0 0)) (.tmp 10) rfl rfl b off cb l rfl ?_ ?_ ?_); exact HAT2.out; exact (by omega); intro v3 w3 hp3; obtain ⟨g, cap, cur, rfl, hg1, hg2, hg3, hg4, hg5⟩ := hp3.block (by omega); have HP3 := Lib.hid hp3; have hcap0 : 0 < cap := by omega)
          | (go_at_call 83; refine (down_any _ _ _ HL.out (by omega)).mono ?_; rintro e w2 ⟨vh, lh, rfl, hd1, hd2, hd3, hd4, hd5⟩; obtain ⟨ah, ch, rfl⟩ := num_form hd1; have HD1 := Lib.hid hd1; have HD2 := Lib.hid hd2; have HDL := Lib.hid hd4; have HB2 := Lib.hid (BW.out.trans (hd5.mono BW.out.size)); have HAT2 := Lib.hid (HAT.out.below hd5 hbw); clear hd1 hd2 hd3 hd4 hd5)
          | (go_at_call 36; refine HLEN.out.mono ?_; rintro e w1 ⟨m, rfl, h1, h2, h3, rfl⟩; have hm := Nt.bits_big HBIG.out h1; clear h1 h2 h3))
        have he : Nt.val l8 = Nt.val l % 2 ^ 255 + Nt.val l / 2 ^ 255 * 19 := by
          rw [HP2.out, HTV.out, HX7V.out, HD2.out, Nt.low255_val hwl.out h8]
          rfl
        have hlt := Nt.fold_lt HBIG.out he
        have hmo := (Nt.fold_mod he).trans HV.out
        have hw8 : Nt.Ws l8 := by obtain ⟨_, _, _, _, h, _⟩ := HP1.out; exact h
        have hle := Nt.len_le hwl.out hw8 HP3'.out (Int.le_of_lt hlt)
        have h08 := Nt.val_nonneg hw8
        go_roundw
        case rel => exact ⟨l8, HP1, HP3', by omega, hmo, HB8⟩
        case measure => rw [rdn_num HP1.out, rdn_num HL.out]; omega
      · have h9' : 8 < l.length := by omega
        clear h9
        go_wp2_with (first
          | (go_at_call 14; refine (plusn_any _ _ _ _ _ HT7.out HX7.out (by rw [Nt.length_trim]; refine Nat.le_trans (Nt.cut_le _ _) ?_; rw [Nt.low255_len h8]; decide) (by have := HX7L.out; have := HDL.out; have e1 : ([19] : List Int).length = 1 := rfl; omega)).mono ?_; rintro e w8 ⟨v8, l8, rfl, hp1, hp2, hp3, hp4, hp5⟩; have HP1 := Lib.hid hp1; have HP2 := Lib.hid hp2; have HP3' := Lib.hid hp3; have HB8 := Lib.hid (HB7.out.trans (hp5.mono HB7.out.size)); clear hp1 hp2 hp3 hp4 hp5)
          | (go_at_call 15; refine (times_probe _ _ _ _ _ _ [19] (HD6.out.below ((Below.refl _ _).alloc (Nat.le_refl _) _) (Nat.le_refl _)) (num_blk (heap_alloc_new w6 _) rfl (by intro x hx; rw [List.mem_singleton] at hx; rw [hx]; unfold W32; decide)) (by have := HDL.out; omega) (by decide)).mono ?_; rintro e w7 ⟨v7, l7, rfl, hp1, hp2, hp3, hp4, hp5⟩; have HX7 := Lib.hid hp1; have HX7V := Lib.hid hp2; have HX7L := Lib.hid hp4; have HT7 := Lib.hid (HT6.out.below (((Below.refl w6.heap.size w6).alloc (Nat.le_refl _) _).trans (hp5.mono (by simp))) (Nat.le_refl _)); have HB7 := Lib.hid ((HB6.out.alloc HB6.out.size _).trans (hp5.mono (HB6.out.alloc HB6.out.size _).size)); clear hp1 hp2 hp3 hp4 hp5)
          | (go_at_call 41; refine (trim_any _ _ _ HNUM.out (by rw [Nt.low255_len h8]; decide)).mono ?_; rintro e w6 ⟨v6, rfl, hp1, hp2⟩; have HT6 := Lib.hid hp1; have HD6 := Lib.hid (HD1.out.below (HC5.out.trans (hp2.mono HC5.out.size)) (Nat.le_refl _)); have HB6 := Lib.hid (HB2.out.trans ((HC5.out.trans (hp2.mono HC5.out.size)).mono HB2.out.size)); have HTV := Lib.hid (Nt.val_trim (Nt.low255 l)); clear hp1 hp2)
          | (go_at_call 41; refine (trim_at _ _ _ _ (HP3.out.num hwl.out) (by omega)).mono ?_; rintro e w4 ⟨rfl, hb4⟩; rw [Nt.cut_neat HN.out, sliced_whole _ _ _ hcap0]; have hcut := run_cut8 g l.length cap (by omega); obtain ⟨q1, q2, q3⟩ := own_mask hwl.out h8 ((hb4.block g (lt_of_block hg2)).trans hg2) hg5 hg3 hg4; have HNUM := Lib.hid q3; have HC5 := Lib.hid (((HP3.out.2.trans (hb4.mono HP3.out.2.size)).setCell (p := ⟨g, 7, none⟩) hg1 (.int .u32 (l.getD 7 0 % 2147483648)))); have hx31 := HX31.out; generalize l.getD 7 0 = x at *; clear hb4 q3 hg1 hg2 hg3 hg4 hg5)
          | ((with_reducible refine append_copy (o := ⟨some 11, _, _, _, _, _⟩) rfl (.const (.slice none 0 0)) (.tmp 10) rfl rfl b off cb l rfl ?_ ?_ ?_); exact HAT2.out; exact (by omega); intro v3 w3 hp3; obtain ⟨g, cap, cur, rfl, hg1, hg2, hg3, hg4, hg5⟩ := hp3.block (by omega); have HP3 := Lib.hid hp3; have hcap0 : 0 < cap := by omega)
          | (go_at_call 83; refine (down_any _ _ _ HL.out (by omega)).mono ?_; rintro e w2 ⟨vh, lh, rfl, hd1, hd2, hd3, hd4, hd5⟩; obtain ⟨ah, ch, rfl⟩ := num_form hd1; have HD1 := Lib.hid hd1; have HD2 := Lib.hid hd2; have HDL := Lib.hid hd4; have HB2 := Lib.hid (BW.out.trans (hd5.mono BW.out.size)); have HAT2 := Lib.hid (HAT.out.below hd5 hbw); clear hd1 hd2 hd3 hd4 hd5)
          | (go_at_call 36; refine HLEN.out.mono ?_; rintro e w1 ⟨m, rfl, h1, h2, h3, rfl⟩; have hm := Nt.bits_big HBIG.out h1; clear h1 h2 h3))
        have he : Nt.val l8 = Nt.val l % 2 ^ 255 + Nt.val l / 2 ^ 255 * 19 := by
          rw [HP2.out, HTV.out, HX7V.out, HD2.out, Nt.low255_val hwl.out h8]
          rfl
        have hlt := Nt.fold_lt HBIG.out he
        have hmo := (Nt.fold_mod he).trans HV.out
        have hw8 : Nt.Ws l8 := by obtain ⟨_, _, _, _, h, _⟩ := HP1.out; exact h
        have hle := Nt.len_le hwl.out hw8 HP3'.out (Int.le_of_lt hlt)
        have h08 := Nt.val_nonneg hw8
        go_roundw
        case rel => exact ⟨l8, HP1, HP3', by omega, hmo, HB8⟩
        case measure => rw [rdn_num HP1.out, rdn_num HL.out]; omega
    · have hsm : Nt.val l < 2 ^ 255 := by omega
      have HSM := Lib.hid hsm
      have hl1 : l.length ≤ 100000 := by omega
      have hl8 := Nt.len8 hwl.out HN.out hsm
      have HLEN := Lib.hid (len_any _ _ _ HL.out hl1)
      have h0 := Nt.val_nonneg hwl.out
      clear hbig
      by_cases hP : Fe.P ≤ Nt.val l
      · have HP := Lib.hid hP
        have HFIN := Lib.hid (Nt.last_big hP hsm)
        clear hP hsm h0
        go_wp2_with (first
          | (go_at_call 40; refine (lessn_any _ _ _ _ _ HL4.out HP5.out (by omega) (by rw [Nt.prime_P]; exact HP.out)).mono ?_; rintro e w6 ⟨v6, l6, rfl, hp1, hp2, hp3, hp4, hp5⟩; have HR1 := Lib.hid hp1; have HR2 := Lib.hid hp2; have HR3 := Lib.hid hp3; have HR4 := Lib.hid hp4; have HB6 := Lib.hid (HB5.out.trans (hp5.mono HB5.out.size)); clear hp1 hp2 hp3 hp4 hp5)
          | (go_at_call 61; refine (p_any w4).mono ?_; rintro e w5 ⟨v5, rfl, hp1, hp2⟩; have HP5 := Lib.hid hp1; have HL4 := Lib.hid (HL3.out.below hp2 (Nat.le_refl _)); have HB5 := Lib.hid (HB4.out.trans (hp2.mono HB4.out.size)); clear hp1 hp2)
          | (go_at_call 39; refine (cmp_any _ _ _ _ _ HL2.out HP2.out (by omega) (by decide)).mono ?_; rintro e w4 ⟨r, rfl, hr1, hr2, hr3⟩; have hr : 0 ≤ r := Int.not_lt.1 (fun h => absurd (hr2.1 h) (Int.not_lt.2 (Nt.prime_P ▸ HP.out))); have HB4 := Lib.hid (HB3.out.trans (hr3.mono HB3.out.size)); have HL3 := Lib.hid (HL2.out.below hr3 (Nat.le_refl _)); clear hr1 hr2 hr3)
          | (go_at_call 61; refine (p_any _).mono ?_; rintro e w3 ⟨v3, rfl, hp1, hp2⟩; have HP2 := Lib.hid hp1; have HL2 := Lib.hid (HL.out.below hp2 (Nat.le_refl _)); have HB3 := Lib.hid (BW.out.trans (hp2.mono BW.out.size)); clear hp1 hp2)
          | (go_at_call 36; refine HLEN.out.mono ?_; rintro e w1 ⟨m, rfl, h1, h2, h3, rfl⟩; have hm := Nt.bits_small HSM.out h2; clear h1 h2 h3))
        go_ret
        refine ⟨_, _, rfl, HR1.out, ?_, HR3.out, Nat.le_trans HR4.out hl8, HB6.out⟩
        rw [HR2.out, Nt.prime_P, HFIN.out]
        exact HV.out
      · have HP := Lib.hid (Int.not_le.1 hP)
        have HFIN := Lib.hid (Nt.last_small h0 hP)
        clear hP hsm h0
        go_wp2_with (first
          | (go_at_call 39; refine (cmp_any _ _ _ _ _ HL2.out HP2.out (by omega) (by decide)).mono ?_; rintro e w4 ⟨r, rfl, hr1, hr2, hr3⟩; have hr : r < 0 := hr2.2 (Nt.prime_P ▸ HP.out); have HB4 := Lib.hid (HB3.out.trans (hr3.mono HB3.out.size)); have HL3 := Lib.hid (HL2.out.below hr3 (Nat.le_refl _)); clear hr1 hr2 hr3)
          | (go_at_call 61; refine (p_any _).mono ?_; rintro e w3 ⟨v3, rfl, hp1, hp2⟩; have HP2 := Lib.hid hp1; have HL2 := Lib.hid (HL.out.below hp2 (Nat.le_refl _)); have HB3 := Lib.hid (BW.out.trans (hp2.mono BW.out.size)); clear hp1 hp2)
          | (go_at_call 36; refine HLEN.out.mono ?_; rintro e w1 ⟨m, rfl, h1, h2, h3, rfl⟩; have hm := Nt.bits_small HSM.out h2; clear h1 h2 h3))
        go_ret
        exact ⟨_, _, rfl, HL3.out, HFIN.out.trans HV.out, HN.out, hl8, HB4.out⟩
end Go.Proofs.YtiinmdleechcgaaDoor
namespace Go.Proofs.YtiinmdleechcgaaDoor
open Go.RowKit

set_option maxRecDepth 100000 in
set_option maxHeartbeats 400000 in
theorem radd_any (w : World) (va vb : Value) (a b : List Int) (ha : Num w va a) (hb : Num w vb b) (hla : a.length ≤ 20000) (hlb : b.length ≤ 20000) :
    Calls Tryd.prog 65 #[va, vb] w fun e w' => ∃ v' l, e = .returned v' ∧ Num w' v' l ∧ Nt.val l = (Nt.val a + Nt.val b) % Fe.P ∧ Nt.Neat l ∧ l.length ≤ 8 ∧ Below w.heap.size w w' := by
  have H1 := Lib.hid (plusn_any w va vb a b ha hb (by omega) (by omega))
  clear ha hb
  go_enter Tryd.func65, Tryd.ntmps65
  go_wp2_with (first
    | (go_at_call 62; refine (mod_any _ _ _ HP1.out HP3.out (by have := HP4.out; omega)).mono ?_; rintro e w2 ⟨v2, l2, rfl, hp1, hp2, hp3, hp4, hp5⟩; have HQ1 := Lib.hid hp1; have HQ2 := Lib.hid hp2; have HQ3 := Lib.hid hp3; have HQ4 := Lib.hid hp4; have HB2 := Lib.hid (HB1.out.trans (hp5.mono HB1.out.size)); clear hp1 hp2 hp3 hp4 hp5)
    | (go_at_call 14; refine H1.out.mono ?_; rintro e w1 ⟨v1, l1, rfl, hp1, hp2, hp3, hp4, hp5⟩; have HP1 := Lib.hid hp1; have HP2 := Lib.hid hp2; have HP3 := Lib.hid hp3; have HP4 := Lib.hid hp4; have HB1 := Lib.hid hp5; clear hp1 hp2 hp3 hp4 hp5))
  go_ret
  exact ⟨_, _, rfl, HQ1.out, by rw [HQ2.out, HP2.out], HQ3.out, HQ4.out, HB2.out⟩

set_option maxRecDepth 100000 in
set_option maxHeartbeats 400000 in
theorem rmul_any (w : World) (va vb : Value) (a b : List Int) (ha : Num w va a) (hb : Num w vb b) (hla : a.length ≤ 20000) (hlb : b.length ≤ 20000) :
    Calls Tryd.prog 32 #[va, vb] w fun e w' => ∃ v' l, e = .returned v' ∧ Num w' v' l ∧ Nt.val l = (Nt.val a * Nt.val b) % Fe.P ∧ Nt.Neat l ∧ l.length ≤ 8 ∧ Below w.heap.size w w' := by
  obtain ⟨aa, ca, rfl⟩ := num_form ha
  obtain ⟨ab, cb, rfl⟩ := num_form hb
  have H1 := Lib.hid (times_probe w aa ab ca cb a b ha hb (by omega) (by omega))
  clear ha hb
  go_enter Tryd.func32, Tryd.ntmps32
  go_wp2_with (first
    | (go_at_call 62; refine (mod_any _ _ _ HP1.out HP3.out (by have := HP4.out; omega)).mono ?_; rintro e w2 ⟨v2, l2, rfl, hp1, hp2, hp3, hp4, hp5⟩; have HQ1 := Lib.hid hp1; have HQ2 := Lib.hid hp2; have HQ3 := Lib.hid hp3; have HQ4 := Lib.hid hp4; have HB2 := Lib.hid (HB1.out.trans (hp5.mono HB1.out.size)); clear hp1 hp2 hp3 hp4 hp5)
    | (go_at_call 15; refine H1.out.mono ?_; rintro e w1 ⟨v1, l1, rfl, hp1, hp2, hp3, hp4, hp5⟩; have HP1 := Lib.hid hp1; have HP2 := Lib.hid hp2; have HP3 := Lib.hid hp3; have HP4 := Lib.hid hp4; have HB1 := Lib.hid hp5; clear hp1 hp2 hp3 hp4 hp5))
  go_ret
  exact ⟨_, _, rfl, HQ1.out, by rw [HQ2.out, HP2.out], HQ3.out, HQ4.out, HB2.out⟩

set_option maxRecDepth 100000 in
set_option maxHeartbeats 400000 in
theorem rsub_any (w : World) (va vb : Value) (a b : List Int) (ha : Num w va a) (hb : Num w vb b) (hla : a.length ≤ 20000) (hle : Nt.val b ≤ Fe.P) :
    Calls Tryd.prog 63 #[va, vb] w fun e w' => ∃ v' l, e = .returned v' ∧ Num w' v' l ∧ Nt.val l = (Nt.val a - Nt.val b) % Fe.P ∧ Nt.Neat l ∧ l.length ≤ 8 ∧ Below w.heap.size w w' := by
  have hwa : Nt.Ws a := by obtain ⟨_, _, _, _, h, _⟩ := ha; exact h
  have h0 := Nt.val_nonneg hwa
  have HLE := Lib.hid (show Nt.val b ≤ Nt.val a + Nt.val Nt.prime by rw [Nt.prime_P]; omega)
  have HA := Lib.hid ha
  have HB := Lib.hid hb
  clear ha hb h0 hwa hle
  go_enter Tryd.func63, Tryd.ntmps63
  go_wp2_with (first
    | (go_at_call 62; refine (mod_any _ _ _ HS1.out HS3.out (by have := HS4.out; omega)).mono ?_; rintro e w4 ⟨v4, l4, rfl, hp1, hp2, hp3, hp4, hp5⟩; have HQ1 := Lib.hid hp1; have HQ2 := Lib.hid hp2; have HQ3 := Lib.hid hp3; have HQ4 := Lib.hid hp4; have HB4 := Lib.hid (HB3.out.trans (hp5.mono HB3.out.size)); clear hp1 hp2 hp3 hp4 hp5)
    | (go_at_call 40; refine (lessn_any _ _ _ _ _ HR1.out (HB.out.below HB2.out (Nat.le_refl _)) (by have := HR4.out; omega) (by rw [HR2.out]; exact HLE.out)).mono ?_; rintro e w3 ⟨v3, l3, rfl, hp1, hp2, hp3, hp4, hp5⟩; have HS1 := Lib.hid hp1; have HS2 := Lib.hid hp2; have HS3 := Lib.hid hp3; have HS4 : Hid (l3.length ≤ 40000) := (by have := HR4.out; show _ ≤ _; omega); have HB3 := Lib.hid (HB2.out.trans (hp5.mono HB2.out.size)); clear hp1 hp2 hp3 hp4 hp5)
    | (go_at_call 14; refine (plusn_any _ _ _ _ _ (HA.out.below HB1.out (Nat.le_refl _)) HP1.out (by omega) (by decide)).mono ?_; rintro e w2 ⟨v2, l2, rfl, hp1, hp2, hp3, hp4, hp5⟩; have HR1 := Lib.hid hp1; have HR2 := Lib.hid hp2; have HR4 : Hid (l2.length ≤ 40000) := (by have e8 : Nt.prime.length = 8 := rfl; show _ ≤ _; omega); have HB2 := Lib.hid (HB1.out.trans (hp5.mono HB1.out.size)); clear hp1 hp2 hp3 hp4 hp5)
    | (go_at_call 61; refine (p_any _).mono ?_; rintro e w1 ⟨v1, rfl, hp1, hp2⟩; have HP1 := Lib.hid hp1; have HB1 := Lib.hid hp2; clear hp1 hp2))
  go_ret
  refine ⟨_, _, rfl, HQ1.out, ?_, HQ3.out, HQ4.out, HB4.out⟩
  rw [HQ2.out, HS2.out, HR2.out, Nt.prime_P, show Nt.val a + Fe.P - Nt.val b = Nt.val a - Nt.val b + Fe.P by omega, Int.add_emod_right]
end Go.Proofs.YtiinmdleechcgaaDoor
namespace Go.Proofs.YtiinmdleechcgaaDoor
open Go.RowKit

theorem mask7 (v : Int) (h0 : 0 ≤ v) (h1 : v ≤ 255) : bits BinOp.and IntKind.u8 v 127 = v % 128 := by
  obtain ⟨n, rfl⟩ := Int.eq_ofNat_of_zero_le h0
  have h := u8_and_nat n 127 (by omega) (by decide)
  have h2 : n &&& 127 = n % 128 := Nat.and_two_pow_sub_one_eq_mod n 7
  rw [h2] at h
  rw [Int.natCast_emod] at h
  exact h
theorem append_bytes {w : World} {ops : Array Oper} {rest : List Oper} {o : Oper} {a : Act} {Q : Exit → Act → World → Prop} (hgd : o.guard = none) (s x : Operand)
    (ho : o.op = .call { callee := .builtin .append, args := #[s, x], argTypes := #[22, 22] })
    (hs : a.eval s = .slice none 0 0) (b off c : Nat) (l : List Int) (hx : a.eval x = .slice (some ⟨b, off, none⟩) l.length c) (hl : At w .u8 b off l) (hlen : l.length ≤ 100000000)
    (h : ∀ v' w', Mine .u8 5 w w' v' l → wpList Tryd.prog ops Q rest (a.put o.dst v') w') :
    wpList Tryd.prog ops Q (o :: rest) a w := by
  obtain ⟨i0, hi, hz0, hz1, hz2⟩ := info_parts info5b
  refine wpList_append_own_at w hgd s x 22 ho w.heap.size 5 i0 (.int .u8 0) 1 1 Tryd.underlying22 hi hz0 hz1 hz2 rfl (by decide) (.slice none 0 0) 0 [] hs ⟨rfl, Or.inl ⟨rfl, rfl⟩⟩ ⟨b, off, none⟩ l.length c (l.map (Value.int .u8)) hx (by rw [List.length_map, Nat.mul_one]) (src_of_at hl) ?_ (by unfold maxLen; omega) (by omega) (Nat.le_refl _) ?_
  · intro u hu
    simp only [List.mem_map] at hu
    obtain ⟨y, _, rfl⟩ := hu; rfl
  · intro v' w' h1 h2 _ _
    rw [Nat.zero_add, List.nil_append] at h1
    exact h v' w' ⟨h1, own_below (Below.refl _ _) (xs := []) (e := 5) (k := 0) ⟨rfl, Or.inl ⟨rfl, rfl⟩⟩ h2⟩
/-- A word of what was made since is another one. -/
theorem own_set {k : IntKind} {e : TypeId} {bd : Int → Prop} {w : World} {g cap j : Nat} {cur : Array Value} {l : List Int} {x : Int} (hw : ∀ y ∈ l, bd y) (hx : bd x) (hj : j < l.length) (hg : w.heap[g]? = some (.cells cur e (0, 0))) (ht : cur.toList.take l.length = l.map (Value.int k)) (hc : l.length ≤ cap) (hs : l.length ≤ cur.size) :
    w.cell? ⟨g, j, none⟩ = some (.int k (l.getD j 0)) ∧ w.frozen? ⟨g, j, none⟩ = false ∧ Sl k bd (w.setCell ⟨g, j, none⟩ (.int k x)) (.slice (some ⟨g, 0, none⟩) l.length cap) (l.set j x) := by
  have hcell : ∀ j, j < l.length → cur[j]? = some (.int k (l.getD j 0)) := by
    intro j hj
    have e : (cur.toList.take l.length)[j]? = some (.int k (l.getD j 0)) := by rw [ht]; simp [hj]
    rw [List.getElem?_take_of_lt hj] at e
    simpa using e
  refine ⟨?_, frozen_of_row w g j _ e hg, ?_⟩
  · rw [cell_of_row w g j _ e (0, 0) hg]
    exact hcell j hj
  · have hg2 := heap_setCell_same w g j _ e (.int k x) hg
    refine ⟨_, cap, by rw [List.length_set], by rw [List.length_set]; omega, ?_, Or.inr ⟨g, 0, rfl, lt_of_block hg2, fun i hi => ?_⟩⟩
    · intro y hy
      rcases List.mem_or_eq_of_mem_set hy with h | h
      · exact hw y h
      · rw [h]; exact hx
    rw [List.length_set] at hi
    rw [Nat.zero_add, cell_of_row _ g i _ e (0, 0) hg2]
    by_cases h7 : i = j
    · subst h7
      rw [Array.getElem?_setIfInBounds_self_of_lt (by omega)]
      simp [hi]
    · rw [Array.getElem?_setIfInBounds_ne (by omega), hcell i hi]
      simp [List.getD_eq_getElem?_getD, List.getElem?_set_ne (show j ≠ i by omega)]

namespace Bt
/-- Without the highest bit. -/
theorem low_top {p : List Int} (h8 : ∀ x ∈ p, W8 x) (hl : p.length = 32) : low (p.set 31 (p.getD 31 0 % 128)) = low p % 2 ^ 255 := by
  have hm := Nt.low_more p 31 (by omega)
  rw [List.take_of_length_le (by omega)] at hm
  have hm2 := Nt.low_more (p.set 31 (p.getD 31 0 % 128)) 31 (by rw [List.length_set]; omega)
  rw [List.take_of_length_le (by rw [List.length_set]; omega)] at hm2
  have e1 : (p.set 31 (p.getD 31 0 % 128)).take 31 = p.take 31 := by
    rw [List.take_set, List.set_eq_of_length_le (by rw [List.length_take]; omega)]
  have e2 : (p.set 31 (p.getD 31 0 % 128)).getD 31 0 = p.getD 31 0 % 128 := by
    rw [List.getD_eq_getElem?_getD, List.getElem?_set_self (by omega)]; rfl
  rw [e1, e2] at hm2
  have h3 := low_lt (p.take 31) (fun x hx => h8 x (List.mem_of_mem_take hx))
  rw [List.length_take, Nat.min_eq_left (by omega)] at h3
  have h4 : 0 ≤ p.getD 31 0 ∧ p.getD 31 0 ≤ 255 := by
    have hmm : p.getD 31 0 ∈ p := by rw [List.getD_eq_getElem?_getD, List.getElem?_eq_getElem (show 31 < p.length by omega)]; exact List.getElem_mem (show 31 < p.length by omega)
    have := h8 _ hmm
    unfold W8 at this; omega
  rw [hm, hm2]
  obtain ⟨n, hn⟩ := Int.eq_ofNat_of_zero_le h4.1
  rw [hn] at *
  rw [show ((n : Int) % 128).toNat = n % 128 by omega, show ((n : Int)).toNat = n by omega]
  generalize low (p.take 31) = u at *
  simp only [Nat.reducePow, Nat.reduceMul] at *
  omega
end Bt

set_option maxRecDepth 100000 in
set_option maxHeartbeats 400000 in
theorem of_none (w : World) (a : Option Addr) (n c : Nat) (hn : n ≠ 32) :
    Calls Tryd.prog 66 #[.slice a n c] w fun e w' => e = .returned (.slice none 0 0) ∧ Below w.heap.size w w' := by
  go_enter Tryd.func66, Tryd.ntmps66
  go_wp2_with fail
  go_ret
  exact ⟨rfl, Below.refl _ _⟩

set_option maxRecDepth 100000 in
set_option maxHeartbeats 400000 in
theorem of_32 (w : World) (a : Option Addr) (c : Nat) (p : List Int) (hl : p.length = 32) (hp : Slc w (.slice a 32 c) p) :
    Calls Tryd.prog 66 #[.slice a 32 c] w fun e w' => ∃ v' l, e = .returned v' ∧ Num w' v' l ∧ Nt.val l = ((Bt.low p % 2 ^ 255 : Nat) : Int) % Fe.P ∧ Nt.Neat l ∧ l.length ≤ 8 ∧ Below w.heap.size w w' := by
  obtain ⟨b, off, rfl, hbw, hAt, h8⟩ : ∃ b off, a = some ⟨b, off, none⟩ ∧ b < w.heap.size ∧ At w .u8 b off p ∧ ∀ x ∈ p, W8 x := by
    obtain ⟨a', c', hv, _, h8, hm⟩ := hp
    simp only [Value.slice.injEq] at hv
    obtain ⟨rfl, -, -⟩ := hv
    rcases hm with h | ⟨b, off, h1, h2, h3⟩
    · rw [h] at hl; simp at hl
    · exact ⟨b, off, h1, h2, h3, h8⟩
  have HAT := Lib.hid hAt
  have H8 := Lib.hid h8
  have HL := Lib.hid hl
  have hx : W8 (p.getD 31 0) := by
    have hmm : p.getD 31 0 ∈ p := by rw [List.getD_eq_getElem?_getD, List.getElem?_eq_getElem (show 31 < p.length by omega)]; exact List.getElem_mem (show 31 < p.length by omega)
    exact h8 _ hmm
  have HX := Lib.hid hx
  have HM := Lib.hid (mask7 _ hx.1 hx.2)
  have HLOW := Lib.hid (Bt.low_top h8 hl)
  clear hp hAt h8 hx hl
  go_enter Tryd.func66, Tryd.ntmps66
  go_wp2_with (first
    | (go_at_call 62; refine (mod_any _ _ _ HP1.out HP3.out (by have := HP4.out; omega)).mono ?_; rintro e w2 ⟨v2, l2, rfl, hp1, hp2, hp3, hp4, hp5⟩; have HQ1 := Lib.hid hp1; have HQ2 := Lib.hid hp2; have HQ3 := Lib.hid hp3; have HQ4 := Lib.hid hp4; have HB2 := Lib.hid (HB1.out.trans (hp5.mono HB1.out.size)); clear hp1 hp2 hp3 hp4 hp5)
    | (go_at_call 30; refine (low_any _ _ _ HNUM.out (by rw [List.length_set, HL.out]; decide)).mono ?_; rintro e w1 ⟨v1, l1, rfl, hp1, hp2, hp3, hp4, hp5⟩; have HP1 := Lib.hid hp1; have HP2 := Lib.hid hp2; have HP3 := Lib.hid hp3; have HP4 : Hid (l1.length ≤ 100) := (by rw [List.length_set, HL.out] at hp4; show _ ≤ _; omega); have HB1 := Lib.hid (HC5.out.trans (hp5.mono HC5.out.size)); clear hp1 hp2 hp3 hp4 hp5)
    | ((with_reducible refine append_bytes (o := ⟨some 9, _, _, _, _, _⟩) rfl (.tmp 7) (.tmp 8) rfl rfl b off c p ?_ ?_ ?_ ?_); exact (by rw [HL.out]; rfl); exact HAT.out; exact (by rw [HL.out]; decide); intro v3 w3 hp3; obtain ⟨g, cap, cur, rfl, hg1, hg2, hg3, hg4, hg5⟩ := hp3.block (by rw [HL.out]; decide); obtain ⟨q1, q2, q3⟩ := own_set (bd := W8) (j := 31) (x := p.getD 31 0 % 128) H8.out (by have := HX.out; unfold W8 at *; omega) (by rw [HL.out]; decide) hg2 hg5 hg3 hg4; rw [HL.out] at q3; rw [HL.out]; have HNUM := Lib.hid q3; have HC5 := Lib.hid (hp3.2.setCell (p := ⟨g, 31, none⟩) hg1 (.int .u8 (p.getD 31 0 % 128))); have hm7 := HM.out; generalize p.getD 31 0 = x at *; clear q3 hg1 hg2 hg3 hg4 hg5 hp3))
  go_ret
  exact ⟨_, _, rfl, HQ1.out, by rw [HQ2.out, HP2.out, HLOW.out], HQ3.out, HQ4.out, HB2.out⟩
end Go.Proofs.YtiinmdleechcgaaDoor
namespace Go.Proofs.YtiinmdleechcgaaDoor
open Go.RowKit

namespace Bt
theorem low_append : ∀ (l : List Int) (x : Int), low (l ++ [x]) = low l + 256 ^ l.length * x.toNat
  | [], x => by simp [low]
  | y :: r, x => by
    show y.toNat + 256 * low (r ++ [x]) = y.toNat + 256 * low r + 256 ^ (r.length + 1) * x.toNat
    rw [low_append r x, Nat.pow_succ]
    grind
theorem low_range (N : Nat) : ∀ n, low ((List.range n).map fun j => ((N / 2 ^ (8 * j) % 2 ^ 8 : Nat) : Int)) = N % 2 ^ (8 * n)
  | 0 => by simp [low, Nat.mod_one]
  | n + 1 => by
    rw [List.range_succ, List.map_append, List.map_cons, List.map_nil, low_append, low_range N n, List.length_map, List.length_range, Int.toNat_natCast]
    rw [show 8 * (n + 1) = 8 * n + 8 by omega, Nat.pow_add 2 (8 * n) 8, Nat.mod_mul, Nat.pow_mul]
theorem low_row {N : Nat} (h : N < 2 ^ 255) : low (row 8 32 N 255) = N := by
  have e := low_range (N % 2 ^ 255) 32
  show low ((List.range 32).map fun j => ((N % 2 ^ 255 / 2 ^ (8 * j) % 2 ^ 8 : Nat) : Int)) = N
  rw [e, Nat.mod_eq_of_lt h, Nat.mod_eq_of_lt (Nat.lt_of_lt_of_le h (Nat.pow_le_pow_right (by decide) (by decide)))]
theorem row_W8 (N : Nat) : ∀ x ∈ row 8 32 N 255, W8 x := by
  intro x hx
  unfold row at hx
  rw [List.mem_map] at hx
  obtain ⟨j, _, rfl⟩ := hx
  have := place_lt 8 N 255 j
  unfold W8
  omega
end Bt
theorem Fe.P_two : Fe.P < 2 ^ 255 := by decide
theorem Fe.mod_nat (x : Int) : ∃ N : Nat, x % Fe.P = (N : Int) ∧ N < 2 ^ 255 := by
  have h1 := Int.emod_nonneg x (show Fe.P ≠ 0 by decide)
  have h2 := Int.emod_lt_of_pos x (show 0 < Fe.P by decide)
  have h3 := Fe.P_two
  obtain ⟨N, hN⟩ := Int.eq_ofNat_of_zero_le h1
  refine ⟨N, hN, ?_⟩
  have h4 : (N : Int) < 2 ^ 255 := by omega
  exact_mod_cast h4
theorem slc_blk {w : World} {g : Nat} {l : List Int} {n : Nat} {t : TypeId} (h : Blk w g .u8 t l) (hl : l.length = n) (hw : ∀ x ∈ l, W8 x) : Slc w (.slice (some ⟨g, 0, none⟩) n n) l :=
  ⟨_, n, by rw [hl], by omega, hw, Or.inr ⟨g, 0, rfl, h.lt, h.at⟩⟩

end Go.Proofs.YtiinmdleechcgaaDoor
namespace Go.Proofs.YtiinmdleechcgaaDoor
open Go.RowKit

def fillk (k : Nat) : List Int := (List.range 32).map fun j => if j < k then 255 else 0
theorem fillk_length (k : Nat) : (fillk k).length = 32 := by simp [fillk]
theorem fillk_set (k : Nat) (_ : k < 32) : (fillk k).set k 255 = fillk (k + 1) := by
  refine List.ext_getElem (by simp [fillk]) fun j h1 h2 => ?_
  simp only [fillk, List.getElem_set, List.getElem_map, List.getElem_range]
  by_cases hj : k = j
  · rw [if_pos hj, if_pos (by omega)]
  · rw [if_neg hj]
    by_cases h3 : j < k
    · rw [if_pos h3, if_pos (by omega)]
    · rw [if_neg h3, if_neg (by omega)]
/-- 32 bytes: all but the first and the last are 255. -/
def ends (lo hi : Int) : List Int := ((fillk 32).set 0 lo).set 31 hi
theorem ends_length (lo hi : Int) : (ends lo hi).length = 32 := by simp [ends, fillk]
def bv (l : List Int) : Value := .agg (l.map (Value.int .u8)).toArray
theorem i23 : (Tryd.prog.info? 44).map (·.size) = some 32 := by kernel_rfl
theorem bytes_one (l : List Int) : (l.map (Value.int .u8)).toArray.all (·.oneCell') = true := by simp [Value.oneCell']

set_option maxRecDepth 100000 in
set_option maxHeartbeats 400000 in
theorem exponent_any (w : World) (lo hi : Int) :
    Calls Tryd.prog 81 #[.int .u8 lo, .int .u8 hi] w fun e w' => e = .returned (bv (ends lo hi)) ∧ Below w.heap.size w w' := by
  have q1 := heap_alloc2_old w (.cells ((fillk 0).map (Value.int .u8)).toArray 44) (.cells ((fillk 0).map (Value.int .u8)).toArray 44)
  have q2 := heap_alloc2_new w (.cells ((fillk 0).map (Value.int .u8)).toArray 44) (.cells ((fillk 0).map (Value.int .u8)).toArray 44)
  have q3 : Below w.heap.size w ((w.alloc (.cells ((fillk 0).map (Value.int .u8)).toArray 44)).alloc (.cells ((fillk 0).map (Value.int .u8)).toArray 44)) := ((Below.refl _ _).alloc (Nat.le_refl _) _).alloc (by simp) _
  have ZB := Lib.hid q1
  have EB : Hid (Blk ((w.alloc (.cells ((fillk 0).map (Value.int .u8)).toArray 44)).alloc (.cells ((fillk 0).map (Value.int .u8)).toArray 44)) (w.heap.size + 1) .u8 44 (fillk 0)) := q2
  have BW := Lib.hid q3
  clear q1 q2 q3
  go_enter Tryd.func81, Tryd.ntmps81
  go_wp2_with fail
  change Code.wp _ _ _ _ ((w.alloc (.cells ((fillk 0).map (Value.int .u8)).toArray 44)).alloc (.cells ((fillk 0).map (Value.int .u8)).toArray 44))
  generalize ((w.alloc (.cells ((fillk 0).map (Value.int .u8)).toArray 44)).alloc (.cells ((fillk 0).map (Value.int .u8)).toArray 44)) = w7 at *
  go_loopw [7] (fun i wr => ∃ k : Nat, k ≤ 32 ∧ i = .int .i64 k ∧ Hid (Blk wr (w.heap.size + 1) .u8 44 (fillk k)) ∧ Hid (wr.heap[w.heap.size]? = some (.cells ((fillk 0).map (Value.int .u8)).toArray 44 (0, 0))) ∧ Hid (Below w.heap.size w wr)) (fun i _ => 32 - (intOf i).toNat)
  case atStart => exact ⟨0, by omega, rfl, EB, ZB, BW⟩
  case round =>
    clear EB ZB BW
    obtain ⟨k, hk, rfl, EB, ZB, BW⟩ := hrel
    by_cases hlt : k < 32
    · have c1 := EB.out.cell k (by rw [fillk_length]; omega)
      have f1 := EB.out.free k
      have hset := EB.out.set k 255
      rw [fillk_set k hlt] at hset
      have hoth := fun v => heap_setCell_other wr ⟨w.heap.size + 1, k, none⟩ w.heap.size v (by simp)
      have HSET := Lib.hid hset
      have HOTH := Lib.hid hoth
      clear hset hoth
      generalize (fillk k).getD k 0 = o at *
      go_wp2
      go_roundw
      case rel => exact ⟨k + 1, by omega, by go_num, HSET.out, (HOTH.out _).trans ZB.out, BW.out.setCell (by simp) _⟩
      case measure => simp [intOf]; omega
    · have hk5 : ((k : Nat) : Int) = 32 := by omega
      rw [hk5]
      clear hk5
      obtain rfl : k = 32 := by omega
      have c1 := EB.out.cell 0 (by rw [fillk_length]; omega)
      have f1 := EB.out.free 0
      have hs1 := EB.out.set 0 lo
      have c2 := hs1.cell 31 (by rw [List.length_set, fillk_length]; omega)
      have f2 := hs1.free 31
      have hs2 := hs1.set 31 hi
      have hz := (heap_setCell_other (wr.setCell ⟨w.heap.size + 1, 0, none⟩ (.int .u8 lo)) ⟨w.heap.size + 1, 31, none⟩ w.heap.size (.int .u8 hi) (by simp)).trans ((heap_setCell_other wr ⟨w.heap.size + 1, 0, none⟩ w.heap.size (.int .u8 lo) (by simp)).trans ZB.out)
      have HB2 := Lib.hid ((BW.out.setCell (p := ⟨w.heap.size + 1, 0, none⟩) (by simp) (.int .u8 lo)).setCell (p := ⟨w.heap.size + 1, 31, none⟩) (by simp) (.int .u8 hi))
      have HS2 : Hid (((wr.setCell ⟨w.heap.size + 1, 0, none⟩ (.int .u8 lo)).setCell ⟨w.heap.size + 1, 31, none⟩ (.int .u8 hi)).heap[w.heap.size + 1]? = some (.cells ((ends lo hi).map (Value.int .u8)).toArray 44 (0, 0))) := hs2
      have HZ := Lib.hid hz
      clear hs1 hs2 hz
      generalize (fillk 32).getD 0 0 = o at *
      generalize ((fillk 32).set 0 lo).getD 31 0 = o2 at *
      go_wp2_with (first
        | ((with_reducible refine wpList_load_row (o := ⟨some 17, _, _, _, _, _⟩) rfl 44 (.tmp 5) rfl (w.heap.size + 1) rfl 44 _ (0, 0) _ HS2.out Tryd.underlying44 rfl ?_ ?_); exact i23)
        | ((with_reducible refine wpList_store_row (o := ⟨none, _, _, _, _, _⟩) rfl 44 (.tmp 4) (.tmp 17) rfl w.heap.size ((ends lo hi).map (Value.int .u8)).toArray rfl rfl 44 _ HZ.out ?_ ?_ ?_ ?_); exact i23; exact rfl; exact bytes_one _))
      exact bodyPost_ret (results_cell_row Tryd.results81 _ _ w.heap.size 44 _ (0, 0) _ rfl (setRow_heap _ w.heap.size _ ((ends lo hi).map (Value.int .u8)).toArray 44 _ HZ.out) Tryd.underlying44 rfl i23) rfl ⟨rfl, below_setRow HB2.out (Nat.le_refl _) _⟩
end Go.Proofs.YtiinmdleechcgaaDoor
namespace Go.Proofs.YtiinmdleechcgaaDoor
namespace Nm
/-- A prime. -/
def Pr (p : Nat) : Prop := 1 < p ∧ ∀ d, d ∣ p → d = 1 ∨ d = p
theorem Pr.co {p : Nat} (h : Pr p) {k : Nat} (hk : k % p ≠ 0) : Nat.Coprime p k := by
  rcases h.2 (Nat.gcd p k) (Nat.gcd_dvd_left p k) with h1 | h1
  · exact h1
  · exact absurd (Nat.mod_eq_zero_of_dvd (h1 ▸ Nat.gcd_dvd_right p k)) hk
theorem Pr.of_mul {p : Nat} (h : Pr p) {a b : Nat} (hd : p ∣ a * b) : p ∣ a ∨ p ∣ b := by
  by_cases ha : a % p = 0
  · exact Or.inl (Nat.dvd_of_mod_eq_zero ha)
  · exact Or.inr ((h.co ha).dvd_of_dvd_mul_left hd)
/-- How many ways to choose. -/
def ch : Nat → Nat → Nat
  | _, 0 => 1
  | 0, _ + 1 => 0
  | n + 1, k + 1 => ch n k + ch n (k + 1)
theorem ch_zero (n : Nat) : ch n 0 = 1 := by cases n <;> rfl
theorem ch_none (k : Nat) : ch 0 (k + 1) = 0 := rfl
theorem ch_succ (n k : Nat) : ch (n + 1) (k + 1) = ch n k + ch n (k + 1) := rfl
theorem ch_beyond : ∀ (n m : Nat), ch n (n + m + 1) = 0
  | 0, m => by rw [Nat.zero_add]; rfl
  | n + 1, m => by
    rw [show n + 1 + m + 1 = (n + m + 1) + 1 by omega, ch_succ, ch_beyond n m, show n + m + 1 + 1 = n + (m + 1) + 1 by omega, ch_beyond n (m + 1)]
theorem ch_all : ∀ n : Nat, ch n n = 1
  | 0 => rfl
  | n + 1 => by rw [ch_succ, ch_all n, show n + 1 = n + 0 + 1 by omega, ch_beyond n 0]
theorem ch_mul : ∀ n k : Nat, (k + 1) * ch (n + 1) (k + 1) = (n + 1) * ch n k
  | 0, 0 => rfl
  | 0, k + 1 => by rw [ch_succ, ch_none, ch_none]; omega
  | n + 1, 0 => by
    have h := ch_mul n 0
    rw [ch_zero] at h
    rw [ch_succ, ch_zero]
    omega
  | n + 1, k + 1 => by
    have h1 := ch_mul n k
    have h2 := ch_mul n (k + 1)
    rw [ch_succ (n + 1) (k + 1), ch_succ n k]
    rw [ch_succ n k] at h1
    grind
/-- A sum. -/
def S (f : Nat → Nat) : Nat → Nat
  | 0 => 0
  | m + 1 => S f m + f m
theorem S_shift (f : Nat → Nat) : ∀ m, S f (m + 1) = f 0 + S (fun k => f (k + 1)) m
  | 0 => by simp [S]
  | m + 1 => by
    show S f (m + 1) + f (m + 1) = _
    rw [S_shift f m]
    show _ = f 0 + (S _ m + f (m + 1))
    omega
theorem S_add (f g : Nat → Nat) : ∀ m, S (fun k => f k + g k) m = S f m + S g m
  | 0 => rfl
  | m + 1 => by
    show S _ m + (f m + g m) = S f m + f m + (S g m + g m)
    rw [S_add f g m]; omega
theorem S_mul (c : Nat) (f : Nat → Nat) : ∀ m, S (fun k => c * f k) m = c * S f m
  | 0 => rfl
  | m + 1 => by
    show S _ m + c * f m = c * (S f m + f m)
    rw [S_mul c f m, Nat.mul_add]
theorem S_eq {f g : Nat → Nat} (h : ∀ k, f k = g k) (m : Nat) : S f m = S g m := by
  rw [show f = g from funext h]
theorem S_dvd {p : Nat} {f : Nat → Nat} : ∀ m, (∀ k, k < m → p ∣ f k) → p ∣ S f m
  | 0, _ => Nat.dvd_zero p
  | m + 1, h => Nat.dvd_add (S_dvd m fun k hk => h k (by omega)) (h m (by omega))
theorem binomial (a : Nat) : ∀ n, (a + 1) ^ n = S (fun k => ch n k * a ^ k) (n + 1)
  | 0 => by simp [S, ch]
  | n + 1 => by
    rw [S_shift, Nat.pow_succ, binomial a n]
    have e : S (fun k => ch (n + 1) (k + 1) * a ^ (k + 1)) (n + 1) = a * S (fun k => ch n k * a ^ k) (n + 1) + S (fun k => ch n (k + 1) * a ^ (k + 1)) (n + 1) := by
      rw [← S_mul, ← S_add]
      refine S_eq (fun k => ?_) _
      rw [ch_succ, Nat.pow_succ]
      grind
    rw [e]
    have e2 := S_shift (fun k => ch n k * a ^ k) (n + 1)
    have e3 : S (fun k => ch n k * a ^ k) (n + 1 + 1) = S (fun k => ch n k * a ^ k) (n + 1) + ch n (n + 1) * a ^ (n + 1) := rfl
    rw [show ch n (n + 1) = 0 from ch_beyond n 0, Nat.zero_mul, Nat.add_zero] at e3
    rw [e3] at e2
    simp only [ch_zero, Nat.pow_zero, Nat.mul_one] at e2 ⊢
    grind
theorem Pr.ch {p : Nat} (h : Pr p) {k : Nat} (h0 : 0 < k) (hk : k < p) : p ∣ Nm.ch p k := by
  obtain ⟨n, rfl⟩ : ∃ n, p = n + 1 := ⟨p - 1, by have := h.1; omega⟩
  obtain ⟨j, rfl⟩ : ∃ j, k = j + 1 := ⟨k - 1, by omega⟩
  have hc : Nat.Coprime (n + 1) (j + 1) := h.co (by rw [Nat.mod_eq_of_lt hk]; omega)
  refine hc.dvd_of_dvd_mul_left (?_ : n + 1 ∣ (j + 1) * _)
  rw [ch_mul]
  exact Nat.dvd_mul_right _ _
theorem fermat_add {p : Nat} (h : Pr p) (a : Nat) : (a + 1) ^ p % p = (a ^ p + 1) % p := by
  obtain ⟨n, rfl⟩ : ∃ n, p = n + 1 := ⟨p - 1, by have := h.1; omega⟩
  have e : (a + 1) ^ (n + 1) = S (fun k => Nm.ch (n + 1) k * a ^ k) (n + 1) + Nm.ch (n + 1) (n + 1) * a ^ (n + 1) := binomial a (n + 1)
  rw [ch_all, Nat.one_mul, S_shift, ch_zero, Nat.pow_zero, Nat.mul_one] at e
  obtain ⟨c, hc⟩ : n + 1 ∣ S (fun k => Nm.ch (n + 1) (k + 1) * a ^ (k + 1)) n := S_dvd n fun k hk => Nat.dvd_trans (h.ch (by omega) (by omega)) (Nat.dvd_mul_right _ _)
  rw [e, hc, show 1 + (n + 1) * c + a ^ (n + 1) = a ^ (n + 1) + 1 + (n + 1) * c by omega, Nat.add_mul_mod_self_left]
theorem fermat {p : Nat} (h : Pr p) : ∀ a, a ^ p % p = a % p
  | 0 => by rw [Nat.zero_pow (by have := h.1; omega)]
  | a + 1 => by rw [fermat_add h, Nat.add_mod, fermat h a, ← Nat.add_mod]
theorem fermat_one {p : Nat} (h : Pr p) {a : Nat} (ha : a % p ≠ 0) : a ^ (p - 1) % p = 1 := by
  have h1 := h.1
  have e := fermat h a
  obtain ⟨n, rfl⟩ : ∃ n, p = n + 1 := ⟨p - 1, by omega⟩
  rw [Nat.add_sub_cancel]
  rw [Nat.pow_succ] at e
  have hpos : 0 < a ^ n := Nat.pow_pos (Nat.pos_of_ne_zero fun h => by rw [h] at ha; simp at ha)
  have hd : n + 1 ∣ a ^ n * a - a := Nat.dvd_of_mod_eq_zero (Nat.sub_mod_eq_zero_of_mod_eq e)
  have hd2 : n + 1 ∣ (a ^ n - 1) * a := by rw [Nat.sub_mul, Nat.one_mul]; exact hd
  obtain ⟨c, hc⟩ := (h.co ha).dvd_of_dvd_mul_right hd2
  rw [show a ^ n = 1 + (n + 1) * c by omega, Nat.add_mul_mod_self_left]
  exact Nat.mod_eq_of_lt h1
theorem one_pow_mod {n b : Nat} (hn : 1 < n) (hb : b % n = 1) (k : Nat) : b ^ k % n = 1 := by
  rw [Nat.pow_mod, hb, Nat.one_pow]; exact Nat.mod_eq_of_lt hn
theorem pow_gcd {n b : Nat} (hn : 1 < n) (m k : Nat) : b ^ m % n = 1 → b ^ k % n = 1 → b ^ Nat.gcd m k % n = 1 := by
  induction m, k using Nat.gcd.induction with
  | H0 k => intro _ h; rw [Nat.gcd_zero_left]; exact h
  | H1 m k hm ih =>
    intro h1 h2
    rw [Nat.gcd_rec]
    refine ih ?_ h1
    have e : b ^ k = (b ^ m) ^ (k / m) * b ^ (k % m) := by rw [← Nat.pow_mul, ← Nat.pow_add, Nat.div_add_mod]
    rw [e, Nat.mul_mod, one_pow_mod hn h1, Nat.one_mul, Nat.mod_mod] at h2
    exact h2
/-- A prime factor is one more than a multiple of q. -/
theorem pockling {n q a p : Nat} (hn0 : 0 < n) (hq : Pr q) (hd : q ∣ n - 1) (h1 : a ^ (n - 1) % n = 1) (hg : Nat.gcd (a ^ ((n - 1) / q) % n + n - 1) n = 1) (hp : Pr p) (hpn : p ∣ n) : q ∣ p - 1 := by
  have hp1 := hp.1
  have g1 : a ^ (n - 1) % p = 1 := by rw [← Nat.mod_mod_of_dvd _ hpn, h1]; exact Nat.mod_eq_of_lt hp1
  obtain ⟨b, hb⟩ : ∃ b, b = a ^ ((n - 1) / q) := ⟨_, rfl⟩
  have g2 : b ^ q % p = 1 := by rw [hb, ← Nat.pow_mul, Nat.div_mul_cancel hd]; exact g1
  have hb0 : b % p ≠ 0 := by
    intro h
    rw [Nat.pow_mod, h, Nat.zero_pow (by have := hq.1; omega), Nat.zero_mod] at g2
    exact absurd g2 (by decide)
  have g3 := pow_gcd hp1 q (p - 1) g2 (fermat_one hp hb0)
  rcases hq.2 _ (Nat.gcd_dvd_left q (p - 1)) with h | h
  · rw [h, Nat.pow_one] at g3
    have g4 : (b % n) % p = 1 := by rw [Nat.mod_mod_of_dvd _ hpn]; exact g3
    have g5 : p ∣ b % n + n - 1 := by
      have e1 := Nat.div_add_mod (b % n) p
      rw [g4] at e1
      obtain ⟨c, hc⟩ := hpn
      refine ⟨(b % n) / p + c, ?_⟩
      rw [Nat.mul_add, ← hc]
      omega
    rw [← hb] at hg
    have := Nat.dvd_gcd g5 hpn
    rw [hg] at this
    exact absurd (Nat.le_of_dvd (by decide) this) (by omega)
  · exact h ▸ Nat.gcd_dvd_right q (p - 1)
theorem prime_factor : ∀ n : Nat, 1 < n → ∃ p, Pr p ∧ p ∣ n := by
  intro n
  induction n using Nat.strongRecOn with
  | ind n ih =>
    intro hn
    by_cases h : Pr n
    · exact ⟨n, h, Nat.dvd_refl n⟩
    · have h2 : ∃ d, d ∣ n ∧ d ≠ 1 ∧ d ≠ n := by
        refine Classical.byContradiction fun hh => h ⟨hn, fun d hd => ?_⟩
        refine Classical.byContradiction fun h3 => hh ⟨d, hd, fun e => h3 (Or.inl e), fun e => h3 (Or.inr e)⟩
      obtain ⟨d, hd, h3, h4⟩ := h2
      have h5 := Nat.le_of_dvd (by omega) hd
      have h6 := Nat.pos_of_dvd_of_pos hd (by omega)
      obtain ⟨p, hp, hpd⟩ := ih d (by omega) (by omega)
      exact ⟨p, hp, Nat.dvd_trans hpd hd⟩
theorem prime_of_big {n : Nat} (hn : 1 < n) (F : Nat) (hF : n < F * F) (h : ∀ p, Pr p → p ∣ n → F < p) : Pr n := by
  refine ⟨hn, fun d hd => ?_⟩
  refine Classical.byContradiction fun hh => ?_
  obtain ⟨e, he⟩ := hd
  have h1 : 1 < d := by
    rcases Nat.lt_or_ge 1 d with h | h
    · exact h
    · have : d = 0 ∨ d = 1 := by omega
      rcases this with h | h
      · rw [h] at he; omega
      · exact absurd (Or.inl h) hh
  have h2 : 1 < e := by
    rcases Nat.lt_or_ge 1 e with h | h
    · exact h
    · have : e = 0 ∨ e = 1 := by omega
      rcases this with h | h
      · rw [h] at he; omega
      · rw [h, Nat.mul_one] at he; exact absurd (Or.inr he.symm) hh
  obtain ⟨p, hp, hpd⟩ := prime_factor d h1
  obtain ⟨r, hr, hre⟩ := prime_factor e h2
  have g1 := h p hp (he ▸ Nat.dvd_trans hpd (Nat.dvd_mul_right _ _))
  have g2 := h r hr (he ▸ Nat.dvd_trans hre (Nat.dvd_mul_left _ _))
  have g3 := Nat.le_of_dvd (by omega) hpd
  have g4 := Nat.le_of_dvd (by omega) hre
  have g5 : F * F ≤ d * e := Nat.mul_le_mul (by omega) (by omega)
  omega
/-- Two at once. -/
theorem prime_of_two {n q r a b : Nat} (hn : 1 < n) (hq : Pr q) (hr : Pr r) (hqr : Nat.Coprime q r) (hdq : q ∣ n - 1) (hdr : r ∣ n - 1) (h1 : a ^ (n - 1) % n = 1) (h2 : b ^ (n - 1) % n = 1)
    (g1 : Nat.gcd (a ^ ((n - 1) / q) % n + n - 1) n = 1) (g2 : Nat.gcd (b ^ ((n - 1) / r) % n + n - 1) n = 1) (hF : n < (q * r) * (q * r)) : Pr n := by
  refine prime_of_big hn (q * r) hF fun p hp hpn => ?_
  have e := Nat.Coprime.mul_dvd_of_dvd_of_dvd hqr (pockling (by omega) hq hdq h1 g1 hp hpn) (pockling (by omega) hr hdr h2 g2 hp hpn)
  have := Nat.le_of_dvd (by have := hp.1; omega) e
  have := hp.1
  omega
theorem prime_of_one {n q a : Nat} (hn : 1 < n) (hq : Pr q) (hdq : q ∣ n - 1) (h1 : a ^ (n - 1) % n = 1)
    (g1 : Nat.gcd (a ^ ((n - 1) / q) % n + n - 1) n = 1) (hF : n < q * q) : Pr n := by
  refine prime_of_big hn q hF fun p hp hpn => ?_
  have := Nat.le_of_dvd (by have := hp.1; omega) (pockling (by omega) hq hdq h1 g1 hp hpn)
  have := hp.1
  omega
/-- A power, reckoned. -/
def pm (n : Nat) : Nat → Nat → Nat → Nat
  | 0, _, _ => 1 % n
  | f + 1, a, e => bif e % 2 == 1 then a * pm n f (a * a % n) (e / 2) % n else pm n f (a * a % n) (e / 2)
theorem pm_eq (n : Nat) : ∀ f a e : Nat, e < 2 ^ f → pm n f a e = a ^ e % n
  | 0, a, e, h => by
    obtain rfl : e = 0 := by simpa using h
    simp [pm]
  | f + 1, a, e, h => by
    have h2 : e / 2 < 2 ^ f := by rw [Nat.pow_succ] at h; omega
    have ih := pm_eq n f (a * a % n) (e / 2) h2
    have e3 : (a * a % n) ^ (e / 2) % n = a ^ (2 * (e / 2)) % n := by rw [← Nat.pow_mod, Nat.pow_mul, Nat.pow_two]
    rw [pm, ih, e3]
    rcases Nat.mod_two_eq_zero_or_one e with h0 | h0
    · rw [h0]; simp only [show ((0 : Nat) == 1) = false from rfl, cond_false]
      rw [show 2 * (e / 2) = e by omega]
    · rw [h0]; simp only [show ((1 : Nat) == 1) = true from rfl, cond_true]
      rw [Nat.mul_mod, Nat.mod_mod, ← Nat.mul_mod, Nat.mul_comm, ← Nat.pow_succ, show (2 * (e / 2)).succ = e by omega]
/-- No divisor up to a bound. -/
def none (n : Nat) : Nat → Bool
  | 0 => true
  | 1 => true
  | k + 2 => n % (k + 2) != 0 && none n (k + 1)
theorem none_get {n : Nat} : ∀ {k : Nat}, none n k = true → ∀ d, 1 < d → d ≤ k → n % d ≠ 0
  | 0, _, d, h1, h2 => by omega
  | 1, _, d, h1, h2 => by omega
  | k + 2, h, d, h1, h2 => by
    unfold none at h
    rw [Bool.and_eq_true] at h
    by_cases hd : d = k + 2
    · rw [hd]; simpa using h.1
    · exact none_get h.2 d h1 (by omega)
theorem prime_by {n k : Nat} (hn : 1 < n) (hk : n < (k + 1) * (k + 1)) (h : none n k = true) : Pr n := by
  refine ⟨hn, fun d hd => ?_⟩
  refine Classical.byContradiction fun hh => ?_
  obtain ⟨e, he⟩ := hd
  have hd0 : d ≠ 0 := by intro h0; rw [h0] at he; omega
  have he0 : e ≠ 0 := by intro h0; rw [h0] at he; omega
  have hd1 : d ≠ 1 := fun h1 => hh (Or.inl h1)
  have he1 : e ≠ 1 := fun h1 => hh (Or.inr (by rw [he, h1, Nat.mul_one]))
  have g1 : n % d = 0 := by rw [he, Nat.mul_mod_right]
  have g2 : n % e = 0 := by rw [he, Nat.mul_mod_left]
  have g3 : k < d := by
    rcases Nat.lt_or_ge k d with h3 | h3
    · exact h3
    · exact absurd g1 (none_get h d (by omega) h3)
  have g4 : k < e := by
    rcases Nat.lt_or_ge k e with h3 | h3
    · exact h3
    · exact absurd g2 (none_get h e (by omega) h3)
  have := Nat.mul_le_mul (show k + 1 ≤ d by omega) (show k + 1 ≤ e by omega)
  omega
def two (n q r f : Nat) : Bool :=
  Nat.ble 2 n && ((n - 1) % q == 0 && ((n - 1) % r == 0 && (pm n f 2 (n - 1) == 1 && (Nat.gcd (pm n f 2 ((n - 1) / q) + n - 1) n == 1 && (Nat.gcd (pm n f 2 ((n - 1) / r) + n - 1) n == 1 && (Nat.ble (n + 1) (q * r * (q * r)) && (Nat.gcd q r == 1 && Nat.ble n (2 ^ f))))))))
def one (n q f : Nat) : Bool :=
  Nat.ble 2 n && ((n - 1) % q == 0 && (pm n f 2 (n - 1) == 1 && (Nat.gcd (pm n f 2 ((n - 1) / q) + n - 1) n == 1 && (Nat.ble (n + 1) (q * q) && Nat.ble n (2 ^ f)))))
theorem prime_two {n q r f : Nat} (hq : Pr q) (hr : Pr r) (h : two n q r f = true) : Pr n := by
  unfold two at h
  simp only [Bool.and_eq_true, beq_iff_eq] at h
  obtain ⟨h0, h1, h2, h3, h4, h5, h6, h7, h8⟩ := h
  have g0 := Nat.le_of_ble_eq_true h0
  have g6 := Nat.le_of_ble_eq_true h6
  have g8 := Nat.le_of_ble_eq_true h8
  have d1 : (n - 1) / q ≤ n - 1 := Nat.div_le_self _ _
  have d2 : (n - 1) / r ≤ n - 1 := Nat.div_le_self _ _
  rw [pm_eq _ _ _ _ (by omega)] at h3 h4 h5
  exact prime_of_two g0 hq hr h7 (Nat.dvd_of_mod_eq_zero h1) (Nat.dvd_of_mod_eq_zero h2) h3 h3 h4 h5 g6
theorem prime_one {n q f : Nat} (hq : Pr q) (h : one n q f = true) : Pr n := by
  unfold one at h
  simp only [Bool.and_eq_true, beq_iff_eq] at h
  obtain ⟨h0, h1, h3, h4, h6, h8⟩ := h
  have g0 := Nat.le_of_ble_eq_true h0
  have g6 := Nat.le_of_ble_eq_true h6
  have g8 := Nat.le_of_ble_eq_true h8
  have d1 : (n - 1) / q ≤ n - 1 := Nat.div_le_self _ _
  rw [pm_eq _ _ _ _ (by omega)] at h3 h4
  exact prime_of_one g0 hq (Nat.dvd_of_mod_eq_zero h1) h3 h4 g6
theorem pr_127 : Pr 127 := prime_by (k := 11) (by decide) (by decide) (by decide +kernel)
theorem pr_57467 : Pr 57467 := prime_by (k := 240) (by decide) (by decide) (by decide +kernel)
theorem pr_75707 : Pr 75707 := prime_by (k := 276) (by decide) (by decide) (by decide +kernel)
theorem pr_t : Pr 8574133 := prime_by (k := 2928) (by decide) (by decide) (by decide +kernel)
theorem pr_s : Pr 1919519569386763 := prime_two (f := 52) pr_t pr_127 (by decide +kernel)
theorem pr_r : Pr 75445702479781427272750846543864801 := prime_two (f := 116) pr_s pr_75707 (by decide +kernel)
theorem pr_q : Pr 74058212732561358302231226437062788676166966415465897661863160754340907 := prime_two (f := 236) pr_r pr_57467 (by decide +kernel)
/-- 2^255 - 19. -/
def PN : Nat := 57896044618658097711785492504343953926634992332820282019728792003956564819949
theorem pr_P : Pr PN := prime_one (f := 255) pr_q (by decide +kernel)
end Nm
end Go.Proofs.YtiinmdleechcgaaDoor
namespace Go.Proofs.YtiinmdleechcgaaDoor
namespace Nm
theorem PN_pos : 1 < PN := by decide
theorem int_mod (n : Nat) : ((n : Int)) % (PN : Int) = ((n % PN : Nat) : Int) := (Int.natCast_emod n PN).symm
theorem pow_mod_congr {a b m : Int} (h : a % m = b % m) : ∀ k : Nat, a ^ k % m = b ^ k % m
  | 0 => by rw [Int.pow_zero, Int.pow_zero]
  | k + 1 => by rw [Int.pow_succ, Int.pow_succ, Int.mul_emod, pow_mod_congr h k, h, ← Int.mul_emod]
/-- What times a number is 1. -/
theorem inv_one {x : Int} (h0 : 0 ≤ x) (hx : x % (PN : Int) ≠ 0) : x * x ^ (PN - 2) % (PN : Int) = 1 := by
  obtain ⟨n, rfl⟩ := Int.eq_ofNat_of_zero_le h0
  have hn : n % PN ≠ 0 := by
    intro h; apply hx; rw [int_mod, h]; rfl
  have e := fermat_one pr_P hn
  rw [show PN - 1 = (PN - 2) + 1 from rfl, Nat.pow_succ, Nat.mul_comm] at e
  rw [show (n : Int) * (n : Int) ^ (PN - 2) = ((n * n ^ (PN - 2) : Nat) : Int) by simp, int_mod, e]
  rfl
theorem inv_zero {x : Int} (hx : x % (PN : Int) = 0) (k : Nat) : x * x ^ k % (PN : Int) = 0 := by
  rw [Int.mul_emod, hx, Int.zero_mul]; rfl
theorem fermat_half {x : Int} (h0 : 0 ≤ x) (hx : x % (PN : Int) ≠ 0) : (x * x) ^ ((PN - 1) / 2) % (PN : Int) = 1 := by
  obtain ⟨n, rfl⟩ := Int.eq_ofNat_of_zero_le h0
  have hn : n % PN ≠ 0 := by
    intro h; apply hx; rw [int_mod, h]; rfl
  have e := fermat_one pr_P hn
  have e2 : (n * n) ^ ((PN - 1) / 2) = n ^ (PN - 1) := by
    rw [show PN - 1 = 2 * ((PN - 1) / 2) from rfl, Nat.pow_mul, Nat.pow_two]
    rfl
  rw [show ((n : Int) * (n : Int)) ^ ((PN - 1) / 2) = (((n * n) ^ ((PN - 1) / 2) : Nat) : Int) by simp, int_mod, e2, e]
  rfl
theorem prime_int {x y : Int} (h : (PN : Int) ∣ x * y) : (PN : Int) ∣ x ∨ (PN : Int) ∣ y := by
  have h1 : PN ∣ x.natAbs * y.natAbs := by
    rw [← Int.natAbs_mul]
    exact Int.ofNat_dvd_left.1 h
  rcases pr_P.of_mul h1 with h | h
  · exact Or.inl (Int.ofNat_dvd_left.2 h)
  · exact Or.inr (Int.ofNat_dvd_left.2 h)
theorem mod_of_dvd {m x y : Int} (h : m ∣ x - y) : x % m = y % m := (Int.emod_eq_emod_iff_emod_sub_eq_zero).2 (Int.emod_eq_zero_of_dvd h)
theorem dvd_of_mod {m x y : Int} (h : x % m = y % m) : m ∣ x - y := Int.dvd_of_emod_eq_zero ((Int.emod_eq_emod_iff_emod_sub_eq_zero).1 h)
theorem two_cast (k : Nat) : (2 : Int) ^ k = ((2 ^ k : Nat) : Int) := by simp
/-- A root of -1. -/
theorem turn_sq {t : Int} (h : t % (PN : Int) = (2 : Int) ^ ((PN - 1) / 4) % (PN : Int)) : (PN : Int) ∣ t * t + 1 := by
  have e : pm PN 255 2 ((PN - 1) / 4) * pm PN 255 2 ((PN - 1) / 4) % PN = PN - 1 := by decide +kernel
  rw [pm_eq _ _ _ _ (by decide +kernel), ← Nat.mul_mod] at e
  have e2 : t * t % (PN : Int) = ((PN - 1 : Nat) : Int) := by
    rw [Int.mul_emod, h, ← Int.mul_emod, two_cast ((PN - 1) / 4), ← Int.natCast_mul, int_mod, e]
  have e3 : (t * t) % (PN : Int) = (-1) % (PN : Int) := e2
  have := dvd_of_mod e3
  rwa [Int.sub_neg] at this
/-- Which numbers have a root, and which it is. -/
theorem roots {a b t : Int} (hb0 : 0 ≤ b) (ht0 : 0 ≤ t) (hb : b % (PN : Int) = a ^ ((PN + 3) / 8) % (PN : Int)) (ht : t % (PN : Int) = (2 : Int) ^ ((PN - 1) / 4) % (PN : Int)) :
    (b * b % (PN : Int) = a % (PN : Int) ∨ (b * t) * (b * t) % (PN : Int) = a % (PN : Int)) ↔ (a % (PN : Int) = 0 ∨ a ^ ((PN - 1) / 2) % (PN : Int) = 1) := by
  have hts := turn_sq ht
  constructor
  · intro h
    by_cases hz : a % (PN : Int) = 0
    · exact Or.inl hz
    · refine Or.inr ?_
      rcases h with h | h
      · rw [← pow_mod_congr h]
        refine fermat_half hb0 fun hh => hz ?_
        rw [← h, Int.mul_emod, hh, Int.zero_mul]; rfl
      · rw [← pow_mod_congr h]
        refine fermat_half (Int.mul_nonneg hb0 ht0) fun hh => hz ?_
        rw [← h, Int.mul_emod, hh, Int.zero_mul]; rfl
  · intro h
    by_cases hz : a % (PN : Int) = 0
    · left
      rw [Int.mul_emod, hb, show (PN + 3) / 8 = (PN + 3) / 8 - 1 + 1 from rfl, Int.pow_succ, ← Int.mul_emod]
      have hd := Int.dvd_of_emod_eq_zero hz
      rw [hz]
      exact Int.emod_eq_zero_of_dvd (Int.dvd_trans (Int.dvd_trans hd (Int.dvd_mul_left _ _)) (Int.dvd_mul_left _ _))
    · have h1 : a ^ ((PN - 1) / 2) % (PN : Int) = 1 := by
        rcases h with h | h
        · exact absurd h hz
        · exact h
      have h4 : (b * b) * (b * b) % (PN : Int) = a * a % (PN : Int) := by
        have e1 : (b * b) * (b * b) = b ^ 4 := by grind
        have e2 : (a ^ ((PN + 3) / 8)) ^ 4 = a ^ ((PN - 1) / 2) * (a * a) := by
          rw [← Int.pow_mul, show (PN + 3) / 8 * 4 = (PN - 1) / 2 + 1 + 1 from rfl, Int.pow_succ, Int.pow_succ, Int.mul_assoc]
        rw [e1, pow_mod_congr hb, e2, Int.mul_emod, h1, Int.one_mul, Int.emod_emod]
      have h5 : (PN : Int) ∣ (b * b - a) * (b * b + a) := by
        have := dvd_of_mod h4
        rwa [show b * b * (b * b) - a * a = (b * b - a) * (b * b + a) by grind] at this
      rcases prime_int h5 with h6 | h6
      · exact Or.inl (mod_of_dvd h6)
      · right
        refine mod_of_dvd ?_
        have e : b * t * (b * t) - a = (b * b) * (t * t + 1) - (b * b + a) := by grind
        rw [e]
        exact Int.dvd_sub (Int.dvd_trans hts (Int.dvd_mul_left _ _)) h6
theorem roots_square {a : Int} (h0 : 0 ≤ a) : (a * a) % (PN : Int) = 0 ∨ (a * a) ^ ((PN - 1) / 2) % (PN : Int) = 1 := by
  by_cases hz : a % (PN : Int) = 0
  · left
    rw [Int.mul_emod, hz, Int.zero_mul]; rfl
  · exact Or.inr (fermat_half h0 hz)
end Nm
end Go.Proofs.YtiinmdleechcgaaDoor
namespace Go.Proofs.YtiinmdleechcgaaDoor
open Go.RowKit

namespace Fe
theorem P_PN : P = (Nm.PN : Int) := by decide
/-- An element that is a number. -/
structure Re (x : E) (n : Int) : Prop where
  ok : Ok x
  eq : val x % P = n % P
theorem Re.mul {x y : E} {n m : Int} (hx : Re x n) (hy : Re y m) : Re (mul x y) (n * m) := by
  refine ⟨mul_ok hx.ok hy.ok, ?_⟩
  obtain ⟨k, hk⟩ := mul_val x y
  rw [hk, Int.sub_eq_add_neg, ← Int.mul_neg, Int.add_mul_emod_self_left, Int.mul_emod, hx.eq, hy.eq, ← Int.mul_emod]
theorem Re.add {x y : E} {n m : Int} (hx : Re x n) (hy : Re y m) : Re (add x y) (n + m) := by
  refine ⟨add_ok hx.ok hy.ok, ?_⟩
  obtain ⟨k, hk⟩ := add_val x y
  rw [hk, Int.sub_eq_add_neg, ← Int.mul_neg, Int.add_mul_emod_self_left, Int.add_emod, hx.eq, hy.eq, ← Int.add_emod]
theorem Re.sub {x y : E} {n m : Int} (hx : Re x n) (hy : Re y m) : Re (sub x y) (n - m) := by
  refine ⟨sub_ok hx.ok hy.ok, ?_⟩
  obtain ⟨k, hk⟩ := sub_val x y
  rw [hk, Int.sub_eq_add_neg, ← Int.mul_neg, Int.add_mul_emod_self_left, Int.sub_emod, hx.eq, hy.eq, ← Int.sub_emod]
theorem Re.neg {x : E} {n : Int} (hx : Re x n) : Re (neg x) (-n) := by
  have h : Re z 0 := ⟨z_ok, rfl⟩
  have := h.sub hx
  rwa [Int.zero_sub] at this
theorem Re.num {n : Int} (h0 : 0 ≤ n) (h1 : n ≤ 4294967295) : Re (num n) n := ⟨num_ok n h0 h1, by rw [num_val]⟩
theorem Re.self {x : E} (h : Ok x) : Re x (val x) := ⟨h, rfl⟩
theorem Re.to {x : E} {n m : Int} (hx : Re x n) (h : n % P = m % P) : Re x m := ⟨hx.ok, hx.eq.trans h⟩
end Fe

/-- What lies where while a power is made. -/
structure PLay (w : World) (go : Nat) (x : Int) (e : List Int) (ka ko : Nat) (a o : Fe.E) (wr : World) : Prop where
  aa : wr.heap[w.heap.size]? = some (.cells (ec a) 49 (0, 0))
  ee : Blk wr (w.heap.size + 1) .u8 44 e
  zz : wr.heap[w.heap.size + 1 + 1]? = some (.cells (ec Fe.z) 49 (0, 0))
  oo : wr.heap[go]? = some (.cells (ec o) 49 (0, 0))
  ra : Fe.Re a (x ^ (2 ^ ka))
  ro : Fe.Re o (x ^ (Bt.low e % 2 ^ ko))
  bb : Below w.heap.size w wr
theorem PLay.setO {w wr w6 : World} {go ka ko kn : Nat} {x : Int} {e : List Int} {a o o' : Fe.E} (h : PLay w go x e ka ko a o wr) (hgo : w.heap.size + 1 + 1 < go) (hb : Below wr.heap.size wr w6) (hr : Fe.Re o' (x ^ (Bt.low e % 2 ^ kn))) : PLay w go x e ka kn a o' (w6.setRow go (ec o')) := by
  refine ⟨?_, ?_, ?_, ?_, h.ra, hr, below_setRow (h.bb.trans (hb.mono h.bb.size)) (by omega) _⟩
  · rw [setRow_other _ _ _ _ (by omega)]
    exact (hb.block _ (lt_of_block h.aa)).trans h.aa
  · refine Blk.other ?_ (setRow_other _ _ _ _ (by omega))
    exact h.ee.other (hb.block _ h.ee.lt)
  · rw [setRow_other _ _ _ _ (by omega)]
    exact (hb.block _ (lt_of_block h.zz)).trans h.zz
  · exact setRow_heap w6 go _ (ec o') 49 _ ((hb.block _ (lt_of_block h.oo)).trans h.oo)
theorem PLay.setA {w wr w6 : World} {go ka ko kn : Nat} {x : Int} {e : List Int} {a o a' : Fe.E} (h : PLay w go x e ka ko a o wr) (hgo : w.heap.size + 1 + 1 < go) (hb : Below wr.heap.size wr w6) (hr : Fe.Re a' (x ^ (2 ^ kn))) : PLay w go x e kn ko a' o (w6.setRow w.heap.size (ec a')) := by
  refine ⟨?_, ?_, ?_, ?_, hr, h.ro, below_setRow (h.bb.trans (hb.mono h.bb.size)) (by omega) _⟩
  · exact setRow_heap w6 w.heap.size _ (ec a') 49 _ ((hb.block _ (lt_of_block h.aa)).trans h.aa)
  · refine Blk.other ?_ (setRow_other _ _ _ _ (by omega))
    exact h.ee.other (hb.block _ h.ee.lt)
  · rw [setRow_other _ _ _ _ (by omega)]
    exact (hb.block _ (lt_of_block h.zz)).trans h.zz
  · rw [setRow_other _ _ _ _ (by omega)]
    exact (hb.block _ (lt_of_block h.oo)).trans h.oo
theorem pow_more (x : Int) (N k : Nat) : x ^ (N % 2 ^ (k + 1)) = if Bt.bit N k = 1 then x ^ (N % 2 ^ k) * x ^ (2 ^ k) else x ^ (N % 2 ^ k) := by
  rw [Bt.mod_more]
  have := Bt.bit_le N k
  split
  · next h => rw [h, Nat.mul_one, Int.pow_add]
  · next h => rw [show Bt.bit N k = 0 by omega, Nat.mul_zero, Nat.add_zero]
theorem pow_twice (x : Int) (k : Nat) : x ^ (2 ^ (k + 1)) = x ^ (2 ^ k) * x ^ (2 ^ k) := by
  rw [Nat.pow_succ, Nat.mul_two, Int.pow_add]

set_option maxRecDepth 100000 in
set_option maxHeartbeats 1000000 in
theorem power_any (w : World) (x : Fe.E) (n : Int) (hx : Fe.Re x n) (e : List Int) (he : e.length = 32) (h8 : ∀ b ∈ e, W8 b) :
    Calls Tryd.prog 80 #[.agg (ec x), bv e] w fun r w' => ∃ y, r = .returned (.agg (ec y)) ∧ Fe.Re y (n ^ Bt.low e) ∧ Below w.heap.size w w' := by
  obtain ⟨⟨h1, h2, h3⟩, h4⟩ := heap_alloc3 w (.cells (ec x) 49) (.cells (e.map (Value.int .u8)).toArray 44) (.cells (ec Fe.z) 49)
  have hgo : w.heap.size + 1 + 1 < (((w.alloc (.cells (ec x) 49)).alloc (.cells (e.map (Value.int .u8)).toArray 44)).alloc (.cells (ec Fe.z) 49)).heap.size := lt_of_block h3
  have H1 := Lib.hid h1
  have H2 : Hid (Blk (((w.alloc (.cells (ec x) 49)).alloc (.cells (e.map (Value.int .u8)).toArray 44)).alloc (.cells (ec Fe.z) 49)) (w.heap.size + 1) .u8 44 e) := h2
  have H3 := Lib.hid h3
  have H4 := Lib.hid h4
  have HX := Lib.hid hx
  have H8 := Lib.hid h8
  have HE := Lib.hid he
  have HPL := Lib.hid (fun j hj => Bt.place_low e j h8 hj)
  have HNP := Lib.hid (Bt.low_lt e h8)
  clear h1 h2 h3 h4 hx h8 he
  unfold bv
  go_enter Tryd.func80, Tryd.ntmps80
  generalize hw3 : (((w.alloc (.cells (ec x) 49)).alloc (.cells (e.map (Value.int .u8)).toArray 44)).alloc (.cells (ec Fe.z) 49)) = w3 at *
  go_wp2_with (first
    | ((with_reducible refine wpList_store_row (o := ⟨none, _, _, _, _, _⟩) rfl 49 (.tmp 5) (.tmp 7) rfl w4.heap.size (ec (Fe.num 1)) rfl rfl 49 _ HZ4.out ?_ ?_ ?_ ?_); exact i30; exact rfl; exact ec_one _)
    | (go_at_call 53; rw [show (((w.alloc (.cells (ec x) 49)).alloc (.cells (e.map (Value.int .u8)).toArray 44)).alloc (.cells #[.int .u64 0, .int .u64 0, .int .u64 0, .int .u64 0, .int .u64 0] 49)) = w3 from hw3]; refine (num_any w3 1 (by decide) (by decide)).mono ?_; rintro r w4 ⟨rfl, hb⟩; have HB4 := Lib.hid hb; have HZ4 : Hid ((w4.alloc (.cells #[.int .u64 0, .int .u64 0, .int .u64 0, .int .u64 0, .int .u64 0] 49)).heap[w4.heap.size]? = some (.cells (ec Fe.z) 49 (0, 0))) := heap_alloc_new w4 (.cells (ec Fe.z) 49); clear hb))
  have HB5 := Lib.hid (H4.out.trans (HB4.out.mono H4.out.size))
  have hgo4 : w.heap.size + 1 + 1 < w4.heap.size := Nat.lt_of_lt_of_le hgo HB4.out.size
  have PL : Hid (PLay w w4.heap.size n e 0 0 x (Fe.num 1) (w4.alloc (.cells (ec (Fe.num 1)) 49))) := by
    refine ⟨?_, ?_, ?_, ?_, ?_, ?_, ?_⟩
    · exact (Below.heap_alloc _ _ _ (by omega)).trans ((HB4.out.block _ (lt_of_block H1.out)).trans H1.out)
    · exact (Below.heap_alloc _ _ _ (by omega)).trans ((HB4.out.block _ H2.out.lt).trans H2.out)
    · exact (Below.heap_alloc _ _ _ (by omega)).trans ((HB4.out.block _ (lt_of_block H3.out)).trans H3.out)
    · exact heap_alloc_new w4 _
    · rw [Nat.pow_zero, Int.pow_succ, Int.pow_zero, Int.one_mul]; exact HX.out
    · rw [Nat.pow_zero, Nat.mod_one, Int.pow_zero]; exact Fe.Re.num (by decide) (by decide)
    · exact HB5.out.alloc HB5.out.size _
  clear H1 H2 H3 H4 hw3 HB4 HB5 hgo HX
  rw [World.setRow_alloc_new]
  generalize (w4.alloc (.cells (ec (Fe.num 1)) 49)) = w5 at *
  generalize w4.heap.size = go at *
  go_loopw [8] (fun i wr => ∃ (k : Nat) (a o : Fe.E), k ≤ 256 ∧ i = .int .i64 k ∧ Hid (PLay w go n e k k a o wr)) (fun i _ => 256 - (intOf i).toNat)
  case atStart => exact ⟨0, x, Fe.num 1, by omega, rfl, PL⟩
  case round =>
    clear PL
    obtain ⟨k, a, o, hk, rfl, PL⟩ := hrel
    by_cases hlt : k < 256
    · have c1 := PL.out.ee.cell (k / 8) (by rw [HE.out]; omega)
      have hpl := HPL.out (k / 8) (by rw [HE.out]; omega)
      rw [← hpl] at c1
      have hbit := Bt.bit_place 8 32 (Bt.low e) k (by decide) (by have := HNP.out; rwa [HE.out] at this)
      rw [HE.out] at c1
      have hp8 := Bt.place_lt 8 (Bt.low e) (8 * 32) (k / 8)
      have hb1 := Bt.bit_le (Bt.low e) k
      have hmore := pow_more n (Bt.low e) k
      have htw := pow_twice n k
      have ha := PL.out.aa
      have ho := PL.out.oo
      have HMORE := Lib.hid hmore
      have HTW := Lib.hid htw
      generalize Bt.place 8 (Bt.low e) (8 * 32) (k / 8) = v at *
      have hm := and1_8 ((v : Int) / 2 ^ (k % 8)) (Int.ediv_nonneg (by omega) (Int.le_of_lt (Int.pow_pos (by decide)))) (Int.le_trans (Int.ediv_le_self _ (by omega)) (by simp only [Nat.reducePow] at hp8; omega))
      have hvb : ((v : Int) / 2 ^ (k % 8)) % 2 = ((Bt.bit (Bt.low e) k : Nat) : Int) := by
        rw [← hbit]
        simp
      rw [hvb] at hm
      clear hbit hmore htw hpl hvb HPL HNP
      by_cases hb : Bt.bit (Bt.low e) k = 1
      · rw [if_pos hb] at HMORE
        rw [hb] at hm
        clear hb hb1 hp8
        go_wp2_with (first
          | ((with_reducible refine wpList_store_row (o := ⟨none, _, _, _, _, _⟩) rfl 49 (.tmp 2) (.tmp 24) rfl w.heap.size (ec (Fe.mul a a)) rfl rfl 49 _ HA7.out ?_ ?_ ?_ ?_); exact i30; exact rfl; exact ec_one _)
          | (go_at_call 72; refine (square_any _ a PL.out.ra.ok).mono ?_; rintro e1 w7 ⟨rfl, hb7⟩; have HB7 := Lib.hid hb7; have HA7 := Lib.hid ((hb7.block _ (lt_of_block PL6.out.aa)).trans PL6.out.aa); clear hb7)
          | ((with_reducible refine wpList_load_row (o := ⟨some 23, _, _, _, _, _⟩) rfl 49 (.tmp 2) rfl w.heap.size rfl 49 _ (0, 0) _ PL6.out.aa Tryd.underlying49 rfl ?_ ?_); exact i30)
          | ((with_reducible refine wpList_store_row (o := ⟨none, _, _, _, _, _⟩) rfl 49 (.tmp 5) (.tmp 22) rfl go (ec (Fe.mul o a)) rfl rfl 49 _ HO6.out ?_ ?_ ?_ ?_); exact i30; exact rfl; exact ec_one _)
          | (go_at_call 50; refine (mul_any _ o a PL.out.ro.ok PL.out.ra.ok).mono ?_; rintro e1 w6 ⟨rfl, hb6⟩; have HO6 := Lib.hid ((hb6.block _ (lt_of_block ho)).trans ho); have PL6 := Lib.hid (PL.out.setO (kn := k + 1) (o' := Fe.mul o a) hgo4 hb6 (by rw [HMORE.out]; exact PL.out.ro.mul PL.out.ra)); clear hb6)
          | ((with_reducible refine wpList_load_row (o := ⟨some 20, _, _, _, _, _⟩) rfl 49 (.tmp 5) rfl go rfl 49 _ (0, 0) _ ho Tryd.underlying49 rfl ?_ ?_); exact i30)
          | ((with_reducible refine wpList_load_row (o := ⟨some 21, _, _, _, _, _⟩) rfl 49 (.tmp 2) rfl w.heap.size rfl 49 _ (0, 0) _ ha Tryd.underlying49 rfl ?_ ?_); exact i30))
        have PL7 := Lib.hid (PL6.out.setA (kn := k + 1) (a' := Fe.mul a a) hgo4 HB7.out (by rw [HTW.out]; exact PL.out.ra.mul PL.out.ra))
        go_roundw
        case rel => exact ⟨k + 1, Fe.mul a a, Fe.mul o a, by omega, by go_num, PL7⟩
        case measure => simp [intOf]; omega
      · rw [if_neg hb] at HMORE
        have hb0 : Bt.bit (Bt.low e) k = 0 := by omega
        rw [hb0] at hm
        clear hb hb0 hb1 hp8
        go_wp2_with (first
          | ((with_reducible refine wpList_store_row (o := ⟨none, _, _, _, _, _⟩) rfl 49 (.tmp 2) (.tmp 24) rfl w.heap.size (ec (Fe.mul a a)) rfl rfl 49 _ HA7.out ?_ ?_ ?_ ?_); exact i30; exact rfl; exact ec_one _)
          | (go_at_call 72; refine (square_any _ a PL.out.ra.ok).mono ?_; rintro e1 w7 ⟨rfl, hb7⟩; have HB7 := Lib.hid hb7; have HA7 := Lib.hid ((hb7.block _ (lt_of_block ha)).trans ha); clear hb7)
          | ((with_reducible refine wpList_load_row (o := ⟨some 23, _, _, _, _, _⟩) rfl 49 (.tmp 2) rfl w.heap.size rfl 49 _ (0, 0) _ ha Tryd.underlying49 rfl ?_ ?_); exact i30))
        have PL7 := Lib.hid (PL.out.setA (kn := k + 1) (a' := Fe.mul a a) hgo4 HB7.out (by rw [HTW.out]; exact PL.out.ra.mul PL.out.ra))
        have PL8 : Hid (PLay w go n e (k + 1) (k + 1) (Fe.mul a a) o (w7.setRow w.heap.size (ec (Fe.mul a a)))) := ⟨PL7.out.aa, PL7.out.ee, PL7.out.zz, PL7.out.oo, PL7.out.ra, by rw [HMORE.out]; exact PL7.out.ro, PL7.out.bb⟩
        go_roundw
        case rel => exact ⟨k + 1, Fe.mul a a, o, by omega, by go_num, PL8⟩
        case measure => simp [intOf]; omega
    · have hk5 : ((k : Nat) : Int) = 256 := by omega
      rw [hk5]
      clear hk5
      obtain rfl : k = 256 := by omega
      have ho := PL.out.oo
      have hz := PL.out.zz
      have HR : Hid (Fe.Re o (n ^ Bt.low e)) := by
        have h1 := PL.out.ro
        have h2 := HNP.out
        rw [HE.out] at h2
        rwa [Nat.mod_eq_of_lt h2] at h1
      go_wp2_with (first
        | ((with_reducible refine wpList_load_row (o := ⟨some 26, _, _, _, _, _⟩) rfl 49 (.tmp 5) rfl go rfl 49 _ (0, 0) _ ho Tryd.underlying49 rfl ?_ ?_); exact i30)
        | ((with_reducible refine wpList_store_row (o := ⟨none, _, _, _, _, _⟩) rfl 49 (.tmp 4) (.tmp 26) rfl (w.heap.size + 1 + 1) (ec o) rfl rfl 49 _ hz ?_ ?_ ?_ ?_); exact i30; exact rfl; exact ec_one _))
      exact bodyPost_ret (results_cell_row Tryd.results80 _ _ (w.heap.size + 1 + 1) 49 _ (0, 0) _ rfl (setRow_heap wr (w.heap.size + 1 + 1) _ (ec o) 49 _ hz) Tryd.underlying49 rfl i30) rfl ⟨o, rfl, HR.out, below_setRow PL.out.bb (by omega) _⟩
end Go.Proofs.YtiinmdleechcgaaDoor
namespace Go.Proofs.YtiinmdleechcgaaDoor
open Go.RowKit
namespace Grow

/-- No two write one temporary; all are written in the frame; each waits for earlier ones alone; the last waits for all. -/
def fits2 (ops : Array Oper) (m n : Nat) : Bool :=
  ops.size == m + 1 && (((List.range m).all fun i => (match dstOf ops i with
    | some d => decide (d < n) && (List.range m).all fun j => j == i || dstOf ops j != some d
    | none => false) && (match ops[i]? with | some o => o.after.all fun e => decide (e.on < i) | none => false)) &&
   (match ops[m]? with | some o => (List.range m).all (fun i => o.after.any fun e => Region.binds .any e && e.on == i) && o.after.all (fun e => decide (e.on < m)) | none => false))
def free2 (ops : Array Oper) (m t : Nat) : Bool := (List.range m).all fun j => dstOf ops j != some t

def Hop2 (P : Program) (m : Nat) (ops : Array Oper) (specs : Nat → Spec) (Q : Exit → Act → World → Prop) (a0 : Act) (w0 : World) (i : Nat) (o : Oper) : Prop :=
  ∀ a w, Below w0.heap.size w0 w → a.tmps.size = a0.tmps.size → (∀ j d, deps .any ops o j d = true → (specs j).meets (a.eval (.tmp d)) w) → (∀ t, free2 ops m t = true → a.eval (.tmp t) = a0.eval (.tmp t)) →
    (Region.wanted o (yielded ops a.tmps) = true ∧ o.wp P a w (fun a' w' => ∃ v, a' = a.put o.dst v ∧ (specs i).meets v w' ∧ Below w.heap.size w w') Q) ∨ (Region.wanted o (yielded ops a.tmps) = false ∧ (specs i).meets undef w)
def Hops2 (P : Program) (m : Nat) (ops : Array Oper) (specs : Nat → Spec) (Q : Exit → Act → World → Prop) (a0 : Act) (w0 : World) : Nat → List Oper → Prop
  | _, [] => True
  | i, o :: r => Hop2 P m ops specs Q a0 w0 i o ∧ Hops2 P m ops specs Q a0 w0 (i + 1) r

section
variable {P : Program} {m : Nat} {ops : Array Oper} {Q : Exit → Act → World → Prop} {specs : Nat → Spec} {a0 : Act} {w0 : World}
theorem Hops2.get : ∀ {i : Nat} {l : List Oper}, Hops2 P m ops specs Q a0 w0 i l → ∀ (j : Nat) (o : Oper), l[j]? = some o → Hop2 P m ops specs Q a0 w0 (i + j) o
  | i, [], _, j, o, hj => by simp at hj
  | i, x :: r, h, 0, o, hj => by
    simp only [List.getElem?_cons_zero, Option.some.injEq] at hj
    subst hj; exact h.1
  | i, x :: r, h, j + 1, o, hj => by
    have := Hops2.get h.2 j o (by simpa using hj)
    rwa [show i + 1 + j = i + (j + 1) by omega] at this
theorem fits2_size {n : Nat} (h : fits2 ops m n = true) : ops.size = m + 1 := by
  unfold fits2 at h
  simp only [Bool.and_eq_true, beq_iff_eq] at h
  exact h.1
theorem fits2_dst {n : Nat} (h : fits2 ops m n = true) {i : Nat} {o : Oper} (hm : i < m) (hi : ops[i]? = some o) : ∃ d, o.dst = some d ∧ d < n ∧ (∀ j, j < m → j ≠ i → dstOf ops j ≠ some d) ∧ ∀ e ∈ o.after, e.on < i := by
  unfold fits2 at h
  simp only [Bool.and_eq_true] at h
  have h0 := h.2.1
  rw [List.all_eq_true] at h0
  have h1 := h0 i (List.mem_range.2 hm)
  simp only [Bool.and_eq_true, hi] at h1
  obtain ⟨h2, h3⟩ := h1
  have hd : dstOf ops i = o.dst := by simp [dstOf, hi]
  rw [hd] at h2
  cases hod : o.dst with
  | none => rw [hod] at h2; cases h2
  | some d =>
    rw [hod] at h2
    simp only [Bool.and_eq_true, decide_eq_true_eq, List.all_eq_true, List.mem_range] at h2
    refine ⟨d, rfl, h2.1, fun j hj hne => ?_, fun e he => ?_⟩
    · have := h2.2 j hj
      simp only [Bool.or_eq_true, beq_iff_eq, bne_iff_ne, ne_eq] at this
      rcases this with h | h
      · exact absurd h hne
      · exact h
    · rw [Array.all_eq_true_iff_forall_mem] at h3
      simpa using h3 e he
theorem fits2_last {n : Nat} (h : fits2 ops m n = true) {o : Oper} (hi : ops[m]? = some o) : (∀ i, i < m → ∃ e ∈ o.after, Region.binds .any e = true ∧ e.on = i) ∧ ∀ e ∈ o.after, e.on < m := by
  unfold fits2 at h
  simp only [Bool.and_eq_true] at h
  have h0 := h.2.2
  rw [hi] at h0
  simp only [Bool.and_eq_true] at h0
  obtain ⟨h1, h2⟩ := h0
  refine ⟨fun i hi => ?_, fun e he => ?_⟩
  · rw [List.all_eq_true] at h1
    have h3 := h1 i (List.mem_range.2 hi)
    rw [Array.any_eq_true'] at h3
    obtain ⟨e, he, heb⟩ := h3
    simp only [Bool.and_eq_true, beq_iff_eq] at heb
    exact ⟨e, he, heb.1, heb.2⟩
  · rw [Array.all_eq_true_iff_forall_mem] at h2
    simpa using h2 e he

structure Inv2 (m : Nat) (ops : Array Oper) (specs : Nat → Spec) (a0 : Act) (w0 : World) (listed : Array Bool) (a : Act) (w : World) : Prop where
  lsize : listed.size = ops.size
  below : Below w0.heap.size w0 w
  tsize : a.tmps.size = a0.tmps.size
  known : ∀ i d, i < m → dstOf ops i = some d → listed.getD i false = true → (specs i).meets (a.eval (.tmp d)) w
  rest : ∀ t, free2 ops m t = true → a.eval (.tmp t) = a0.eval (.tmp t)
  defers : a.defers = a0.defers
  last : listed.getD m false = false

theorem Inv2.step {listed : Array Bool} {a : Act} {w : World} (hf : fits2 ops m a0.tmps.size = true) (h : Inv2 m ops specs a0 w0 listed a w) {i : Nat} {o : Oper} (him : i < m) (hi : ops[i]? = some o) {v : Value} {w' : World}
    (hv : (specs i).meets v w') (hb : Below w.heap.size w w') : Inv2 m ops specs a0 w0 (listed.setIfInBounds i true) (a.put o.dst v) w' := by
  obtain ⟨d, hd, hdn, hne, -⟩ := fits2_dst hf him hi
  have hlt : i < ops.size := (Array.getElem?_eq_some_iff.1 hi).1
  have hdi : dstOf ops i = some d := by simp [dstOf, hi, hd]
  rw [hd]
  refine ⟨by simp [h.lsize], h.below.trans (hb.mono h.below.size), by simp [Act.put, h.tsize], ?_, ?_, by simp [Act.put, h.defers], ?_⟩
  · intro j e hjm hj hl
    by_cases hji : j = i
    · subst hji
      obtain rfl : d = e := Option.some.inj (hdi.symm.trans hj)
      rw [eval_put_eq (by rw [h.tsize]; exact hdn)]
      exact hv
    · have hde : d ≠ e := fun hh => hne j hjm hji (hh ▸ hj)
      rw [eval_put_ne hde]
      refine ((specs j).keeps (h.known j e hjm hj ?_) hb)
      simpa [Array.getElem?_setIfInBounds_ne (Ne.symm hji)] using hl
  · intro t ht
    have : d ≠ t := by
      intro hh
      subst hh
      unfold free2 at ht
      rw [List.all_eq_true] at ht
      have := ht i (List.mem_range.2 him)
      rw [hdi] at this
      simp at this
    rw [eval_put_ne this]
    exact h.rest t ht
  · simpa [Array.getElem?_setIfInBounds_ne (show i ≠ m by omega)] using h.last

theorem wpAny_all {md : Region.Mode} {listed : Array Bool} {a : Act} {w : World} (h : ∀ i, i < ops.size → listed.getD i false = true) (hs : listed.size = ops.size) (hq : Q .normal a w) : ∀ fuel, wpAny P md ops Q fuel listed a w := by
  have hr : Region.ready md ops listed = [] := by
    cases hr : Region.ready md ops listed with
    | nil => rfl
    | cons j r =>
      have hj : j ∈ Region.ready md ops listed := by rw [hr]; exact List.mem_cons_self
      obtain ⟨h0, o, ho, _⟩ := mem_ready.1 hj
      have hlt := (Array.getElem?_eq_some_iff.1 ho).1
      have h1 := h j hlt
      have hs' : j < listed.size := by omega
      simp [Array.getElem?_eq_getElem hs'] at h0 h1
      rw [h0] at h1; cases h1
  intro fuel
  cases fuel with
  | zero => exact ⟨hr, hq⟩
  | succ n => exact ⟨fun _ => hq, fun i hi => by rw [hr] at hi; cases hi⟩

theorem wpAny_tail (hf : fits2 ops m a0.tmps.size = true) (hops : Hops2 P m ops specs Q a0 w0 0 (ops.toList.take m))
    (hend : ∀ o a w, ops[m]? = some o → Below w0.heap.size w0 w → a.tmps.size = a0.tmps.size → (∀ i d, i < m → dstOf ops i = some d → (specs i).meets (a.eval (.tmp d)) w) → a.defers = a0.defers → (∀ t, free2 ops m t = true → a.eval (.tmp t) = a0.eval (.tmp t)) → Region.wanted o (yielded ops a.tmps) = true ∧ o.wp P a w (fun a' w' => Q .normal a' w') Q) :
    ∀ (fuel : Nat) (listed : Array Bool) (a : Act) (w : World), listed.toList.count false ≤ fuel → Inv2 m ops specs a0 w0 listed a w → wpAny P .any ops Q fuel listed a w := by
  have hsz := fits2_size hf
  intro fuel
  induction fuel with
  | zero =>
    intro listed a w hc h
    exfalso
    have hs : m < listed.size := by rw [h.lsize, hsz]; omega
    have hl0 : listed[m] = false := by have := h.last; simpa [Array.getElem?_eq_getElem hs] using this
    have hm : false ∈ listed.toList := by
      rw [Array.mem_toList_iff]
      exact Array.mem_of_getElem? (i := m) (by rw [Array.getElem?_eq_getElem hs, hl0])
    have := List.count_pos_iff.2 hm
    omega
  | succ fuel ih =>
    intro listed a w hc h
    refine ⟨fun hr => ?_, fun i hi => ?_⟩
    · exfalso
      have hall : ∀ n i, i < n → i < ops.size → listed.getD i false = true := by
        intro n
        induction n with
        | zero => intro i hi; omega
        | succ n ihn =>
          intro i hi hlt
          by_cases hin : i < n
          · exact ihn i hin hlt
          · obtain ⟨o, ho⟩ : ∃ o, ops[i]? = some o := ⟨_, Array.getElem?_eq_getElem hlt⟩
            have haf : ∀ e ∈ o.after, e.on < i := by
              by_cases him : i < m
              · obtain ⟨_, _, _, _, haf⟩ := fits2_dst hf him ho
                exact haf
              · obtain rfl : i = m := by omega
                exact (fits2_last hf ho).2
            cases hl : listed.getD i false with
            | true => rfl
            | false =>
              have hm : i ∈ Region.ready .any ops listed := by
                refine mem_ready.2 ⟨?_, o, ho, fun e he _ => ihn e.on (by have := haf e he; omega) (by have := haf e he; omega)⟩
                have hs : i < listed.size := by rw [h.lsize]; exact hlt
                simpa [Array.getElem?_eq_getElem hs] using hl
              rw [hr] at hm; cases hm
      have := hall (m + 1) m (Nat.lt_succ_self _) (by omega)
      rw [h.last] at this; cases this
    · obtain ⟨h0, o, ho, hall⟩ := mem_ready.1 hi
      have hs : i < listed.size := by rw [h.lsize]; exact (Array.getElem?_eq_some_iff.1 ho).1
      have hl0 : listed[i] = false := by simpa [Array.getElem?_eq_getElem hs] using h0
      have hcount : (listed.setIfInBounds i true).toList.count false ≤ fuel := by
        have hm : false ∈ listed.toList := by
          rw [Array.mem_toList_iff]
          exact Array.mem_of_getElem? (i := i) (by rw [Array.getElem?_eq_getElem hs, hl0])
        have hp := List.count_pos_iff.2 hm
        rw [Array.toList_setIfInBounds, List.count_set (by simpa using hs)]
        rw [if_pos (by simp [hl0]), if_neg (by simp)]
        omega
      by_cases him : i < m
      · have hhop := hops.get i o (by rw [List.getElem?_take_of_lt him]; simpa using ho)
        rw [Nat.zero_add] at hhop
        rcases hhop a w h.below h.tsize (fun j d hd => by
          unfold deps at hd
          simp only [Bool.and_eq_true, beq_iff_eq] at hd
          obtain ⟨hd1, hd2⟩ := hd
          rw [Array.any_eq_true'] at hd1
          obtain ⟨e, he, heb⟩ := hd1
          simp only [Bool.and_eq_true, beq_iff_eq] at heb
          obtain ⟨hb, rfl⟩ := heb
          obtain ⟨_, _, _, _, haf⟩ := fits2_dst hf him ho
          exact h.known _ d (by have := haf e he; omega) hd2 (hall e he hb)) h.rest with ⟨hw, hwp⟩ | ⟨hw, hm⟩
        · unfold wpOp
          simp only [ho, hw, if_true]
          refine Or.inl (Oper.wp_mono ?_ hwp)
          rintro a' w' ⟨v, rfl, hv, hb⟩
          exact ih _ _ _ hcount (h.step hf him ho hv hb)
        · unfold wpOp
          simp only [ho, hw, Bool.false_eq_true, if_false]
          exact ih _ _ _ hcount (h.step hf him ho hm (Below.refl _ _))
      · have him' : i = m := by
          have := (Array.getElem?_eq_some_iff.1 ho).1
          omega
        subst him'
        have hl : ∀ j, j < i → listed.getD j false = true := by
          intro j hj
          obtain ⟨e, he, hb, hon⟩ := (fits2_last hf ho).1 j hj
          rw [← hon]
          exact hall e he hb
        obtain ⟨hw, hwp⟩ := hend o a w ho h.below h.tsize (fun j d hj hd => h.known j d hj hd (hl j hj)) h.defers h.rest
        unfold wpOp
        simp only [ho, hw, if_true]
        refine Or.inl (Oper.wp_mono ?_ hwp)
        intro a' w' hq
        refine wpAny_all (fun j hj => ?_) (by simp [h.lsize]) hq fuel
        by_cases hji : j = i
        · subst hji
          simp [Array.getElem?_setIfInBounds_self_of_lt hs]
        · have := hl j (by omega)
          simpa [Array.getElem?_setIfInBounds_ne (Ne.symm hji)] using this

theorem region_tail {id : Nat} (hm : P.follows .mixedOrders = true) (m : Nat) (specs : Nat → Spec) (hf : fits2 ops m a0.tmps.size = true) (hops : Hops2 P m ops specs Q a0 w0 0 (ops.toList.take m))
    (hend : ∀ o a w, ops[m]? = some o → Below w0.heap.size w0 w → a.tmps.size = a0.tmps.size → (∀ i d, i < m → dstOf ops i = some d → (specs i).meets (a.eval (.tmp d)) w) → a.defers = a0.defers → (∀ t, free2 ops m t = true → a.eval (.tmp t) = a0.eval (.tmp t)) → Region.wanted o (yielded ops a.tmps) = true ∧ o.wp P a w (fun a' w' => Q .normal a' w') Q) :
    (Code.region id ops true).wp P Q a0 w0 := by
  have hsz := fits2_size hf
  refine wp_region_any hm (wpAny_tail hf hops hend _ _ _ _ ?_ ?_)
  · simp
  · refine ⟨by simp, ⟨rfl, rfl, rfl, Nat.le_refl _, fun _ _ => rfl⟩, rfl, ?_, fun _ _ => rfl, rfl, ?_⟩
    · intro i d _ _ hl
      simp [Array.getElem?_replicate] at hl
      split at hl <;> simp at hl
    · simp [hsz]
end
end Grow
end Go.Proofs.YtiinmdleechcgaaDoor
