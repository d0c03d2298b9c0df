/- The walks of appendLow and keyOf: bytes behind what is owned; 32 bytes of any. -/
import Derived.Test.YticoefnojgaplaaB
import Derived.Great.BuildSlice
namespace Go.Proofs.Yticoefnojgaplaa
open Go.RowKit

/-- Bytes that were made since a place. -/
def Own (base : Nat) (w : World) (v : Value) (xs : List Int) : Prop := w.ownsRow base 5 1 v xs.length (xs.map (Value.int .u8)) ∧ (∀ x ∈ xs, W8 x) ∧ base ≤ w.heap.size
theorem info5 : (Try.prog.info? 5).map (fun i => (i.zero, i.size, i.bytes)) = some (some (.int .u8 0), 1, 1) := by kernel_rfl
theorem info_parts {t : TypeId} {z : Value} {s b : Nat} (h : (Try.prog.info? t).map (fun i => (i.zero, i.size, i.bytes)) = some (some z, s, b)) : ∃ i, Try.prog.info? t = some i ∧ i.zero = some z ∧ i.size = s ∧ i.bytes = b := by
  cases hi : Try.prog.info? t with
  | none => rw [hi] at h; cases h
  | some i =>
    rw [hi] at h
    simp only [Option.map_some, Option.some.injEq, Prod.mk.injEq] at h
    exact ⟨i, rfl, h.1, h.2.1, h.2.2⟩
theorem below_grown {base : Nat} {w0 w w' : World} {v : Value} {e : TypeId} {k : Nat} {xs : List Value} (hb : Below base w0 w) (h : w.ownsRow base e 1 v k xs) (hg : w.grownBy w' v.ownBlock) (hle : base ≤ w.heap.size) : Below base w0 w' := by
  refine hb.trans ⟨hg.os, hg.tape, hg.output, hg.size, fun i hi => hg.block i (Nat.lt_of_lt_of_le hi hle) ?_⟩
  rcases h.2 with ⟨rfl, _⟩ | ⟨g, cap, cur, rfl, hg', _⟩
  · simp [Value.ownBlock]
  · intro hh
    simp only [Value.ownBlock, Option.some.injEq] at hh
    omega
theorem Own.nil (w : World) {base : Nat} (h : base ≤ w.heap.size) : Own base w (.slice none 0 0) [] := ⟨⟨rfl, Or.inl ⟨rfl, rfl⟩⟩, fun _ h => (List.not_mem_nil h).elim, h⟩
theorem Own.slc {base : Nat} {w : World} {v : Value} {xs : List Int} (h : Own base w v xs) : Slc w v xs := by
  rcases h.1.2 with ⟨hv, h0⟩ | ⟨g, cap, cur, h1, h2, h3, h4, h5, h6, h7⟩
  · exact ⟨none, 0, by rw [h0]; exact hv, by rw [h0]; exact Nat.le_refl _, h.2.1, Or.inl (List.eq_nil_of_length_eq_zero h0)⟩
  · refine ⟨_, cap, h1, h4, h.2.1, Or.inr ⟨g, 0, rfl, lt_of_block h3, fun j hj => ?_⟩⟩
    rw [Nat.zero_add, cell_of_row w g j _ 5 (0, 0) h3]
    have e1 : (cur.toList.take (xs.length * 1))[j]? = some (.int .u8 (xs.getD j 0)) := by rw [h7]; simp [hj]
    rw [List.getElem?_take_of_lt (by omega)] at e1
    simpa using e1
section
variable {w : World} {ops : Array Oper} {rest : List Oper} {o : Oper} {a : Act} {Q : Exit → Act → World → Prop}
/-- A slice of one byte. -/
theorem build_byte (hg : o.guard = none) (x : Operand) (ho : o.op = .buildSlice 22 1 #[(0, x)]) (y : Int) (hx : a.eval x = .int .u8 y)
    (h : wpList Try.prog ops Q rest (a.put o.dst (.slice (some ⟨w.heap.size, 0, none⟩) 1 1)) (w.alloc (.cells #[.int .u8 y] 5))) : wpList Try.prog ops Q (o :: rest) a w := by
  obtain ⟨i0, hi, hz0, hz1, hz2⟩ := info_parts info5
  refine wpList_buildSlice hg 22 5 1 _ ho #[.int .u8 y] i0 (.int .u8 0) Try.underlying22 hi hz0 (by rw [hz1]; decide) (by rw [hz1]; decide) ?_ h
  rw [hz1]
  simp only [List.map_toArray, List.map_cons, List.map_nil, hx]
  kernel_rfl
/-- One byte. -/
theorem append_byte (hgd : o.guard = none) (s x : Operand)
    (ho : o.op = .call { callee := .builtin .append, args := #[s, x], argTypes := #[22, 22] })
    (base : Nat) (v : Value) (xs : List Int) (hs : a.eval s = v) (hown : Own base w v xs) (y : Int) (hy : W8 y) (hx : a.eval x = .slice (some ⟨w.heap.size, 0, none⟩) 1 1) (hlen : xs.length ≤ 10000000000000) (w0 : World) (hb : Below base w0 w)
    (h : ∀ v' w', Own base w' v' (xs ++ [y]) → Below base w0 w' → wpList Try.prog ops Q rest (a.put o.dst v') w') :
    wpList Try.prog ops Q (o :: rest) a (w.alloc (.cells #[.int .u8 y] 5)) := by
  obtain ⟨i0, hi, hz0, hz1, hz2⟩ := info_parts info5
  have hsz : base ≤ (w.alloc (.cells #[.int .u8 y] 5)).heap.size := by have := hown.2.2; simp; omega
  refine wpList_append_own_at (w.alloc (.cells #[.int .u8 y] 5)) hgd s x 22 ho base 5 i0 (.int .u8 0) 1 1 Try.underlying22 hi hz0 hz1 hz2 rfl (by decide) v xs.length (xs.map (Value.int .u8)) hs (hown.1.alloc _) ⟨w.heap.size, 0, none⟩ 1 1 [.int .u8 y] hx rfl (cell_one_new w _ _) (by intro u hu; simp at hu; subst hu; rfl) (by unfold maxLen; omega) (by omega) hsz ?_
  intro v' w' h1 h2 _ _
  have hb2 := below_grown (hb.alloc hown.2.2 _) (hown.1.alloc _) h2 hsz
  refine h v' w' ⟨by rw [List.length_append, List.map_append]; exact h1, ?_, Nat.le_trans hsz h2.size⟩ hb2
  intro z hz
  rcases List.mem_append.1 hz with hz | hz
  · exact hown.2.1 z hz
  · rw [List.mem_singleton] at hz; rw [hz]; exact hy
end
theorem Own.form {base : Nat} {w : World} {v : Value} {xs : List Int} (h : Own base w v xs) : ∃ a c, v = .slice a xs.length c := slc_form h.slc

set_option maxRecDepth 100000 in
set_option maxHeartbeats 400000 in
theorem append_low (w : World) (base : Nat) (v : Value) (xs : List Int) (hown : Own base w v xs) (hlen : xs.length ≤ 1000000) (x : Nat) (hx : x < 2 ^ 64) (sz : Nat) (hs : sz ≤ 8) :
    Calls Try.prog 31 #[v, .int .u64 x, .int .i64 sz] w fun e w' => ∃ v', e = .returned v' ∧ Own base w' v' (xs ++ Bt.le x sz) ∧ Below base w w' := by
  have HO := Lib.hid hown
  clear hown
  go_enter Try.func31, Try.ntmps31
  go_wp2_with fail
  go_loopw [0, 9] (fun u i wr => ∃ k : Nat, k ≤ sz ∧ i = .int .i64 k ∧ Hid (Own base wr u (xs ++ Bt.le x k)) ∧ Hid (Below base w wr)) (fun _ i _ => sz - (intOf i).toNat)
  case atStart => exact ⟨0, Nat.zero_le _, rfl, by show Own _ _ _ _; rw [show Bt.le x 0 = [] from rfl, List.append_nil]; exact HO.out, Below.refl _ _⟩
  case round =>
    clear HO
    obtain ⟨k, hk, rfl, OW, BW⟩ := hrel
    obtain ⟨ad, c, rfl⟩ := OW.out.form
    by_cases hlt : k < sz
    · have hl : (xs ++ Bt.le x k).length ≤ 10000000 := by rw [List.length_append, Bt.le_length]; omega
      have HL := Lib.hid hl
      have hmore : xs ++ Bt.le x k ++ [((x / 2 ^ (8 * k) % 2 ^ 8 : Nat) : Int)] = xs ++ Bt.le x (k + 1) := by rw [Bt.le_more, List.append_assoc]
      have HMORE := Lib.hid hmore
      have h8 : W8 ((x / 2 ^ (8 * k) % 2 ^ 8 : Nat) : Int) := by
        have := Nat.mod_lt (x / 2 ^ (8 * k)) (show 0 < 2 ^ 8 by decide)
        unfold W8; omega
      have H8 := Lib.hid h8
      have hcast : (x : Int) / 2 ^ (8 * k) % 256 = ((x / 2 ^ (8 * k) % 2 ^ 8 : Nat) : Int) := by simp
      have hq0 : 0 ≤ (x : Int) / 2 ^ (8 * k) := Int.ediv_nonneg (by omega) (Int.le_of_lt (Int.pow_pos (by decide)))
      have hq1 : (x : Int) / 2 ^ (8 * k) ≤ 18446744073709551615 := Int.le_trans (Int.ediv_le_self _ (by omega)) (by simp only [Nat.reducePow] at hx; omega)
      clear hl hmore h8
      generalize xs ++ Bt.le x k = ys at *
      generalize hq : (x : Int) / 2 ^ (8 * k) = q at *
      have HCAST := Lib.hid hcast
      clear hcast
      go_wp2_with (first
        | ((with_reducible refine append_byte (o := ⟨some 19, _, _, _, _, _⟩) rfl (.tmp 12) (.tmp 18) rfl base (.slice ad ys.length c) ys rfl OW.out (q % 256) ?_ rfl ?_ w BW.out ?_); exact (by rw [HCAST.out]; exact H8.out); exact (Nat.le_trans HL.out (by decide)); intro v' w' hv hb; have HV := Lib.hid hv; have HB := Lib.hid hb; clear hv hb)
        | (with_reducible refine build_byte (o := ⟨some 18, _, _, _, _, _⟩) rfl (.tmp 17) rfl (q % 256) rfl ?_))
      go_roundw
      case rel => exact ⟨k + 1, by omega, by go_num, by rw [← HMORE.out, ← HCAST.out]; exact HV, HB⟩
      case measure => simp [intOf]; omega
    · obtain rfl : k = sz := by omega
      go_wp2
      go_ret
      exact ⟨_, rfl, OW.out, BW.out⟩
end Go.Proofs.Yticoefnojgaplaa
