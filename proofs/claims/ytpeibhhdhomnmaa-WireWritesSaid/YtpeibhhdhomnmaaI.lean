/- A reader: a number up to a bound, bytes, a flag, a count; whether all was read; a new reader. -/
import Derived.Test.YtpeibhhdhomnmaaH
namespace Go.Proofs.Ytpeibhhdhomnmaa
open Go.RowKit
/-- The next number, if it is no greater than a bound. -/
def upS (st : Option (List UInt8)) (k most : Int) : Option (Nat × List UInt8) := (numS st k).bind fun x => if most < 0 ∨ most < x.1 then none else some x
set_option maxHeartbeats 2000000 in
theorem upto_any (w : World) (B : Nat) (p : Option Addr) (st : Option (List UInt8)) (k most : Int) (hmost : most < 9223372036854775808) (h : Rp w B p st) : Calls Try.prog 26 #[.pointer p, .int .i64 k, .int .i64 most] w (RetN w B p .i64 (upS st k most)) := by
  have hN := rnum_rd w B p st k h
  clear h
  unfold upS
  cases hn : numS st k with
  | none =>
    rw [hn] at hN
    have hN2 : Calls Try.prog 16 #[.pointer p, .int .i64 k] w fun e w' => e = .returned (.int .u64 0) ∧ Rp w' B p none ∧ Tch w p w' := hN
    rw [Option.bind_none]
    show Calls _ _ _ _ fun e w' => e = .returned (.int .i64 0) ∧ Rp w' B p none ∧ Tch w p w'
    clear hN hn
    by_cases h0 : most < 0
    · go_enter Try.func26, Try.ntmps26
      go_wp2_with (first
        | (go_at_call 16; refine hN2.mono ?_; rintro e w1 ⟨rfl, hR1, ht1⟩; have hF := fail_any w1 B p none hR1)
        | (go_at_call 24; refine hF.mono ?_; rintro e w2 ⟨rfl, hR2, ht2⟩))
      go_ret
      exact ⟨rfl, hR2, ht1.trans ht2⟩
    · have hw : IntKind.u64.wrap most = most := by rw [IntKind.wrap_u64]; omega
      go_enter Try.func26, Try.ntmps26
      go_wp2_with (go_at_call 16; refine hN2.mono ?_; rintro e w1 ⟨rfl, hR1, ht1⟩)
      go_ret
      exact ⟨rfl, hR1, ht1⟩
  | some x =>
    obtain ⟨x, r⟩ := x
    rw [hn] at hN
    have hN2 : Calls Try.prog 16 #[.pointer p, .int .i64 k] w fun e w' => e = .returned (.int .u64 (x : Nat)) ∧ Rp w' B p (some r) ∧ Tch w p w' := hN
    rw [Option.bind_some]
    clear hN hn
    by_cases h0 : most < 0
    · rw [if_pos (.inl h0)]
      show Calls _ _ _ _ fun e w' => e = .returned (.int .i64 0) ∧ Rp w' B p none ∧ Tch w p w'
      go_enter Try.func26, Try.ntmps26
      go_wp2_with (first
        | (go_at_call 16; refine hN2.mono ?_; rintro e w1 ⟨rfl, hR1, ht1⟩; have hF := fail_any w1 B p _ hR1)
        | (go_at_call 24; refine hF.mono ?_; rintro e w2 ⟨rfl, hR2, ht2⟩))
      go_ret
      exact ⟨rfl, hR2, ht1.trans ht2⟩
    · have hw : IntKind.u64.wrap most = most := by rw [IntKind.wrap_u64]; omega
      by_cases h1 : most < x
      · rw [if_pos (.inr h1)]
        show Calls _ _ _ _ fun e w' => e = .returned (.int .i64 0) ∧ Rp w' B p none ∧ Tch w p w'
        go_enter Try.func26, Try.ntmps26
        go_wp2_with (first
          | (go_at_call 16; refine hN2.mono ?_; rintro e w1 ⟨rfl, hR1, ht1⟩; have hF := fail_any w1 B p _ hR1)
          | (go_at_call 24; refine hF.mono ?_; rintro e w2 ⟨rfl, hR2, ht2⟩))
        go_ret
        exact ⟨rfl, hR2, ht1.trans ht2⟩
      · rw [if_neg (by omega)]
        show Calls _ _ _ _ fun e w' => e = .returned (.int .i64 (x : Nat)) ∧ Rp w' B p (some r) ∧ Tch w p w'
        have hw2 : IntKind.i64.wrap (x : Int) = (x : Int) := by simp [IntKind.wrap, IntKind.bits, IntKind.signed]; omega
        go_enter Try.func26, Try.ntmps26
        go_wp2_with (go_at_call 16; refine hN2.mono ?_; rintro e w1 ⟨rfl, hR1, ht1⟩)
        go_ret
        exact ⟨rfl, hR1, ht1⟩
/-- The next bytes with their length ahead. -/
def byS (st : Option (List UInt8)) (most : Int) : Option (List UInt8 × List UInt8) := (upS st 4 most).bind fun x => tkS (some x.2) x.1
theorem tkS_none (n : Int) : tkS none n = none := rfl
set_option maxHeartbeats 2000000 in
theorem rbytes_rd (w : World) (B : Nat) (p : Option Addr) (st : Option (List UInt8)) (most : Int) (hmost : most < 9223372036854775808) (h : Rp w B p st) : Calls Try.prog 17 #[.pointer p, .int .i64 most] w (RetB w B p (byS st most)) := by
  have hN := upto_any w B p st 4 most hmost h
  clear h
  have hN2 : Calls Try.prog 26 #[.pointer p, .int .i64 4, .int .i64 most] w fun e w' => ∃ n : Int, e = .returned (.int .i64 n) ∧ Hid (∀ f, RetB w' B p (tkS ((upS st 4 most).map (·.2)) n) f = RetB w' B p (byS st most) f) ∧ Rp w' B p ((upS st 4 most).map (·.2)) ∧ Tch w p w' := by
    refine hN.mono fun e w' ⟨h1, h2, h3⟩ => ⟨_, h1, ?_, h2, h3⟩
    intro f
    unfold byS
    cases upS st 4 most <;> rfl
  generalize byS st most = R at *
  generalize (upS st 4 most).map (·.2) = st' at *
  clear hN
  go_enter Try.func17, Try.ntmps17
  go_wp2_with (first
    | (go_at_call 26; refine hN2.mono ?_; rintro e w1 ⟨n, rfl, HE, hR1, ht1⟩; have hT := take_any w1 B p st' n hR1)
    | (go_at_call 25; refine hT.mono ?_; intro e w2 hX; rw [HE.out] at hX; obtain ⟨ao, cap, rfl, hl, hR2, ht2⟩ := hX))
  go_ret
  exact ⟨ao, cap, rfl, hl, hR2, ht1.trans ht2⟩
set_option maxHeartbeats 2000000 in
theorem rflag_rd (w : World) (B : Nat) (p : Option Addr) (st : Option (List UInt8)) (h : Rp w B p st) : Calls Try.prog 18 #[.pointer p] w fun e w' => e = .returned (.bool ((((upS st 1 1).map (·.1)).getD 0 : Nat) == 1)) ∧ Rp w' B p ((upS st 1 1).map (·.2)) ∧ Tch w p w' := by
  have hN := upto_any w B p st 1 1 (by decide) h
  unfold RetN at hN
  clear h
  generalize (upS st 1 1).map (·.2) = st' at *
  generalize ((upS st 1 1).map (·.1)).getD 0 = x at *
  go_enter Try.func18, Try.ntmps18
  go_wp2_with (go_at_call 26; refine hN.mono ?_; rintro e w1 ⟨rfl, hR1, ht1⟩)
  go_ret
  refine ⟨?_, hR1, ht1⟩
  by_cases e : x = 1
  · subst e; rfl
  · have : ¬ (x : Int) = 1 := by omega
    rw [beq_eq_false_iff_ne.2 this, beq_eq_false_iff_ne.2 e]
    rfl
set_option maxHeartbeats 2000000 in
theorem rcount_rd (w : World) (B : Nat) (p : Option Addr) (st : Option (List UInt8)) (most : Int) (hmost : most < 9223372036854775808) (h : Rp w B p st) : Calls Try.prog 22 #[.pointer p, .int .i64 most] w (RetN w B p .i64 (upS st 2 most)) := by
  have hN := upto_any w B p st 2 most hmost h
  unfold RetN at *
  clear h
  generalize (upS st 2 most).map (·.2) = st' at *
  generalize ((upS st 2 most).map (·.1)).getD 0 = x at *
  go_enter Try.func22, Try.ntmps22
  go_wp2_with (go_at_call 26; refine hN.mono ?_; rintro e w1 ⟨rfl, hR1, ht1⟩)
  go_ret
  exact ⟨rfl, hR1, ht1⟩
set_option maxHeartbeats 2000000 in
theorem end_any (w : World) (B : Nat) (p : Option Addr) (st : Option (List UInt8)) (h : Rp w B p st) : Calls Try.prog 19 #[.pointer p] w fun e w' => e = .returned (.bool (decide (st = some []))) ∧ w' = w := by
  have hb := bad_any w B p st h
  cases st with
  | none =>
    go_enter Try.func19, Try.ntmps19
    go_wp2_with (go_at_call 20; refine hb.mono ?_; rintro e w1 ⟨rfl, rfl⟩)
    go_ret
    exact ⟨rfl, rfl⟩
  | some l =>
    rcases h with ⟨-, h⟩ | ⟨b, rfl, hB, v, l', bad, hrow, ⟨ao, cap, rfl, -, -⟩, hst⟩
    · cases h
    · have c0 : w.cell? ⟨b, 0, none⟩ = some (.slice ao l'.length cap) := by rw [cell_of_row _ _ _ _ _ _ hrow]; rfl
      cases bad with
      | true => cases hst
      | false =>
        obtain rfl : l = l' := Option.some.inj hst
        have hb2 : Calls Try.prog 20 #[.pointer (some ⟨b, 0, none⟩)] w fun e w' => e = .returned (.bool false) ∧ w' = w := hb
        have hd : decide (some l = some []) = decide (l.length = 0) := by cases l <;> simp
        rw [hd]
        clear hb hst hrow hd
        generalize l.length = n at *
        go_enter Try.func19, Try.ntmps19
        go_wp2_with (go_at_call 20; refine hb2.mono ?_; rintro e w1 ⟨rfl, rfl⟩)
        go_ret
        refine ⟨?_, rfl⟩
        cases n <;> simp
        omega
set_option maxHeartbeats 2000000 in
/-- A new reader. -/
theorem read_any (ao : Option Addr) (cap : Nat) (P : List UInt8) (w : World) (h : Byt w ao P) (hP : P.length ≤ 1048576) :
    Calls Try.prog 15 #[.slice ao P.length cap] w fun e w' => ∃ b, e = .returned (.pointer (some ⟨b, 0, none⟩)) ∧ Rd w' w.heap.size b (some P) ∧ Below w.heap.size w w' := by
  have hc := clone_any ao cap P w h hP
  have HP := Lib.hid h
  clear h
  generalize hn : P.length = n at *
  have HN := Lib.hid hn
  clear hn
  go_enter Try.func15, Try.ntmps15
  go_wp2_with (go_at_call 23; refine hc.mono ?_; rintro e w1 ⟨v1, rfl, hown, hb⟩; obtain ⟨vo, vc, hv, -⟩ := own_byt hown; rw [HN.out] at hv; subst hv)
  go_ret
  obtain ⟨hl, h2⟩ := hown
  have hb2 := hb.alloc hb.size (.cells #[.slice vo n vc, .bool false] 50)
  refine ⟨_, rfl, ⟨hb.size, .slice vo n vc, P, false, heap_alloc_new w1 _, ?_, rfl⟩, hb2⟩
  rcases h2 with ⟨h5, h0⟩ | ⟨g, cap', cur, h5, hg, hc, h1, -, h3, h4⟩
  · obtain rfl : P = [] := List.length_eq_zero_iff.1 h0
    exact ⟨none, 0, h5, Nat.le_refl _, lies_nil _ _ _⟩
  · refine ⟨_, cap', h5, h1, ⟨.inr ⟨g, 0, cur, rfl, hg, (Below.heap_alloc _ _ _ (Array.getElem?_eq_some_iff.1 hc).1).trans hc, fun j hj => ?_⟩⟩⟩
    rw [Nat.zero_add]
    have h5 : cur[j]? = (cur.toList.take (P.length * 1))[j]? := by rw [List.getElem?_take_of_lt (by omega), Array.getElem?_toList]
    rw [h5, h4, Lib.byteCells, List.getElem?_map, List.getElem?_eq_getElem hj, List.getD_eq_getElem?_getD, List.getElem?_eq_getElem hj]
    rfl
end Go.Proofs.Ytpeibhhdhomnmaa
