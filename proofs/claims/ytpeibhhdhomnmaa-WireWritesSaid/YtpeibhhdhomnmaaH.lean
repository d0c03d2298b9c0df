/- A reader: the next number. -/
import Derived.Test.YtpeibhhdhomnmaaG
import Derived.Laws.Bits64b
namespace Go.Proofs.Ytpeibhhdhomnmaa
open Go.RowKit
/-- The next number, and what is left behind it. -/
def numS (st : Option (List UInt8)) (k : Int) : Option (Nat × List UInt8) := if 8 < k then none else (tkS st k).map fun x => (num x.1, x.2)
/-- What a call that hands back a number leaves. -/
def RetN (w : World) (B : Nat) (p : Option Addr) (kind : IntKind) (r : Option (Nat × List UInt8)) (e : Ending) (w' : World) : Prop :=
  e = .returned (.int kind ((r.map (·.1)).getD 0 : Nat)) ∧ Rp w' B p (r.map (·.2)) ∧ Tch w p w'
theorem tkS_len {st : Option (List UInt8)} {n : Int} {q r : List UInt8} (h : tkS st n = some (q, r)) : (q.length : Int) = n := by
  unfold tkS at h
  cases st with
  | none => cases h
  | some l =>
    rw [Option.bind_some] at h
    split at h
    · simp only [Option.some.injEq, Prod.mk.injEq] at h
      obtain ⟨rfl, -⟩ := h
      rw [List.length_take]
      omega
    · cases h
set_option maxHeartbeats 2000000 in
theorem rnum_rd (w : World) (B : Nat) (p : Option Addr) (st : Option (List UInt8)) (k : Int) (h : Rp w B p st) : Calls Try.prog 16 #[.pointer p, .int .i64 k] w (RetN w B p .u64 (numS st k)) := by
  have hF := fail_any w B p st h
  have hT := take_any w B p st k h
  clear h
  unfold numS
  by_cases hk : 8 < k
  · rw [if_pos hk]
    go_enter Try.func16, Try.ntmps16
    go_wp2_with (go_at_call 24; refine hF.mono ?_; rintro e w1 ⟨rfl, hR1, ht1⟩)
    go_ret
    exact ⟨rfl, hR1, ht1⟩
  · rw [if_neg hk]
    have hq : (((tkS st k).map (·.1)).getD []).length ≤ 8 := by
      cases ht : tkS st k with
      | none => simp
      | some x =>
        have := tkS_len (q := x.1) (r := x.2) ht
        simp only [Option.map_some, Option.getD_some]
        omega
    have hT2 : Calls Try.prog 25 #[.pointer p, .int .i64 k] w fun e w' => ∃ ao cap, e = .returned (.slice ao (((tkS st k).map (·.1)).getD []).length cap) ∧ Hid (Byt w' ao (((tkS st k).map (·.1)).getD []) ∧ Rp w' B p ((tkS st k).map (·.2)) ∧ Tch w p w') :=
      hT.mono fun e w' ⟨ao, cap, h1, h2, h3, h4⟩ => ⟨ao, cap, h1, h2.byt, h3, h4⟩
    have hnum : ((((tkS st k).map fun x => (num x.1, x.2)).map (·.1)).getD 0) = num (((tkS st k).map (·.1)).getD []) := by
      cases tkS st k <;> rfl
    have hsnd : (((tkS st k).map fun x => (num x.1, x.2)).map (·.2)) = ((tkS st k).map (·.2)) := by
      cases tkS st k <;> rfl
    unfold RetN
    rw [hnum, hsnd]
    clear hnum hsnd hT hF
    generalize ((tkS st k).map (·.1)).getD [] = q at *
    generalize (tkS st k).map (·.2) = st' at *
    obtain ⟨L, hL⟩ : ∃ L, L = q.length := ⟨_, rfl⟩
    rw [← hL] at hT2 hq
    have HL := Lib.hid hL
    clear hL
    go_enter Try.func16, Try.ntmps16
    go_wp2_with (go_at_call 25; refine hT2.mono ?_; rintro e w1 ⟨ao, cap, rfl, HX⟩)
    clear hT2
    go_loopw [5, 7, 16] (fun a b c wr => ∃ (j : Nat), a = .int .u64 (num (q.take j) : Nat) ∧ c = .int .i64 j ∧ j ≤ L ∧ wr = w1)
      (fun _ _ c _ => L - (intOf c).toNat)
    case atStart => exact ⟨0, rfl, rfl, Nat.zero_le _, rfl⟩
    case round =>
      obtain ⟨j, rfl, rfl, hj, rfl⟩ := hrel
      by_cases hjL : j < L
      · have hjq : j < q.length := by rw [← HL.out]; exact hjL
        obtain ⟨b, off, rfl, hb, hc⟩ : ∃ b off, ao = some ⟨b, off, none⟩ ∧ b < wr.heap.size ∧ wr.cell? ⟨b, off + j, none⟩ = some (.int .u8 (q.getD j 0).toNat) := by
          rcases HX.out.1.at_ with h | ⟨b, off, h1, h2, h3⟩
          · rw [h] at hjq; exact absurd hjq (Nat.not_lt_zero _)
          · exact ⟨b, off, h1, h2, h3 j hjq⟩
        have hstep : num (q.take (j + 1)) = num (q.take j) * 256 + (q.getD j 0).toNat := by
          rw [List.take_add_one, List.getElem?_eq_getElem hjq, Option.toList_some, num_snoc, List.getD_eq_getElem?_getD, List.getElem?_eq_getElem hjq]
          rfl
        have hX : num (q.take j) < 72057594037927936 := by
          refine Nat.lt_of_lt_of_le (num_lt _) ?_
          rw [List.length_take]
          exact Nat.le_trans (Nat.pow_le_pow_right (j := 7) (by decide) (by omega)) (Nat.le_refl _)
        have hy := (q.getD j 0).toNat_lt
        generalize num (q.take j) = X at *
        generalize (q.getD j 0).toNat = y at *
        have hw : IntKind.u64.wrap ((X : Int) * 256) = ((X * 256 : Nat) : Int) := by rw [IntKind.wrap_u64]; omega
        have hw2 : IntKind.u64.wrap (y : Int) = (y : Int) := by rw [IntKind.wrap_u64]; omega
        have hor :  bits .or .u64 ((X * 256 : Nat) : Int) (y : Int) = ((X * 256 + y : Nat) : Int) := by
          rw [bits_or_u64_nat _ _ (by omega) (by omega)]
          have h := Nat.two_pow_add_eq_or_of_lt (i := 8) (b := y) (by omega) X
          rw [Nat.mul_comm X 256]
          exact congrArg Nat.cast h.symm
        have hor := Lib.hid hor
        have hj1 : (j : Int) < L := by omega
        have HS := Lib.hid hstep
        clear hstep hX hy
        go_wp2
        go_roundw
        case rel => exact ⟨j + 1, by rw [HS.out, ← hor.out]; rfl, rfl, hjL, trivial⟩
        case measure => simp [intOf]; omega
      · obtain rfl : j = L := by omega
        have hj1 : ¬ (j : Int) < j := by omega
        go_wp2
        go_ret
        refine ⟨?_, HX.out.2⟩
        rw [HL.out, List.take_length]
        rfl
end Go.Proofs.Ytpeibhhdhomnmaa
