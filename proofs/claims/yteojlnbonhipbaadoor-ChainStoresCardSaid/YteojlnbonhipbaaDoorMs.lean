/- The place for which bytes stand. -/
import Derived.Test.YteojlnbonhipbaaDoorMr
import Derived.Laws.BitsAllLaws
import Derived.Laws.Bits64
import Derived.Laws.BitsAllLaws
import Derived.Laws.Bits64
namespace Go.Proofs.YteojlnbonhipbaaDoor
open Go.RowKit Go.Maps
def val8 (P : List Int) : Nat → Nat
  | 0 => 0
  | k + 1 => val8 P k + (P.getD (1 + k) 0).toNat * 256 ^ k
theorem getD_byte {P : List Int} (hb : ∀ x ∈ P, 0 ≤ x ∧ x ≤ 255) (k : Nat) : 0 ≤ P.getD k 0 ∧ P.getD k 0 ≤ 255 := by
  rw [List.getD_eq_getElem?_getD]
  by_cases h : k < P.length
  · rw [List.getElem?_eq_getElem h]
    exact hb _ (List.getElem_mem _)
  · rw [List.getElem?_eq_none (by omega)]
    exact ⟨Int.le_refl _, by decide⟩
theorem val8_lt {P : List Int} (hb : ∀ x ∈ P, 0 ≤ x ∧ x ≤ 255) : ∀ k, val8 P k < 256 ^ k
  | 0 => by simp [val8]
  | k + 1 => by
    have ih := val8_lt hb k
    have h1 := getD_byte hb (1 + k)
    have h2 : (P.getD (1 + k) 0).toNat ≤ 255 := by omega
    have h3 : (P.getD (1 + k) 0).toNat * 256 ^ k ≤ 255 * 256 ^ k := Nat.mul_le_mul_right _ h2
    rw [val8, Nat.pow_succ]
    omega
theorem or8 (k v x : Nat) (hk : k < 8) (hv : v < 256 ^ k) (hx : x ≤ 255) : bits .or .u64 (v : Int) (IntKind.u64.wrap (IntKind.u64.wrap (x : Int) * 2 ^ (8 * k))) = ((v + x * 256 ^ k : Nat) : Int) := by
  have hp : 256 ^ k ≤ 256 ^ 7 := Nat.pow_le_pow_right (by decide) (by omega)
  have hm : x * 256 ^ k ≤ 255 * 256 ^ 7 := Nat.mul_le_mul hx hp
  have e7 : (256 : Nat) ^ 7 = 72057594037927936 := by decide
  rw [e7] at hp hm
  have e2 : (2 : Nat) ^ (8 * k) = 256 ^ k := by rw [Nat.pow_mul]
  have e0 : (x : Int) % 18446744073709551616 = x := by omega
  have e1 : (x : Int) * 2 ^ (8 * k) = ((x * 256 ^ k : Nat) : Int) := by
    rw [Int.natCast_mul, ← e2, Int.natCast_pow]
    rfl
  rw [IntKind.wrap_u64, IntKind.wrap_u64, e0, e1]
  have e3 : ((x * 256 ^ k : Nat) : Int) % 18446744073709551616 = ((x * 256 ^ k : Nat) : Int) := by
    generalize x * 256 ^ k = y at *
    omega
  rw [e3, u64_or_nat v (x * 256 ^ k) (by omega) (by omega)]
  congr 1
  rw [← e2, ← Nat.shiftLeft_eq, Nat.or_comm, ← Nat.shiftLeft_add_eq_or_of_lt (by rw [e2]; exact hv), Nat.add_comm]
def Stands (P : List Int) (N : Nat) : Prop := 32 ≤ P.length ∧ P.getD 0 0 = 84 ∧ (∀ x ∈ P.drop 9, x = 0) ∧ val8 P 8 < N
theorem BytI.drop {w : World} {b off : Nat} {P : List Int} (h : ∀ j, j < P.length → w.cell? ⟨b, off + j, none⟩ = some (.int .u8 (P.getD j 0))) (hb : b < w.heap.size) (n : Nat) : BytI w (some ⟨b, off + n, none⟩) (P.drop n) := by
  refine ⟨.inr ⟨b, off + n, rfl, hb, fun j hj => ?_⟩⟩
  rw [Nat.add_assoc, h (n + j) (by simp at hj; omega)]
  simp [List.getD_eq_getElem?_getD]
set_option maxRecDepth 20000 in
set_option maxHeartbeats 4000000 in
theorem place_no (w : World) (tb : Nat) (ao : Option Addr) (cap : Nat) (P : List Int) (hP : P.length ≤ 281474976710656) (hc : P.length ≤ cap) (h : BytI w ao P) (hno : ¬ (32 ≤ P.length ∧ P.getD 0 0 = 84 ∧ (∀ x ∈ P.drop 9, x = 0))) :
    Calls Tryd.prog 94 #[.pointer (some ⟨tb, 0, none⟩), .slice ao P.length cap] w fun e w' => e = .returned (.tuple #[.int .i64 0, .bool false]) ∧ w' = w := by
  by_cases h1 : P.length < 32
  · have h2 : (P.length : Int) < 32 := by omega
    generalize P.length = n at *
    clear hno
    go_enter Tryd.func94, Tryd.ntmps94
    go_wp2_with fail
    go_ret2
    exact ⟨rfl, rfl⟩
  · rcases h.at_ with rfl | ⟨b, off, rfl, hbl, hcell⟩
    · simp at h1
    have h32 : 32 ≤ P.length := by omega
    have c0 := hcell 0 (by omega)
    rw [Nat.add_zero] at c0
    have hz := zero_any w _ (cap - 9) (P.drop 9) (by rw [List.length_drop]; omega) (BytI.drop hcell hbl 9)
    rw [List.length_drop] at hz
    by_cases h0 : P.getD 0 0 = 84
    · have hnz : ¬ ∀ x ∈ P.drop 9, x = 0 := fun h3 => hno ⟨h32, h0, h3⟩
      rw [decide_eq_false hnz] at hz
      rw [h0] at c0
      have h2 : ¬ (P.length : Int) < 32 := by omega
      have h3 : ((P.length - 9 : Nat) : Int) = P.length - 9 := by omega
      have hcp : ((cap - 9 : Nat) : Int) = cap - 9 := by omega
      generalize P.length = n at *
      clear hno hnz hcell h
      go_enter Tryd.func94, Tryd.ntmps94
      go_wp2_with (go_at_call 97; refine hz.mono ?_; rintro e9 w1 ⟨rfl, hw⟩; obtain rfl := hw.symm)
      go_ret2
      exact ⟨rfl, rfl⟩
    · have h2 : ¬ (P.length : Int) < 32 := by omega
      generalize P.getD 0 0 = x at *
      have hx : ¬ x = 84 := h0
      generalize P.length = n at *
      clear hno hcell h hz
      go_enter Tryd.func94, Tryd.ntmps94
      go_wp2_with fail
      go_ret2
      exact ⟨rfl, rfl⟩
set_option maxRecDepth 20000 in
set_option maxHeartbeats 4000000 in
theorem place_num (w : World) (B tb : Nat) (tv mv : Value) (E : List En) (hT : Tab w B tb tv mv E) (hE : E.length ≤ 1048576) (ao : Option Addr) (cap : Nat) (P : List Int) (hP : P.length ≤ 281474976710656) (hc : P.length ≤ cap) (h : BytI w ao P) (hb : ∀ x ∈ P, 0 ≤ x ∧ x ≤ 255) (h32 : 32 ≤ P.length) (h0 : P.getD 0 0 = 84) (hz0 : ∀ x ∈ P.drop 9, x = 0) :
    Calls Tryd.prog 94 #[.pointer (some ⟨tb, 0, none⟩), .slice ao P.length cap] w fun e w' => e = .returned (if val8 P 8 < E.length then .tuple #[.int .i64 (val8 P 8 : Nat), .bool true] else .tuple #[.int .i64 0, .bool false]) ∧ w' = w := by
  rcases h.at_ with rfl | ⟨b, off, rfl, hbl, hcell⟩
  · simp at h32
  have c0 := hcell 0 (by omega)
  rw [Nat.add_zero, h0] at c0
  have hz := zero_any w _ (cap - 9) (P.drop 9) (by rw [List.length_drop]; omega) (BytI.drop hcell hbl 9)
  rw [List.length_drop, decide_eq_true hz0] at hz
  have h2 : ¬ (P.length : Int) < 32 := by omega
  have h3 : ((P.length - 9 : Nat) : Int) = P.length - 9 := by omega
  have hcp : ((cap - 9 : Nat) : Int) = cap - 9 := by omega
  have hcell2 : ∀ k, k < 8 → w.cell? ⟨b, off + 1 + k, none⟩ = some (.int .u8 (P.getD (1 + k) 0)) := fun k hk => by rw [Nat.add_assoc]; exact hcell (1 + k) (by omega)
  have hlen := len_any hT
  have HV := Lib.hid (fun k => val8_lt hb k)
  have HG := Lib.hid (fun k => getD_byte hb k)
  have HC := Lib.hid hcell2
  obtain ⟨R, hR⟩ : ∃ R, R = (if val8 P 8 < E.length then Value.tuple #[.int .i64 (val8 P 8 : Nat), .bool true] else .tuple #[.int .i64 0, .bool false]) := ⟨_, rfl⟩
  rw [← hR]
  have HRR := Lib.hid hR
  generalize hn : P.length = n at *
  clear hcell h hcell2 hz0 hn hR
  go_enter Tryd.func94, Tryd.ntmps94
  go_wp2_with (go_at_call 97; refine hz.mono ?_; rintro e9 w1 ⟨rfl, hw⟩; obtain rfl := hw.symm)
  clear hz c0
  go_wp2_with fail
  go_loopw [6, 27] (fun v c wr => ∃ k : Nat, v = .int .u64 (val8 P k : Nat) ∧ c = .int .i64 k ∧ k ≤ 8 ∧ wr = w) (fun _ c _ => 8 - (intOf c).toNat)
  case atStart => exact ⟨0, rfl, rfl, by omega, rfl⟩
  case round =>
    obtain ⟨k, rfl, rfl, hk, hw⟩ := hrel
    obtain rfl := hw
    by_cases hk8 : k < 8
    · have hk2 : (k : Int) < 8 := by omega
      have c1 := HC.out k hk8
      obtain ⟨x, hx⟩ : ∃ x : Nat, P.getD (1 + k) 0 = (x : Nat) := ⟨(P.getD (1 + k) 0).toNat, by have := (HG.out (1 + k)).1; omega⟩
      have hx255 : x ≤ 255 := by have := (HG.out (1 + k)).2; omega
      have hs : val8 P (k + 1) = val8 P k + x * 256 ^ k := by rw [val8, hx]; rfl
      rw [hx] at c1
      have hv := HV.out k
      have HS := Lib.hid hs
      have HX := Lib.hid (And.intro hv hx255)
      have ho := or8 k (val8 P k) x hk8 hv hx255
      rw [← hs] at ho
      have HO := Lib.hid ho
      generalize val8 P k = v at *
      clear hx hs hv hx255 ho
      go_wp2_with fail
      exact ⟨⟨k + 1, congrArg (Value.int IntKind.u64) HO.out, rfl, by omega, trivial⟩, by simp [intOf]; omega⟩
    · obtain rfl : k = 8 := by omega
      have hk2 : ¬ ((8 : Nat) : Int) < 8 := by omega
      have hv := HV.out 8
      have hw1 : IntKind.u64.wrap (E.length : Int) = E.length := by rw [IntKind.wrap_u64]; omega
      by_cases hvE : val8 P 8 < E.length
      · have hvE2 : ¬ (E.length : Int) ≤ (val8 P 8 : Nat) := by omega
        have hw2 : IntKind.i64.wrap ((val8 P 8 : Nat) : Int) = (val8 P 8 : Nat) := by rw [IntKind.wrap_i64]; omega
        have HRv : Hid (R = .tuple #[.int .i64 (val8 P 8 : Nat), .bool true]) := by show _ = _; rw [HRR.out, if_pos hvE]
        generalize val8 P 8 = v at *
        generalize E.length = N at *
        clear HRR hv
        go_wp2_with (go_at_call 60; refine hlen.mono ?_; rintro e9 w1 ⟨rfl, hw⟩; obtain rfl := hw.symm)
        go_ret2
        exact ⟨congrArg Ending.returned HRv.out.symm, rfl⟩
      · have hvE2 : (E.length : Int) ≤ (val8 P 8 : Nat) := by omega
        have HRv : Hid (R = .tuple #[.int .i64 0, .bool false]) := by show _ = _; rw [HRR.out, if_neg hvE]
        generalize val8 P 8 = v at *
        generalize E.length = N at *
        clear HRR hv
        go_wp2_with (go_at_call 60; refine hlen.mono ?_; rintro e9 w1 ⟨rfl, hw⟩; obtain rfl := hw.symm)
        go_ret2
        exact ⟨congrArg Ending.returned HRv.out.symm, rfl⟩
end Go.Proofs.YteojlnbonhipbaaDoor
