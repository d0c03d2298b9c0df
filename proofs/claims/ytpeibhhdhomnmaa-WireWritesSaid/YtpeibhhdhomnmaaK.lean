/- A reader's calls, where it is known what stands there. -/
import Derived.Test.YtpeibhhdhomnmaaJ
namespace Go.Proofs.Ytpeibhhdhomnmaa
open Go.RowKit
theorem numS_ok {D : List UInt8} {n : Nat} (h8 : n ≤ 8) (h : n ≤ D.length) : numS (some D) n = some (num (D.take n), D.drop n) := by
  unfold numS tkS
  rw [if_neg (by omega), Option.bind_some, if_pos (by omega)]
  rfl
theorem numS_short {D : List UInt8} {n : Nat} (h : D.length < n) : numS (some D) n = none := by
  unfold numS tkS
  split
  · rfl
  · rw [Option.bind_some, if_neg (by omega)]; rfl
theorem numS_none (n : Int) : numS none n = none := by
  unfold numS tkS
  split <;> rfl
theorem upS_none {st : Option (List UInt8)} {k : Int} (most : Int) (h : numS st k = none) : upS st k most = none := by unfold upS; rw [h]; rfl
theorem upS_some {st : Option (List UInt8)} {k most : Int} {x : Nat} {r : List UInt8} (h : numS st k = some (x, r)) (h0 : 0 ≤ most) (h1 : (x : Int) ≤ most) : upS st k most = some (x, r) := by unfold upS; rw [h, Option.bind_some, if_neg (by omega)]
theorem upS_over {st : Option (List UInt8)} {k most : Int} {x : Nat} {r : List UInt8} (h : numS st k = some (x, r)) (h1 : most < (x : Int)) : upS st k most = none := by unfold upS; rw [h, Option.bind_some, if_pos (by omega)]
theorem byS_none {st : Option (List UInt8)} {most : Int} (h : upS st 4 most = none) : byS st most = none := by unfold byS; rw [h]; rfl
theorem byS_some {st : Option (List UInt8)} {most : Int} {x : Nat} {r : List UInt8} (h : upS st 4 most = some (x, r)) (hx : x ≤ r.length) : byS st most = some (r.take x, r.drop x) := by
  unfold byS tkS
  rw [h, Option.bind_some, Option.bind_some, if_pos ⟨by show (0 : Int) ≤ (x : Int); omega, by show (x : Int) ≤ (r.length : Nat); omega⟩]
  rfl
theorem byS_short {st : Option (List UInt8)} {most : Int} {x : Nat} {r : List UInt8} (h : upS st 4 most = some (x, r)) (hx : r.length < x) : byS st most = none := by
  unfold byS tkS
  rw [h, Option.bind_some, Option.bind_some, if_neg (fun h => by have : (x : Int) ≤ (r.length : Nat) := h.2; omega)]
section
variable (w : World) (B : Nat) (p : Option Addr) (st : Option (List UInt8)) (hr : Rp w B p st)
include hr
theorem c16_none (n : Int) (h : numS st n = none) : Calls Try.prog 16 #[.pointer p, .int .i64 n] w fun e w' => e = .returned (.int .u64 0) ∧ Rp w' B p none ∧ Tch w p w' := by
  have h1 := rnum_rd w B p st n hr
  rw [h] at h1
  exact h1
theorem c16_some (n : Int) (x : Nat) (r : List UInt8) (h : numS st n = some (x, r)) : Calls Try.prog 16 #[.pointer p, .int .i64 n] w fun e w' => e = .returned (.int .u64 (x : Nat)) ∧ Rp w' B p (some r) ∧ Tch w p w' := by
  have h1 := rnum_rd w B p st n hr
  rw [h] at h1
  exact h1
theorem c17_none (m : Int) (hm : m < 9223372036854775808) (h : byS st m = none) : Calls Try.prog 17 #[.pointer p, .int .i64 m] w fun e w' => ∃ a c, e = .returned (.slice a 0 c) ∧ Rp w' B p none ∧ Tch w p w' := by
  have h1 := rbytes_rd w B p st m hm hr
  rw [h] at h1
  exact h1.mono fun _ _ ⟨a, c, h1, _, h2, h3⟩ => ⟨a, c, h1, h2, h3⟩
theorem c17_some (m : Int) (hm : m < 9223372036854775808) (q r : List UInt8) (h : byS st m = some (q, r)) : Calls Try.prog 17 #[.pointer p, .int .i64 m] w fun e w' => ∃ a c, e = .returned (.slice a q.length c) ∧ Lies w' B a q ∧ Rp w' B p (some r) ∧ Tch w p w' := by
  have h1 := rbytes_rd w B p st m hm hr
  rw [h] at h1
  exact h1
theorem c18_none (h : upS st 1 1 = none) : Calls Try.prog 18 #[.pointer p] w fun e w' => e = .returned (.bool false) ∧ Rp w' B p none ∧ Tch w p w' := by
  have h1 := rflag_rd w B p st hr
  rw [h] at h1
  exact h1
theorem c18_some (x : Nat) (r : List UInt8) (h : upS st 1 1 = some (x, r)) : Calls Try.prog 18 #[.pointer p] w fun e w' => e = .returned (.bool (x == 1)) ∧ Rp w' B p (some r) ∧ Tch w p w' := by
  have h1 := rflag_rd w B p st hr
  rw [h] at h1
  exact h1
theorem c22_none (m : Int) (hm : m < 9223372036854775808) (h : upS st 2 m = none) : Calls Try.prog 22 #[.pointer p, .int .i64 m] w fun e w' => e = .returned (.int .i64 0) ∧ Rp w' B p none ∧ Tch w p w' := by
  have h1 := rcount_rd w B p st m hm hr
  rw [h] at h1
  exact h1
theorem c22_some (m : Int) (hm : m < 9223372036854775808) (x : Nat) (r : List UInt8) (h : upS st 2 m = some (x, r)) : Calls Try.prog 22 #[.pointer p, .int .i64 m] w fun e w' => e = .returned (.int .i64 (x : Nat)) ∧ Rp w' B p (some r) ∧ Tch w p w' := by
  have h1 := rcount_rd w B p st m hm hr
  rw [h] at h1
  exact h1
end
theorem below_drewN (w : World) (k : Nat) : Below w.heap.size w (w.drewN k) := ⟨rfl, rfl, rfl, Nat.le_refl _, fun _ _ => rfl⟩
theorem tch_drewN (w : World) (b k : Nat) : Tch w (some ⟨b, 0, none⟩) (w.drewN k) := ⟨⟨rfl, rfl, rfl, Nat.le_refl _, fun _ _ _ => rfl⟩, rfl, fun e => by cases e⟩
theorem Rp.onb {w w' : World} {B C : Nat} {p : Option Addr} {st : Option (List UInt8)} (h : Rp w B p st) (hb : Below C w w') (hC : w.heap.size ≤ C) : Rp w' B p st := by
  rcases h with h | ⟨b, h1, h2⟩
  · exact .inl h
  · exact .inr ⟨b, h1, h2.on hb hC⟩
theorem byt_cell {w : World} {ao : Option Addr} {P : List UInt8} (h : Byt w ao P) {j : Nat} (hj : j < P.length) : ∃ b off, ao = some ⟨b, off, none⟩ ∧ b < w.heap.size ∧ w.cell? ⟨b, off + j, none⟩ = some (.int .u8 (P.getD j 0).toNat) := by
  rcases h.at_ with h | ⟨b, off, h1, h2, h3⟩
  · rw [h] at hj; exact absurd hj (Nat.not_lt_zero _)
  · exact ⟨b, off, h1, h2, h3 j hj⟩
/-- What is left, where at was read up to, or a fault. -/
def stS (P : List UInt8) (at_ : Nat) (bad : Bool) : Option (List UInt8) := if bad then none else some (P.drop at_)
/-- One more byte of a number. -/
theorem num_step (q : List UInt8) (j : Nat) (hj : j < q.length) (h7 : j < 8) : ∃ X y : Nat, num (q.take j) = X ∧ (q.getD j 0).toNat = y ∧ num (q.take (j + 1)) = X * 256 + y ∧ y < 256 ∧ X < 72057594037927936 ∧ bits .or .u64 ((X * 256 : Nat) : Int) (y : Int) = ((X * 256 + y : Nat) : Int) := by
  have hX : num (q.take j) < 72057594037927936 := by
    refine Nat.lt_of_lt_of_le (num_lt _) ?_
    rw [List.length_take]
    exact Nat.le_trans (Nat.pow_le_pow_right (j := 7) (by decide) (by omega)) (Nat.le_refl _)
  have hy := (q.getD j 0).toNat_lt
  refine ⟨_, _, rfl, rfl, ?_, hy, hX, ?_⟩
  · rw [List.take_add_one, List.getElem?_eq_getElem hj, Option.toList_some, num_snoc, List.getD_eq_getElem?_getD, List.getElem?_eq_getElem hj]
    rfl
  · generalize num (q.take j) = X at *
    generalize (q.getD j 0).toNat = y at *
    rw [bits_or_u64_nat _ _ (by omega) (by omega)]
    have h := Nat.two_pow_add_eq_or_of_lt (i := 8) (b := y) (by omega) X
    rw [Nat.mul_comm X 256]
    exact congrArg Nat.cast h.symm
/-- Bytes cut out of bytes that lie there. -/
theorem Byt.cut {w : World} {ao : Option Addr} {P : List UInt8} (h : Byt w ao P) (l m cap : Nat) (hl : l + m ≤ P.length) (hc : P.length ≤ cap) : Byt w (if cap = l then ao else ao.map (·.add (l * 1))) ((P.drop l).take m) := by
  by_cases h0 : cap = l
  · exact ⟨.inl (by rw [List.drop_eq_nil_of_le (by omega)]; simp)⟩
  · rw [if_neg h0]
    refine ⟨h.at_.imp (fun h => by rw [h]; simp) ?_⟩
    rintro ⟨g, off, rfl, h2, h4⟩
    refine ⟨g, off + l, by simp [addr_mid], h2, fun j hj => ?_⟩
    rw [List.length_take, List.length_drop] at hj
    rw [Nat.add_assoc, h4 (l + j) (by omega), List.getD_eq_getElem?_getD, List.getD_eq_getElem?_getD, List.getElem?_take_of_lt (by omega), List.getElem?_drop]
theorem run_cutC (a : Option Addr) (n cap l h : Nat) (hl : l ≤ h) (hh : h ≤ cap) (w : World) : (Instr.slice 23 (.slice a n cap) (some (.int .i64 l)) (some (.int .i64 h)) none).run Try.prog w = .ok (.slice (if cap = l then a else a.map (·.add (l * 1))) (h - l) (cap - l)) w := by
  have hu : Try.prog.underlying 23 = some (.slice (Try.prog.elem 23)) := by rw [elem23]; exact Try.underlying23
  rw [run_slice_lh w 23 a n cap hu .i64 .i64 l h (by omega) (by omega) (by omega), elem23, Try.sizeOf5]
  rfl
end Go.Proofs.Ytpeibhhdhomnmaa
