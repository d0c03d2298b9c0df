/- What is laid one behind the other, as lists; numbers, and slices of bytes, that came in. -/
import Derived.Test.YtpeibhhdhomnmaaM
import Derived.Laws.Bits64b
namespace Go.Proofs.Ytpeibhhdhomnmaa
open Go.RowKit
/-- Numbers that lie there. -/
structure N64 (w : World) (ao : Option Addr) (P : List Nat) : Prop where
  at_ : ∀ j, j < P.length → ∃ b off, ao = some ⟨b, off, none⟩ ∧ b < w.heap.size ∧ w.cell? ⟨b, off + j, none⟩ = some (.int .u64 (P.getD j 0 : Nat))
theorem N64.on {w w' : World} {ao : Option Addr} {P : List Nat} (h : N64 w ao P) {B : Nat} (hb : Below B w w') (hB : w.heap.size ≤ B) : N64 w' ao P := by
  refine ⟨fun j hj => ?_⟩
  obtain ⟨b, off, h1, h2, h3⟩ := h.at_ j hj
  exact ⟨b, off, h1, Nat.lt_of_lt_of_le h2 hb.size, (hb.cell (p := ⟨b, off + j, none⟩) (by show b < B; omega)).trans h3⟩
/-- A slice of slices of bytes that lies there. -/
structure Rows2 (w : World) (la : Option Addr) (Ps : List (List UInt8)) : Prop where
  at_ : ∀ j, j < Ps.length → ∃ b off, la = some ⟨b, off, none⟩ ∧ b < w.heap.size ∧ ∃ ao cap, w.cell? ⟨b, off + j, none⟩ = some (.slice ao (Ps.getD j []).length cap) ∧ Byt w ao (Ps.getD j [])
theorem Rows2.on {w w' : World} {la : Option Addr} {Ps : List (List UInt8)} (h : Rows2 w la Ps) {B : Nat} (hb : Below B w w') (hB : w.heap.size ≤ B) : Rows2 w' la Ps := by
  refine ⟨fun j hj => ?_⟩
  obtain ⟨b, off, h1, h2, ao, cap, h3, h4⟩ := h.at_ j hj
  exact ⟨b, off, h1, Nat.lt_of_lt_of_le h2 hb.size, ao, cap, (hb.cell (p := ⟨b, off + j, none⟩) (by show b < B; omega)).trans h3, h4.on hb hB⟩
/-- What a list of parts makes, up to a place; and from a place on. -/
def upto {α : Type} (f : α → List UInt8) (l : List α) (i : Nat) : List UInt8 := ((l.take i).map f).flatten
def from_ {α : Type} (f : α → List UInt8) (l : List α) (i : Nat) : List UInt8 := ((l.drop i).map f).flatten
theorem upto_zero {α : Type} (f : α → List UInt8) (l : List α) : upto f l 0 = [] := by simp [upto]
theorem upto_succ {α : Type} (f : α → List UInt8) (l : List α) (i : Nat) (h : i < l.length) : upto f l (i + 1) = upto f l i ++ f l[i] := by
  unfold upto
  rw [List.take_add_one, List.getElem?_eq_getElem h, List.map_append, List.flatten_append]
  congr 1
  exact List.append_nil _
theorem from_step {α : Type} (f : α → List UInt8) (l : List α) (i : Nat) (h : i < l.length) : from_ f l i = f l[i] ++ from_ f l (i + 1) := by
  unfold from_
  rw [List.drop_eq_getElem_cons h, List.map_cons, List.flatten_cons]
theorem from_end {α : Type} (f : α → List UInt8) (l : List α) (i : Nat) (h : l.length ≤ i) : from_ f l i = [] := by
  unfold from_
  rw [List.drop_eq_nil_of_le h]
  rfl
theorem upto_all {α : Type} (f : α → List UInt8) (l : List α) : upto f l l.length = from_ f l 0 := by simp [upto, from_]
theorem upto_len {α : Type} (f : α → List UInt8) (l : List α) (m : Nat) : ∀ (i : Nat), i ≤ l.length → (∀ j (h : j < l.length), j < i → (f l[j]).length ≤ m) → (upto f l i).length ≤ i * m
  | 0, _, _ => by simp [upto]
  | i + 1, h, hm => by
    have ih := upto_len f l m i (by omega) (fun j hj h => hm j hj (by omega))
    have h2 := hm i (by omega) (by omega)
    rw [upto_succ f l i (by omega), List.length_append, Nat.succ_mul]
    omega
/-- A number's bytes; a part's bytes. -/
def bn (z : Nat × Nat) : List UInt8 := be z.1 z.2
def bp (t : Bool) (P : List UInt8) : List UInt8 := be P.length 4 ++ P ++ [if t then 1 else 0]
/-- The numbers with their sizes. -/
def pairs (ns : List Nat) (ss : List UInt8) : List (Nat × Nat) := (ns.zip ss).map fun x => (x.1, x.2.toNat % 9)
theorem pairs_len (ns : List Nat) (ss : List UInt8) : (pairs ns ss).length = min ns.length ss.length := by simp [pairs]
theorem pairs_at (ns : List Nat) (ss : List UInt8) (i : Nat) (h : i < (pairs ns ss).length) (h1 : i < ns.length) (h2 : i < ss.length) : (pairs ns ss)[i] = (ns.getD i 0, (ss.getD i 0).toNat % 9) := by
  simp [pairs, h1, h2]
theorem numS_laid (n s : Nat) (R : List UInt8) (hs : s ≤ 8) : numS (some (be n s ++ R)) s = some (n % 256 ^ s, R) := by
  have h1 := numS_ok (D := be n s ++ R) (n := s) hs (by rw [List.length_append, be_len]; omega)
  rwa [List.take_left' (be_len _ _), List.drop_left' (be_len _ _), num_be] at h1
theorem byS_part (t : Bool) (P R : List UInt8) (hP : P.length ≤ 2000) : byS (some (bp t P ++ R)) 2000 = some (P, [if t then 1 else 0] ++ R) := by
  have h1 := numS_laid P.length 4 (P ++ ([if t then 1 else 0] ++ R)) (by omega)
  rw [Nat.mod_eq_of_lt (by omega)] at h1
  have h2 := byS_some (upS_some (most := 2000) h1 (by omega) (by omega)) (by rw [List.length_append]; omega)
  rw [List.take_left, List.drop_left] at h2
  rw [← h2]
  unfold bp
  simp
theorem upS_flag (t : Bool) (R : List UInt8) : upS (some ([if t then 1 else 0] ++ R)) 1 1 = some ((if t then 1 else 0 : Nat), R) := by
  cases t with
  | true =>
    have h1 : numS (some (1 :: R)) (1 : Nat) = some (1, R) := numS_ok (D := 1 :: R) (n := 1) (by omega) (by simp)
    exact upS_some (most := 1) h1 (by omega) (by decide)
  | false =>
    have h1 : numS (some (0 :: R)) (1 : Nat) = some (0, R) := numS_ok (D := 0 :: R) (n := 1) (by omega) (by simp)
    exact upS_some (most := 1) h1 (by omega) (by decide)
theorem mask_eq (n s : Nat) (hn : n < 18446744073709551616) (hs : s < 8) : bits .and .u64 (n : Int) ((256 ^ s - 1 : Nat) : Int) = ((n % 256 ^ s : Nat) : Int) := by
  have hp : 256 ^ s ≤ 256 ^ 7 := Nat.pow_le_pow_right (by decide) (by omega)
  have h7 : (256 : Nat) ^ 7 = 72057594037927936 := by decide
  rw [bits_and_u64_nat _ _ hn (by omega), show (256 : Nat) ^ s = 2 ^ (8 * s) by rw [Nat.pow_mul], Nat.and_two_pow_sub_one_eq_mod]
end Go.Proofs.Ytpeibhhdhomnmaa
