/- Bytes that lie there; numbers as bytes; a slice copied. -/
import Derived.Test.YtpeibhhdhomnmaaRows
import Derived.WalkKit
import Derived.WalkSpells
import Derived.WalkLawsBesides
import Derived.Lib.SmallJoins
import Derived.OwnWalk
import Derived.Lib.UnsafeStr
import Derived.Laws.IdiomStrings
import Derived.Laws.BytesArg
import Derived.Maps.AppendAt
import Derived.Lib.SliceRun
import Derived.Lib.Hide
namespace Go.Proofs.Ytpeibhhdhomnmaa
open Go.RowKit
theorem addr_mid (b off j : Nat) : (⟨b, off, none⟩ : Addr).add j = ⟨b, off + j, none⟩ := by
  unfold Addr.add
  split
  · rename_i h; subst h; rfl
  · rfl
theorem cell_of_row (w : World) (g j : Nat) (cur : Array Value) (t : TypeId) (fr : Nat × Nat) (hg : w.heap[g]? = some (.cells cur t fr)) : w.cell? ⟨g, j, none⟩ = cur[j]? := by simp [World.cell?, hg]
theorem info5 : (Try.prog.info? 5).map (fun i => (i.zero, i.size, i.bytes)) = some (some (.int .u8 0), 1, 1) := by kernel_rfl
/-- A number in so many bytes, the highest first. -/
def be (n : Nat) : Nat → List UInt8
  | 0 => []
  | k + 1 => UInt8.ofNat (n / 2 ^ (8 * k)) :: be n k
theorem be_len (n : Nat) : ∀ k, (be n k).length = k
  | 0 => rfl
  | k + 1 => by simp [be, be_len n k]
/-- The number of such bytes. -/
def num (l : List UInt8) : Nat := l.foldl (fun n b => n * 256 + b.toNat) 0
theorem num_snoc (l : List UInt8) (b : UInt8) : num (l ++ [b]) = num l * 256 + b.toNat := by simp [num]
theorem foldl_lt : ∀ (l : List UInt8) (a : Nat), l.foldl (fun n b => n * 256 + b.toNat) a < (a + 1) * 256 ^ l.length
  | [], a => by simp
  | b :: l, a => by
    have h := foldl_lt l (a * 256 + b.toNat)
    have hb := b.toNat_lt
    simp only [List.foldl_cons, List.length_cons]
    refine Nat.lt_of_lt_of_le h ?_
    rw [Nat.pow_succ, Nat.mul_comm (256 ^ l.length), ← Nat.mul_assoc]
    exact Nat.mul_le_mul_right _ (by omega)
theorem num_lt (l : List UInt8) : num l < 256 ^ l.length := by simpa [num] using foldl_lt l 0
theorem foldl_be (n : Nat) : ∀ k a, (be n k).foldl (fun n b => n * 256 + b.toNat) a = a * 256 ^ k + n % 256 ^ k
  | 0, a => by simp [be, Nat.mod_one]
  | k + 1, a => by
    have e : n % (256 ^ k * 256) = n % 256 ^ k + 256 ^ k * (n / 256 ^ k % 256) := Nat.mod_mul
    have e2 : (UInt8.ofNat (n / 2 ^ (8 * k))).toNat = n / 256 ^ k % 256 := by
      rw [UInt8.toNat_ofNat', show (2 : Nat) ^ (8 * k) = 256 ^ k by rw [Nat.pow_mul]]
    simp only [be, List.foldl_cons]
    rw [foldl_be n k, e2, Nat.pow_succ, e]
    generalize n / 256 ^ k % 256 = q
    generalize n % 256 ^ k = r
    generalize 256 ^ k = p
    rw [Nat.add_mul, Nat.mul_assoc, Nat.mul_comm 256 p, Nat.mul_comm q p]
    omega
theorem num_be (n k : Nat) : num (be n k) = n % 256 ^ k := by
  unfold num
  rw [foldl_be]
  simp
/-- A slice of bytes that lies there. -/
structure Byt (w : World) (ao : Option Addr) (P : List UInt8) : Prop where
  at_ : P = [] ∨ ∃ b off, ao = some ⟨b, off, none⟩ ∧ b < w.heap.size ∧ ∀ j, j < P.length → w.cell? ⟨b, off + j, none⟩ = some (.int .u8 (P.getD j 0).toNat)
theorem Byt.on {w w' : World} {ao : Option Addr} {P : List UInt8} (h : Byt w ao P) {B : Nat} (hb : Below B w w') (hB : w.heap.size ≤ B) : Byt w' ao P := by
  obtain ⟨h⟩ := h
  refine ⟨h.imp id ?_⟩
  rintro ⟨b, off, h1, h2, h3⟩
  exact ⟨b, off, h1, Nat.lt_of_lt_of_le h2 hb.size, fun j hj => (hb.cell (p := ⟨b, off + j, none⟩) (by show b < B; omega)).trans (h3 j hj)⟩
theorem conv_bytes {w : World} {ao : Option Addr} {P : List UInt8} (h : Byt w ao P) (cap : Nat) : (convert 23 9 (.slice ao P.length cap)).run Try.prog w = .ok (.string ⟨P.toArray⟩) w := by
  rcases h.at_ with rfl | ⟨b, off, rfl, -, h3⟩
  · cases ao with
    | none => exact run_convert_bytes_nil w 23 5 Try.underlying23 Try.underlying5 _ cap 9 Try.underlying9
    | some a =>
      rw [run_convert_bytes_string w 23 9 5 (some a) _ cap Try.underlying23 Try.underlying5 Try.underlying9, run_bytesToString w a _ cap [] (by simp [loadCells, loadCellsFrom])]
      rfl
  · refine run_convert_bytes_back (P := Try.prog) w 23 9 5 ⟨b, off, none⟩ cap P Try.underlying23 Try.underlying5 Try.underlying9 (fun j hj => ?_)
    rw [addr_mid, h3 j hj, List.getD_eq_getElem?_getD, List.getElem?_eq_getElem hj]
    rfl
theorem owns_below {w w' : World} {base size n B : Nat} {e : TypeId} {v : Value} {xs : List Value} (h : w.ownsRow base e size v n xs) (hb : Below B w w') (hB : w.heap.size ≤ B) : w'.ownsRow base e size v n xs := by
  obtain ⟨h1, h2⟩ := h
  refine ⟨h1, ?_⟩
  rcases h2 with h2 | ⟨g, cap, cur, hv, hg, hc, h3⟩
  · exact .inl h2
  · exact .inr ⟨g, cap, cur, hv, hg, by rw [hb.block g (Nat.lt_of_lt_of_le (Array.getElem?_eq_some_iff.1 hc).1 hB)]; exact hc, h3⟩
/-- A row of bytes of the call's own, behind a bound. -/
def Own (w : World) (B : Nat) (v : Value) (l : List UInt8) : Prop := w.ownsRow B 5 1 v l.length (Lib.byteCells l)
theorem Own.slice {w : World} {B : Nat} {v : Value} {l : List UInt8} (h : Own w B v l) : ∃ ao cap, v = .slice ao l.length cap ∧ Byt w ao l ∧ l.length ≤ cap ∧ ∀ a, ao = some a → B ≤ a.block := by
  obtain ⟨hl, ⟨rfl, h0⟩ | ⟨g, cap, cur, rfl, hg, hc, h1, h2, h3, h4⟩⟩ := h
  · obtain rfl : l = [] := List.length_eq_zero_iff.1 h0
    exact ⟨none, 0, rfl, ⟨.inl rfl⟩, Nat.le_refl _, fun a ha => by cases ha⟩
  · refine ⟨_, cap, rfl, ⟨.inr ⟨g, 0, rfl, (Array.getElem?_eq_some_iff.1 hc).1, fun j hj => ?_⟩⟩, h1, fun a ha => by cases ha; exact hg⟩
    rw [Nat.zero_add, cell_of_row w g j cur 5 (0, 0) hc]
    have h5 : cur[j]? = (cur.toList.take (l.length * 1))[j]? := by rw [List.getElem?_take_of_lt (by omega), Array.getElem?_toList]
    rw [h5, h4, Lib.byteCells, List.getElem?_map, List.getElem?_eq_getElem hj, List.getD_eq_getElem?_getD, List.getElem?_eq_getElem hj]
    rfl
theorem Byt.news {w : World} {b off : Nat} {P : List UInt8} (h : Byt w (some ⟨b, off, none⟩) P) : ∀ j u, (Lib.byteCells P)[j]? = some u → w.cell? ((⟨b, off, none⟩ : Addr).add j) = some u := by
  intro j u hu
  have hj : j < P.length := by
    have := (List.getElem?_eq_some_iff.1 hu).1
    rwa [Lib.byteCells_length] at this
  rcases h.at_ with rfl | ⟨b', off', e, -, h3⟩
  · exact absurd hj (Nat.not_lt_zero _)
  · cases e
    rw [addr_mid, h3 j hj, ← hu, Lib.byteCells, List.getElem?_map, List.getElem?_eq_getElem hj, List.getD_eq_getElem?_getD, List.getElem?_eq_getElem hj]
    rfl
theorem byteCells_one (P : List UInt8) : ∀ u ∈ Lib.byteCells P, u.oneCell' = true := by
  intro u hu
  simp only [Lib.byteCells, List.mem_map] at hu
  obtain ⟨b, -, rfl⟩ := hu
  rfl
theorem byt_nil (w : World) (ao : Option Addr) : Byt w ao [] := ⟨.inl rfl⟩
theorem eq_nil23 (w : World) (ao : Option Addr) (n c : Nat) : (binOp .eql 23 (.slice ao n c) (.slice none 0 0)).run Try.prog w = .ok (.bool ao.isNone) w := Lib.run_eql_slice_nil w _ _ ao n c 0 0 Try.underlying23
set_option maxHeartbeats 1000000 in
/-- slices.Clone of bytes. -/
theorem clone_any (ao : Option Addr) (cap : Nat) (P : List UInt8) (w : World) (h : Byt w ao P) (hP : P.length ≤ 1048576) :
    Calls Try.prog 23 #[.slice ao P.length cap] w fun e w' => ∃ v', e = .returned v' ∧ Own w' w.heap.size v' P ∧ Below w.heap.size w w' := by
  obtain ⟨i0, hi, hz0, hz1, hz2⟩ := info_parts info5
  have he := eq_nil23
  obtain ⟨n, hn⟩ : ∃ n, n = P.length := ⟨_, rfl⟩
  rw [← hn] at hP ⊢
  have HN := Lib.hid hn
  have HH := Lib.hid h
  clear hn h
  cases ao with
  | none =>
    go_enter Try.func23, Try.ntmps23
    go_wp2
    go_ret
    refine ⟨_, rfl, ?_, Below.refl _ _⟩
    rcases HH.out.at_ with rfl | ⟨b, off, h, -⟩
    · exact World.ownsRow_nil _ _ _ _
    · cases h
  | some a =>
    obtain ⟨b, off, s⟩ := a
    have hnews : ∀ j u, (Lib.byteCells P)[j]? = some u → (w.alloc (.cells #[] 5)).cell? ((⟨b, off, s⟩ : Addr).add j) = some u := by
      intro j u hu
      have hb := HH.out.at_
      rcases hb with rfl | ⟨b', off', e, -⟩
      · simp [Lib.byteCells] at hu
      · cases e
        exact (HH.out.on (Joins.below_alloc1 w (.cells #[] 5)) (Nat.le_refl _)).news j u hu
    have HNW := Lib.hid hnews
    clear hnews
    go_enter Try.func23, Try.ntmps23
    go_wp2_with (at_builtin; refine wpList_append_own_at _ rfl _ _ 23 rfl w.heap.size 5 i0 (.int .u8 0) 1 1 Try.underlying23 hi hz0 hz1 hz2 rfl (by decide) _ _ _ rfl (World.ownsRow_made w #[] 0 (Nat.le_refl _) (Nat.zero_le _) (by simp)) ⟨b, off, s⟩ n cap (Lib.byteCells P) rfl (by rw [Lib.byteCells_length, HN.out]; omega) HNW.out (byteCells_one P) (by unfold maxLen; omega) (by omega) (by simp) ?_; intro v' w' hown hgrow _ _)
    go_ret
    refine ⟨v', rfl, ?_, ((Below.refl _ w).alloc (Nat.le_refl _) _).grown hgrow (by simp) (by intro k hk; have := Option.some.inj hk; simp at this; omega)⟩
    have h := hown
    rw [Nat.zero_add, List.nil_append, HN.out] at h
    exact h
end Go.Proofs.Ytpeibhhdhomnmaa
