/- Layer 3, part 3 of the proof. -/
import Derived.Test.YtgebangnhgmmoaaDoorG2
import Derived.Maps.AppendAt
/- Numbers as words of 32 bits, the lowest first: plain functions and what they are worth. -/
namespace Go.Proofs.YtgebangnhgmmoaaDoor
theorem W32_getD {l : List Int} (h : ∀ x ∈ l, W32 x) (j : Nat) : W32 (l.getD j 0) := by
  by_cases hj : j < l.length
  · have : l.getD j 0 = l[j] := by simp [hj]
    rw [this]; exact h _ (List.getElem_mem hj)
  · have : l.getD j 0 = 0 := by simp; rw [List.getElem?_eq_none (by omega)]; rfl
    rw [this]; unfold W32; omega
namespace Nt
def B : Int := 4294967296
def val : List Int → Int
  | [] => 0
  | x :: r => x + B * val r
def pw (n : Nat) : Int := B ^ n
theorem pw_zero : pw 0 = 1 := rfl
theorem pw_succ (n : Nat) : pw (n + 1) = B * pw n := by unfold pw; rw [Int.pow_succ, Int.mul_comm]
theorem pw_pos (n : Nat) : 0 < pw n := Int.pow_pos (by decide)
theorem pw_add (m n : Nat) : pw (m + n) = pw m * pw n := Int.pow_add _ _ _
theorem pw_le {m n : Nat} (h : m ≤ n) : pw m ≤ pw n := by
  obtain ⟨d, rfl⟩ : ∃ d, n = m + d := ⟨n - m, by omega⟩
  rw [pw_add]
  have h1 := pw_pos m
  have h2 := pw_pos d
  calc pw m = pw m * 1 := (Int.mul_one _).symm
    _ ≤ pw m * pw d := Int.mul_le_mul_of_nonneg_left (by omega) (by omega)

def Ws (l : List Int) : Prop := ∀ x ∈ l, W32 x
theorem Ws.nil : Ws [] := by intro x hx; cases hx
theorem Ws.tail {x : Int} {l : List Int} (h : Ws (x :: l)) : Ws l := fun y hy => h y (List.mem_cons_of_mem _ hy)
theorem Ws.take {l : List Int} (h : Ws l) (n : Nat) : Ws (l.take n) := fun y hy => h y (List.mem_of_mem_take hy)
theorem Ws.drop {l : List Int} (h : Ws l) (n : Nat) : Ws (l.drop n) := fun y hy => h y (List.mem_of_mem_drop hy)
theorem Ws.getD {l : List Int} (h : Ws l) (n : Nat) : W32 (l.getD n 0) := W32_getD h n
theorem Ws.set {l : List Int} (h : Ws l) (n : Nat) {x : Int} (hx : W32 x) : Ws (l.set n x) := by
  intro y hy
  rcases List.mem_or_eq_of_mem_set hy with h1 | h1
  · exact h y h1
  · rw [h1]; exact hx

theorem val_nonneg : ∀ {l : List Int}, Ws l → 0 ≤ val l
  | [], _ => by simp [val]
  | x :: r, h => by
    have h1 := val_nonneg h.tail
    have h2 := (h x List.mem_cons_self).1
    unfold val
    have : 0 ≤ B * val r := Int.mul_nonneg (by decide) h1
    omega
theorem val_lt : ∀ {l : List Int}, Ws l → val l < pw l.length
  | [], _ => by simp [val, pw_zero]
  | x :: r, h => by
    have h1 := val_lt h.tail
    have h2 := (h x List.mem_cons_self).2
    rw [val, List.length_cons, pw_succ]
    have h3 : B * val r ≤ B * (pw r.length - 1) := Int.mul_le_mul_of_nonneg_left (by omega) (by decide)
    rw [Int.mul_sub, Int.mul_one] at h3
    have hB : B = 4294967296 := rfl
    omega
theorem val_append : ∀ (a b : List Int), val (a ++ b) = val a + pw a.length * val b
  | [], b => by simp [val, pw_zero]
  | x :: r, b => by
    rw [List.cons_append, val, val, val_append r b, List.length_cons, pw_succ, Int.mul_add, Int.mul_assoc]; omega
theorem val_split (l : List Int) (n : Nat) (h : n ≤ l.length) : val l = val (l.take n) + pw n * val (l.drop n) := by
  conv => lhs; rw [← List.take_append_drop n l]
  rw [val_append, List.length_take, Nat.min_eq_left h]
theorem val_drop (l : List Int) (n : Nat) (h : n < l.length) : val (l.drop n) = l.getD n 0 + B * val (l.drop (n + 1)) := by
  rw [List.drop_eq_getElem_cons h, val]
  simp [h]
theorem val_take_succ (l : List Int) (n : Nat) (h : n < l.length) : val (l.take (n + 1)) = val (l.take n) + pw n * l.getD n 0 := by
  rw [List.take_succ_eq_append_getElem h, val_append, List.length_take, Nat.min_eq_left (by omega)]
  simp [val, h]
theorem val_set : ∀ (l : List Int) (n : Nat) (x : Int), n < l.length → val (l.set n x) = val l + pw n * (x - l.getD n 0)
  | [], n, _, h => by simp at h
  | y :: r, 0, x, _ => by simp [val, pw_zero]; omega
  | y :: r, n + 1, x, h => by
    rw [List.set_cons_succ, val, val, val_set r n x (by simpa using h), pw_succ, Int.mul_add, Int.mul_assoc]
    simp; omega
theorem val_zeros (n : Nat) : val (List.replicate n 0) = 0 := by
  induction n with
  | zero => rfl
  | succ n ih => rw [List.replicate_succ, val, ih]; rfl

/-- Where the noughts behind begin. -/
def cut (l : List Int) : Nat → Nat
  | 0 => 0
  | n + 1 => if l.getD n 0 = 0 then cut l n else n + 1
def trim (l : List Int) : List Int := l.take (cut l l.length)
theorem cut_le (l : List Int) : ∀ n, cut l n ≤ n
  | 0 => Nat.le_refl _
  | n + 1 => by
    unfold cut; split
    · exact Nat.le_succ_of_le (cut_le l n)
    · exact Nat.le_refl _
theorem cut_zeros (l : List Int) : ∀ n, n ≤ l.length → val (l.take n) = val (l.take (cut l n))
  | 0, _ => rfl
  | n + 1, h => by
    unfold cut; split
    · next h0 => rw [val_take_succ l n (by omega), h0, Int.mul_zero, Int.add_zero]; exact cut_zeros l n (by omega)
    · rfl
theorem val_trim (l : List Int) : val (trim l) = val l := by
  unfold trim
  rw [← cut_zeros l l.length (Nat.le_refl _), List.take_length]
theorem length_trim (l : List Int) : (trim l).length = cut l l.length := by
  unfold trim
  rw [List.length_take, Nat.min_eq_left (cut_le l _)]
theorem Ws.trim {l : List Int} (h : Ws l) : Ws (trim l) := h.take _
theorem cut_last (l : List Int) : ∀ n, 0 < cut l n → l.getD (cut l n - 1) 0 ≠ 0
  | 0, h => by simp [cut] at h
  | n + 1, h => by
    unfold cut at h ⊢
    split
    · next h0 => rw [if_pos h0] at h; exact cut_last l n h
    · next h0 => exact h0
/-- The last one is no nought. -/
def Neat (l : List Int) : Prop := 0 < l.length → l.getD (l.length - 1) 0 ≠ 0
theorem neat_trim (l : List Int) : Neat (trim l) := by
  intro h
  rw [length_trim] at h ⊢
  have := cut_last l l.length h
  unfold trim
  rw [List.getD_eq_getElem?_getD, List.getElem?_take_of_lt (by omega), ← List.getD_eq_getElem?_getD]
  exact this
theorem neat_le {l : List Int} (hn : Neat l) (hw : Ws l) (h : 0 < l.length) : pw (l.length - 1) ≤ val l := by
  have h1 := hn h
  have h2 := (hw.getD (l.length - 1)).1
  have h3 := val_nonneg (hw.take (l.length - 1))
  have h4 := pw_pos (l.length - 1)
  have e := val_take_succ l (l.length - 1) (by omega)
  rw [show l.length - 1 + 1 = l.length by omega, List.take_length] at e
  rw [e]
  have h5 : pw (l.length - 1) * 1 ≤ pw (l.length - 1) * l.getD (l.length - 1) 0 := Int.mul_le_mul_of_nonneg_left (by omega) (by omega)
  omega
theorem val_lt_of_length {a b : List Int} (ha : Ws a) (hb : Ws b) (nb : Neat b) (h : a.length < b.length) : val a < val b := by
  have h1 := val_lt ha
  have h2 := neat_le nb hb (by omega)
  have h3 := pw_le (show a.length ≤ b.length - 1 by omega)
  omega
/-- The first place from above where they differ tells. -/
theorem val_lt_of_word {a b : List Int} (ha : Ws a) (hb : Ws b) (n : Nat) (h1 : n < a.length) (h2 : n < b.length) (hd : a.drop (n + 1) = b.drop (n + 1)) (hlt : a.getD n 0 < b.getD n 0) : val a < val b := by
  rw [val_split a n (by omega), val_split b n (by omega), val_drop a n h1, val_drop b n h2, hd]
  have h3 := val_lt (ha.take n)
  rw [List.length_take, Nat.min_eq_left (by omega)] at h3
  have h4 := val_nonneg (hb.take n)
  have h5 : pw n * (a.getD n 0 + B * val (b.drop (n + 1)) + 1) ≤ pw n * (b.getD n 0 + B * val (b.drop (n + 1))) := Int.mul_le_mul_of_nonneg_left (by omega) (by have := pw_pos n; omega)
  rw [Int.mul_add, Int.mul_one] at h5
  omega
theorem val_small (x : Int) : val [x % B, x / B] = x := by
  have hB : B = 4294967296 := rfl
  simp only [val, Int.mul_zero, Int.add_zero]
  rw [hB]; omega
end Nt
end Go.Proofs.YtgebangnhgmmoaaDoor

/- Layer 2's reference, the walks: numbers. -/
namespace Go.Proofs.YtgebangnhgmmoaaDoor
open Go.RowKit

theorem Blk.at {w : World} {g : Nat} {k : IntKind} {t : TypeId} {l : List Int} (h : Blk w g k t l) : At w k g 0 l := by
  intro j hj
  rw [Nat.zero_add, cell_of_row w g j _ t (0, 0) h]
  simp [hj]
theorem At.sub {w : World} {k : IntKind} {b off : Nat} {P : List Int} (h : At w k b off P) (n m : Nat) (hm : n + m ≤ P.length) : At w k b (off + n) ((P.drop n).take m) := by
  intro j hj
  have hj' : j < m := by simp at hj; omega
  rw [show off + n + j = off + (n + j) by omega, h (n + j) (by omega)]
  simp [hj']
theorem num_sliced {w : World} {a : Option Addr} {n cap : Nat} {l : List Int} (hS : Num w (.slice a n cap) l) (m : Nat) (hm : m ≤ n) : Num w (sliced a 0 m cap 1) (l.take m) := by
  obtain ⟨a', cap', hv, hc, h8, hmm⟩ := hS
  simp only [Value.slice.injEq] at hv
  obtain ⟨rfl, rfl, rfl⟩ := hv
  have hlen : (l.take m).length = m := by simp; omega
  refine ⟨_, cap - 0, by rw [hlen]; rfl, by rw [hlen]; omega, Nt.Ws.take h8 m, ?_⟩
  by_cases h0 : m = 0
  · exact Or.inl (by rw [h0]; rfl)
  · rcases hmm with h | ⟨b, off, rfl, h2, h3⟩
    · rw [h] at hm; simp at hm; omega
    · refine Or.inr ⟨b, off, ?_, h2, ?_⟩
      · rw [if_neg (by omega)]; rfl
      · have := h3.sub 0 m (by omega)
        rwa [List.drop_zero] at this
theorem run_cut26 (a : Option Addr) (n cap m : Nat) (hm : m ≤ cap) (i : Int) (hi : i = m) (w : World) : (Instr.slice 26 (.slice a n cap) none (some (.int .i64 i)) none).run Tryd.prog w = .ok (sliced a 0 m cap 1) w := by
  subst hi
  have he : Tryd.prog.elem 26 = 36 := by kernel_rfl
  have hu : Tryd.prog.underlying 26 = some (.slice (Tryd.prog.elem 26)) := by rw [he]; exact Tryd.underlying26
  rw [run_slice_h w 26 a n cap hu .i64 m (by omega) (by omega), he, Tryd.sizeOf36]
  rfl

set_option maxRecDepth 100000 in
set_option maxHeartbeats 400000 in
theorem trim_any (w : World) (v : Value) (l : List Int) (h : Num w v l) (hl : l.length ≤ 1000000) :
    Calls Tryd.prog 44 #[v] w fun e w' => ∃ v', e = .returned v' ∧ Num w' v' (Nt.trim l) ∧ Below w.heap.size w w' := by
  obtain ⟨a, cap, rfl, hc, hw, hm⟩ := id h
  have H := Lib.hid h
  have HM := Lib.hid hm
  have HC := Lib.hid (show Nt.trim l = l.take (Nt.cut l l.length) from rfl)
  clear h hm hw
  go_enter Tryd.func44, Tryd.ntmps44
  go_wp2_with fail
  go_loopw [3] (fun i wr => ∃ n : Nat, n ≤ l.length ∧ i = .int .i64 n ∧ Hid (Nt.cut l n = Nt.cut l l.length) ∧ Hid (Below w.heap.size w wr)) (fun i _ => (intOf i).toNat)
  case atStart => exact ⟨l.length, Nat.le_refl _, rfl, rfl, Below.refl _ _⟩
  case round =>
    obtain ⟨n, hn, rfl, CU, B⟩ := hrel
    cases n with
    | zero =>
      have h0 : Nt.cut l l.length = 0 := CU.out.symm
      have hnum : Num wr (sliced a 0 0 cap 1) (Nt.trim l) := by rw [HC.out, h0]; exact num_sliced (H.out.below B.out (Nat.le_refl _)) 0 (Nat.zero_le _)
      have hcut := run_cut26 a l.length cap 0 (Nat.zero_le _) 0 rfl
      generalize sliced a 0 0 cap 1 = sv at *
      have HN := Lib.hid hnum
      clear hnum h0
      go_wp2
      go_ret
      exact ⟨_, rfl, HN.out, B.out⟩
    | succ n =>
      obtain ⟨b, off, rfl, hbw, hAt⟩ : ∃ b off, a = some ⟨b, off, none⟩ ∧ b < w.heap.size ∧ At w .u32 b off l := by
        rcases HM.out with h | h
        · rw [h] at hn; simp at hn
        · exact h
      have hcell : wr.cell? ⟨b, off + n, none⟩ = some (.int .u32 (l.getD n 0)) := (hAt.below B.out hbw) n (by omega)
      by_cases hz : l.getD n 0 = 0
      · have hcu : Nt.cut l n = Nt.cut l l.length := by rw [← CU.out]; conv => rhs; unfold Nt.cut; rw [if_pos hz]
        have HCU := Lib.hid hcu
        rw [hz] at hcell
        clear hcu CU hAt HM HC H hz
        go_wp2
        go_roundw
        case rel => exact ⟨n, by omega, by go_num, HCU, B⟩
        case measure => simp [intOf]
      · have h1 : Nt.cut l l.length = n + 1 := by rw [← CU.out]; unfold Nt.cut; rw [if_neg hz]
        have hnum : Num wr (sliced (some ⟨b, off, none⟩) 0 (n + 1) cap 1) (Nt.trim l) := by rw [HC.out, h1]; exact num_sliced (H.out.below B.out (Nat.le_refl _)) (n + 1) hn
        have hcut := run_cut26 (some ⟨b, off, none⟩) l.length cap (n + 1) (by omega) ((n : Int) + 1) (by omega)
        generalize sliced (some ⟨b, off, none⟩) 0 (n + 1) cap 1 = sv at *
        have HN := Lib.hid hnum
        clear hnum h1 CU hAt HM HC H
        generalize l.getD n 0 = x at *
        go_wp2
        go_ret
        exact ⟨_, rfl, HN.out, B.out⟩

theorem num_blk {w : World} {g : Nat} {t : TypeId} {l : List Int} {n : Nat} (h : Blk w g .u32 t l) (hl : l.length = n) (hw : Nt.Ws l) : Num w (.slice (some ⟨g, 0, none⟩) n n) l :=
  ⟨_, n, by rw [hl], by omega, hw, Or.inr ⟨g, 0, rfl, h.lt, h.at⟩⟩

set_option maxRecDepth 100000 in
set_option maxHeartbeats 400000 in
theorem small_any (w : World) (x : Int) (h0 : 0 ≤ x) (h1 : x ≤ 18446744073709551615) :
    Calls Tryd.prog 29 #[.int .u64 x] w fun e w' => ∃ v' l, e = .returned v' ∧ Num w' v' l ∧ Nt.val l = x ∧ Nt.Neat l ∧ l.length ≤ 2 ∧ Below w.heap.size w w' := by
  have hw : Nt.Ws [x % 4294967296, x / 4294967296] := by
    intro y hy
    simp only [List.mem_cons, List.not_mem_nil, or_false] at hy
    unfold W32
    rcases hy with rfl | rfl <;> omega
  have hb : Blk (w.alloc (.cells #[.int .u32 (x % 4294967296), .int .u32 (x / 4294967296)] 36)) w.heap.size .u32 36 [x % 4294967296, x / 4294967296] := heap_alloc_new w _
  have ho : Below w.heap.size w (w.alloc (.cells #[.int .u32 (x % 4294967296), .int .u32 (x / 4294967296)] 36)) := (Below.refl _ _).alloc (Nat.le_refl _) _
  have ht := trim_any _ _ _ (num_blk hb rfl hw) (by simp)
  have HT := Lib.hid ht
  have HO := Lib.hid ho
  clear ht ho hb hw
  go_enter Tryd.func29, Tryd.ntmps29
  go_wp2_with (go_at_call 44; refine HT.out.mono ?_; rintro e w1 ⟨v1, rfl, h2, h3⟩; have H2 := Lib.hid h2; have H3 := Lib.hid h3; clear h2 h3)
  go_ret
  refine ⟨_, _, rfl, H2.out, ?_, Nt.neat_trim _, ?_, HO.out.trans (H3.out.mono HO.out.size)⟩
  · rw [Nt.val_trim]; exact Nt.val_small x
  · rw [Nt.length_trim]; exact Nt.cut_le _ _
end Go.Proofs.YtgebangnhgmmoaaDoor

/- Layer 2's reference, the walks: numbers compared; primes. -/
namespace Go.Proofs.YtgebangnhgmmoaaDoor
open Go.RowKit

theorem below_drw {B : Nat} {w w' : World} (h : Below B w w') : Below B w w'.drew := ⟨h.os, h.tape, h.output, h.size, h.block⟩
theorem num_form {w : World} {v : Value} {l : List Int} (h : Num w v l) : ∃ a cap, v = .slice a l.length cap := by
  obtain ⟨a, cap, h1, _⟩ := h
  exact ⟨a, cap, h1⟩
theorem num_cell {w : World} {a : Option Addr} {n cap : Nat} {l : List Int} (h : Num w (.slice a n cap) l) (j : Nat) (hj : j < n) : ∃ b off, a = some ⟨b, off, none⟩ ∧ b < w.heap.size ∧ w.cell? ⟨b, off + j, none⟩ = some (.int .u32 (l.getD j 0)) ∧ n ≤ cap := by
  obtain ⟨a', cap', hv, hc, h8, hm⟩ := h
  simp only [Value.slice.injEq] at hv
  obtain ⟨rfl, rfl, rfl⟩ := hv
  rcases hm with hm | ⟨b, off, rfl, h2, h3⟩
  · rw [hm] at hj; simp at hj
  · exact ⟨b, off, rfl, h2, h3 j hj, hc⟩

set_option maxRecDepth 100000 in
set_option maxHeartbeats 400000 in
theorem cmp_any (w : World) (va vb : Value) (a b : List Int) (ha : Num w va a) (hb : Num w vb b) (hla : a.length ≤ 1000000) (hlb : b.length ≤ 1000000) :
    Calls Tryd.prog 24 #[va, vb] w fun e w' => ∃ r : Int, e = .returned (.int .i64 r) ∧ (r ≤ 0 ↔ Nt.val a ≤ Nt.val b) ∧ (r < 0 ↔ Nt.val a < Nt.val b) ∧ Below w.heap.size w w' := by
  obtain ⟨aa, ca, rfl⟩ := num_form ha
  obtain ⟨ab, cb, rfl⟩ := num_form hb
  have HA := Lib.hid (trim_any w _ a ha hla)
  have HNB := Lib.hid hb
  have hwa : Hid (Nt.Ws (Nt.trim a)) := by obtain ⟨_, _, _, _, h, _⟩ := ha; exact Nt.Ws.trim h
  have hwb : Hid (Nt.Ws (Nt.trim b)) := by obtain ⟨_, _, _, _, h, _⟩ := hb; exact Nt.Ws.trim h
  have hva : Hid (Nt.val (Nt.trim a) = Nt.val a) := Nt.val_trim a
  have hvb : Hid (Nt.val (Nt.trim b) = Nt.val b) := Nt.val_trim b
  have hna : Hid (Nt.Neat (Nt.trim a)) := Nt.neat_trim a
  have hnb : Hid (Nt.Neat (Nt.trim b)) := Nt.neat_trim b
  have hl1 : (Nt.trim a).length ≤ 1000000 := by rw [Nt.length_trim]; exact Nat.le_trans (Nt.cut_le _ _) hla
  have hl2 : (Nt.trim b).length ≤ 1000000 := by rw [Nt.length_trim]; exact Nat.le_trans (Nt.cut_le _ _) hlb
  have HB := Lib.hid (fun w1 (h : Below w.heap.size w w1) => trim_any w1 _ b (hb.below h (Nat.le_refl _)) hlb)
  clear ha hb HNB
  generalize Nt.trim a = A at *
  generalize Nt.trim b = C at *
  generalize Nt.val a = xa at *
  generalize Nt.val b = xb at *
  go_enter Tryd.func24, Tryd.ntmps24
  go_wp2_with (first
    | (go_at_call 44; refine HB1.out.mono ?_; rintro e w2 ⟨v2, rfl, h2, h3⟩; obtain ⟨a2, c2, rfl⟩ := num_form h2; have H2 := Lib.hid h2; have H3 := Lib.hid h3; clear h2 h3)
    | (go_at_call 44; refine HA.out.mono ?_; rintro e w1 ⟨v1, rfl, h0, h1⟩; obtain ⟨a1, c1, rfl⟩ := num_form h0; have H0 := Lib.hid h0; have H1 := Lib.hid h1; have HB1 := Lib.hid (HB.out w1 h1); clear h0 h1))
  · rename_i hne
    have hne : A.length ≠ C.length := by
      intro h
      rw [h] at hne
      simp at hne
    go_ret
    have hlt := fun h => Nt.val_lt_of_length hwa.out hwb.out hnb.out h
    have hgt := fun h => Nt.val_lt_of_length hwb.out hwa.out hna.out h
    rw [hva.out, hvb.out] at hlt hgt
    refine ⟨_, rfl, ?_, ?_, H1.out.trans (H3.out.mono H1.out.size)⟩
    · rcases Nat.lt_or_gt_of_ne hne with h | h
      · have := hlt h; omega
      · have := hgt h; omega
    · rcases Nat.lt_or_gt_of_ne hne with h | h
      · have := hlt h; omega
      · have := hgt h; omega
  · rename_i hne _ _
    have hlen : A.length = C.length := by
      have : (A.length : Int) = (C.length : Int) := by simpa using hne
      omega
    clear hne
    have HL := Lib.hid hlen
    clear hlen HA HB HB1
    have H0' := Lib.hid (H0.out.below H3.out (Nat.le_refl _))
    have hb2 : Hid (Below w.heap.size w w2) := H1.out.trans (H3.out.mono H1.out.size)
    clear H0 H1 H3
    go_loopw [5] (fun i wr => ∃ m : Nat, m ≤ A.length ∧ i = .int .i64 ((m : Int) - 1) ∧ Hid (A.drop m = C.drop m) ∧ Hid (Below w2.heap.size w2 wr)) (fun i _ => (intOf i + 1).toNat)
    case atStart => exact ⟨A.length, Nat.le_refl _, by go_num, by rw [List.drop_length, HL.out, List.drop_length]; exact rfl, Below.refl _ _⟩
    case round =>
      obtain ⟨m, hm, rfl, D, BW⟩ := hrel
      have hb3 : Hid (Below w.heap.size w wr) := hb2.out.trans (BW.out.mono hb2.out.size)
      cases m with
      | zero =>
        have he : xa = xb := by
          have h := D.out
          rw [List.drop_zero, List.drop_zero] at h
          rw [← hva.out, ← hvb.out, h]
        clear H0' H2 D HL
        rw [show ((0 : Nat) : Int) - 1 = -1 from rfl]
        go_wp2
        go_ret
        exact ⟨0, rfl, by omega, by omega, hb3.out⟩
      | succ m =>
        obtain ⟨b1, o1, rfl, hb1, hc1, hcap1⟩ := num_cell (H0'.out.below BW.out (Nat.le_refl _)) m (by omega)
        have hm2 : m < C.length := by rw [← HL.out]; omega
        obtain ⟨b2, o2, rfl, hb2', hc2, hcap2⟩ := num_cell (H2.out.below BW.out (Nat.le_refl _)) m hm2
        have hlt := fun h => Nt.val_lt_of_word hwa.out hwb.out m (by omega) hm2 D.out h
        have hgt := fun h => Nt.val_lt_of_word hwb.out hwa.out m hm2 (by omega) D.out.symm h
        rw [hva.out, hvb.out] at hlt hgt
        have HLT := Lib.hid hlt
        have HGT := Lib.hid hgt
        have hdd : Hid (A.getD m 0 = C.getD m 0 → A.drop m = C.drop m) := fun h => by
          have hm1 : m < A.length := by omega
          have e : A[m] = C[m] := by simpa [hm2, hm1] using h
          rw [List.drop_eq_getElem_cons hm1, List.drop_eq_getElem_cons hm2, D.out, e]
        clear hlt hgt H0' H2
        generalize A.getD m 0 = x at *
        generalize C.getD m 0 = y at *
        rw [show ((m + 1 : Nat) : Int) - 1 = (m : Int) by omega]
        rcases Int.lt_trichotomy x y with hxy | hxy | hxy
        · go_wp2
          go_region
          go_wp2
          go_ret
          have := HLT.out hxy
          exact ⟨-1, rfl, by omega, by omega, below_drw hb3.out⟩
        · subst hxy
          go_wp2
          go_region
          go_wp2
          go_region
          go_wp2
          go_roundw
          case rel => exact ⟨m, by omega, by go_num, hdd.out trivial, below_drw (below_drw BW.out)⟩
          case measure => simp [intOf]
        · go_wp2
          go_region
          go_wp2
          go_region
          go_wp2
          go_ret
          have := HGT.out hxy
          exact ⟨1, rfl, by omega, by omega, below_drw (below_drw hb3.out)⟩

end Go.Proofs.YtgebangnhgmmoaaDoor

/- Layer 2's reference, the walks: products. -/
namespace Go.Proofs.YtgebangnhgmmoaaDoor
open Go.RowKit

namespace Nt
theorem ring1 (v p r o q m c : Int) (h : m + o + c = B * q + r) : v + p * (r - o) + q * (B * p) = v + c * p + p * m := by
  have e : r = m + o + c - B * q := by omega
  subst e
  grind
theorem ring2 (s x p y z : Int) : s + x * p * y + p * (x * 0) + z * 0 = s + x * p * y := by grind
/-- One word more of the second one. -/
theorem times_inner {O a b : List Int} {i k N : Nat} {c m x : Int} (hN : N = i + k) (hO : N < O.length) (hk : k < b.length) (hm : m = a.getD i 0 * b.getD k 0) (hx : x = m + O.getD N 0 + c) (V : Int)
    (h : val O + c * pw N = V + a.getD i 0 * pw i * val (b.take k)) : val (O.set N (x % B)) + x / B * pw (N + 1) = V + a.getD i 0 * pw i * val (b.take (k + 1)) := by
  rw [val_set O N _ hO, pw_succ, val_take_succ b k hk]
  have hr : m + O.getD N 0 + c = B * (x / B) + x % B := by rw [← hx]; exact (Int.mul_ediv_add_emod x B).symm
  rw [ring1 _ _ _ _ _ _ _ hr, h, hm, hN, pw_add]
  grind
theorem mul_bound {x y : Int} (hx : W32 x) (hy : W32 y) : 0 ≤ x * y ∧ x * y ≤ 18446744065119617025 := by
  obtain ⟨x0, x1⟩ := hx
  obtain ⟨y0, y1⟩ := hy
  refine ⟨Int.mul_nonneg x0 y0, ?_⟩
  calc x * y ≤ 4294967295 * y := Int.mul_le_mul_of_nonneg_right x1 y0
    _ ≤ 4294967295 * 4294967295 := Int.mul_le_mul_of_nonneg_left y1 (by decide)
    _ = 18446744065119617025 := by decide
end Nt

theorem info36 : (Tryd.prog.info? 36).map (fun i => (i.zero, i.size, i.bytes)) = some (some (.int .u32 0), 1, 4) := by kernel_rfl
def zs (n : Nat) : List Int := List.replicate n 0
theorem run_mk (w : World) (n : Nat) (i : Int) (hi : i = n) (hn : n ≤ 1000000) : (Instr.makeSlice 26 (.int .i64 i) (.int .i64 i)).run Tryd.prog w = .ok (.slice (some ⟨w.heap.size, 0, none⟩) n n) (w.alloc (.cells ((zs n).map (Value.int .u32)).toArray 36)) := by
  subst hi
  obtain ⟨i0, hi, hz0, hz1, hz2⟩ := info_parts info36
  have h := run_make w 26 36 i0 (.int .u32 0) Tryd.underlying26 hi hz0 .i64 .i64 n n (by omega) (by omega) (by rw [hz2]; omega) (by omega)
  rw [h]
  have e : madeCells (Value.int .u32 0).cells ((n : Int).toNat * i0.size) = ((zs n).map (Value.int .u32)).toArray := by
    apply Array.toList_inj.1
    rw [hz1, Nat.mul_one]
    show (madeCells #[Value.int .u32 0] _).toList = _
    rw [toList_madeCells_one]
    simp [zs]
  rw [e]
  rfl

set_option maxRecDepth 100000 in
set_option maxHeartbeats 400000 in
theorem times_probe (w : World) (aa ab : Option Addr) (ca cb : Nat) (a b : List Int) (ha : Num w (.slice aa a.length ca) a) (hb : Num w (.slice ab b.length cb) b) (hla : a.length ≤ 100000) (hlb : b.length ≤ 100000) :
    Calls Tryd.prog 47 #[.slice aa a.length ca, .slice ab b.length cb] w fun e w' => ∃ v' l, e = .returned v' ∧ Num w' v' l ∧ Nt.val l = Nt.val a * Nt.val b ∧ Nt.Neat l ∧ l.length ≤ a.length + b.length ∧ Below w.heap.size w w' := by
  have HA := Lib.hid ha
  have HB := Lib.hid hb
  have hwa : Hid (Nt.Ws a) := by obtain ⟨_, _, _, _, h, _⟩ := ha; exact h
  have hwb : Hid (Nt.Ws b) := by obtain ⟨_, _, _, _, h, _⟩ := hb; exact h
  clear ha hb
  have hmk := fun w => run_mk w (a.length + b.length) ((a.length : Int) + (b.length : Int)) (by omega) (by omega)
  have hb0 : Hid (Blk (w.alloc (.cells ((zs (a.length + b.length)).map (Value.int .u32)).toArray 36)) w.heap.size .u32 36 (zs (a.length + b.length))) := heap_alloc_new w _
  have ho0 : Hid (Below w.heap.size w (w.alloc (.cells ((zs (a.length + b.length)).map (Value.int .u32)).toArray 36))) := (Below.refl _ _).alloc (Nat.le_refl _) _
  go_enter Tryd.func47, Tryd.ntmps47
  go_wp2_with fail
  clear hmk
  go_loopw [6] (fun i wr => ∃ (n : Nat) (O : List Int), n ≤ a.length ∧ i = .int .i64 n ∧ Hid (Blk wr w.heap.size .u32 36 O) ∧ O.length = a.length + b.length ∧ Hid (Nt.Ws O) ∧ Hid (∀ j, n + b.length ≤ j → O.getD j 0 = 0) ∧ Hid (Nt.val O = Nt.val (a.take n) * Nt.val b) ∧ Hid (Below w.heap.size w wr)) (fun i _ => a.length - (intOf i).toNat)
  case atStart =>
    refine ⟨0, zs (a.length + b.length), Nat.zero_le _, rfl, hb0, by simp [zs], ?_, ?_, ?_, ho0⟩
    · intro x hx
      simp only [zs, List.mem_replicate] at hx
      rw [hx.2]; unfold W32; omega
    · intro j _
      unfold zs
      rw [List.getD_eq_getElem?_getD, List.getElem?_replicate]
      split <;> rfl
    · show Nt.val (zs _) = Nt.val [] * _
      unfold zs
      rw [Nt.val_zeros]; simp [Nt.val]
  case round =>
    clear hb0 ho0
    obtain ⟨n, O, hn, rfl, BK, hlO, WO, ZO, VO, BW⟩ := hrel
    by_cases hlt : n < a.length
    · obtain ⟨b1, o1, rfl, hb1, hc1, hcap1⟩ := num_cell HA.out n hlt
      have hx1 := hwa.out.getD n
      have hW1 := Lib.hid hx1
      obtain ⟨x10, x11⟩ := hx1
      have hV : Nt.val (a.take (n + 1)) * Nt.val b = Nt.val (a.take n) * Nt.val b + a.getD n 0 * Nt.pw n * Nt.val (b.take b.length) := by
        rw [Nt.val_take_succ a n hlt, List.take_length]; grind
      have HV := Lib.hid hV
      clear hV
      go_wp2_with fail
      go_loopw [7, 8] (fun c i wq => ∃ (k : Nat) (O2 : List Int) (cz : Int), k ≤ b.length ∧ i = .int .i64 k ∧ c = .int .u64 cz ∧ 0 ≤ cz ∧ cz ≤ 4294967295 ∧ Hid (Blk wq w.heap.size .u32 36 O2) ∧ O2.length = a.length + b.length ∧ Hid (Nt.Ws O2) ∧ Hid (∀ j, n + b.length ≤ j → O2.getD j 0 = 0) ∧ Hid (Nt.val O2 + cz * Nt.pw (n + k) = Nt.val (a.take n) * Nt.val b + a.getD n 0 * Nt.pw n * Nt.val (b.take k)) ∧ Hid (Below w.heap.size w wq)) (fun _ i _ => b.length - (intOf i).toNat)
      case atStart =>
        refine ⟨0, O, 0, Nat.zero_le _, rfl, rfl, by omega, by omega, BK, hlO, WO, ZO, ?_, BW⟩
        show _ = _
        rw [VO.out, List.take_zero, Nt.val]; simp
      case round =>
        clear BK WO ZO VO BW
        obtain ⟨k, O2, cz, hk, rfl, rfl, c0, c1, BQ, hl2, W2, Z2, V2, BWQ⟩ := hrel
        have hca := (BWQ.out.cell (p := ⟨b1, o1 + n, none⟩) hb1).trans hc1
        by_cases hlk : k < b.length
        · obtain ⟨b2, o2, rfl, hb2, hc2, hcap2⟩ := num_cell HB.out k hlk
          have hcb := (BWQ.out.cell (p := ⟨b2, o2 + k, none⟩) hb2).trans hc2
          have hco := BQ.out.cell (n + k) (by omega)
          have hfo := BQ.out.free (n + k)
          have hx2 := hwb.out.getD k
          have hx3 := W2.out.getD (n + k)
          obtain ⟨m0, m1⟩ := Nt.mul_bound hW1.out hx2
          obtain ⟨x30, x31⟩ := hx3
          obtain ⟨x20, x21⟩ := hx2
          generalize hm : a.getD n 0 * b.getD k 0 = m at *
          obtain ⟨x, hx⟩ : ∃ x, x = m + O2.getD (n + k) 0 + cz := ⟨_, rfl⟩
          have hvv := Nt.times_inner rfl (by omega) hlk hm.symm hx _ V2.out
          unfold Nt.B at hvv
          have hset := fun q => (show Blk (wr.drewN q) w.heap.size .u32 36 O2 from BQ.out.other rfl).set (n + k) (x % 4294967296)
          have hws := W2.out.set (n + k) (x := x % 4294967296) (by unfold W32; omega)
          have hzz : ∀ j, n + b.length ≤ j → (O2.set (n + k) (x % 4294967296)).getD j 0 = 0 := by
            intro j hj
            rw [List.getD_eq_getElem?_getD, List.getElem?_set_ne (by omega), ← List.getD_eq_getElem?_getD]
            exact Z2.out j hj
          have HVV := Lib.hid hvv
          have HS := Lib.hid hset
          have HWS := Lib.hid hws
          have HZ := Lib.hid hzz
          have hlen' : (O2.set (n + k) (x % 4294967296)).length = a.length + b.length := by rw [List.length_set]; exact hl2
          clear hvv hset hws hzz V2 Z2 W2 BQ
          subst hx
          generalize O2.set (n + k) ((m + O2.getD (n + k) 0 + cz) % 4294967296) = O3 at *
          generalize O2.getD (n + k) 0 = o at *
          generalize a.getD n 0 = x1 at *
          generalize b.getD k 0 = x2 at *
          go_wp2
          go_quiet (fail)
          go_wp2
          go_roundw
          case rel => exact ⟨k + 1, O3, _, by omega, by go_num, rfl, by omega, by omega, HS.out _, hlen', HWS.out, HZ.out, HVV.out, (below_drewN BWQ.out _).setCell (Nat.le_refl _) _⟩
          case measure => simp [intOf]; omega
        · obtain rfl : k = b.length := by omega
          have hco := BQ.out.cell (n + b.length) (by omega)
          have hfo := BQ.out.free (n + b.length)
          have hset := BQ.out.set (n + b.length) cz
          have hws := W2.out.set (n + b.length) (x := cz) (by unfold W32; omega)
          have hzz : ∀ j, n + 1 + b.length ≤ j → (O2.set (n + b.length) cz).getD j 0 = 0 := by
            intro j hj
            rw [List.getD_eq_getElem?_getD, List.getElem?_set_ne (by omega), ← List.getD_eq_getElem?_getD]
            exact Z2.out j (by omega)
          have hvv : Nt.val (O2.set (n + b.length) cz) = Nt.val (a.take (n + 1)) * Nt.val b := by
            rw [Nt.val_set O2 _ _ (by omega), Z2.out _ (Nat.le_refl _), HV.out, ← V2.out]; grind
          have HVV := Lib.hid hvv
          have HS := Lib.hid hset
          have HWS := Lib.hid hws
          have HZ := Lib.hid hzz
          have hlen' : (O2.set (n + b.length) cz).length = a.length + b.length := by rw [List.length_set]; exact hl2
          clear hvv hset hws hzz V2 Z2 W2 BQ HV
          generalize O2.set (n + b.length) cz = O3 at *
          generalize O2.getD (n + b.length) 0 = o at *
          generalize a.getD n 0 = x1 at *
          go_wp2
          go_roundw
          case rel => exact ⟨n + 1, O3, by omega, by go_num, HS.out, hlen', HWS.out, HZ.out, HVV.out, BWQ.out.setCell (Nat.le_refl _) _⟩
          case measure => simp [intOf]; omega
    · obtain rfl : n = a.length := by omega
      have hvv := VO.out
      rw [List.take_length] at hvv
      have HVV := Lib.hid hvv
      have ht := trim_any wr _ O (num_blk BK.out hlO WO.out) (by omega)
      have HT := Lib.hid ht
      clear ht hvv VO ZO WO HA HB
      go_wp2_with (go_at_call 44; refine HT.out.mono ?_; rintro e w1 ⟨v1, rfl, h2, h3⟩; have H2 := Lib.hid h2; have H3 := Lib.hid h3; clear h2 h3)
      go_ret
      refine ⟨_, _, rfl, H2.out, ?_, Nt.neat_trim _, ?_, BW.out.trans (H3.out.mono BW.out.size)⟩
      · rw [Nt.val_trim]; exact HVV.out
      · rw [Nt.length_trim, ← hlO]; exact Nt.cut_le _ _
end Go.Proofs.YtgebangnhgmmoaaDoor

/- The reference's numbers, the walks: rows made word by word; sums. -/
namespace Go.Proofs.YtgebangnhgmmoaaDoor
open Go.RowKit

theorem own_below {w wr w' : World} {k : Nat} {e : TypeId} {v : Value} {xs : List Value} (hb : Below w.heap.size w wr) (h : wr.ownsRow w.heap.size e 1 v k xs) (hg : wr.grownBy w' v.ownBlock) : Below w.heap.size w w' := by
  refine hb.trans ⟨hg.os, hg.tape, hg.output, hg.size, fun i hi => hg.block i (Nat.lt_of_lt_of_le hi hb.size) ?_⟩
  rcases h.2 with ⟨rfl, _⟩ | ⟨g, cap, cur, rfl, hg', _⟩
  · simp [Value.ownBlock]
  · intro hh
    simp only [Value.ownBlock, Option.some.injEq] at hh
    omega
/-- A row of numbers that was made since. -/
def Mine (k : IntKind) (e : TypeId) (w0 w : World) (v : Value) (xs : List Int) : Prop := w.ownsRow w0.heap.size e 1 v xs.length (xs.map (Value.int k)) ∧ Below w0.heap.size w0 w
theorem Mine.nil (k : IntKind) (e : TypeId) (w : World) : Mine k e w w (.slice none 0 0) [] := ⟨⟨rfl, Or.inl ⟨rfl, rfl⟩⟩, Below.refl _ _⟩
theorem Mine.form {k : IntKind} {e : TypeId} {w0 w : World} {v : Value} {xs : List Int} (h : Mine k e w0 w v xs) : ∃ a c, v = .slice a xs.length c := by
  rcases h.1.2 with ⟨h, h0⟩ | ⟨g, cap, cur, h, _⟩
  · exact ⟨none, 0, by rw [h0]; exact h⟩
  · exact ⟨_, _, h⟩
theorem Mine.num {e : TypeId} {w0 w : World} {v : Value} {xs : List Int} (h : Mine .u32 e w0 w v xs) (hw : Nt.Ws xs) : Num w v xs := by
  rcases h.1.2 with ⟨hv, h0⟩ | ⟨g, cap, cur, h1, h2, h3, h4, h5, h6, h7⟩
  · exact ⟨none, 0, by rw [h0]; exact hv, by rw [h0]; exact Nat.le_refl _, hw, Or.inl (List.eq_nil_of_length_eq_zero h0)⟩
  · refine ⟨_, cap, h1, h4, hw, Or.inr ⟨g, 0, rfl, lt_of_block h3, fun j hj => ?_⟩⟩
    rw [Nat.zero_add, cell_of_row w g j _ e (0, 0) h3]
    have e1 : (cur.toList.take (xs.length * 1))[j]? = some (.int .u32 (xs.getD j 0)) := by rw [h7]; simp [hj]
    rw [List.getElem?_take_of_lt (by omega)] at e1
    simpa using e1
section
variable {w : World} {ops : Array Oper} {rest : List Oper} {o : Oper} {a : Act} {Q : Exit → Act → World → Prop}
/-- One word. -/
theorem append_word (hgd : o.guard = none) (s x : Operand)
    (ho : o.op = .call { callee := .builtin .append, args := #[s, x], argTypes := #[26, 26] })
    (w0 : World) (v : Value) (xs : List Int) (hs : a.eval s = v) (hown : Mine .u32 36 w0 w v xs) (y : Int) (hx : a.eval x = .slice (some ⟨w.heap.size, 0, none⟩) 1 1) (hlen : xs.length ≤ 10000000000000)
    (h : ∀ v' w', Mine .u32 36 w0 w' v' (xs ++ [y]) → wpList Tryd.prog ops Q rest (a.put o.dst v') w') :
    wpList Tryd.prog ops Q (o :: rest) a (w.alloc (.cells #[.int .u32 y] 36)) := by
  obtain ⟨i0, hi, hz0, hz1, hz2⟩ := info_parts info36
  refine wpList_append_own_at (w.alloc (.cells #[.int .u32 y] 36)) hgd s x 26 ho w0.heap.size 36 i0 (.int .u32 0) 1 4 Tryd.underlying26 hi hz0 hz1 hz2 rfl (by decide) v xs.length (xs.map (Value.int .u32)) hs (hown.1.alloc _) ⟨w.heap.size, 0, none⟩ 1 1 [.int .u32 y] hx rfl (cell_one_new w _ _) (by intro u hu; simp at hu; subst hu; rfl) (by unfold maxLen; omega) (by omega) (by have := hown.2.size; simp; omega) ?_
  intro v' w' h1 h2 _ _
  have hb := own_below (hown.2.alloc hown.2.size _) (hown.1.alloc _) h2
  exact h v' w' ⟨by rw [List.length_append, List.map_append]; exact h1, hb⟩
end
namespace Nt
theorem val_take_more (l : List Int) (k : Nat) : val (l.take (k + 1)) = val (l.take k) + pw k * l.getD k 0 := by
  by_cases h : k < l.length
  · exact val_take_succ l k h
  · rw [List.take_of_length_le (by omega), List.take_of_length_le (by omega), show l.getD k 0 = 0 by simp [List.getD_eq_getElem?_getD, List.getElem?_eq_none (show l.length ≤ k by omega)]]
    omega
theorem Ws.snoc {l : List Int} (h : Ws l) {x : Int} (hx : W32 x) : Ws (l ++ [x]) := by
  intro y hy
  rcases List.mem_append.1 hy with hy | hy
  · exact h y hy
  · rw [List.mem_singleton] at hy; rw [hy]; exact hx
/-- One word more of a sum. -/
theorem plus_more {a b O : List Int} {k : Nat} {c t : Int} (hO : O.length = k) (ht : t = c + a.getD k 0 + b.getD k 0) (h : val O + c * pw k = val (a.take k) + val (b.take k)) :
    val (O ++ [t % B]) + t / B * pw (k + 1) = val (a.take (k + 1)) + val (b.take (k + 1)) := by
  rw [val_append, hO, val_take_more, val_take_more, pw_succ]
  have e : val [t % B] = t % B := by simp [val]
  rw [e]
  have h2 : t = B * (t / B) + t % B := (Int.mul_ediv_add_emod t B).symm
  generalize t / B = q at *
  generalize t % B = r at *
  subst h2
  grind
end Nt
end Go.Proofs.YtgebangnhgmmoaaDoor

/- The reference's numbers, the walks: a sum. -/
namespace Go.Proofs.YtgebangnhgmmoaaDoor
open Go.RowKit

set_option maxRecDepth 100000 in
set_option maxHeartbeats 1000000 in
theorem plusn_any (w : World) (va vb : Value) (a b : List Int) (ha : Num w va a) (hb : Num w vb b) (hla : a.length ≤ 100000) (hlb : b.length ≤ 100000) :
    Calls Tryd.prog 41 #[va, vb] w fun e w' => ∃ v' l, e = .returned v' ∧ Num w' v' l ∧ Nt.val l = Nt.val a + Nt.val b ∧ Nt.Neat l ∧ l.length ≤ a.length + b.length + 1 ∧ Below w.heap.size w w' := by
  obtain ⟨aa, ca, rfl⟩ := num_form ha
  obtain ⟨ab, cb, rfl⟩ := num_form hb
  have HA := Lib.hid ha
  have HB := Lib.hid hb
  have hwa : Hid (Nt.Ws a) := by obtain ⟨_, _, _, _, h, _⟩ := ha; exact h
  have hwb : Hid (Nt.Ws b) := by obtain ⟨_, _, _, _, h, _⟩ := hb; exact h
  clear ha hb
  go_enter Tryd.func41, Tryd.ntmps41
  go_wp2_with fail
  go_loopw [5, 6, 7] (fun v c i wr => ∃ (k : Nat) (O : List Int) (cz : Int), k ≤ a.length + b.length ∧ (k ≤ a.length ∨ k ≤ b.length) ∧ i = .int .i64 k ∧ c = .int .u64 cz ∧ 0 ≤ cz ∧ cz ≤ 1 ∧ O.length = k ∧ Hid (Nt.Ws O) ∧ Hid (Mine .u32 36 w wr v O) ∧ Hid (Nt.val O + cz * Nt.pw k = Nt.val (a.take k) + Nt.val (b.take k))) (fun _ _ i _ => a.length + b.length - (intOf i).toNat)
  case atStart => exact ⟨0, [], 0, Nat.zero_le _, Or.inl (Nat.zero_le _), rfl, rfl, by omega, by omega, rfl, Nt.Ws.nil, Mine.nil _ _ _, by show _ = _; simp [Nt.val]⟩
  case round =>
    obtain ⟨k, O, cz, hk, hk2, rfl, rfl, c0, c1, hO, WO, MO, VO⟩ := hrel
    obtain ⟨a5, c5, rfl⟩ := MO.out.form
    rw [hO]
    have hda : 0 ≤ a.getD k 0 ∧ a.getD k 0 ≤ 4294967295 := hwa.out.getD k
    have hdb : 0 ≤ b.getD k 0 ∧ b.getD k 0 ≤ 4294967295 := hwb.out.getD k
    obtain ⟨t, ht⟩ : ∃ t, t = cz + a.getD k 0 + b.getD k 0 := ⟨_, rfl⟩
    have hmore := Nt.plus_more hO ht VO.out
    unfold Nt.B at hmore
    have hws := WO.out.snoc (x := t % 4294967296) (by unfold W32; omega)
    have HMORE := Lib.hid hmore
    have HWS := Lib.hid hws
    have HOL := Lib.hid hO
    have hol : (O ++ [t % 4294967296]).length = k + 1 := by rw [List.length_append, hO]; rfl
    have HOL2 := Lib.hid hol
    have MO2 : Hid (Mine .u32 36 w wr (.slice a5 k c5) O) := by have := MO.out; rw [hO] at this; exact this
    clear hmore hws hO hol MO
    obtain ⟨da0, da1⟩ := hda
    obtain ⟨db0, db1⟩ := hdb
    by_cases hla2 : k < a.length
    · obtain ⟨b1, o1, rfl, hb1, hc1, hcap1⟩ := num_cell HA.out k hla2
      have hc1' := (MO2.out.2.cell (p := ⟨b1, o1 + k, none⟩) hb1).trans hc1
      by_cases hlb2 : k < b.length
      · obtain ⟨b2, o2, rfl, hb2, hc2, hcap2⟩ := num_cell HB.out k hlb2
        have hc2' := (MO2.out.2.cell (p := ⟨b2, o2 + k, none⟩) hb2).trans hc2
        clear hc1 hc2 VO WO
        generalize a.getD k 0 = xa at *
        generalize b.getD k 0 = xb at *
        subst ht
        go_wp2_with ((with_reducible refine append_word (o := ⟨some 46, _, _, _, _, _⟩) rfl (.tmp 42) (.tmp 45) rfl w (.slice a5 k c5) O rfl ?_ ((cz + xa + xb) % 4294967296) rfl ?_ ?_); exact MO2.out; exact (by have := HOL.out; omega); intro u6 w5 hp2; have HP3 := Lib.hid hp2; clear hp2)
        go_roundw
        case rel => exact ⟨k + 1, O ++ [(cz + xa + xb) % 4294967296], _, by omega, by omega, by go_num, rfl, by omega, by omega, HOL2.out, HWS, HP3, HMORE⟩
        case measure => simp [intOf]; omega
      · clear hc1 VO WO
        have hz : b.getD k 0 = 0 := by simp [List.getD_eq_getElem?_getD, List.getElem?_eq_none (show b.length ≤ k by omega)]
        rw [hz, Int.add_zero] at ht
        clear hz db0 db1 HB
        generalize a.getD k 0 = xa at *
        subst ht
        go_wp2_with ((with_reducible refine append_word (o := ⟨some 46, _, _, _, _, _⟩) rfl (.tmp 42) (.tmp 45) rfl w (.slice a5 k c5) O rfl ?_ ((cz + xa) % 4294967296) rfl ?_ ?_); exact MO2.out; exact (by have := HOL.out; omega); intro u6 w5 hp2; have HP3 := Lib.hid hp2; clear hp2)
        go_roundw
        case rel => exact ⟨k + 1, O ++ [(cz + xa) % 4294967296], _, by omega, by omega, by go_num, rfl, by omega, by omega, HOL2.out, HWS, HP3, HMORE⟩
        case measure => simp [intOf]; omega
    · by_cases hlb2 : k < b.length
      · obtain ⟨b2, o2, rfl, hb2, hc2, hcap2⟩ := num_cell HB.out k hlb2
        have hc2' := (MO2.out.2.cell (p := ⟨b2, o2 + k, none⟩) hb2).trans hc2
        clear hc2 VO WO
        have hz : a.getD k 0 = 0 := by simp [List.getD_eq_getElem?_getD, List.getElem?_eq_none (show a.length ≤ k by omega)]
        rw [hz, Int.add_zero] at ht
        clear hz da0 da1 HA
        generalize b.getD k 0 = xb at *
        subst ht
        go_wp2_with ((with_reducible refine append_word (o := ⟨some 46, _, _, _, _, _⟩) rfl (.tmp 42) (.tmp 45) rfl w (.slice a5 k c5) O rfl ?_ ((cz + xb) % 4294967296) rfl ?_ ?_); exact MO2.out; exact (by have := HOL.out; omega); intro u6 w5 hp2; have HP3 := Lib.hid hp2; clear hp2)
        go_roundw
        case rel => exact ⟨k + 1, O ++ [(cz + xb) % 4294967296], _, by omega, by omega, by go_num, rfl, by omega, by omega, HOL2.out, HWS, HP3, HMORE⟩
        case measure => simp [intOf]; omega
      · have WO' := WO.out
        have hke : Hid (Nt.val (a.take k) = Nt.val a ∧ Nt.val (b.take k) = Nt.val b) := by rw [List.take_of_length_le (by omega), List.take_of_length_le (by omega)]; exact ⟨rfl, rfl⟩
        have HWC : Hid (Nt.Ws (O ++ [cz])) := WO'.snoc (x := cz) (by unfold W32; omega)
        have HLC : Hid ((O ++ [cz]).length ≤ 1000000) := by
          have e : (O ++ [cz]).length = k + 1 := by rw [List.length_append, HOL.out]; rfl
          show _ ≤ _; omega
        have HVC : Hid (Nt.val (O ++ [cz]) = Nt.val a + Nt.val b) := by
          show _ = _
          rw [Nt.val_append, HOL.out, ← hke.out.1, ← hke.out.2, ← VO.out]
          simp [Nt.val, Int.mul_comm]
        clear hke VO WO' HMORE HWS HOL2 ht da0 da1 db0 db1 HA HB
        go_wp2_with (first
          | ((with_reducible refine append_word (o := ⟨some 53, _, _, _, _, _⟩) rfl (.tmp 49) (.tmp 52) rfl w (.slice a5 k c5) O rfl ?_ cz rfl ?_ ?_); exact MO2.out; exact (by have := HOL.out; omega); intro u6 w5 hp2; have HP3 := Lib.hid hp2; clear hp2)
          | ((with_reducible refine append_word (o := ⟨some 53, _, _, _, _, _⟩) rfl (.tmp 49) (.tmp 52) rfl w (.slice a5 k c5) O rfl ?_ (cz % 4294967296) rfl ?_ ?_); exact MO2.out; exact (by have := HOL.out; omega); intro u6 w5 hp2; have HP3 := Lib.hid hp2; clear hp2)
          | (go_at_call 44; refine (trim_any _ _ _ (HP3.out.num HWC.out) HLC.out).mono ?_; rintro e w1 ⟨v1, rfl, h2, h3⟩; have H2 := Lib.hid h2; have H3 := Lib.hid h3; clear h2 h3))
        go_ret
        refine ⟨_, _, rfl, H2.out, ?_, Nt.neat_trim _, ?_, HP3.out.2.trans (H3.out.mono HP3.out.2.size)⟩
        · rw [Nt.val_trim]; exact HVC.out
        · rw [Nt.length_trim]
          refine Nat.le_trans (Nt.cut_le _ _) ?_
          rw [List.length_append, HOL.out]
          show k + 1 ≤ _
          omega
end Go.Proofs.YtgebangnhgmmoaaDoor

/- The reference's numbers, the walks: a difference. -/
namespace Go.Proofs.YtgebangnhgmmoaaDoor
open Go.RowKit

namespace Nt
/-- One word more of a difference. -/
theorem less_more {a b O : List Int} {k : Nat} {c c' r : Int} (hO : O.length = k) (hr : r = a.getD k 0 - b.getD k 0 - c + c' * B) (h : val O = val (a.take k) - val (b.take k) + c * pw k) :
    val (O ++ [r]) = val (a.take (k + 1)) - val (b.take (k + 1)) + c' * pw (k + 1) := by
  rw [val_append, hO, val_take_more, val_take_more, pw_succ]
  have e : val [r] = r := by simp [val]
  rw [e]
  subst hr
  grind
theorem less_end {a b O : List Int} {c : Int} (ha : Ws a) (hb : Ws b) (hO : Ws O) (hl : O.length = a.length) (c0 : 0 ≤ c) (hle : val b ≤ val a) (h : val O = val a - val (b.take a.length) + c * pw a.length) : val O = val a - val b := by
  have hz : val b = val (b.take a.length) := by
    by_cases h1 : b.length ≤ a.length
    · rw [List.take_of_length_le h1]
    · have e := val_split b a.length (by omega)
      have h2 := val_nonneg (hb.drop a.length)
      have h3 := val_nonneg (hb.take a.length)
      have h4 := val_lt ha
      have h5 : ¬ 1 ≤ val (b.drop a.length) := by
        intro h6
        have := Int.mul_le_mul_of_nonneg_left h6 (Int.le_of_lt (pw_pos a.length))
        omega
      rw [e, show val (b.drop a.length) = 0 by omega]
      omega
  have h1 := val_lt hO
  rw [hl] at h1
  have h2 : ¬ 1 ≤ c := by
    intro h3
    have := Int.mul_le_mul_of_nonneg_right h3 (Int.le_of_lt (pw_pos a.length))
    omega
  have h3 : c = 0 := by omega
  rw [h3] at h
  omega
theorem sub_two {x y c : Int} (x0 : 0 ≤ x) (x1 : x ≤ 4294967295) (y0 : 0 ≤ y) (y1 : y ≤ 4294967295) (c0 : 0 ≤ c) (c1 : c ≤ 1) : ∃ X c', X = IntKind.u64.wrap (IntKind.u64.wrap (x - c) - y) ∧ 0 ≤ X ∧ X ≤ 18446744073709551615 ∧ 0 ≤ c' ∧ c' ≤ 1 ∧ X / 9223372036854775808 = c' ∧ X % 4294967296 = x - y - c + c' * 4294967296 := by
  have e : ∀ z, IntKind.u64.wrap z = z % 18446744073709551616 := fun z => rfl
  rw [e, e]
  refine ⟨_, _, rfl, by omega, by omega, ?_, ?_, rfl, ?_⟩ <;> omega
theorem sub_one {x y c : Int} (hy : y = 0) (x0 : 0 ≤ x) (x1 : x ≤ 4294967295) (c0 : 0 ≤ c) (c1 : c ≤ 1) : ∃ X c', X = IntKind.u64.wrap (x - c) ∧ 0 ≤ X ∧ X ≤ 18446744073709551615 ∧ 0 ≤ c' ∧ c' ≤ 1 ∧ X / 9223372036854775808 = c' ∧ X % 4294967296 = x - y - c + c' * 4294967296 := by
  have e : ∀ z, IntKind.u64.wrap z = z % 18446744073709551616 := fun z => rfl
  rw [e]
  refine ⟨_, _, rfl, by omega, by omega, ?_, ?_, rfl, ?_⟩ <;> omega
end Nt

set_option maxRecDepth 100000 in
set_option maxHeartbeats 1000000 in
theorem lessn_any (w : World) (va vb : Value) (a b : List Int) (ha : Num w va a) (hb : Num w vb b) (hla : a.length ≤ 100000) (hle : Nt.val b ≤ Nt.val a) :
    Calls Tryd.prog 42 #[va, vb] w fun e w' => ∃ v' l, e = .returned v' ∧ Num w' v' l ∧ Nt.val l = Nt.val a - Nt.val b ∧ Nt.Neat l ∧ l.length ≤ a.length ∧ Below w.heap.size w w' := by
  obtain ⟨aa, ca, rfl⟩ := num_form ha
  obtain ⟨ab, cb, rfl⟩ := num_form hb
  have HA := Lib.hid ha
  have HB := Lib.hid hb
  have hwa : Hid (Nt.Ws a) := by obtain ⟨_, _, _, _, h, _⟩ := ha; exact h
  have hwb : Hid (Nt.Ws b) := by obtain ⟨_, _, _, _, h, _⟩ := hb; exact h
  have HLE := Lib.hid hle
  clear ha hb hle
  go_enter Tryd.func42, Tryd.ntmps42
  go_wp2_with fail
  go_loopw [5, 6, 7] (fun v c i wr => ∃ (k : Nat) (O : List Int) (cz : Int), k ≤ a.length ∧ i = .int .i64 k ∧ c = .int .u64 cz ∧ 0 ≤ cz ∧ cz ≤ 1 ∧ O.length = k ∧ Hid (Nt.Ws O) ∧ Hid (Mine .u32 36 w wr v O) ∧ Hid (Nt.val O = Nt.val (a.take k) - Nt.val (b.take k) + cz * Nt.pw k)) (fun _ _ i _ => a.length - (intOf i).toNat)
  case atStart => exact ⟨0, [], 0, Nat.zero_le _, rfl, rfl, by omega, by omega, rfl, Nt.Ws.nil, Mine.nil _ _ _, by show _ = _; simp [Nt.val]⟩
  case round =>
    obtain ⟨k, O, cz, hk, rfl, rfl, c0, c1, hO, WO, MO, VO⟩ := hrel
    obtain ⟨a5, c5, rfl⟩ := MO.out.form
    rw [hO]
    have hda : 0 ≤ a.getD k 0 ∧ a.getD k 0 ≤ 4294967295 := hwa.out.getD k
    have hdb : 0 ≤ b.getD k 0 ∧ b.getD k 0 ≤ 4294967295 := hwb.out.getD k
    have MO2 : Hid (Mine .u32 36 w wr (.slice a5 k c5) O) := by have := MO.out; rw [hO] at this; exact this
    have HOL := Lib.hid hO
    by_cases hla2 : k < a.length
    · have hmore := fun c' r hr => Nt.less_more (a := a) (b := b) (c := cz) (c' := c') (r := r) hO hr VO.out
      unfold Nt.B at hmore
      have HMORE := Lib.hid hmore
      clear hmore hO MO
      obtain ⟨da0, da1⟩ := hda
      obtain ⟨db0, db1⟩ := hdb
      obtain ⟨b1, o1, rfl, hb1, hc1, hcap1⟩ := num_cell HA.out k hla2
      have hc1' := (MO2.out.2.cell (p := ⟨b1, o1 + k, none⟩) hb1).trans hc1
      by_cases hlb2 : k < b.length
      · obtain ⟨b2, o2, rfl, hb2, hc2, hcap2⟩ := num_cell HB.out k hlb2
        have hc2' := (MO2.out.2.cell (p := ⟨b2, o2 + k, none⟩) hb2).trans hc2
        clear hc1 hc2 VO
        generalize a.getD k 0 = xa at *
        generalize b.getD k 0 = xb at *
        obtain ⟨X, c', hX, X0, X1, d0, d1, hc', hr⟩ := Nt.sub_two da0 da1 db0 db1 c0 c1
        subst hX
        have hws : Hid (Nt.Ws (O ++ [IntKind.u64.wrap (IntKind.u64.wrap (xa - cz) - xb) % 4294967296])) := WO.out.snoc (x := IntKind.u64.wrap (IntKind.u64.wrap (xa - cz) - xb) % 4294967296) (by unfold W32; omega)
        have hol : Hid ((O ++ [IntKind.u64.wrap (IntKind.u64.wrap (xa - cz) - xb) % 4294967296]).length = k + 1) := by show _ = _; rw [List.length_append, HOL.out]; rfl
        have HV := Lib.hid (HMORE.out c' (IntKind.u64.wrap (IntKind.u64.wrap (xa - cz) - xb) % 4294967296) hr)
        clear HMORE hr WO
        go_wp2_with ((with_reducible refine append_word (o := ⟨some 37, _, _, _, _, _⟩) rfl (.tmp 33) (.tmp 36) rfl w (.slice a5 k c5) O rfl ?_ (IntKind.u64.wrap (IntKind.u64.wrap (xa - cz) - xb) % 4294967296) rfl ?_ ?_); exact MO2.out; exact (by have := HOL.out; omega); intro u6 w5 hp2; have HP3 := Lib.hid hp2; clear hp2)
        go_roundw
        case rel => exact ⟨k + 1, O ++ [IntKind.u64.wrap (IntKind.u64.wrap (xa - cz) - xb) % 4294967296], c', by omega, by go_num, rfl, d0, d1, hol.out, hws, HP3, HV⟩
        case measure => simp [intOf]; omega
      · clear hc1
        have hz : b.getD k 0 = 0 := by simp [List.getD_eq_getElem?_getD, List.getElem?_eq_none (show b.length ≤ k by omega)]
        clear VO HB
        generalize a.getD k 0 = xa at *
        generalize b.getD k 0 = xb at *
        obtain ⟨X, c', hX, X0, X1, d0, d1, hc', hr⟩ := Nt.sub_one hz da0 da1 c0 c1
        subst hX
        have hws : Hid (Nt.Ws (O ++ [IntKind.u64.wrap (xa - cz) % 4294967296])) := WO.out.snoc (x := IntKind.u64.wrap (xa - cz) % 4294967296) (by unfold W32; omega)
        have hol : Hid ((O ++ [IntKind.u64.wrap (xa - cz) % 4294967296]).length = k + 1) := by show _ = _; rw [List.length_append, HOL.out]; rfl
        have HV := Lib.hid (HMORE.out c' (IntKind.u64.wrap (xa - cz) % 4294967296) hr)
        clear HMORE hr WO hz db0 db1
        go_wp2_with ((with_reducible refine append_word (o := ⟨some 37, _, _, _, _, _⟩) rfl (.tmp 33) (.tmp 36) rfl w (.slice a5 k c5) O rfl ?_ (IntKind.u64.wrap (xa - cz) % 4294967296) rfl ?_ ?_); exact MO2.out; exact (by have := HOL.out; omega); intro u6 w5 hp2; have HP3 := Lib.hid hp2; clear hp2)
        go_roundw
        case rel => exact ⟨k + 1, O ++ [IntKind.u64.wrap (xa - cz) % 4294967296], c', by omega, by go_num, rfl, d0, d1, hol.out, hws, HP3, HV⟩
        case measure => simp [intOf]; omega
    · obtain rfl : k = a.length := by omega
      have hv := VO.out
      rw [List.take_length] at hv
      have HVC := Lib.hid (Nt.less_end hwa.out hwb.out WO.out hO c0 HLE.out hv)
      have HLC : Hid (O.length ≤ 1000000) := by show _ ≤ _; omega
      clear hv VO hda hdb HA HB hO
      go_wp2_with (go_at_call 44; refine (trim_any _ _ _ (MO2.out.num WO.out) HLC.out).mono ?_; rintro e w1 ⟨v1, rfl, h2, h3⟩; have H2 := Lib.hid h2; have H3 := Lib.hid h3; clear h2 h3)
      go_ret
      refine ⟨_, _, rfl, H2.out, ?_, Nt.neat_trim _, ?_, MO2.out.2.trans (H3.out.mono MO2.out.2.size)⟩
      · rw [Nt.val_trim]; exact HVC.out
      · rw [Nt.length_trim]
        refine Nat.le_trans (Nt.cut_le _ _) ?_
        rw [HOL.out]
        exact Nat.le_refl _
end Go.Proofs.YtgebangnhgmmoaaDoor
