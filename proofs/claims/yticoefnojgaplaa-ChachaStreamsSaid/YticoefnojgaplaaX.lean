/- The reference's numbers, the walks: the bytes of a number. -/
import Derived.Test.YticoefnojgaplaaW
namespace Go.Proofs.Yticoefnojgaplaa
open Go.RowKit

theorem info5b : (Try.prog.info? 5).map (fun i => (i.zero, i.size, i.bytes)) = some (some (.int .u8 0), 1, 1) := by kernel_rfl
theorem run_mk8 (w : World) (n : Nat) (i : Int) (hi : i = n) (hn : n ≤ 1000000) : (Instr.makeSlice 22 (.int .i64 i) (.int .i64 i)).run Try.prog w = .ok (.slice (some ⟨w.heap.size, 0, none⟩) n n) (w.alloc (.cells ((zs n).map (Value.int .u8)).toArray 5)) := by
  subst hi
  obtain ⟨i0, hi, hz0, hz1, hz2⟩ := info_parts info5b
  have h := run_make w 22 5 i0 (.int .u8 0) Try.underlying22 hi hz0 .i64 .i64 n n (by omega) (by omega) (by rw [hz2]; omega) (by omega)
  rw [h]
  have e : madeCells (Value.int .u8 0).cells ((n : Int).toNat * i0.size) = ((zs n).map (Value.int .u8)).toArray := by
    apply Array.toList_inj.1
    rw [hz1, Nat.mul_one]
    show (madeCells #[Value.int .u8 0] _).toList = _
    rw [toList_madeCells_one]
    simp [zs]
  rw [e]
  rfl
namespace Nt
def byte (a : List Int) (j : Nat) : Int := a.getD (j / 4) 0 / 2 ^ (8 * (j % 4)) % 256
def upto (a : List Int) (n k : Nat) : List Int := (List.range n).map fun j => if j < k then byte a j else 0
theorem upto_length (a : List Int) (n k : Nat) : (upto a n k).length = n := by simp [upto]
theorem upto_zero (a : List Int) (n : Nat) : upto a n 0 = zs n := by
  apply List.ext_getElem
  · simp [upto, zs]
  · intro i h1 h2; simp [upto, zs]
theorem upto_more (a : List Int) (n k : Nat) : (upto a n k).set k (byte a k) = upto a n (k + 1) := by
  apply List.ext_getElem
  · simp [upto]
  · intro i h1 h2
    simp only [upto, List.getElem_set, List.getElem_map, List.getElem_range]
    by_cases h : k = i
    · subst h; simp
    · rw [if_neg h]
      by_cases h3 : i < k
      · rw [if_pos h3, if_pos (by omega)]
      · rw [if_neg h3, if_neg (by omega)]
theorem upto_all (a : List Int) (n k : Nat) (h : n ≤ k ∨ a.length ≤ k / 4) : upto a n k = (List.range n).map (byte a) := by
  apply List.ext_getElem
  · simp [upto]
  · intro i h1 h2
    have hi : i < n := by simpa using h2
    simp only [upto, List.getElem_map, List.getElem_range]
    by_cases h3 : i < k
    · rw [if_pos h3]
    · rw [if_neg h3]
      unfold byte
      rw [show a.getD (i / 4) 0 = 0 by simp [List.getD_eq_getElem?_getD, List.getElem?_eq_none (show a.length ≤ i / 4 by omega)]]
      simp
end Nt

set_option maxRecDepth 100000 in
set_option maxHeartbeats 1000000 in
theorem outb_any (w : World) (va : Value) (a : List Int) (n : Nat) (ha : Num w va a) (hla : a.length ≤ 100000) (hn : n ≤ 100000) :
    Calls Try.prog 36 #[va, .int .i64 n] w fun e w' => e = .returned (.slice (some ⟨w.heap.size, 0, none⟩) n n) ∧ Blk w' w.heap.size .u8 5 ((List.range n).map (Nt.byte a)) ∧ Below w.heap.size w w' := by
  obtain ⟨aa, ca, rfl⟩ := num_form ha
  have HA := Lib.hid ha
  have hwa : Hid (Nt.Ws a) := by obtain ⟨_, _, _, _, h, _⟩ := ha; exact h
  clear ha
  have hmk := fun w => run_mk8 w n n rfl (by omega)
  have hb0 : Hid (Blk (w.alloc (.cells ((zs n).map (Value.int .u8)).toArray 5)) w.heap.size .u8 5 (zs n)) := heap_alloc_new w _
  have ho0 : Hid (Below w.heap.size w (w.alloc (.cells ((zs n).map (Value.int .u8)).toArray 5))) := (Below.refl _ _).alloc (Nat.le_refl _) _
  go_enter Try.func36, Try.ntmps36
  go_wp2_with fail
  clear hmk
  go_loopw [6] (fun i wr => ∃ k : Nat, k ≤ n ∧ i = .int .i64 k ∧ Hid (Blk wr w.heap.size .u8 5 (Nt.upto a n k)) ∧ Hid (Below w.heap.size w wr)) (fun i _ => n - (intOf i).toNat)
  case atStart =>
    exact ⟨0, Nat.zero_le _, rfl, by rw [Nt.upto_zero]; exact hb0, ho0⟩
  case round =>
    clear hb0 ho0
    obtain ⟨k, hk, rfl, BK, BW⟩ := hrel
    by_cases hlt : k < n
    · by_cases hla2 : k / 4 < a.length
      · obtain ⟨b1, o1, rfl, hb1, hc1, hcap1⟩ := num_cell HA.out _ hla2
        have hca := (BW.out.cell (p := ⟨b1, o1 + k / 4, none⟩) hb1).trans hc1
        have hco := BK.out.cell k (by rw [Nt.upto_length]; exact hlt)
        have hfo := BK.out.free k
        have hset := BK.out.set k (Nt.byte a k)
        rw [Nt.upto_more] at hset
        have hby : Hid (Nt.byte a k = a.getD (k / 4) 0 / 2 ^ (8 * (k % 4)) % 256) := rfl
        have hda : 0 ≤ a.getD (k / 4) 0 ∧ a.getD (k / 4) 0 ≤ 4294967295 := hwa.out.getD _
        obtain ⟨da0, da1⟩ := hda
        have HSET := Lib.hid hset
        clear hset hc1 HA hwa
        generalize a.getD (k / 4) 0 = xa at *
        generalize (Nt.upto a n k).getD k 0 = xo at *
        go_wp2
        go_roundw
        case rel => exact ⟨k + 1, by omega, by go_num, by rw [← hby.out]; exact HSET.out, BW.out.setCell (Nat.le_refl _) _⟩
        case measure => simp [intOf]; omega
      · have HF := Lib.hid (Nt.upto_all a n k (Or.inr (by omega)))
        clear HA hwa
        go_wp2_with fail
        go_ret
        exact ⟨rfl, by rw [← HF.out]; exact BK.out, BW.out⟩
    · have HF := Lib.hid (Nt.upto_all a n k (Or.inl (by omega)))
      clear HA hwa
      go_wp2_with fail
      go_ret
      exact ⟨rfl, by rw [← HF.out]; exact BK.out, BW.out⟩
end Go.Proofs.Yticoefnojgaplaa
