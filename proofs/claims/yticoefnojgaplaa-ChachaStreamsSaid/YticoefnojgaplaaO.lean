/- Layer 2's reference, the walks: numbers compared; primes. -/
import Derived.Test.YticoefnojgaplaaN
namespace Go.Proofs.Yticoefnojgaplaa
open Go.RowKit

theorem below_drw {B : Nat} {w w' : World} (h : Below B w w') : Below B w w'.drew := ⟨h.os, h.tape, h.output, h.size, h.block⟩
theorem num_form {w : World} {v : Value} {l : List Int} (h : Num w v l) : ∃ a cap, v = .slice a l.length cap := by
  obtain ⟨a, cap, h1, _⟩ := h
  exact ⟨a, cap, h1⟩
theorem num_cell {w : World} {a : Option Addr} {n cap : Nat} {l : List Int} (h : Num w (.slice a n cap) l) (j : Nat) (hj : j < n) : ∃ b off, a = some ⟨b, off, none⟩ ∧ b < w.heap.size ∧ w.cell? ⟨b, off + j, none⟩ = some (.int .u32 (l.getD j 0)) ∧ n ≤ cap := by
  obtain ⟨a', cap', hv, hc, h8, hm⟩ := h
  simp only [Value.slice.injEq] at hv
  obtain ⟨rfl, rfl, rfl⟩ := hv
  rcases hm with hm | ⟨b, off, rfl, h2, h3⟩
  · rw [hm] at hj; simp at hj
  · exact ⟨b, off, rfl, h2, h3 j hj, hc⟩

set_option maxRecDepth 100000 in
set_option maxHeartbeats 400000 in
theorem cmp_any (w : World) (va vb : Value) (a b : List Int) (ha : Num w va a) (hb : Num w vb b) (hla : a.length ≤ 1000000) (hlb : b.length ≤ 1000000) :
    Calls Try.prog 44 #[va, vb] w fun e w' => ∃ r : Int, e = .returned (.int .i64 r) ∧ (r ≤ 0 ↔ Nt.val a ≤ Nt.val b) ∧ (r < 0 ↔ Nt.val a < Nt.val b) ∧ Below w.heap.size w w' := by
  obtain ⟨aa, ca, rfl⟩ := num_form ha
  obtain ⟨ab, cb, rfl⟩ := num_form hb
  have HA := Lib.hid (trim_any w _ a ha hla)
  have HNB := Lib.hid hb
  have hwa : Hid (Nt.Ws (Nt.trim a)) := by obtain ⟨_, _, _, _, h, _⟩ := ha; exact Nt.Ws.trim h
  have hwb : Hid (Nt.Ws (Nt.trim b)) := by obtain ⟨_, _, _, _, h, _⟩ := hb; exact Nt.Ws.trim h
  have hva : Hid (Nt.val (Nt.trim a) = Nt.val a) := Nt.val_trim a
  have hvb : Hid (Nt.val (Nt.trim b) = Nt.val b) := Nt.val_trim b
  have hna : Hid (Nt.Neat (Nt.trim a)) := Nt.neat_trim a
  have hnb : Hid (Nt.Neat (Nt.trim b)) := Nt.neat_trim b
  have hl1 : (Nt.trim a).length ≤ 1000000 := by rw [Nt.length_trim]; exact Nat.le_trans (Nt.cut_le _ _) hla
  have hl2 : (Nt.trim b).length ≤ 1000000 := by rw [Nt.length_trim]; exact Nat.le_trans (Nt.cut_le _ _) hlb
  have HB := Lib.hid (fun w1 (h : Below w.heap.size w w1) => trim_any w1 _ b (hb.below h (Nat.le_refl _)) hlb)
  clear ha hb HNB
  generalize Nt.trim a = A at *
  generalize Nt.trim b = C at *
  generalize Nt.val a = xa at *
  generalize Nt.val b = xb at *
  go_enter Try.func44, Try.ntmps44
  go_wp2_with (first
    | (go_at_call 46; refine HB1.out.mono ?_; rintro e w2 ⟨v2, rfl, h2, h3⟩; obtain ⟨a2, c2, rfl⟩ := num_form h2; have H2 := Lib.hid h2; have H3 := Lib.hid h3; clear h2 h3)
    | (go_at_call 46; refine HA.out.mono ?_; rintro e w1 ⟨v1, rfl, h0, h1⟩; obtain ⟨a1, c1, rfl⟩ := num_form h0; have H0 := Lib.hid h0; have H1 := Lib.hid h1; have HB1 := Lib.hid (HB.out w1 h1); clear h0 h1))
  · rename_i hne
    have hne : A.length ≠ C.length := by
      intro h
      rw [h] at hne
      simp at hne
    go_ret
    have hlt := fun h => Nt.val_lt_of_length hwa.out hwb.out hnb.out h
    have hgt := fun h => Nt.val_lt_of_length hwb.out hwa.out hna.out h
    rw [hva.out, hvb.out] at hlt hgt
    refine ⟨_, rfl, ?_, ?_, H1.out.trans (H3.out.mono H1.out.size)⟩
    · rcases Nat.lt_or_gt_of_ne hne with h | h
      · have := hlt h; omega
      · have := hgt h; omega
    · rcases Nat.lt_or_gt_of_ne hne with h | h
      · have := hlt h; omega
      · have := hgt h; omega
  · rename_i hne _ _
    have hlen : A.length = C.length := by
      have : (A.length : Int) = (C.length : Int) := by simpa using hne
      omega
    clear hne
    have HL := Lib.hid hlen
    clear hlen HA HB HB1
    have H0' := Lib.hid (H0.out.below H3.out (Nat.le_refl _))
    have hb2 : Hid (Below w.heap.size w w2) := H1.out.trans (H3.out.mono H1.out.size)
    clear H0 H1 H3
    go_loopw [5] (fun i wr => ∃ m : Nat, m ≤ A.length ∧ i = .int .i64 ((m : Int) - 1) ∧ Hid (A.drop m = C.drop m) ∧ Hid (Below w2.heap.size w2 wr)) (fun i _ => (intOf i + 1).toNat)
    case atStart => exact ⟨A.length, Nat.le_refl _, by go_num, by rw [List.drop_length, HL.out, List.drop_length]; exact rfl, Below.refl _ _⟩
    case round =>
      obtain ⟨m, hm, rfl, D, BW⟩ := hrel
      have hb3 : Hid (Below w.heap.size w wr) := hb2.out.trans (BW.out.mono hb2.out.size)
      cases m with
      | zero =>
        have he : xa = xb := by
          have h := D.out
          rw [List.drop_zero, List.drop_zero] at h
          rw [← hva.out, ← hvb.out, h]
        clear H0' H2 D HL
        rw [show ((0 : Nat) : Int) - 1 = -1 from rfl]
        go_wp2
        go_ret
        exact ⟨0, rfl, by omega, by omega, hb3.out⟩
      | succ m =>
        obtain ⟨b1, o1, rfl, hb1, hc1, hcap1⟩ := num_cell (H0'.out.below BW.out (Nat.le_refl _)) m (by omega)
        have hm2 : m < C.length := by rw [← HL.out]; omega
        obtain ⟨b2, o2, rfl, hb2', hc2, hcap2⟩ := num_cell (H2.out.below BW.out (Nat.le_refl _)) m hm2
        have hlt := fun h => Nt.val_lt_of_word hwa.out hwb.out m (by omega) hm2 D.out h
        have hgt := fun h => Nt.val_lt_of_word hwb.out hwa.out m hm2 (by omega) D.out.symm h
        rw [hva.out, hvb.out] at hlt hgt
        have HLT := Lib.hid hlt
        have HGT := Lib.hid hgt
        have hdd : Hid (A.getD m 0 = C.getD m 0 → A.drop m = C.drop m) := fun h => by
          have hm1 : m < A.length := by omega
          have e : A[m] = C[m] := by simpa [hm2, hm1] using h
          rw [List.drop_eq_getElem_cons hm1, List.drop_eq_getElem_cons hm2, D.out, e]
        clear hlt hgt H0' H2
        generalize A.getD m 0 = x at *
        generalize C.getD m 0 = y at *
        rw [show ((m + 1 : Nat) : Int) - 1 = (m : Int) by omega]
        rcases Int.lt_trichotomy x y with hxy | hxy | hxy
        · go_wp2
          go_region
          go_wp2
          go_ret
          have := HLT.out hxy
          exact ⟨-1, rfl, by omega, by omega, below_drw hb3.out⟩
        · subst hxy
          go_wp2
          go_region
          go_wp2
          go_region
          go_wp2
          go_roundw
          case rel => exact ⟨m, by omega, by go_num, hdd.out trivial, below_drw (below_drw BW.out)⟩
          case measure => simp [intOf]
        · go_wp2
          go_region
          go_wp2
          go_region
          go_wp2
          go_ret
          have := HGT.out hxy
          exact ⟨1, rfl, by omega, by omega, below_drw (below_drw hb3.out)⟩

end Go.Proofs.Yticoefnojgaplaa
