/- The code's Block; the reference's word. -/
import Derived.Test.YticoefnojgaplaaAl
namespace Go.Proofs.Yticoefnojgaplaa
open Go.RowKit

set_option maxRecDepth 100000 in
theorem Block_any (w : World) (ak : Option Addr) (ck : Nat) (K : List Int) (hK : Slc w (.slice ak K.length ck) K) (n : Int) (hn : W32 n) (an : Option Addr) (cn : Nat) (N : List Int) (hN : Slc w (.slice an N.length cn) N) :
    Calls Try.prog 9 #[.slice ak K.length ck, .int .u32 n, .slice an N.length cn] w fun e w' => ∃ v', e = .returned v' ∧ Own w.heap.size w' v' (Ch.block (Ch.st (fit K 32) n (fit N 12))) ∧ Below w.heap.size w w' := by
  have hk8 : ∀ x ∈ K, W8 x := by obtain ⟨_, _, _, _, h, _⟩ := hK; exact h
  have hn8 : ∀ x ∈ N, W8 x := by obtain ⟨_, _, _, _, h, _⟩ := hN; exact h
  have HS := Lib.hid (start_any w ak ck K hK n hn an cn N hN)
  have HB := Lib.hid (fun wq => block_any wq (Ch.st (fit K 32) n (fit N 12)) (Ch.st_length _ _ _) (Ch.st_ok (fit_W8 hk8 32) hn (fit_W8 hn8 12)))
  clear hK hN hk8 hn8
  generalize Ch.st (fit K 32) n (fit N 12) = S at *
  go_enter Try.func9, Try.ntmps9
  go_wp2_with (first
    | (go_at_call 19; refine (HB.out w1).mono ?_; rintro e w2 ⟨v2, rfl, hv, hb⟩; have O2 := Lib.hid (hv.mono B1.out.size); have B2 := Lib.hid (B1.out.trans (hb.mono B1.out.size)); clear hv hb)
    | (go_at_call 18; refine HS.out.mono ?_; rintro e w1 ⟨rfl, hb⟩; have B1 := Lib.hid hb; clear hb))
  go_ret
  exact ⟨_, rfl, O2.out, B2.out⟩
/-- Four bytes, from the highest on. -/
def xw (P : List Int) (p j : Nat) : Int := (Bt.low ((P.drop (p + j)).take (4 - j)) : Nat)
theorem xw_more {P : List Int} (h8 : ∀ x ∈ P, W8 x) (p t : Nat) (ht : t < 4) (h : p + 4 ≤ P.length) : xw P p t = xw P p (t + 1) * 256 + P.getD (p + t) 0 := by
  have hp : p + t < P.length := by omega
  have h1 : P.getD (p + t) 0 = P[p + t] := by rw [List.getD_eq_getElem?_getD, List.getElem?_eq_getElem hp]; rfl
  have h2 : W8 P[p + t] := h8 _ (List.getElem_mem hp)
  unfold W8 at h2
  unfold xw
  rw [List.drop_eq_getElem_cons hp, show 4 - t = (4 - (t + 1)) + 1 by omega, List.take_succ_cons, h1]
  show (((P[p + t]).toNat + 256 * Bt.low ((P.drop (p + (t + 1))).take (4 - (t + 1))) : Nat) : Int) = _
  omega
theorem xw_lt {P : List Int} (h8 : ∀ x ∈ P, W8 x) (p t : Nat) : 0 ≤ xw P p (t + 1) ∧ xw P p (t + 1) ≤ 16777215 := by
  have h := Bt.low_lt ((P.drop (p + (t + 1))).take (4 - (t + 1))) (fun x hx => h8 x (List.mem_of_mem_drop (List.mem_of_mem_take hx)))
  have h2 : 2 ^ (8 * ((P.drop (p + (t + 1))).take (4 - (t + 1))).length) ≤ 2 ^ 24 := Nat.pow_le_pow_right (by decide) (by rw [List.length_take]; omega)
  simp only [Nat.reducePow] at h2
  unfold xw
  omega
set_option maxRecDepth 100000 in
set_option maxHeartbeats 1000000 in
theorem word_any (w : World) (a : Option Addr) (c : Nat) (P : List Int) (hP : Slc w (.slice a P.length c) P) (p : Nat) (h : p + 4 ≤ P.length) (hp : p ≤ 1000) :
    Calls Try.prog 21 #[.slice a P.length c, .int .i64 p] w fun e w' => e = .returned (.int .u32 (xw P p 0)) ∧ Below w.heap.size w w' := by
  have HP := Lib.hid hP
  have h8 : Hid (∀ x ∈ P, W8 x) := by obtain ⟨_, _, _, _, h, _⟩ := hP; exact h
  have HX := Lib.hid (fun t ht => xw_more h8.out p t ht h)
  have HL := Lib.hid (fun t => xw_lt h8.out p t)
  have hx4 : xw P p 4 = 0 := rfl
  clear hP
  go_enter Try.func21, Try.ntmps21
  go_wp2_with fail
  go_loopw [5, 6] (fun x i wr => ∃ (j : Nat) (I : Int), I + 1 = j ∧ j ≤ 4 ∧ i = .int .i64 I ∧ x = .int .u32 (xw P p j) ∧ Hid (Below w.heap.size w wr)) (fun _ i _ => (intOf i + 1).toNat)
  case atStart => exact ⟨4, 3, by omega, by omega, rfl, by rw [hx4], Below.refl _ _⟩
  case round =>
    clear hx4
    obtain ⟨j, I, hI, hj, rfl, rfl, BW⟩ := hrel
    by_cases hj0 : 0 < j
    · obtain ⟨t, rfl⟩ : ∃ t, j = t + 1 := ⟨j - 1, by omega⟩
      have hmore := Lib.hid (HX.out t (by omega))
      obtain ⟨y0, y1⟩ := HL.out t
      have hpt : p + t < P.length := by omega
      obtain ⟨b1, o1, rfl, hb1, hc1, hcap1⟩ := slc_cell HP.out _ hpt
      have hcb := (BW.out.cell (p := ⟨b1, o1 + (p + t), none⟩) hb1).trans hc1
      have hx8 : W8 (P.getD (p + t) 0) := by
        have hm : P.getD (p + t) 0 ∈ P := by rw [List.getD_eq_getElem?_getD, List.getElem?_eq_getElem hpt]; exact List.getElem_mem hpt
        exact h8.out _ hm
      obtain ⟨z0, z1⟩ := hx8
      have hIt : ((p : Int) + I) = ((p + t : Nat) : Int) := by omega
      clear hc1
      generalize P.getD (p + t) 0 = z at *
      generalize xw P p (t + 1) = y at *
      generalize p + t = q at *
      go_wp2
      go_roundw
      case rel => exact ⟨t, I - 1, by omega, by omega, by go_num, by rw [hmore.out], BW.out⟩
      case measure => simp [intOf]; omega
    · obtain rfl : j = 0 := by omega
      go_wp2
      go_ret
      exact ⟨rfl, BW.out⟩
end Go.Proofs.Yticoefnojgaplaa
