/- The reference's Fit: just so many bytes. -/
import Derived.Test.YticoefnojgaplaaY
namespace Go.Proofs.Yticoefnojgaplaa
open Go.RowKit

def fitk (P : List Int) (n k : Nat) : List Int := P.take k ++ zs (n - k)
theorem fitk_length (P : List Int) (n k : Nat) (hk : k ≤ n) (hp : k ≤ P.length) : (fitk P n k).length = n := by simp [fitk, zs]; omega
theorem fitk_zero (P : List Int) (n : Nat) : fitk P n 0 = zs n := by simp [fitk]
theorem fitk_more (P : List Int) (n k : Nat) (hk : k < n) (hp : k < P.length) : (fitk P n k).set k (P.getD k 0) = fitk P n (k + 1) := by
  have e1 : zs (n - k) = 0 :: zs (n - (k + 1)) := by
    unfold zs
    rw [show n - k = (n - (k + 1)) + 1 by omega, List.replicate_succ]
  have hl : (P.take k).length = k := by rw [List.length_take]; omega
  have e2 : P.take (k + 1) = P.take k ++ [P.getD k 0] := by
    rw [List.take_add_one, List.getElem?_eq_getElem hp, List.getD_eq_getElem?_getD, List.getElem?_eq_getElem hp]; rfl
  unfold fitk
  rw [List.set_append_right _ _ (by omega), hl, Nat.sub_self, e1, e2, List.append_assoc]
  rfl
theorem fitk_all (P : List Int) (n k : Nat) (hk : k ≤ n) (hp : k ≤ P.length) (h : ¬ k < n ∨ ¬ k < P.length) : fitk P n k = fit P n := by
  unfold fitk fit
  rcases Nat.lt_or_ge k n with h1 | h1
  · obtain rfl : k = P.length := by omega
    rw [List.take_of_length_le (Nat.le_refl _), List.take_of_length_le (by omega)]
  · obtain rfl : k = n := by omega
    rw [Nat.sub_self, show k - P.length = 0 by omega]

set_option maxRecDepth 100000 in
set_option maxHeartbeats 400000 in
theorem fit_any (w : World) (a : Option Addr) (c : Nat) (P : List Int) (hP : Slc w (.slice a P.length c) P) (n : Nat) (hn : n ≤ 100000) :
    Calls Try.prog 20 #[.slice a P.length c, .int .i64 n] w fun e w' => e = .returned (.slice (some ⟨w.heap.size, 0, none⟩) n n) ∧ Blk w' w.heap.size .u8 5 (fit P n) ∧ Below w.heap.size w w' := by
  have HP := Lib.hid hP
  clear hP
  have hmk := fun w => run_mk8 w n n rfl (by omega)
  have hb0 : Hid (Blk (w.alloc (.cells ((zs n).map (Value.int .u8)).toArray 5)) w.heap.size .u8 5 (zs n)) := heap_alloc_new w _
  have ho0 : Hid (Below w.heap.size w (w.alloc (.cells ((zs n).map (Value.int .u8)).toArray 5))) := (Below.refl _ _).alloc (Nat.le_refl _) _
  go_enter Try.func20, Try.ntmps20
  go_wp2_with fail
  clear hmk
  go_loopw [6] (fun i wr => ∃ k : Nat, (k ≤ n ∧ k ≤ P.length) ∧ i = .int .i64 k ∧ Hid (Blk wr w.heap.size .u8 5 (fitk P n k)) ∧ Hid (Below w.heap.size w wr)) (fun i _ => n - (intOf i).toNat)
  case atStart =>
    exact ⟨0, ⟨Nat.zero_le _, Nat.zero_le _⟩, rfl, by rw [fitk_zero]; exact hb0, ho0⟩
  case round =>
    clear hb0 ho0
    obtain ⟨k, ⟨hk, hkp⟩, rfl, BK, BW⟩ := hrel
    by_cases hlt : k < n
    · by_cases hla2 : k < P.length
      · obtain ⟨b1, o1, rfl, hb1, hc1, hcap1⟩ := slc_cell HP.out _ hla2
        have hca := (BW.out.cell (p := ⟨b1, o1 + k, none⟩) hb1).trans hc1
        have hco := BK.out.cell k (by rw [fitk_length P n k hk hkp]; exact hlt)
        have hfo := BK.out.free k
        have hset := BK.out.set k (P.getD k 0)
        rw [fitk_more P n k hlt hla2] at hset
        have HSET := Lib.hid hset
        clear hset hc1 HP
        generalize P.getD k 0 = xa at *
        generalize (fitk P n k).getD k 0 = xo at *
        go_wp2
        go_roundw
        case rel => exact ⟨k + 1, ⟨by omega, by omega⟩, by go_num, HSET.out, BW.out.setCell (Nat.le_refl _) _⟩
        case measure => simp [intOf]; omega
      · have HF := Lib.hid (fitk_all P n k hk hkp (Or.inr hla2))
        clear HP
        go_wp2_with fail
        go_ret
        exact ⟨rfl, by rw [← HF.out]; exact BK.out, BW.out⟩
    · have HF := Lib.hid (fitk_all P n k hk hkp (Or.inl hlt))
      clear HP
      go_wp2_with fail
      go_ret
      exact ⟨rfl, by rw [← HF.out]; exact BK.out, BW.out⟩
end Go.Proofs.Yticoefnojgaplaa
