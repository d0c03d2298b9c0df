/- The document's own numbers, bytes, flags; 'awake'. -/
import Derived.Test.YtpeibhhdhomnmaaC
namespace Go.Proofs.Ytpeibhhdhomnmaa
open Go.RowKit
set_option maxHeartbeats 4000000 in
theorem rnum_any (n k : Nat) (P : List UInt8) (ao : Option Addr) (cap : Nat) (w : World) (hP : Byt w ao P) (hl : P.length ≤ 1048576) (hk : k ≤ 8) :
    Calls Try.prog 9 #[.slice ao P.length cap, .int .u64 n, .int .i64 k] w fun e w' => ∃ v', e = .returned v' ∧ Own w' w.heap.size v' (P ++ be n k) ∧ Below w.heap.size w w' := by
  obtain ⟨i0, hi, hz0, hz1, hz2⟩ := info_parts info5
  obtain ⟨L, hL⟩ : ∃ L, L = P.length := ⟨_, rfl⟩
  rw [← hL] at hl ⊢
  have HL := Lib.hid (And.intro hL hl)
  clear hL hl
  obtain ⟨i, hi0⟩ : ∃ i : Int, i + 1 = (k : Nat) := ⟨(k : Int) - 1, by omega⟩
  have hw0 : IntKind.i64.wrap ((k : Int) - 1) = i := by simp [IntKind.wrap, IntKind.bits, IntKind.signed]; omega
  go_enter Try.func9, Try.ntmps9
  go_wp2_with (at_builtin; refine wpList_append_byt rfl _ _ rfl w.heap.size (.slice none 0 0) [] P ao L cap rfl rfl HL.out.1 (World.ownsRow_nil _ _ _ _) hP (by have := HL.out; simp; omega) (Nat.le_refl _) ?_; intro v1 w1 hown1 hgrow hloc)
  have hb1 : Below w.heap.size w w1 := (Below.refl _ w).grown hgrow (Nat.le_refl _) (fun k hk => by cases hk)
  have hown2 : Own w1 w.heap.size v1 P := own_app (l := []) hown1
  clear hown1 hgrow hloc
  go_loopw [7, 8] (fun v a wr => ∃ (j : Nat) (i : Int) (A : List UInt8), a = .int .i64 i ∧ i + 1 = j ∧ j ≤ k ∧ Hid (A.length + j = k ∧ A ++ be n j = be n k) ∧ Own wr w.heap.size v (P ++ A) ∧ Below w.heap.size w wr)
    (fun _ a _ => (intOf a + 1).toNat)
  case atStart => exact ⟨k, i, [], rfl, hi0, Nat.le_refl _, ⟨by simp, by simp⟩, by simpa using hown2, hb1⟩
  case round =>
    obtain ⟨j, i, A, rfl, hij, hj, HX, hown, hb⟩ := hrel
    by_cases hj0 : j = 0
    · subst hj0
      have hi1 : ¬ (0 : Int) ≤ i := by omega
      go_wp2
      go_ret
      refine ⟨_, rfl, ?_, hb⟩
      rw [← HX.out.2]
      simpa [be] using hown
    · obtain ⟨m, rfl⟩ : ∃ m, j = m + 1 := ⟨j - 1, by omega⟩
      obtain rfl : i = (m : Int) := by omega
      have hLA : (P ++ A).length ≤ 1048584 := by
        have := HL.out
        have := HX.out.1
        rw [List.length_append]
        omega
      have hw1 : IntKind.i64.wrap ((m : Int) - 1) = (m : Int) - 1 := by simp [IntKind.wrap, IntKind.bits, IntKind.signed]; omega
      have hw2 : IntKind.i64.wrap (8 * (m : Int)) = ((8 * m : Nat) : Int) := by simp [IntKind.wrap, IntKind.bits]; omega
      have hsh := fun w => shr_run n m (by omega) w
      have hbx := u8_byte (n / 2 ^ (8 * m))
      have hbe : be n (m + 1) = UInt8.ofNat (n / 2 ^ (8 * m)) :: be n m := rfl
      have hm0 : (0 : Int) ≤ m := by omega
      generalize UInt8.ofNat (n / 2 ^ (8 * m)) = y at *
      generalize n / 2 ^ (8 * m) = x at *
      generalize ((8 * m : Nat) : Int) = q at *
      have HHX := Lib.hid hbe
      have HLA := Lib.hid hLA
      clear hbe hLA
      obtain ⟨N, hN⟩ : ∃ N, N = (P ++ A).length := ⟨_, rfl⟩
      rw [← hN] at HLA
      have hown2 : wr.ownsRow w.heap.size 5 1 u7 N (Lib.byteCells (P ++ A)) := by rw [hN]; exact hown
      have HNN := Lib.hid hN
      clear hown hN
      go_wp2_with (at_builtin; refine wpList_append_own _ rfl _ _ 23 rfl w.heap.size 5 i0 (.int .u8 0) 1 1 Try.underlying23 hi hz0 hz1 hz2 rfl (by decide) u7 N (Lib.byteCells (P ++ A)) rfl (hown2.alloc _) ⟨wr.heap.size, 0, none⟩ 1 1 [.int .u8 (y.toNat : Int)] rfl rfl (cell_one_new _ _ _) (fun x hx => by simp at hx; subst hx; rfl) (by have := HLA.out; unfold maxLen; omega) (by have := HLA.out; omega) (by have := hb.size; simp; omega) ?_; intro v2 w2 hown3 hgrow hnil)
      have hb2 : Below w.heap.size w w2 := Below.grown (hb.alloc hb.size _) hgrow (by have := hb.size; simp; omega) (fun k hk => (hown2.lt k hk).1)
      go_roundw
      case rel =>
        refine ⟨m, (m : Int) - 1, A ++ [y], rfl, by omega, by omega, ⟨?_, ?_⟩, ?_, hb2⟩
        · have := HX.out.1
          rw [List.length_append, List.length_singleton]; omega
        · rw [← HX.out.2, HHX.out, List.append_assoc]; rfl
        · rw [← List.append_assoc]
          rw [HNN.out] at hown3
          exact own_app (P := [y]) hown3
      case measure => simp [intOf]
end Go.Proofs.Ytpeibhhdhomnmaa
