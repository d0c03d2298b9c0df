/- The document's own bytes, flags; 'awake'. -/
import Derived.Test.YtpeibhhdhomnmaaD
namespace Go.Proofs.Ytpeibhhdhomnmaa
open Go.RowKit
theorem own_byt {w : World} {B : Nat} {v : Value} {l : List UInt8} (h : Own w B v l) : ∃ ao cap, v = .slice ao l.length cap ∧ Byt w ao l := by
  obtain ⟨ao, cap, h1, h2, -⟩ := h.slice
  exact ⟨ao, cap, h1, h2⟩
set_option maxHeartbeats 4000000 in
theorem rflag_any (t : Bool) (P : List UInt8) (ao : Option Addr) (cap : Nat) (w : World) (hP : Byt w ao P) (hl : P.length ≤ 1048576) :
    Calls Try.prog 12 #[.slice ao P.length cap, .bool t] w fun e w' => ∃ v', e = .returned v' ∧ Own w' w.heap.size v' (P ++ [if t then 1 else 0]) ∧ Below w.heap.size w w' := by
  have hc1 := rnum_any 1 1 P ao cap w hP hl (by omega)
  have hc0 := rnum_any 0 1 P ao cap w hP hl (by omega)
  rw [show be 1 1 = [1] by decide] at hc1
  rw [show be 0 1 = [0] by decide] at hc0
  generalize P.length = n at *
  have HC1 := Lib.hid hc1
  have HC0 := Lib.hid hc0
  clear hc1 hc0
  cases t with
  | true =>
    go_enter Try.func12, Try.ntmps12
    go_wp2_with (go_at_call 9; refine HC1.out.mono ?_; rintro e w1 ⟨v1, rfl, hown, hb⟩)
    go_ret
    exact ⟨v1, rfl, hown, hb⟩
  | false =>
    go_enter Try.func12, Try.ntmps12
    go_wp2_with (go_at_call 9; refine HC0.out.mono ?_; rintro e w1 ⟨v1, rfl, hown, hb⟩)
    go_ret
    exact ⟨v1, rfl, hown, hb⟩
set_option maxHeartbeats 4000000 in
theorem rbytes_any (P Q : List UInt8) (ao aq : Option Addr) (cap cq : Nat) (w : World) (hP : Byt w ao P) (hQ : Byt w aq Q) (hl : P.length + Q.length ≤ 1048576) :
    Calls Try.prog 13 #[.slice ao P.length cap, .slice aq Q.length cq] w fun e w' => ∃ v', e = .returned v' ∧ Own w' w.heap.size v' (P ++ be Q.length 4 ++ Q) ∧ Below w.heap.size w w' := by
  have hc := rnum_any Q.length 4 P ao cap w hP (by omega) (by omega)
  have hlen : (P ++ be Q.length 4).length + Q.length ≤ 4194304 := by rw [List.length_append, be_len]; omega
  obtain ⟨n, hn⟩ : ∃ n, n = P.length := ⟨_, rfl⟩
  obtain ⟨m, hm⟩ : ∃ m, m = Q.length := ⟨_, rfl⟩
  have hcv : IntKind.u64.wrap (m : Int) = (m : Int) := by simp [IntKind.wrap, IntKind.bits, IntKind.signed]; omega
  rw [← hn, ← hm] at hc ⊢
  rw [← hm] at hlen
  have HC := Lib.hid hc
  have HM := Lib.hid hm
  have HLen := Lib.hid hlen
  clear hc hm hn hl hlen
  go_enter Try.func13, Try.ntmps13
  go_wp2_with (first
    | (go_at_call 9; refine HC.out.mono ?_; rintro e w1 ⟨v1, rfl, hown, hb⟩)
    | (at_builtin; refine wpList_append_byt rfl _ _ rfl w.heap.size v1 (P ++ be m 4) Q aq m cq rfl rfl HM.out hown (hQ.on hb (Nat.le_refl _)) (by rw [← HM.out]; exact HLen.out) hb.size ?_; intro v2 w2 hown2 hgrow hloc))
  go_ret
  exact ⟨v2, rfl, own_app hown2, hb.grown hgrow hb.size (fun k hk => (World.ownsRow.lt hown k hk).1)⟩
/-- A new writer. -/
theorem wr_new (w : World) : Wr (w.alloc (.cells #[.slice none 0 0] 28)) w.heap.size w.heap.size (.slice none 0 0) [] :=
  ⟨Nat.le_refl _, heap_alloc_new w _, World.ownsRow_nil _ _ _ _, fun h => by cases h⟩
set_option maxHeartbeats 4000000 in
theorem awake_any (w : World) : Calls Try.prog 7 #[] w fun e w' => e = .returned (.bool true) ∧ Below w.heap.size w w' := by
  have hb0 := Joins.below_alloc1 w (.cells #[.slice none 0 0] 28)
  have hc := wnum_any w.heap.size w.heap.size (.slice none 0 0) [] 258 2 (w.alloc (.cells #[.slice none 0 0] 28)) (wr_new w) (by simp) (by omega) (by simp)
  rw [show be 258 2 = [1, 2] by decide] at hc
  have HB := Lib.hid hb0
  have HC := Lib.hid hc
  clear hc hb0
  go_enter Try.func7, Try.ntmps7
  go_wp2_with (go_at_call 8; refine Hid.out ?_)
  refine Lib.hid ?_
  go_wp2_with (go_at_call 8; refine HC.out.mono ?_; rintro e w1 ⟨rfl, v1, hW, hf⟩; refine Hid.out ?_)
  refine Lib.hid ?_
  have hd := wdone_any _ _ _ _ w1 hW (by simp)
  have hb1 := HB.out.trans (hf.below (wr_new w) (by simp))
  have HD := Lib.hid hd
  clear hd hf hW HC
  go_wp2_with (go_at_call 14; refine HD.out.mono ?_; rintro e w2 ⟨v2, rfl, hown, hb2⟩; obtain ⟨ao, cap, rfl, hby⟩ := own_byt (show Own w2 w1.heap.size v2 [1, 2] from hown); have hcv : (convert 23 9 (.slice ao 2 cap)).run Try.prog w2 = .ok (.string ⟨#[1, 2]⟩) w2 := conv_bytes hby cap; clear hby hown)
  go_ret
  exact ⟨rfl, hb1.trans (hb2.mono hb1.size)⟩
end Go.Proofs.Ytpeibhhdhomnmaa
