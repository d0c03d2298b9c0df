/- A reader: the next bytes. -/
import Derived.Test.YtpeibhhdhomnmaaF
namespace Go.Proofs.Ytpeibhhdhomnmaa
open Go.RowKit
/-- The next so many bytes, and what is left behind them. -/
def tkS (st : Option (List UInt8)) (n : Int) : Option (List UInt8 × List UInt8) := st.bind fun l => if 0 ≤ n ∧ n ≤ l.length then some (l.take n.toNat, l.drop n.toNat) else none
/-- What a call that hands back bytes leaves. -/
def RetB (w : World) (B : Nat) (p : Option Addr) (r : Option (List UInt8 × List UInt8)) (e : Ending) (w' : World) : Prop :=
  ∃ ao cap, e = .returned (.slice ao ((r.map (·.1)).getD []).length cap) ∧ Lies w' B ao ((r.map (·.1)).getD []) ∧ Rp w' B p (r.map (·.2)) ∧ Tch w p w'
set_option maxHeartbeats 1000000 in
theorem take_none (w : World) (B : Nat) (p : Option Addr) (n : Int) (h : Rp w B p none) : Calls Try.prog 25 #[.pointer p, .int .i64 n] w fun e w' => e = .returned (.slice none 0 0) ∧ Rp w' B p none ∧ Tch w p w' := by
  have hL := left_any w B p none h
  have hF := fail_any w B p none h
  have hB := bad_any w B p none h
  have HR := Lib.hid h
  clear h
  by_cases h1 : n < 0
  · go_enter Try.func25, Try.ntmps25
    go_wp2_with (first
      | (go_at_call 24; refine hF.mono ?_; rintro e w1 ⟨rfl, hR1, ht1⟩; have hB1 := bad_any w1 B p none hR1)
      | (go_at_call 20; refine hB1.mono ?_; rintro e w2 ⟨rfl, rfl⟩))
    go_ret
    exact ⟨rfl, hR1, ht1⟩
  · by_cases h2 : (0 : Int) < n
    · go_enter Try.func25, Try.ntmps25
      go_wp2_with (first
        | (go_at_call 21; refine hL.mono ?_; rintro e w2 ⟨rfl, rfl⟩)
        | (go_at_call 24; refine hF.mono ?_; rintro e w1 ⟨rfl, hR1, ht1⟩; have hB1 := bad_any w1 B p none hR1)
        | (go_at_call 20; refine hB1.mono ?_; rintro e w2 ⟨rfl, rfl⟩))
      go_ret
      exact ⟨rfl, hR1, ht1⟩
    · go_enter Try.func25, Try.ntmps25
      go_wp2_with (first
        | (go_at_call 21; refine hL.mono ?_; rintro e w2 ⟨rfl, rfl⟩)
        | (go_at_call 20; refine hB.mono ?_; rintro e w2 ⟨rfl, rfl⟩))
      go_ret
      exact ⟨rfl, HR.out, Tch.refl _ _⟩
set_option maxHeartbeats 1000000 in
theorem take_bad (w : World) (B : Nat) (p : Option Addr) (l : List UInt8) (n : Int) (h : Rp w B p (some l)) (hn : ¬ (0 ≤ n ∧ n ≤ l.length)) : Calls Try.prog 25 #[.pointer p, .int .i64 n] w fun e w' => e = .returned (.slice none 0 0) ∧ Rp w' B p none ∧ Tch w p w' := by
  have hL := left_any w B p _ h
  have hF := fail_any w B p _ h
  rw [Option.getD_some] at hL
  clear h
  generalize l.length = L at *
  by_cases h1 : n < 0
  · clear hn
    go_enter Try.func25, Try.ntmps25
    go_wp2_with (first
      | (go_at_call 24; refine hF.mono ?_; rintro e w1 ⟨rfl, hR1, ht1⟩; have hB1 := bad_any w1 B p none hR1)
      | (go_at_call 20; refine hB1.mono ?_; rintro e w2 ⟨rfl, rfl⟩))
    go_ret
    exact ⟨rfl, hR1, ht1⟩
  · have h2 : (L : Int) < n := by omega
    clear hn
    go_enter Try.func25, Try.ntmps25
    go_wp2_with (first
      | (go_at_call 21; refine hL.mono ?_; rintro e w2 ⟨rfl, rfl⟩)
      | (go_at_call 24; refine hF.mono ?_; rintro e w1 ⟨rfl, hR1, ht1⟩; have hB1 := bad_any w1 B p none hR1)
      | (go_at_call 20; refine hB1.mono ?_; rintro e w2 ⟨rfl, rfl⟩))
    go_ret
    exact ⟨rfl, hR1, ht1⟩
theorem elem23 : Try.prog.elem 23 = 5 := by kernel_rfl
theorem run_cutA (a : Option Addr) (n cap m : Nat) (hm : m ≤ cap) (w : World) : (Instr.slice 23 (.slice a n cap) none (some (.int .i64 m)) (some (.int .i64 m))).run Try.prog w = .ok (.slice (if m = 0 then a else a.map (·.add (0 * 1))) m m) w := by
  have hu : Try.prog.underlying 23 = some (.slice (Try.prog.elem 23)) := by rw [elem23]; exact Try.underlying23
  rw [run_slice_hm w 23 a n cap hu .i64 .i64 m m (by omega) (by omega) (by omega), elem23, Try.sizeOf5]
  rfl
theorem run_cutB (a : Option Addr) (n cap m : Nat) (hm : m ≤ n) (w : World) : (Instr.slice 23 (.slice a n cap) (some (.int .i64 m)) none none).run Try.prog w = .ok (.slice (if cap = m then a else a.map (·.add (m * 1))) (n - m) (cap - m)) w := by
  have hu : Try.prog.underlying 23 = some (.slice (Try.prog.elem 23)) := by rw [elem23]; exact Try.underlying23
  rw [run_slice_l w 23 a n cap hu .i64 m (by omega) (by omega), elem23, Try.sizeOf5]
  rfl
set_option maxHeartbeats 2000000 in
theorem take_some (w : World) (B : Nat) (p : Option Addr) (l : List UInt8) (m : Nat) (h : Rp w B p (some l)) (hm : m ≤ l.length) : Calls Try.prog 25 #[.pointer p, .int .i64 m] w (RetB w B p (some (l.take m, l.drop m))) := by
  have hL := left_any w B p _ h
  have hF := bad_any w B p _ h
  rw [Option.getD_some] at hL
  rcases h with ⟨-, h⟩ | ⟨b, rfl, hB, v, l', bad, hrow, ⟨ao, cap, rfl, hcap, hl⟩, hst⟩
  · cases h
  cases bad with
  | true => cases hst
  | false =>
    obtain rfl : l = l' := Option.some.inj hst
    have hA := run_cutA ao l.length cap m (by omega)
    have hC := run_cutB ao l.length cap m hm
    have hr2 := heap_setCell_same w b 0 _ 50 (.slice (if cap = m then ao else ao.map (·.add (m * 1))) (l.length - m) (cap - m)) hrow
    have hkeep : ∀ (g : Nat) (cur : Array Value), w.heap[g]? = some (Obj.cells cur 5 (0, 0)) → (w.setCell ⟨b, 0, none⟩ (.slice (if cap = m then ao else ao.map (·.add (m * 1))) (l.length - m) (cap - m))).heap[g]? = w.heap[g]? := fun g cur hg => Below.heap_setCell _ _ _ _ (fun e => by rw [show g = b from e, hrow] at hg; cases hg)
    have HT := Lib.hid ((hl.take hm).keep hkeep)
    have HD := Lib.hid ((hl.drop (n := m) hcap).keep hkeep)
    have HR := Lib.hid hr2
    have HCap := Lib.hid (And.intro hcap hm)
    have c0 : w.cell? ⟨b, 0, none⟩ = some (.slice ao l.length cap) := by rw [cell_of_row _ _ _ _ _ _ hrow]; rfl
    have f0 : w.frozen? ⟨b, 0, none⟩ = false := by simp [World.frozen?, hrow]
    have hm1 : ¬ (m : Int) < 0 := by omega
    have hm2 : ¬ ((l.length : Nat) : Int) < m := by omega
    clear hl hr2 hkeep hst hrow hcap hm
    generalize (if m = 0 then ao else ao.map (·.add (0 * 1))) = a1 at *
    generalize (if cap = m then ao else ao.map (·.add (m * 1))) = a2 at *
    obtain ⟨L, hLd⟩ : ∃ L, L = l.length := ⟨_, rfl⟩
    rw [← hLd] at hL hA hC hm2 c0 HD HR HCap HT
    obtain ⟨L2, hL2⟩ : ∃ L2, L2 = L - m := ⟨_, rfl⟩
    obtain ⟨C2, hC2⟩ : ∃ C2, C2 = cap - m := ⟨_, rfl⟩
    rw [← hL2, ← hC2] at hC HD HR HT
    have HH := Lib.hid (And.intro hLd (And.intro hL2 hC2))
    clear hLd hL2 hC2
    go_enter Try.func25, Try.ntmps25
    go_wp2_with (first
      | (go_at_call 21; refine hL.mono ?_; rintro e w2 ⟨rfl, rfl⟩)
      | (go_at_call 20; refine hF.mono ?_; rintro e w2 ⟨rfl, rfl⟩))
    go_ret
    obtain ⟨h1, h2, h3⟩ := HH.out
    obtain ⟨h4, h5⟩ := HCap.out
    refine ⟨a1, m, ?_, HT.out, .inr ⟨b, rfl, hB, _, l.drop m, false, HR.out, ⟨a2, C2, ?_, ?_, HD.out⟩, rfl⟩, ⟨⟨rfl, rfl, rfl, by simp [World.setCell], fun k hk hne => Below.heap_setCell _ _ _ _ (fun e => hne (by rw [e]; rfl))⟩, by simp [World.setCell], fun e => by cases e⟩⟩
    · show _ = Ending.returned (.slice a1 (l.take m).length m)
      rw [List.length_take, Nat.min_eq_left (by omega)]
      rfl
    · rw [List.length_drop, ← h1, ← h2]
    · rw [List.length_drop]; omega
/-- The next bytes: what the code returns, for every reader, every number. -/
theorem take_any (w : World) (B : Nat) (p : Option Addr) (st : Option (List UInt8)) (n : Int) (h : Rp w B p st) : Calls Try.prog 25 #[.pointer p, .int .i64 n] w (RetB w B p (tkS st n)) := by
  cases st with
  | none =>
    refine (take_none w B p n h).mono fun e w' ⟨h1, h2, h3⟩ => ?_
    exact ⟨none, 0, h1, lies_nil _ _ _, h2, h3⟩
  | some l =>
    unfold tkS
    rw [Option.bind_some]
    by_cases hn : 0 ≤ n ∧ n ≤ l.length
    · rw [if_pos hn]
      obtain ⟨m, rfl⟩ : ∃ m : Nat, n = m := ⟨n.toNat, by omega⟩
      exact take_some w B p l m h (by omega)
    · rw [if_neg hn]
      refine (take_bad w B p l n h hn).mono fun e w' ⟨h1, h2, h3⟩ => ?_
      exact ⟨none, 0, h1, lies_nil _ _ _, h2, h3⟩
end Go.Proofs.Ytpeibhhdhomnmaa
