/- A reader: what it is; its fault; whether it has one; how many bytes are left; the next bytes. -/
import Derived.Test.YtpeibhhdhomnmaaE
import Derived.Deep.QuietTactic
import Derived.BigQuiet
namespace Go.Proofs.Ytpeibhhdhomnmaa
open Go.RowKit
/-- Bytes of the call's own, somewhere in a block: they may be written. -/
structure Lies (w : World) (B : Nat) (ao : Option Addr) (l : List UInt8) : Prop where
  at_ : l = [] ∨ ∃ g off cur, ao = some ⟨g, off, none⟩ ∧ B ≤ g ∧ w.heap[g]? = some (.cells cur 5 (0, 0)) ∧ ∀ j, j < l.length → cur[off + j]? = some (.int .u8 (l.getD j 0).toNat)
theorem lies_nil (w : World) (B : Nat) (ao : Option Addr) : Lies w B ao [] := ⟨.inl rfl⟩
theorem Lies.byt {w : World} {B : Nat} {ao : Option Addr} {l : List UInt8} (h : Lies w B ao l) : Byt w ao l := by
  refine ⟨h.at_.imp id ?_⟩
  rintro ⟨g, off, cur, h1, -, h3, h4⟩
  exact ⟨g, off, h1, (Array.getElem?_eq_some_iff.1 h3).1, fun j hj => by rw [cell_of_row w g _ cur 5 (0, 0) h3]; exact h4 j hj⟩
theorem Lies.keep {w w' : World} {B : Nat} {ao : Option Addr} {l : List UInt8} (h : Lies w B ao l) (hk : ∀ (g : Nat) (cur : Array Value), w.heap[g]? = some (Obj.cells cur 5 (0, 0)) → w'.heap[g]? = w.heap[g]?) : Lies w' B ao l := by
  refine ⟨h.at_.imp id ?_⟩
  rintro ⟨g, off, cur, h1, h2, h3, h4⟩
  exact ⟨g, off, cur, h1, h2, (hk g cur h3).trans h3, h4⟩
theorem Lies.take {w : World} {B n : Nat} {ao : Option Addr} {l : List UInt8} (h : Lies w B ao l) (hn : n ≤ l.length) : Lies w B (if n = 0 then ao else ao.map (·.add (0 * 1))) (l.take n) := by
  by_cases h0 : n = 0
  · subst h0; exact ⟨.inl (by simp)⟩
  · rw [if_neg h0]
    refine ⟨h.at_.imp (fun h => by rw [h]; simp) ?_⟩
    rintro ⟨g, off, cur, rfl, h2, h3, h4⟩
    refine ⟨g, off, cur, by simp [addr_mid], h2, h3, fun j hj => ?_⟩
    rw [List.length_take] at hj
    rw [h4 j (by omega), List.getD_eq_getElem?_getD, List.getD_eq_getElem?_getD, List.getElem?_take_of_lt (by omega)]
theorem Lies.drop {w : World} {B n cap : Nat} {ao : Option Addr} {l : List UInt8} (h : Lies w B ao l) (hc : l.length ≤ cap) : Lies w B (if cap = n then ao else ao.map (·.add (n * 1))) (l.drop n) := by
  by_cases h0 : cap = n
  · exact ⟨.inl (List.drop_eq_nil_of_le (by omega))⟩
  · rw [if_neg h0]
    refine ⟨h.at_.imp (fun h => by rw [h]; simp) ?_⟩
    rintro ⟨g, off, cur, rfl, h2, h3, h4⟩
    refine ⟨g, off + n, cur, by simp [addr_mid], h2, h3, fun j hj => ?_⟩
    rw [List.length_drop] at hj
    rw [Nat.add_assoc, h4 (n + j) (by omega), List.getD_eq_getElem?_getD, List.getD_eq_getElem?_getD, List.getElem?_drop]
/-- A reader: none behind a fault, else what is left. -/
structure Rd (w : World) (B b : Nat) (st : Option (List UInt8)) : Prop where
  bB : B ≤ b
  at_ : ∃ v l bad, w.heap[b]? = some (.cells #[v, .bool bad] 50 (0, 0)) ∧ (∃ ao cap, v = .slice ao l.length cap ∧ l.length ≤ cap ∧ Lies w B ao l) ∧ st = if bad then none else some l
/-- A reader, or none. -/
def Rp (w : World) (B : Nat) (p : Option Addr) (st : Option (List UInt8)) : Prop := (p = none ∧ st = none) ∨ ∃ b, p = some ⟨b, 0, none⟩ ∧ Rd w B b st
/-- What a reader touches. -/
structure Tch (w : World) (p : Option Addr) (w' : World) : Prop where
  grown : w.grownBy w' (p.map (·.block))
  size : w'.heap.size = w.heap.size
  nil : p = none → w' = w
theorem Tch.refl (w : World) (p : Option Addr) : Tch w p w := ⟨⟨rfl, rfl, rfl, Nat.le_refl _, fun _ _ _ => rfl⟩, rfl, fun _ => rfl⟩
theorem Tch.trans {a b c : World} {p : Option Addr} (h : Tch a p b) (k : Tch b p c) : Tch a p c := ⟨h.grown.trans k.grown, k.size.trans h.size, fun e => (k.nil e).trans (h.nil e)⟩
theorem Tch.below {w w' : World} {B : Nat} {p : Option Addr} {st : Option (List UInt8)} (h : Tch w p w') (hr : Rp w B p st) (hB : B ≤ w.heap.size) : Below B w w' := by
  refine (Below.refl _ _).grown h.grown hB (fun k hk => ?_)
  rcases hr with ⟨rfl, -⟩ | ⟨b, rfl, h2⟩
  · cases hk
  · cases hk; exact h2.bB
theorem Rp.drew {w : World} {B : Nat} {p : Option Addr} {st : Option (List UInt8)} (h : Rp w B p st) : Rp w.drew B p st := by
  rcases h with h | ⟨b, h1, h2, v, l, bad, h3, ⟨ao, cap, h4, h5, h6⟩, h7⟩
  · exact .inl h
  · exact .inr ⟨b, h1, h2, v, l, bad, h3, ⟨ao, cap, h4, h5, ⟨h6.at_⟩⟩, h7⟩
theorem eq_ptr (w : World) (b : Nat) : (binOp .eql 37 (.pointer (some ⟨b, 0, none⟩)) (.pointer none)).run Try.prog w = .ok (.bool false) w := by kernel_rfl
set_option maxHeartbeats 1000000 in
theorem fail_any (w : World) (B : Nat) (p : Option Addr) (st : Option (List UInt8)) (h : Rp w B p st) : Calls Try.prog 24 #[.pointer p] w fun e w' => e = .returned (.tuple #[]) ∧ Rp w' B p none ∧ Tch w p w' := by
  rcases h with ⟨rfl, rfl⟩ | ⟨b, rfl, hB, v, l, bad, hrow, ⟨ao, cap, rfl, hcap, hl⟩, -⟩
  · go_enter Try.func24, Try.ntmps24
    go_wp2
    refine bodyPost_end (results_none rfl _ _ _) rfl ?_
    exact ⟨rfl, .inl ⟨rfl, rfl⟩, Tch.refl _ _⟩
  · have c1 : (w.cell? ⟨b, 1, none⟩).isSome = true := by rw [cell_of_row _ _ _ _ _ _ hrow]; rfl
    have c2 : w.cell? ⟨b, 1, none⟩ = some (.bool bad) := by rw [cell_of_row _ _ _ _ _ _ hrow]; rfl
    have f1 : w.frozen? ⟨b, 1, none⟩ = false := by simp [World.frozen?, hrow]
    go_enter Try.func24, Try.ntmps24
    go_wp2
    refine bodyPost_end (results_none rfl _ _ _) rfl ?_
    refine ⟨rfl, .inr ⟨b, rfl, hB, .slice ao l.length cap, l, true, heap_setCell_same _ b 1 _ 50 (.bool true) hrow, ⟨ao, cap, rfl, hcap, hl.keep fun g cur hg => Below.heap_setCell _ _ _ _ (fun e => ?_)⟩, rfl⟩, ⟨⟨rfl, rfl, rfl, by simp [World.setCell], fun k hk hne => Below.heap_setCell _ _ _ _ (fun e => hne (by rw [e]; rfl))⟩, by simp [World.setCell], fun e => by cases e⟩⟩
    rw [show g = b from e, hrow] at hg
    cases hg
set_option maxHeartbeats 1000000 in
theorem bad_any (w : World) (B : Nat) (p : Option Addr) (st : Option (List UInt8)) (h : Rp w B p st) : Calls Try.prog 20 #[.pointer p] w fun e w' => e = .returned (.bool st.isNone) ∧ w' = w := by
  rcases h with ⟨rfl, rfl⟩ | ⟨b, rfl, hB, v, l, bad, hrow, -, rfl⟩
  · go_enter Try.func20, Try.ntmps20
    go_wp2
    go_ret
    exact ⟨rfl, rfl⟩
  · have c2 : w.cell? ⟨b, 1, none⟩ = some (.bool bad) := by rw [cell_of_row _ _ _ _ _ _ hrow]; rfl
    cases bad
    all_goals (
      go_enter Try.func20, Try.ntmps20
      go_wp2
      go_ret
      exact ⟨rfl, rfl⟩)
set_option maxHeartbeats 1000000 in
theorem left_any (w : World) (B : Nat) (p : Option Addr) (st : Option (List UInt8)) (h : Rp w B p st) : Calls Try.prog 21 #[.pointer p] w fun e w' => e = .returned (.int .i64 ((st.getD []).length : Nat)) ∧ w' = w := by
  have hb := bad_any w B p st h
  cases st with
  | none =>
    go_enter Try.func21, Try.ntmps21
    go_wp2_with (go_at_call 20; refine hb.mono ?_; rintro e w1 ⟨rfl, rfl⟩)
    go_ret
    exact ⟨rfl, rfl⟩
  | some l =>
    rcases h with ⟨-, h⟩ | ⟨b, rfl, hB, v, l', bad, hrow, ⟨ao, cap, rfl, -, -⟩, hst⟩
    · cases h
    · have c0 : w.cell? ⟨b, 0, none⟩ = some (.slice ao l'.length cap) := by rw [cell_of_row _ _ _ _ _ _ hrow]; rfl
      cases bad with
      | true => cases hst
      | false =>
        obtain rfl : l = l' := Option.some.inj hst
        show Calls _ _ _ _ fun e w' => e = .returned (.int .i64 (l.length : Nat)) ∧ w' = w
        have hb2 : Calls Try.prog 20 #[.pointer (some ⟨b, 0, none⟩)] w fun e w' => e = .returned (.bool false) ∧ w' = w := hb
        clear hb hst hrow
        generalize l.length = n at *
        go_enter Try.func21, Try.ntmps21
        go_wp2_with (go_at_call 20; refine hb2.mono ?_; rintro e w1 ⟨rfl, rfl⟩)
        go_ret
        exact ⟨rfl, rfl⟩
end Go.Proofs.Ytpeibhhdhomnmaa
