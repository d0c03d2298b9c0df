/- A writer: bytes, flags, all of it; the document's own numbers, bytes, flags; 'awake'. -/
import Derived.Test.YtpeibhhdhomnmaaB
namespace Go.Proofs.Ytpeibhhdhomnmaa
open Go.RowKit
/-- append of bytes that lie there, to an owned row of bytes. -/
theorem run_append_byt {w : World} {B : Nat} {u : Value} {l P : List UInt8} {ao : Option Addr} (cap : Nat) (ty : TypeId) (hown : Own w B u l) (hP : Byt w ao P) (hl : l.length + P.length ≤ 4194304) (hB : B ≤ w.heap.size) :
    ∃ v' w', (Builtin.append_ #[23, 23] ty #[u, .slice ao P.length cap]).run Try.prog w = .ok v' w' ∧ w'.ownsRow B 5 1 v' (l.length + P.length) (Lib.byteCells l ++ Lib.byteCells P) ∧ w.grownBy w' u.ownBlock ∧ (v'.ownBlock = u.ownBlock ∨ v'.ownBlock = some w.heap.size) := by
  obtain ⟨i0, hi, hz0, hz1, hz2⟩ := info_parts info5
  cases ao with
  | none =>
    have h0 : P = [] := by
      rcases hP.at_ with h | ⟨b, off, h, -⟩
      · exact h
      · cases h
    subst h0
    refine ⟨u, w, ?_, by simpa [Lib.byteCells, Own] using hown, ⟨rfl, rfl, rfl, Nat.le_refl _, fun _ _ _ => rfl⟩, .inl rfl⟩
    rcases hown.2 with ⟨rfl, h0⟩ | ⟨g, cap', cur, rfl, _, _, hnc, _⟩
    · simp [Builtin.append_, run_underlying Try.underlying23, sizeOf, typeInfo, hi, Builtin.lenOf, Builtin.firstCells]
    · simp [Builtin.append_, run_underlying Try.underlying23, sizeOf, typeInfo, hi, Builtin.lenOf, Builtin.firstCells, hnc, storeCells]
  | some a =>
    have hnews : ∀ j x, (Lib.byteCells P)[j]? = some x → w.cell? (a.add j) = some x := by
      intro j x hx
      rcases hP.at_ with rfl | ⟨b', off', e, -⟩
      · simp [Lib.byteCells] at hx
      · cases e
        exact hP.news j x hx
    obtain ⟨v', w', hrun, r1, r2, -, r3⟩ := run_append_own_at (P := Try.prog) w B 23 ty 5 i0 (.int .u8 0) 1 1 Try.underlying23 hi hz0 hz1 hz2 rfl (by decide) u l.length (Lib.byteCells l) hown a P.length cap (Lib.byteCells P) (by rw [Lib.byteCells_length]; omega) hnews (byteCells_one P) (by unfold maxLen; omega) (by omega) hB
    exact ⟨v', w', hrun, r1, r2, r3⟩
theorem wpList_append_byt {w : World} {ops : Array Oper} {rest : List Oper} {o : Oper} {a : Act} {Q : Exit → Act → World → Prop} (hgd : o.guard = none) (s x : Operand)
    (ho : o.op = .call { callee := .builtin .append, args := #[s, x], argTypes := #[23, 23] }) (B : Nat) (u : Value) (l P : List UInt8) (ao : Option Addr) (n cap : Nat)
    (hs : a.eval s = u) (hx : a.eval x = .slice ao n cap) (hn : n = P.length) (hown : Own w B u l) (hP : Byt w ao P) (hl : l.length + P.length ≤ 4194304) (hB : B ≤ w.heap.size)
    (h : ∀ v' w', w'.ownsRow B 5 1 v' (l.length + P.length) (Lib.byteCells l ++ Lib.byteCells P) → w.grownBy w' u.ownBlock → (v'.ownBlock = u.ownBlock ∨ v'.ownBlock = some w.heap.size) → wpList Try.prog ops Q rest (a.put o.dst v') w') : wpList Try.prog ops Q (o :: rest) a w := by
  subst hn
  refine wpList_plain hgd fun K hK => ?_
  obtain ⟨v', w', hr, h2, h3, h4⟩ := run_append_byt cap o.type hown hP hl hB
  unfold Oper.wp execOp
  simp only [ho, resolve, invoke, builtin, Sem.run_bind, Sem.run_pure, Result.andThen_ok, List.map_toArray, List.map_cons, List.map_nil, hs, hx, hr]
  exact hK _ _ (h v' w' h2 h3 h4)
theorem own_app {w : World} {B : Nat} {v : Value} {l P : List UInt8} (h : w.ownsRow B 5 1 v (l.length + P.length) (Lib.byteCells l ++ Lib.byteCells P)) : Own w B v (l ++ P) := by
  unfold Own
  rw [List.length_append, show Lib.byteCells (l ++ P) = Lib.byteCells l ++ Lib.byteCells P by simp [Lib.byteCells]]
  exact h
/-- Bytes that are none of the writer's. -/
def Apart (ao : Option Addr) (P : List UInt8) (b : Nat) (v : Value) : Prop := ∀ a, ao = some a → P ≠ [] → a.block ≠ b ∧ v.ownBlock ≠ some a.block
theorem Byt.wf {w w' : World} {ao : Option Addr} {P : List UInt8} {b : Nat} {v v' : Value} (h : Byt w ao P) (hf : Wf w b v w' v') (ha : Apart ao P b v) : Byt w' ao P := by
  refine ⟨?_⟩
  by_cases h0 : P = []
  · exact .inl h0
  · rcases h.at_ with h1 | ⟨g, off, rfl, hg, h3⟩
    · exact absurd h1 h0
    · obtain ⟨n1, n2⟩ := ha _ rfl h0
      exact .inr ⟨g, off, rfl, Nat.lt_of_lt_of_le hg hf.size, fun j hj => (World.cell?_of_block (w := w) (a := ⟨g, off + j, none⟩) (hf.block g hg n1 n2)).trans (h3 j hj)⟩
theorem Apart.wf {w w' : World} {ao : Option Addr} {P : List UInt8} {b : Nat} {v v' : Value} (ha : Apart ao P b v) (h : Byt w ao P) (hf : Wf w b v w' v') : Apart ao P b v' := by
  intro a e h0
  obtain ⟨n1, n2⟩ := ha a e h0
  refine ⟨n1, fun e2 => ?_⟩
  rcases hf.loc with h3 | ⟨g, h3, hg⟩
  · exact n2 (h3 ▸ e2)
  · rw [h3] at e2
    injection e2 with e2
    rcases h.at_ with h1 | ⟨g', off, h1, h2, -⟩
    · exact h0 h1
    · rw [h1] at e
      cases e
      simp only at e2
      omega
theorem apart_old {w : World} {ao : Option Addr} {P : List UInt8} {B b : Nat} {v : Value} {l : List UInt8} (h : Byt w ao P) (hB : w.heap.size ≤ B) {w' : World} (hW : Wr w' B b v l) : Apart ao P b v := by
  intro a e h0
  rcases h.at_ with h1 | ⟨g', off, h1, h2, -⟩
  · exact absurd h1 h0
  · rw [h1] at e
    cases e
    refine ⟨fun e => ?_, fun e => ?_⟩
    · have := hW.bB
      simp only at e
      omega
    · have := (World.ownsRow.lt hW.own _ e).1
      simp only at this
      omega
set_option maxHeartbeats 4000000 in
/-- Bytes, appended by a writer. -/
theorem wbytes_any (B b : Nat) (v : Value) (l P : List UInt8) (ao : Option Addr) (cap : Nat) (w : World) (hW : Wr w B b v l) (hP : Byt w ao P) (ha : Apart ao P b v) (hB : B ≤ w.heap.size) (hl : l.length + P.length ≤ 1048000) :
    Calls Try.prog 10 #[.pointer (some ⟨b, 0, none⟩), .slice ao P.length cap] w fun e w' => e = .returned (.pointer (some ⟨b, 0, none⟩)) ∧ ∃ v', Wr w' B b v' (l ++ be P.length 4 ++ P) ∧ Wf w b v w' v' := by
  have hc := wnum_any B b v l P.length 4 w hW hB (by omega) (by omega)
  obtain ⟨n, hn⟩ : ∃ n, n = P.length := ⟨_, rfl⟩
  have hcv : IntKind.u64.wrap (n : Int) = (n : Int) := by simp [IntKind.wrap, IntKind.bits, IntKind.signed]; omega
  have HL := Lib.hid hl
  rw [← hn] at hc hl ⊢
  have HN := Lib.hid hn
  have HC := Lib.hid hc
  clear hc hn hl
  go_enter Try.func10, Try.ntmps10
  go_wp2_with (go_at_call 8; refine HC.out.mono ?_; rintro e w1 ⟨rfl, v1, hW1, hf1⟩; refine Hid.out ?_)
  refine Lib.hid ?_
  have hP1 := hP.wf hf1 ha
  have c0 : w1.cell? ⟨b, 0, none⟩ = some v1 := by rw [cell_of_row _ _ _ _ _ _ hW1.row]; rfl
  have hlen : (l ++ be n 4).length + P.length ≤ 4194304 := by rw [List.length_append, be_len]; have := HL.out; omega
  have hfin : ∀ v2 w2, w2.ownsRow B 5 1 v2 ((l ++ be n 4).length + P.length) (Lib.byteCells (l ++ be n 4) ++ Lib.byteCells P) → w1.grownBy w2 v1.ownBlock → (v2.ownBlock = v1.ownBlock ∨ v2.ownBlock = some w1.heap.size) →
      w2.cell? ⟨b, 0, none⟩ = some v1 ∧ w2.frozen? ⟨b, 0, none⟩ = false ∧ (∃ ao m c, v2 = .slice ao m c) ∧ Hid (Wr (w2.setCell ⟨b, 0, none⟩ v2) B b v2 (l ++ be n 4 ++ P) ∧ Wf w1 b v1 (w2.setCell ⟨b, 0, none⟩ v2) v2) := by
    intro v2 w2 h1 h2 h3
    have hr2 : w2.heap[b]? = some (.cells #[v1] 28 (0, 0)) := (h2.block b hW1.lt (fun e => hW1.ne e.symm)).trans hW1.row
    refine ⟨by rw [cell_of_row _ _ _ _ _ _ hr2]; rfl, by simp [World.frozen?, hr2], ?_, wr_store hW1 h1 h2 (h3.imp id (fun e => ⟨_, e, Nat.le_refl _⟩))⟩
    rcases h1.2 with ⟨rfl, -⟩ | ⟨g, cc, cur, rfl, -⟩
    · exact ⟨none, 0, 0, rfl⟩
    · exact ⟨_, _, cc, rfl⟩
  have hsz : B ≤ w1.heap.size := Nat.le_trans hB hf1.size
  have HFIN := Lib.hid hfin
  have HW := Lib.hid hW1
  have HF := Lib.hid hf1
  have HLen := Lib.hid hlen
  clear hfin hW1 hf1 hlen HC hcv
  go_wp2_with (at_builtin; refine wpList_append_byt rfl _ _ rfl B v1 (l ++ be n 4) P ao n cap rfl rfl HN.out HW.out.own hP1 HLen.out hsz ?_; intro v2 w2 hown hgrow hloc; obtain ⟨c2, f2, ⟨vo, vm, vc, rfl⟩, HFW⟩ := HFIN.out v2 w2 hown hgrow hloc)
  go_ret
  exact ⟨rfl, _, HFW.out.1, HF.out.trans HFW.out.2⟩
set_option maxHeartbeats 4000000 in
/-- A flag, appended by a writer. -/
theorem wflag_any (B b : Nat) (v : Value) (l : List UInt8) (t : Bool) (w : World) (hW : Wr w B b v l) (hB : B ≤ w.heap.size) (hl : l.length ≤ 1048576) :
    Calls Try.prog 11 #[.pointer (some ⟨b, 0, none⟩), .bool t] w fun e w' => e = .returned (.pointer (some ⟨b, 0, none⟩)) ∧ ∃ v', Wr w' B b v' (l ++ [if t then 1 else 0]) ∧ Wf w b v w' v' := by
  have hc1 := wnum_any B b v l 1 1 w hW hB (by omega) hl
  have hc0 := wnum_any B b v l 0 1 w hW hB (by omega) hl
  have e1 : be 1 1 = [1] := by decide
  have e0 : be 0 1 = [0] := by decide
  rw [e1] at hc1
  rw [e0] at hc0
  have HC1 := Lib.hid hc1
  have HC0 := Lib.hid hc0
  clear hc1 hc0
  cases t with
  | true =>
    go_enter Try.func11, Try.ntmps11
    go_wp2_with (go_at_call 8; refine HC1.out.mono ?_; rintro e w1 ⟨rfl, v1, hW1, hf1⟩)
    go_ret
    exact ⟨rfl, v1, hW1, hf1⟩
  | false =>
    go_enter Try.func11, Try.ntmps11
    go_wp2_with (go_at_call 8; refine HC0.out.mono ?_; rintro e w1 ⟨rfl, v1, hW1, hf1⟩)
    go_ret
    exact ⟨rfl, v1, hW1, hf1⟩
set_option maxHeartbeats 4000000 in
/-- All that a writer holds. -/
theorem wdone_any (B b : Nat) (v : Value) (l : List UInt8) (w : World) (hW : Wr w B b v l) (hl : l.length ≤ 1048576) :
    Calls Try.prog 14 #[.pointer (some ⟨b, 0, none⟩)] w fun e w' => ∃ v', e = .returned v' ∧ Own w' w.heap.size v' l ∧ Below w.heap.size w w' := by
  obtain ⟨ao, cap, rfl, hby, -, -⟩ := hW.own.slice
  have hc := clone_any ao cap l w hby hl
  have c0 : w.cell? ⟨b, 0, none⟩ = some (.slice ao l.length cap) := by rw [cell_of_row _ _ _ _ _ _ hW.row]; rfl
  obtain ⟨n, hn⟩ : ∃ n, n = l.length := ⟨_, rfl⟩
  rw [← hn] at c0 hc
  have HC := Lib.hid hc
  clear hc hn hl hW hby
  go_enter Try.func14, Try.ntmps14
  go_wp2_with (go_at_call 23; refine HC.out.mono ?_; rintro e w1 ⟨v1, rfl, hown, hb⟩)
  go_ret
  exact ⟨v1, rfl, hown, hb⟩
end Go.Proofs.Ytpeibhhdhomnmaa
