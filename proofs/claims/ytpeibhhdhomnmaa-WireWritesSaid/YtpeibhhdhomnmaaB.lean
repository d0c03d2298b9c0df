/- A writer: numbers appended. -/
import Derived.Test.YtpeibhhdhomnmaaA
import Derived.Deep.RegionWith
import Derived.Deep.RegionLaw
namespace Go.Proofs.Ytpeibhhdhomnmaa
open Go.RowKit
/-- A writer: its struct in block b, its bytes in a row of its own. -/
structure Wr (w : World) (B b : Nat) (v : Value) (l : List UInt8) : Prop where
  bB : B ≤ b
  row : w.heap[b]? = some (.cells #[v] 28 (0, 0))
  own : Own w B v l
  ne : v.ownBlock ≠ some b
/-- What a writer leaves alone. -/
structure Wf (w : World) (b : Nat) (v : Value) (w' : World) (v' : Value) : Prop where
  os : w'.os = w.os
  tape : w'.tape = w.tape
  output : w'.output = w.output
  size : w.heap.size ≤ w'.heap.size
  block : ∀ i, i < w.heap.size → i ≠ b → v.ownBlock ≠ some i → w'.heap[i]? = w.heap[i]?
  loc : v'.ownBlock = v.ownBlock ∨ ∃ g, v'.ownBlock = some g ∧ w.heap.size ≤ g
theorem Wf.refl (w : World) (b : Nat) (v : Value) : Wf w b v w v := ⟨rfl, rfl, rfl, Nat.le_refl _, fun _ _ _ _ => rfl, .inl rfl⟩
theorem Wf.trans {a c d : World} {b : Nat} {u v x : Value} (h : Wf a b u c v) (k : Wf c b v d x) : Wf a b u d x := by
  refine ⟨k.os.trans h.os, k.tape.trans h.tape, k.output.trans h.output, Nat.le_trans h.size k.size, fun i h1 h2 h3 => ?_, ?_⟩
  · have h4 : v.ownBlock ≠ some i := by
      rcases h.loc with e | ⟨g, e, hg⟩
      · rw [e]; exact h3
      · rw [e]; intro e2; injection e2 with e2; omega
    exact (k.block i (Nat.lt_of_lt_of_le h1 h.size) h2 h4).trans (h.block i h1 h2 h3)
  · rcases k.loc with e | ⟨g, e, hg⟩
    · rw [e]; exact h.loc
    · exact .inr ⟨g, e, Nat.le_trans h.size hg⟩
theorem Wf.below {w w' : World} {B b : Nat} {v v' : Value} {l : List UInt8} (h : Wf w b v w' v') (hw : Wr w B b v l) (hB : B ≤ w.heap.size) : Below B w w' :=
  ⟨h.os, h.tape, h.output, h.size, fun i hi => h.block i (by omega) (by have := hw.bB; omega) (fun e => by have := (World.ownsRow.lt hw.own _ e).1; omega)⟩
theorem Wr.lt {w : World} {B b : Nat} {v : Value} {l : List UInt8} (h : Wr w B b v l) : b < w.heap.size := (Array.getElem?_eq_some_iff.1 h.row).1
theorem Wr.on {w w' : World} {B b : Nat} {v : Value} {l : List UInt8} (h : Wr w B b v l) {C : Nat} (hb : Below C w w') (hC : w.heap.size ≤ C) : Wr w' B b v l :=
  ⟨h.bB, (hb.block b (Nat.lt_of_lt_of_le h.lt hC)).trans h.row, owns_below h.own hb hC, h.ne⟩
theorem Wf.of_below {w w' : World} {b : Nat} {v : Value} (h : Below w.heap.size w w') : Wf w b v w' v := ⟨h.os, h.tape, h.output, h.size, fun i h1 _ _ => h.block i h1, .inl rfl⟩
/-- A writer's row, behind an append, laid into the struct. -/
theorem wr_store {w w1 : World} {B b : Nat} {v v1 : Value} {l m : List UInt8} (h : Wr w B b v l) (hown : w1.ownsRow B 5 1 v1 (l.length + m.length) (Lib.byteCells l ++ Lib.byteCells m)) (hg : w.grownBy w1 v.ownBlock)
    (hat : v1.ownBlock = v.ownBlock ∨ ∃ g, v1.ownBlock = some g ∧ w.heap.size ≤ g) : Wr (w1.setCell ⟨b, 0, none⟩ v1) B b v1 (l ++ m) ∧ Wf w b v (w1.setCell ⟨b, 0, none⟩ v1) v1 := by
  have hb := h.lt
  have hne : v1.ownBlock ≠ some b := by
    rcases hat with e | ⟨g, e, hg⟩
    · rw [e]; exact h.ne
    · rw [e]; intro e2; injection e2 with e2; omega
  have hr1 : w1.heap[b]? = some (.cells #[v] 28 (0, 0)) := (hg.block b hb (fun e => h.ne e.symm)).trans h.row
  refine ⟨⟨h.bB, heap_setCell_same _ b 0 _ 28 v1 hr1, ?_, hne⟩, ⟨hg.os, hg.tape, hg.output, by have := hg.size; simpa [World.setCell] using this, fun i h1 h2 h3 => (Below.heap_setCell _ _ _ _ h2).trans (hg.block i h1 (fun e => h3 e.symm)), hat⟩⟩
  obtain ⟨h1, h2⟩ := hown
  unfold Own
  rw [List.length_append, show Lib.byteCells (l ++ m) = Lib.byteCells l ++ Lib.byteCells m by simp [Lib.byteCells]]
  refine ⟨h1, ?_⟩
  rcases h2 with h2 | ⟨g, cap, cur, rfl, hg, hc, h3⟩
  · exact .inl h2
  · refine .inr ⟨g, cap, cur, rfl, hg, ?_, h3⟩
    rw [Below.heap_setCell _ _ _ _ (fun e => hne (by rw [show g = b from e]; rfl))]
    exact hc
/-- An owned row grows by an append, in a region that draws; and where the row lies. -/
theorem step_append_at {P : Program} {ops : Array Oper} {o : Oper} {a : Act} {w : World} {K : Act → World → Prop} {Q : Exit → Act → World → Prop} {E : Prop}
    (hg : o.guard = none) (s x : Operand) (t : TypeId) (hop : o.op = Op.call { callee := Callee.builtin Builtin.append, args := #[s, x], argTypes := #[t, t] })
    (base : Nat) (e : TypeId) (i : TypeInfo) (z : Value) (size bytes : Nat) (h1 : P.underlying t = some (.slice e)) (h2 : P.info? e = some i) (h3 : i.zero = some z) (h4 : i.size = size) (h5 : i.bytes = bytes) (h6 : z.cells.size = size) (h7 : 0 < size)
    (v : Value) (n : Nat) (xs : List Value) (hs : a.eval s = v) (hown : w.ownsRow base e size v n xs)
    (ad : Addr) (m c : Nat) (news : List Value) (hx : a.eval x = .slice (some ad) m c) (hn : news.length = m * size) (hc : ∀ j u, news[j]? = some u → w.cell? (ad.add j) = some u) (h1c : ∀ u ∈ news, u.oneCell' = true)
    (b1 : n + m ≤ maxLen) (b2 : (n + m) * bytes ≤ 140737488355328) (hbase : base ≤ w.heap.size)
    (hK : ∀ v' w', w'.ownsRow base e size v' (n + m) (xs ++ news) → w.grownBy w' v.ownBlock → (v'.ownBlock = v.ownBlock ∨ v'.ownBlock = some w.heap.size) → K (a.put o.dst v') w') :
    if Region.wanted o (yielded ops a.tmps) = true then Oper.wp P o a w K Q else E := by
  have hw : Region.wanted o (yielded ops a.tmps) = true := by simp [Region.wanted, hg]
  rw [if_pos hw]
  obtain ⟨v', w', hrun, r1, r2, _, r3⟩ := run_append_own_at (P := P) w base t o.type e i z size bytes h1 h2 h3 h4 h5 h6 h7 v n xs hown ad m c news hn hc h1c b1 b2 hbase
  unfold Oper.wp
  simp [execOp, hop, resolve, invoke, builtin, hs, hx, hrun, Result.andThen]
  exact hK v' w' r1 r2 r3
theorem shr_run (n m : Nat) (hm : m ≤ 7) (w : World) : (Op.shift .shr .u64 n .i64 ((8 * m : Nat) : Int)).run Try.prog w = .ok (.int .u64 ((n / 2 ^ (8 * m) : Nat) : Int)) w := by
  have e : min (((8 * m : Nat) : Int)).toNat IntKind.u64.bits = 8 * m := by
    have : IntKind.u64.bits = 64 := rfl
    omega
  unfold Op.shift
  rw [if_neg (by omega)]
  simp only [e]
  rw [Int.fdiv_eq_ediv_of_nonneg _ (Int.pow_nonneg (by decide))]
  simp [Sem.run_pure]
theorem u8_byte (x : Nat) : IntKind.u8.wrap (x : Int) = ((UInt8.ofNat x).toNat : Int) := by
  rw [UInt8.toNat_ofNat']
  simp [IntKind.wrap, IntKind.bits, IntKind.signed]
set_option maxHeartbeats 4000000 in
theorem wnum_any (B b : Nat) (v : Value) (l : List UInt8) (n k : Nat) (w : World) (hW : Wr w B b v l) (hB : B ≤ w.heap.size) (hk : k ≤ 8) (hl : l.length ≤ 1048576) :
    Calls Try.prog 8 #[.pointer (some ⟨b, 0, none⟩), .int .u64 n, .int .i64 k] w fun e w' => e = .returned (.pointer (some ⟨b, 0, none⟩)) ∧ ∃ v', Wr w' B b v' (l ++ be n k) ∧ Wf w b v w' v' := by
  obtain ⟨i0, hi, hz0, hz1, hz2⟩ := info_parts info5
  have hk2 : ¬ (8 : Int) < k := by omega
  have HWB := Lib.hid (And.intro hW (And.intro hB hl))
  clear hW hB hl
  go_enter Try.func8, Try.ntmps8
  go_wp2
  go_loopw [7] (fun a wr => ∃ (j : Nat) (u : Value) (A : List UInt8), a = .int .i64 j ∧ j ≤ k ∧ Hid (A.length + j = k ∧ A ++ be n j = be n k ∧ Wr wr B b u (l ++ A) ∧ Wf w b v wr u))
    (fun a _ => (intOf a).toNat)
  case atStart => exact ⟨k, v, [], rfl, Nat.le_refl _, by simp, by simp, by simpa using HWB.out.1, Wf.refl _ _ _⟩
  case round =>
    obtain ⟨j, u, A, rfl, hj, HX⟩ := hrel
    by_cases hj0 : j = 0
    · subst hj0
      go_wp2
      go_ret
      obtain ⟨h1, h2, h3, h4⟩ := HX.out
      refine ⟨rfl, u, ?_, h4⟩
      rw [← h2]
      simpa [be] using h3
    · obtain ⟨m, rfl⟩ : ∃ m, j = m + 1 := ⟨j - 1, by omega⟩
      have hW := HX.out.2.2.1
      have hr := hW.row
      have hsz : B ≤ wr.heap.size := Nat.le_trans HWB.out.2.1 HX.out.2.2.2.size
      have hLA : (l ++ A).length ≤ 1048584 := by
        have := HWB.out.2.2
        have := HX.out.1
        rw [List.length_append]
        omega
      have c0 : wr.cell? ⟨b, 0, none⟩ = some u := by rw [cell_of_row _ _ _ _ _ _ hr]; rfl
      have c1 : ∀ o, (wr.alloc o).cell? ⟨b, 0, none⟩ = some u := fun o => by
        rw [cell_of_row _ _ _ _ _ _ ((Below.heap_alloc wr o b hW.lt).trans hr)]; rfl
      have hw1 : IntKind.i64.wrap (((m + 1 : Nat) : Int) - 1) = (m : Int) := by simp [IntKind.wrap, IntKind.bits]; omega
      have hw2 : IntKind.i64.wrap (8 * (m : Int)) = ((8 * m : Nat) : Int) := by simp [IntKind.wrap, IntKind.bits]; omega
      have hsh := fun w => shr_run n m (by omega) w
      have hbx := u8_byte (n / 2 ^ (8 * m))
      have hbe : be n (m + 1) = UInt8.ofNat (n / 2 ^ (8 * m)) :: be n m := rfl
      have hj1 : (0 : Int) < (m + 1 : Nat) := by omega
      have hown := hW.own
      have hfin : ∀ v2 w2, w2.ownsRow B 5 1 v2 ((l ++ A).length + 1) (Lib.byteCells (l ++ A) ++ [Value.int .u8 ((UInt8.ofNat (n / 2 ^ (8 * m))).toNat : Int)]) → (wr.drew.alloc (.cells #[.int .u8 ((UInt8.ofNat (n / 2 ^ (8 * m))).toNat : Int)] 5)).grownBy w2 u.ownBlock → (v2.ownBlock = u.ownBlock ∨ v2.ownBlock = some (wr.drew.alloc (.cells #[.int .u8 ((UInt8.ofNat (n / 2 ^ (8 * m))).toNat : Int)] 5)).heap.size) →
          ∃ g cc, v2 = .slice (some ⟨g, 0, none⟩) ((l ++ A).length + 1) cc ∧ w2.cell? ⟨b, 0, none⟩ = some u ∧ w2.frozen? ⟨b, 0, none⟩ = false ∧ Hid (Wr (w2.setCell ⟨b, 0, none⟩ (.slice (some ⟨g, 0, none⟩) ((l ++ A).length + 1) cc)) B b (.slice (some ⟨g, 0, none⟩) ((l ++ A).length + 1) cc) (l ++ A ++ [UInt8.ofNat (n / 2 ^ (8 * m))]) ∧ Wf wr b u (w2.setCell ⟨b, 0, none⟩ (.slice (some ⟨g, 0, none⟩) ((l ++ A).length + 1) cc)) (.slice (some ⟨g, 0, none⟩) ((l ++ A).length + 1) cc)) := by
        intro v2 w2 h1 h2 h3
        have hb0 : Below wr.heap.size wr (wr.drew.alloc (.cells #[.int .u8 ((UInt8.ofNat (n / 2 ^ (8 * m))).toNat : Int)] 5)) := (Below.refl _ wr).drew.alloc (Nat.le_refl _) _
        have hW2 := hW.on hb0 (Nat.le_refl _)
        have hr2 : w2.heap[b]? = some (.cells #[u] 28 (0, 0)) := (h2.block b hW2.lt (fun e => hW2.ne e.symm)).trans hW2.row
        have h4 := wr_store (v1 := v2) (m := [UInt8.ofNat (n / 2 ^ (8 * m))]) hW2 h1 h2 (h3.imp id (fun e => ⟨_, e, Nat.le_refl _⟩))
        have h5 := h1.2
        rcases h5 with ⟨-, h5⟩ | ⟨g, cc, cur, rfl, -⟩
        · omega
        · exact ⟨g, cc, rfl, by rw [cell_of_row _ _ _ _ _ _ hr2]; rfl, by simp [World.frozen?, hr2], h4.1, (Wf.of_below hb0).trans h4.2⟩
      generalize UInt8.ofNat (n / 2 ^ (8 * m)) = y at *
      generalize n / 2 ^ (8 * m) = x at *
      generalize ((8 * m : Nat) : Int) = q at *
      obtain ⟨J, hJ⟩ : ∃ J : Nat, J = m + 1 := ⟨_, rfl⟩
      rw [← hJ] at hw1 hj1 ⊢
      have HJ := Lib.hid hJ
      have HHX := Lib.hid hbe
      have HLA := Lib.hid hLA
      have HFIN := Lib.hid hfin
      have HW := Lib.hid hW
      clear hJ hbe hLA hfin hW hr hj0
      go_wp2
      obtain ⟨N, hN⟩ : ∃ N, N = (l ++ A).length := ⟨_, rfl⟩
      rw [← hN] at HFIN HLA
      have hown2 : wr.ownsRow B 5 1 u N (Lib.byteCells (l ++ A)) := by rw [hN]; exact hown
      clear hown hN
      have HSZ := Lib.hid hsz
      clear hsz
      go_region_law (refine step_append_at rfl (.tmp 20) (.tmp 27) 23 rfl B 5 i0 (.int .u8 0) 1 1 Try.underlying23 hi hz0 hz1 hz2 rfl (by decide) u N (Lib.byteCells (l ++ A)) (by simp [Act.eval]) (hown2.drew.alloc _) ⟨wr.heap.size, 0, none⟩ 1 1 [.int .u8 (y.toNat : Int)] (by simp [Act.eval]) rfl (cell_one_new _ _ _) (fun x hx => by simp at hx; subst hx; rfl) (by have := HLA.out; unfold maxLen; omega) (by have := HLA.out; omega) (by have := HSZ.out; simp; omega) ?_; intro v2 w2 hown3 hgrow hloc; obtain ⟨g, cc, rfl, c2, f2, HFW⟩ := HFIN.out v2 w2 hown3 hgrow hloc)
      all_goals (
        go_wp2
        go_roundw
        case rel =>
          obtain ⟨h1, h2, h3, h4⟩ := HX.out
          obtain ⟨p1, p2⟩ := HFW.out
          refine ⟨m, _, A ++ [y], rfl, by omega, by rw [List.length_append, List.length_singleton]; omega, ?_, by rw [← List.append_assoc]; exact p1, h4.trans p2⟩
          rw [← h2, HHX.out, List.append_assoc]
          rfl
        case measure => have := HJ.out; simp [intOf]; omega)
end Go.Proofs.Ytpeibhhdhomnmaa
