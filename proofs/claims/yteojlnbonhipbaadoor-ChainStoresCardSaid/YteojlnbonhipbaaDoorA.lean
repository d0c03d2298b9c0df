/- Bytes that lie there; a slice copied; rows that grow. -/
import Derived.Test.YteojlnbonhipbaaDoorRows
import Derived.WalkKit
import Derived.WalkSpells
import Derived.WalkLawsBesides
import Derived.Lib.SmallJoins
import Derived.OwnWalk
import Derived.Lib.UnsafeStr
import Derived.Laws.IdiomStrings
import Derived.Laws.BytesArg
import Derived.Maps.AppendAt
import Derived.Lib.SliceRun
import Derived.Lib.Hide
import Derived.Deep.RegionWith
import Derived.Deep.RegionLaw
namespace Go.Proofs.YteojlnbonhipbaaDoor
open Go.RowKit
theorem addr_mid (b off j : Nat) : (⟨b, off, none⟩ : Addr).add j = ⟨b, off + j, none⟩ := by
  unfold Addr.add
  split
  · rename_i h; subst h; rfl
  · rfl
theorem cell_of_row (w : World) (g j : Nat) (cur : Array Value) (t : TypeId) (fr : Nat × Nat) (hg : w.heap[g]? = some (.cells cur t fr)) : w.cell? ⟨g, j, none⟩ = cur[j]? := by simp [World.cell?, hg]
theorem info5 : (Tryd.prog.info? 5).map (fun i => (i.zero, i.size, i.bytes)) = some (some (.int .u8 0), 1, 1) := by kernel_rfl
/-- A slice of bytes that lies there. -/
structure Byt (w : World) (ao : Option Addr) (P : List UInt8) : Prop where
  at_ : P = [] ∨ ∃ b off, ao = some ⟨b, off, none⟩ ∧ b < w.heap.size ∧ ∀ j, j < P.length → w.cell? ⟨b, off + j, none⟩ = some (.int .u8 (P.getD j 0).toNat)
theorem Byt.on {w w' : World} {ao : Option Addr} {P : List UInt8} (h : Byt w ao P) {B : Nat} (hb : Below B w w') (hB : w.heap.size ≤ B) : Byt w' ao P := by
  obtain ⟨h⟩ := h
  refine ⟨h.imp id ?_⟩
  rintro ⟨b, off, h1, h2, h3⟩
  exact ⟨b, off, h1, Nat.lt_of_lt_of_le h2 hb.size, fun j hj => (hb.cell (p := ⟨b, off + j, none⟩) (by show b < B; omega)).trans (h3 j hj)⟩
theorem conv_bytes {w : World} {ao : Option Addr} {P : List UInt8} (h : Byt w ao P) (cap : Nat) : (convert 24 9 (.slice ao P.length cap)).run Tryd.prog w = .ok (.string ⟨P.toArray⟩) w := by
  rcases h.at_ with rfl | ⟨b, off, rfl, -, h3⟩
  · cases ao with
    | none => exact run_convert_bytes_nil w 24 5 Tryd.underlying24 Tryd.underlying5 _ cap 9 Tryd.underlying9
    | some a =>
      rw [run_convert_bytes_string w 24 9 5 (some a) _ cap Tryd.underlying24 Tryd.underlying5 Tryd.underlying9, run_bytesToString w a _ cap [] (by simp [loadCells, loadCellsFrom])]
      rfl
  · refine run_convert_bytes_back (P := Tryd.prog) w 24 9 5 ⟨b, off, none⟩ cap P Tryd.underlying24 Tryd.underlying5 Tryd.underlying9 (fun j hj => ?_)
    rw [addr_mid, h3 j hj, List.getD_eq_getElem?_getD, List.getElem?_eq_getElem hj]
    rfl
theorem owns_below {w w' : World} {base size n B : Nat} {e : TypeId} {v : Value} {xs : List Value} (h : w.ownsRow base e size v n xs) (hb : Below B w w') (hB : w.heap.size ≤ B) : w'.ownsRow base e size v n xs := by
  obtain ⟨h1, h2⟩ := h
  refine ⟨h1, ?_⟩
  rcases h2 with h2 | ⟨g, cap, cur, hv, hg, hc, h3⟩
  · exact .inl h2
  · exact .inr ⟨g, cap, cur, hv, hg, by rw [hb.block g (Nat.lt_of_lt_of_le (Array.getElem?_eq_some_iff.1 hc).1 hB)]; exact hc, h3⟩
/-- A row of bytes of the call's own, behind a bound. -/
def Own (w : World) (B : Nat) (v : Value) (l : List UInt8) : Prop := w.ownsRow B 5 1 v l.length (Lib.byteCells l)
theorem Own.slice {w : World} {B : Nat} {v : Value} {l : List UInt8} (h : Own w B v l) : ∃ ao cap, v = .slice ao l.length cap ∧ Byt w ao l ∧ l.length ≤ cap ∧ ∀ a, ao = some a → B ≤ a.block := by
  obtain ⟨hl, ⟨rfl, h0⟩ | ⟨g, cap, cur, rfl, hg, hc, h1, h2, h3, h4⟩⟩ := h
  · obtain rfl : l = [] := List.length_eq_zero_iff.1 h0
    exact ⟨none, 0, rfl, ⟨.inl rfl⟩, Nat.le_refl _, fun a ha => by cases ha⟩
  · refine ⟨_, cap, rfl, ⟨.inr ⟨g, 0, rfl, (Array.getElem?_eq_some_iff.1 hc).1, fun j hj => ?_⟩⟩, h1, fun a ha => by cases ha; exact hg⟩
    rw [Nat.zero_add, cell_of_row w g j cur 5 (0, 0) hc]
    have h5 : cur[j]? = (cur.toList.take (l.length * 1))[j]? := by rw [List.getElem?_take_of_lt (by omega), Array.getElem?_toList]
    rw [h5, h4, Lib.byteCells, List.getElem?_map, List.getElem?_eq_getElem hj, List.getD_eq_getElem?_getD, List.getElem?_eq_getElem hj]
    rfl
theorem Byt.news {w : World} {b off : Nat} {P : List UInt8} (h : Byt w (some ⟨b, off, none⟩) P) : ∀ j u, (Lib.byteCells P)[j]? = some u → w.cell? ((⟨b, off, none⟩ : Addr).add j) = some u := by
  intro j u hu
  have hj : j < P.length := by
    have := (List.getElem?_eq_some_iff.1 hu).1
    rwa [Lib.byteCells_length] at this
  rcases h.at_ with rfl | ⟨b', off', e, -, h3⟩
  · exact absurd hj (Nat.not_lt_zero _)
  · cases e
    rw [addr_mid, h3 j hj, ← hu, Lib.byteCells, List.getElem?_map, List.getElem?_eq_getElem hj, List.getD_eq_getElem?_getD, List.getElem?_eq_getElem hj]
    rfl
theorem byteCells_one (P : List UInt8) : ∀ u ∈ Lib.byteCells P, u.oneCell' = true := by
  intro u hu
  simp only [Lib.byteCells, List.mem_map] at hu
  obtain ⟨b, -, rfl⟩ := hu
  rfl
theorem byt_nil (w : World) (ao : Option Addr) : Byt w ao [] := ⟨.inl rfl⟩
theorem eq_nil24 (w : World) (ao : Option Addr) (n c : Nat) : (binOp .eql 24 (.slice ao n c) (.slice none 0 0)).run Tryd.prog w = .ok (.bool ao.isNone) w := Lib.run_eql_slice_nil w _ _ ao n c 0 0 Tryd.underlying24
set_option maxHeartbeats 1000000 in
/-- slices.Clone of bytes. -/
theorem clone_any (ao : Option Addr) (cap : Nat) (P : List UInt8) (w : World) (h : Byt w ao P) (hP : P.length ≤ 1048576) :
    Calls Tryd.prog 24 #[.slice ao P.length cap] w fun e w' => ∃ v', e = .returned v' ∧ Own w' w.heap.size v' P ∧ Below w.heap.size w w' := by
  obtain ⟨i0, hi, hz0, hz1, hz2⟩ := info_parts info5
  have he := eq_nil24
  obtain ⟨n, hn⟩ : ∃ n, n = P.length := ⟨_, rfl⟩
  rw [← hn] at hP ⊢
  have HN := Lib.hid hn
  have HH := Lib.hid h
  clear hn h
  cases ao with
  | none =>
    go_enter Tryd.func24, Tryd.ntmps24
    go_wp2
    go_ret
    refine ⟨_, rfl, ?_, Below.refl _ _⟩
    rcases HH.out.at_ with rfl | ⟨b, off, h, -⟩
    · exact World.ownsRow_nil _ _ _ _
    · cases h
  | some a =>
    obtain ⟨b, off, s⟩ := a
    have hnews : ∀ j u, (Lib.byteCells P)[j]? = some u → (w.alloc (.cells #[] 5)).cell? ((⟨b, off, s⟩ : Addr).add j) = some u := by
      intro j u hu
      have hb := HH.out.at_
      rcases hb with rfl | ⟨b', off', e, -⟩
      · simp [Lib.byteCells] at hu
      · cases e
        exact (HH.out.on (Joins.below_alloc1 w (.cells #[] 5)) (Nat.le_refl _)).news j u hu
    have HNW := Lib.hid hnews
    clear hnews
    go_enter Tryd.func24, Tryd.ntmps24
    go_wp2_with (at_builtin; refine wpList_append_own_at _ rfl _ _ 24 rfl w.heap.size 5 i0 (.int .u8 0) 1 1 Tryd.underlying24 hi hz0 hz1 hz2 rfl (by decide) _ _ _ rfl (World.ownsRow_made w #[] 0 (Nat.le_refl _) (Nat.zero_le _) (by simp)) ⟨b, off, s⟩ n cap (Lib.byteCells P) rfl (by rw [Lib.byteCells_length, HN.out]; omega) HNW.out (byteCells_one P) (by unfold maxLen; omega) (by omega) (by simp) ?_; intro v' w' hown hgrow _ _)
    go_ret
    refine ⟨v', rfl, ?_, ((Below.refl _ w).alloc (Nat.le_refl _) _).grown hgrow (by simp) (by intro k hk; have := Option.some.inj hk; simp at this; omega)⟩
    have h := hown
    rw [Nat.zero_add, List.nil_append, HN.out] at h
    exact h

/-- An owned row grows by an append, in a region that draws; and where the row lies. -/
theorem step_append_at {P : Program} {ops : Array Oper} {o : Oper} {a : Act} {w : World} {K : Act → World → Prop} {Q : Exit → Act → World → Prop} {E : Prop}
    (hg : o.guard = none) (s x : Operand) (t : TypeId) (hop : o.op = Op.call { callee := Callee.builtin Builtin.append, args := #[s, x], argTypes := #[t, t] })
    (base : Nat) (e : TypeId) (i : TypeInfo) (z : Value) (size bytes : Nat) (h1 : P.underlying t = some (.slice e)) (h2 : P.info? e = some i) (h3 : i.zero = some z) (h4 : i.size = size) (h5 : i.bytes = bytes) (h6 : z.cells.size = size) (h7 : 0 < size)
    (v : Value) (n : Nat) (xs : List Value) (hs : a.eval s = v) (hown : w.ownsRow base e size v n xs)
    (ad : Addr) (m c : Nat) (news : List Value) (hx : a.eval x = .slice (some ad) m c) (hn : news.length = m * size) (hc : ∀ j u, news[j]? = some u → w.cell? (ad.add j) = some u) (h1c : ∀ u ∈ news, u.oneCell' = true)
    (b1 : n + m ≤ maxLen) (b2 : (n + m) * bytes ≤ 140737488355328) (hbase : base ≤ w.heap.size)
    (hK : ∀ v' w', w'.ownsRow base e size v' (n + m) (xs ++ news) → w.grownBy w' v.ownBlock → (v'.ownBlock = v.ownBlock ∨ v'.ownBlock = some w.heap.size) → K (a.put o.dst v') w') :
    if Region.wanted o (yielded ops a.tmps) = true then Oper.wp P o a w K Q else E := by
  have hw : Region.wanted o (yielded ops a.tmps) = true := by simp [Region.wanted, hg]
  rw [if_pos hw]
  obtain ⟨v', w', hrun, r1, r2, _, r3⟩ := run_append_own_at (P := P) w base t o.type e i z size bytes h1 h2 h3 h4 h5 h6 h7 v n xs hown ad m c news hn hc h1c b1 b2 hbase
  unfold Oper.wp
  simp [execOp, hop, resolve, invoke, builtin, hs, hx, hrun, Result.andThen]
  exact hK v' w' r1 r2 r3
/-- An owned row grows by an append, in a region that draws. -/
theorem step_append_own {P : Program} {ops : Array Oper} {o : Oper} {a : Act} {w : World} {K : Act → World → Prop} {Q : Exit → Act → World → Prop} {E : Prop}
    (hg : o.guard = none) (s x : Operand) (t : TypeId) (hop : o.op = Op.call { callee := Callee.builtin Builtin.append, args := #[s, x], argTypes := #[t, t] })
    (base : Nat) (e : TypeId) (i : TypeInfo) (z : Value) (size bytes : Nat) (h1 : P.underlying t = some (.slice e)) (h2 : P.info? e = some i) (h3 : i.zero = some z) (h4 : i.size = size) (h5 : i.bytes = bytes) (h6 : z.cells.size = size) (h7 : 0 < size)
    (v : Value) (n : Nat) (xs : List Value) (hs : a.eval s = v) (hown : w.ownsRow base e size v n xs)
    (ad : Addr) (m c : Nat) (news : List Value) (hx : a.eval x = .slice (some ad) m c) (hn : news.length = m * size) (hc : ∀ j u, news[j]? = some u → w.cell? (ad.add j) = some u) (h1c : ∀ u ∈ news, u.oneCell' = true)
    (b1 : n + m ≤ maxLen) (b2 : (n + m) * bytes ≤ 140737488355328) (hbase : base ≤ w.heap.size)
    (hK : ∀ v' w', w'.ownsRow base e size v' (n + m) (xs ++ news) → w.grownBy w' v.ownBlock → K (a.put o.dst v') w') :
    if Region.wanted o (yielded ops a.tmps) = true then Oper.wp P o a w K Q else E := by
  have hw : Region.wanted o (yielded ops a.tmps) = true := by simp [Region.wanted, hg]
  rw [if_pos hw]
  obtain ⟨v', w', hrun, r1, r2, _⟩ := run_append_own (P := P) w base t o.type e i z size bytes h1 h2 h3 h4 h5 h6 h7 v n xs hown ad m c news hn hc h1c b1 b2 hbase
  unfold Oper.wp
  simp [execOp, hop, resolve, invoke, builtin, hs, hx, hrun, Result.andThen]
  exact hK v' w' r1 r2
/-- append of bytes that lie there, to an owned row of bytes. -/
theorem run_append_byt {w : World} {B : Nat} {u : Value} {l P : List UInt8} {ao : Option Addr} (cap : Nat) (ty : TypeId) (hown : Own w B u l) (hP : Byt w ao P) (hl : l.length + P.length ≤ 4194304) (hB : B ≤ w.heap.size) :
    ∃ v' w', (Builtin.append_ #[24, 24] ty #[u, .slice ao P.length cap]).run Tryd.prog w = .ok v' w' ∧ w'.ownsRow B 5 1 v' (l.length + P.length) (Lib.byteCells l ++ Lib.byteCells P) ∧ w.grownBy w' u.ownBlock ∧ (v'.ownBlock = u.ownBlock ∨ v'.ownBlock = some w.heap.size) := by
  obtain ⟨i0, hi, hz0, hz1, hz2⟩ := info_parts info5
  cases ao with
  | none =>
    have h0 : P = [] := by
      rcases hP.at_ with h | ⟨b, off, h, -⟩
      · exact h
      · cases h
    subst h0
    refine ⟨u, w, ?_, by simpa [Lib.byteCells, Own] using hown, ⟨rfl, rfl, rfl, Nat.le_refl _, fun _ _ _ => rfl⟩, .inl rfl⟩
    rcases hown.2 with ⟨rfl, h0⟩ | ⟨g, cap', cur, rfl, _, _, hnc, _⟩
    · simp [Builtin.append_, run_underlying Tryd.underlying24, sizeOf, typeInfo, hi, Builtin.lenOf, Builtin.firstCells]
    · simp [Builtin.append_, run_underlying Tryd.underlying24, sizeOf, typeInfo, hi, Builtin.lenOf, Builtin.firstCells, hnc, storeCells]
  | some a =>
    have hnews : ∀ j x, (Lib.byteCells P)[j]? = some x → w.cell? (a.add j) = some x := by
      intro j x hx
      rcases hP.at_ with rfl | ⟨b', off', e, -⟩
      · simp [Lib.byteCells] at hx
      · cases e
        exact hP.news j x hx
    obtain ⟨v', w', hrun, r1, r2, -, r3⟩ := run_append_own_at (P := Tryd.prog) w B 24 ty 5 i0 (.int .u8 0) 1 1 Tryd.underlying24 hi hz0 hz1 hz2 rfl (by decide) u l.length (Lib.byteCells l) hown a P.length cap (Lib.byteCells P) (by rw [Lib.byteCells_length]; omega) hnews (byteCells_one P) (by unfold maxLen; omega) (by omega) hB
    exact ⟨v', w', hrun, r1, r2, r3⟩
theorem wpList_append_byt {w : World} {ops : Array Oper} {rest : List Oper} {o : Oper} {a : Act} {Q : Exit → Act → World → Prop} (hgd : o.guard = none) (s x : Operand)
    (ho : o.op = .call { callee := .builtin .append, args := #[s, x], argTypes := #[24, 24] }) (B : Nat) (u : Value) (l P : List UInt8) (ao : Option Addr) (n cap : Nat)
    (hs : a.eval s = u) (hx : a.eval x = .slice ao n cap) (hn : n = P.length) (hown : Own w B u l) (hP : Byt w ao P) (hl : l.length + P.length ≤ 4194304) (hB : B ≤ w.heap.size)
    (h : ∀ v' w', w'.ownsRow B 5 1 v' (l.length + P.length) (Lib.byteCells l ++ Lib.byteCells P) → w.grownBy w' u.ownBlock → (v'.ownBlock = u.ownBlock ∨ v'.ownBlock = some w.heap.size) → wpList Tryd.prog ops Q rest (a.put o.dst v') w') : wpList Tryd.prog ops Q (o :: rest) a w := by
  subst hn
  refine wpList_plain hgd fun K hK => ?_
  obtain ⟨v', w', hr, h2, h3, h4⟩ := run_append_byt cap o.type hown hP hl hB
  unfold Oper.wp execOp
  simp only [ho, resolve, invoke, builtin, Sem.run_bind, Sem.run_pure, Result.andThen_ok, List.map_toArray, List.map_cons, List.map_nil, hs, hx, hr]
  exact hK _ _ (h v' w' h2 h3 h4)
theorem own_app {w : World} {B : Nat} {v : Value} {l P : List UInt8} (h : w.ownsRow B 5 1 v (l.length + P.length) (Lib.byteCells l ++ Lib.byteCells P)) : Own w B v (l ++ P) := by
  unfold Own
  rw [List.length_append, show Lib.byteCells (l ++ P) = Lib.byteCells l ++ Lib.byteCells P by simp [Lib.byteCells]]
  exact h
theorem grown_of {w w' : World} (hb : Below w.heap.size w w') : w.grownBy w' none := ⟨hb.os, hb.tape, hb.output, hb.size, fun k hk _ => hb.block k hk⟩
theorem owns_on {w w' : World} {base size n : Nat} {e : TypeId} {v : Value} {xs : List Value} (h : w.ownsRow base e size v n xs) (hb : Below w.heap.size w w') : w'.ownsRow base e size v n xs := owns_below h hb (Nat.le_refl _)
/-- What is asked of the library's variables: nothing. -/
def Gv (_ : World) : Prop := True
theorem Gv.on {w w' : World} (_ : Gv w) (_ : Below w.heap.size w w') : Gv w' := trivial
theorem gv (w : World) : Gv w := trivial
end Go.Proofs.YteojlnbonhipbaaDoor
