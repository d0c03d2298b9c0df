/- Two rows that are owned, apart: what the reference's code of bytes wants. -/
import Derived.Test.YtiodmmjjoodmoaaDoorAc
import Derived.Maps.AppendAt
import Derived.Laws.AppendOwnNone
namespace Go.Proofs.YtiodmmjjoodmoaaDoor
open Go.RowKit

/-- What the reference's sum gives, in a block of its own. -/
def Fresh (w : World) (a : Option Addr) : Prop := ∀ p, a = some p → w.heap.size ≤ p.block
theorem Fresh.mono {w w' : World} {a : Option Addr} (h : Fresh w' a) (hs : w.heap.size ≤ w'.heap.size) : Fresh w a := fun p hp => Nat.le_trans hs (h p hp)
def RSum : Prop := ∀ (w : World) (v : Value) (m : List Int), Slc w v m → m.length ≤ 1000000 → Calls Tryd.prog 10 #[v] w fun e w' => ∃ a n c, e = .returned (.slice a n c) ∧ Slc w' (.slice a n c) (Sh.sha m) ∧ Below w.heap.size w w' ∧ Fresh w a

theorem slc_len {w : World} {a : Option Addr} {n c : Nat} {P : List Int} (h : Slc w (.slice a n c) P) : n = P.length := by
  obtain ⟨_, _, hv, _⟩ := h
  simp only [Value.slice.injEq] at hv
  exact hv.2.1

theorem own_apart {w w' : World} {base k : Nat} {e : TypeId} {v : Value} {xs : List Value} {r : Option Nat} (h : w.ownsRow base e 1 v k xs) (hg : w.grownBy w' r) (hne : ∀ g, v.ownBlock = some g → r ≠ some g) : w'.ownsRow base e 1 v k xs := by
  obtain ⟨h1, h2⟩ := h
  refine ⟨h1, ?_⟩
  rcases h2 with h2 | ⟨g, cap, cur, rfl, hb, hat, r2⟩
  · exact Or.inl h2
  · exact Or.inr ⟨g, cap, cur, rfl, hb, (hg.block g (lt_of_block hat) (fun hh => hne g rfl hh.symm)).trans hat, r2⟩
theorem own_lt {w : World} {base k : Nat} {e : TypeId} {v : Value} {xs : List Value} (h : w.ownsRow base e 1 v k xs) : ∀ g, v.ownBlock = some g → base ≤ g ∧ g < w.heap.size := by
  intro g hg
  rcases h.2 with ⟨rfl, _⟩ | ⟨g', cap, cur, rfl, hb, hat, _⟩
  · simp [Value.ownBlock] at hg
  · simp only [Value.ownBlock, Option.some.injEq] at hg
    subst hg; exact ⟨hb, lt_of_block hat⟩
/-- Two rows that are owned, apart. -/
def Two (w : World) (base : Nat) (v u : Value) (n m : Nat) (A B : List Int) : Prop :=
  w.ownsRow base 5 1 v n (A.map (Value.int .u8)) ∧ w.ownsRow base 5 1 u m (B.map (Value.int .u8)) ∧ ∀ g, v.ownBlock = some g → u.ownBlock ≠ some g
theorem Two.swap {w : World} {base n m : Nat} {v u : Value} {A B : List Int} (h : Two w base v u n m A B) : Two w base u v m n B A := ⟨h.2.1, h.1, fun g hg hv => h.2.2 g hv hg⟩
theorem Two.alloc {w : World} {base n m : Nat} {v u : Value} {A B : List Int} (h : Two w base v u n m A B) (o : Obj) : Two (w.alloc o) base v u n m A B := ⟨h.1.alloc o, h.2.1.alloc o, h.2.2⟩
/-- The first one is appended to. -/
theorem Two.grow {w w' : World} {base n m : Nat} {v u v' : Value} {A B : List Int} {x : Int} (h : Two w base v u n m A B) (ho : w'.ownsRow base 5 1 v' (n + 1) (A.map (Value.int .u8) ++ [.int .u8 x])) (hg : w.grownBy w' v.ownBlock) (hb : v'.ownBlock = v.ownBlock ∨ v'.ownBlock = some w.heap.size) : Two w' base v' u (n + 1) m (A ++ [x]) B := by
  refine ⟨by rw [List.map_append]; exact ho, own_apart h.2.1 hg (fun g hu hv => h.2.2 g hv hu), ?_⟩
  intro g hv hu
  rcases hb with hb | hb
  · exact h.2.2 g (hb.symm.trans hv) hu
  · have h1 := own_lt h.2.1 g hu
    rw [hb] at hv
    cases hv
    omega
theorem below_two {w wr w' : World} {k : Nat} {v : Value} {xs : List Value} (hb : Below w.heap.size w wr) (h : wr.ownsRow w.heap.size 5 1 v k xs) (hg : wr.grownBy w' v.ownBlock) : Below w.heap.size w w' := by
  refine hb.trans ⟨hg.os, hg.tape, hg.output, hg.size, fun i hi => hg.block i (Nat.lt_of_lt_of_le hi hb.size) ?_⟩
  intro hh
  have := own_lt h i hh.symm
  omega
theorem mask_take (K : List Int) (m : Int) (k : Nat) (h : k < 64) (hK : K.length ≤ 64) : (Sh.mask K m).take (k + 1) = (Sh.mask K m).take k ++ [Sh.x8 ((Sh.pad64 K).getD k 0) m] := by
  have hl := Sh.length_mask K m hK
  have hp := Sh.length_pad64 K hK
  rw [List.take_succ_eq_append_getElem (by omega)]
  simp [Sh.mask, show k < (Sh.pad64 K).length by omega]
theorem pad_low (K : List Int) (k : Nat) (h : k < K.length) : (Sh.pad64 K).getD k 0 = K.getD k 0 := by
  unfold Sh.pad64
  rw [List.getD_eq_getElem?_getD, List.getElem?_append_left h, ← List.getD_eq_getElem?_getD]
theorem pad_high (K : List Int) (k : Nat) (h : K.length ≤ k) : (Sh.pad64 K).getD k 0 = 0 := by
  unfold Sh.pad64
  rw [List.getD_eq_getElem?_getD, List.getElem?_append_right h, List.getElem?_replicate]
  split <;> rfl
theorem slc_at {w : World} {a : Option Addr} {n c : Nat} {P : List Int} (h : Slc w (.slice a n c) P) (j : Nat) (hj : j < n) : ∃ b off, a = some ⟨b, off, none⟩ ∧ b < w.heap.size ∧ w.cell? ⟨b, off + j, none⟩ = some (.int .u8 (P.getD j 0)) := by
  obtain ⟨a', cap', hv, _, _, hm⟩ := h
  simp only [Value.slice.injEq] at hv
  obtain ⟨rfl, rfl, rfl⟩ := hv
  rcases hm with hm | ⟨b, off, rfl, h2, h3⟩
  · rw [hm] at hj; simp at hj
  · exact ⟨b, off, rfl, h2, h3 j hj⟩

/-- What is nil, whatever room it claims, appended to what is owned. -/
theorem run_append_none_cap {P : Program} {w : World} (base : Nat) (t ty e : TypeId) (i : TypeInfo) (size : Nat) (ht : P.underlying t = some (.slice e)) (hi : P.info? e = some i)
    (v : Value) (n c : Nat) (xs : List Value) (hown : w.ownsRow base e size v n xs) :
    (Builtin.append_ #[t, t] ty #[v, .slice none 0 c]).run P w = .ok v w := by
  rcases hown.2 with ⟨rfl, rfl⟩ | ⟨g, cap, cur, rfl, _, _, hnc, _⟩
  · simp [Builtin.append_, run_underlying ht, sizeOf, typeInfo, hi, Builtin.lenOf, Builtin.firstCells]
  · simp [Builtin.append_, run_underlying ht, sizeOf, typeInfo, hi, Builtin.lenOf, Builtin.firstCells, hnc, storeCells]
theorem append_none_cap {P : Program} {w : World} {ops : Array Oper} {rest : List Oper} {o : Oper} {a : Act} {Q : Exit → Act → World → Prop} (hgd : o.guard = none) (s x : Operand) (t : TypeId)
    (ho : o.op = .call { callee := .builtin .append, args := #[s, x], argTypes := #[t, t] })
    (base : Nat) (e : TypeId) (i : TypeInfo) (size : Nat) (ht : P.underlying t = some (.slice e)) (hi : P.info? e = some i)
    (v : Value) (n c : Nat) (xs : List Value) (hs : a.eval s = v) (hown : w.ownsRow base e size v n xs) (hx : a.eval x = .slice none 0 c)
    (h : wpList P ops Q rest (a.put o.dst v) w) : wpList P ops Q (o :: rest) a w := by
  refine wpList_plain hgd fun K hK => ?_
  have hrun := run_append_none_cap (P := P) (w := w) base t o.type e i size ht hi v n c xs hown
  unfold Oper.wp
  simp [execOp, ho, resolve, invoke, builtin, hs, hx, hrun, Result.andThen]
  exact hK _ _ h

end Go.Proofs.YtiodmmjjoodmoaaDoor
