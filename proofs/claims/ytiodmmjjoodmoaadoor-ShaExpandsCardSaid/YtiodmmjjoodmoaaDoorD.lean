/- Layer 2, the walks: bytes are taken in. -/
import Derived.Test.YtiodmmjjoodmoaaDoorC
import Derived.Deep.MidRow
import Derived.Deep.RegionLaw
namespace Go.Proofs.YtiodmmjjoodmoaaDoor
open Go.RowKit

/-- A digest's 74 cells: the state, the bytes that are held, how many these are, how many bytes in all. -/
def dg (s : Sh.S) (r : List Int) (h c : Int) : List Value := (stCells s).toList ++ (r.map (Value.int .u8) ++ [.int .i64 h, .int .u64 c])
def Dig (w : World) (g : Nat) (s : Sh.S) (r : List Int) (h c : Int) : Prop := r.length = 64 ∧ w.heap[g]? = some (.cells (dg s r h c).toArray 48 (0, 0))

theorem dg_length (s : Sh.S) (r : List Int) (h c : Int) (hr : r.length = 64) : (dg s r h c).length = 74 := by simp [dg, stCells, hr]
theorem Dig.get {w : World} {g : Nat} {s : Sh.S} {r : List Int} {h c : Int} (hd : Dig w g s r h c) (j : Nat) : w.cell? ⟨g, j, none⟩ = (dg s r h c)[j]? := by
  rw [cell_of_row w g j _ 48 (0, 0) hd.2]; simp
theorem Dig.free {w : World} {g : Nat} {s : Sh.S} {r : List Int} {h c : Int} (hd : Dig w g s r h c) (j : Nat) : w.frozen? ⟨g, j, none⟩ = false := frozen_of_row w g j _ 48 hd.2
theorem Dig.st {w : World} {g : Nat} {s : Sh.S} {r : List Int} {h c : Int} (hd : Dig w g s r h c) :
    w.cell? ⟨g, 0, none⟩ = some (.int .u32 s.a) ∧ w.cell? ⟨g, 1, none⟩ = some (.int .u32 s.b) ∧ w.cell? ⟨g, 2, none⟩ = some (.int .u32 s.c) ∧ w.cell? ⟨g, 3, none⟩ = some (.int .u32 s.d) ∧
    w.cell? ⟨g, 4, none⟩ = some (.int .u32 s.e) ∧ w.cell? ⟨g, 5, none⟩ = some (.int .u32 s.f) ∧ w.cell? ⟨g, 6, none⟩ = some (.int .u32 s.g) ∧ w.cell? ⟨g, 7, none⟩ = some (.int .u32 s.h) := by
  refine ⟨?_, ?_, ?_, ?_, ?_, ?_, ?_, ?_⟩ <;> rw [hd.get] <;> simp [dg, stCells]
theorem Dig.held {w : World} {g : Nat} {s : Sh.S} {r : List Int} {h c : Int} (hd : Dig w g s r h c) : w.cell? ⟨g, 72, none⟩ = some (.int .i64 h) := by
  rw [hd.get]; simp [dg, stCells, hd.1]
theorem Dig.count {w : World} {g : Nat} {s : Sh.S} {r : List Int} {h c : Int} (hd : Dig w g s r h c) : w.cell? ⟨g, 73, none⟩ = some (.int .u64 c) := by
  rw [hd.get]; simp [dg, stCells, hd.1]
theorem Dig.rest {w : World} {g : Nat} {s : Sh.S} {r : List Int} {h c : Int} (hd : Dig w g s r h c) : At w .u8 g 8 r := by
  intro j hj
  rw [hd.get]
  have e : (dg s r h c)[8 + j]? = (r.map (Value.int .u8) ++ [.int .i64 h, .int .u64 c])[j]? := by
    unfold dg
    rw [List.getElem?_append_right (by simp [stCells])]
    simp [stCells]
  rw [e, List.getElem?_append_left (by simpa using hj)]
  simp [hj]
theorem Dig.setHeld {w : World} {g : Nat} {s : Sh.S} {r : List Int} {h c : Int} (hd : Dig w g s r h c) (x : Int) : Dig (w.setCell ⟨g, 72, none⟩ (.int .i64 x)) g s r x c := by
  refine ⟨hd.1, ?_⟩
  rw [heap_setCell_same w g 72 _ 48 _ hd.2]
  have : (dg s r h c).set 72 (.int .i64 x) = dg s r x c := by
    unfold dg
    rw [List.set_append_right _ _ (by simp [stCells]), List.set_append_right _ _ (by simp [stCells, hd.1])]
    simp [stCells, hd.1]
  rw [← this]; simp
theorem Dig.setCount {w : World} {g : Nat} {s : Sh.S} {r : List Int} {h c : Int} (hd : Dig w g s r h c) (x : Int) : Dig (w.setCell ⟨g, 73, none⟩ (.int .u64 x)) g s r h x := by
  refine ⟨hd.1, ?_⟩
  rw [heap_setCell_same w g 73 _ 48 _ hd.2]
  have : (dg s r h c).set 73 (.int .u64 x) = dg s r h x := by
    unfold dg
    rw [List.set_append_right _ _ (by simp [stCells]), List.set_append_right _ _ (by simp [stCells, hd.1])]
    simp [stCells, hd.1]
  rw [← this]; simp
theorem Dig.spliced {w : World} {g : Nat} {s : Sh.S} {r : List Int} {h c : Int} (hd : Dig w g s r h c) (o : Nat) (x : List Int) (hx : o + x.length ≤ 64) (w' : World)
    (hw : w'.heap[g]? = some (.cells (Go.splice (dg s r h c) (8 + o) (x.map (Value.int .u8))).toArray 48 (0, 0))) : Dig w' g s (Go.splice r o x) h c := by
  refine ⟨by rw [length_splice _ _ _ (by rw [hd.1]; exact hx)]; exact hd.1, ?_⟩
  rw [hw]
  have : Go.splice (dg s r h c) (8 + o) (x.map (Value.int .u8)) = dg s (Go.splice r o x) h c := by
    have hr := hd.1
    unfold dg Go.splice
    have e8 : (stCells s).toList.length = 8 := by simp [stCells]
    rw [List.take_append, List.drop_append, e8]
    simp only [List.length_map]
    rw [List.take_of_length_le (by rw [e8]; omega), show 8 + o - 8 = o by omega, List.take_append_of_le_length (by simp [hr]; omega), List.drop_eq_nil_of_le (by rw [e8]; omega), show 8 + o + x.length - 8 = o + x.length by omega, List.drop_append_of_le_length (by simp [hr]; omega)]
    simp
  rw [this]
theorem splice_cons (L : List Value) (o : Nat) (v : Value) (r : List Value) (h : o < L.length) : Go.splice (L.set o v) (o + 1) r = Go.splice L o (v :: r) := by
  unfold Go.splice
  rw [List.take_succ_eq_append_getElem (by simpa using h), List.take_set_of_le (Nat.le_refl _)]
  simp only [List.getElem_set_self, List.append_assoc, List.length_cons, List.cons_append, List.nil_append]
  rw [List.drop_set_of_lt (by omega), show o + 1 + r.length = o + (r.length + 1) by omega]
theorem heap_setCells (g : Nat) (t : TypeId) : ∀ (vs : List Value) (o : Nat) (w : World) (L : List Value), w.heap[g]? = some (.cells L.toArray t (0, 0)) → o + vs.length ≤ L.length →
    (w.setCells g o vs).heap[g]? = some (.cells (Go.splice L o vs).toArray t (0, 0))
  | [], o, w, L, h, _ => by
    rw [World.setCells, h]; simp [Go.splice]
  | v :: r, o, w, L, h, hl => by
    simp only [List.length_cons] at hl
    rw [World.setCells]
    have h1 : (w.setCell ⟨g, o, none⟩ v).heap[g]? = some (.cells (L.set o v).toArray t (0, 0)) := by
      rw [heap_setCell_same w g o _ t _ h]; simp
    rw [heap_setCells g t r (o + 1) _ (L.set o v) h1 (by simp; omega), splice_cons L o v r (by omega)]
theorem Dig.setState {w : World} {g : Nat} {s : Sh.S} {r : List Int} {h c : Int} (hd : Dig w g s r h c) (s' : Sh.S) : Dig (w.setCells g 0 (stCells s').toList) g s' r h c := by
  refine ⟨hd.1, ?_⟩
  rw [heap_setCells g 48 _ 0 w _ hd.2 (by rw [dg_length s r h c hd.1]; simp [stCells])]
  have : Go.splice (dg s r h c) 0 (stCells s').toList = dg s' r h c := by simp [Go.splice, dg, stCells]
  rw [this]
theorem setCells_other (g : Nat) : ∀ (vs : List Value) (o : Nat) (w : World) (k : Nat), k ≠ g → (w.setCells g o vs).heap[k]? = w.heap[k]?
  | [], _, _, _, _ => rfl
  | v :: r, o, w, k, h => by
    rw [World.setCells, setCells_other g r (o + 1) _ k h, heap_setCell_other w ⟨g, o, none⟩ k v h]
theorem setCells_rest (g : Nat) : ∀ (vs : List Value) (o : Nat) (w : World), (w.setCells g o vs).os = w.os ∧ (w.setCells g o vs).tape = w.tape ∧ (w.setCells g o vs).output = w.output ∧ (w.setCells g o vs).heap.size = w.heap.size
  | [], _, _ => ⟨rfl, rfl, rfl, rfl⟩
  | v :: r, o, w => by
    rw [World.setCells]
    obtain ⟨a, b, c, d⟩ := setCells_rest g r (o + 1) (w.setCell ⟨g, o, none⟩ v)
    exact ⟨a, b, c, d.trans (by simp [World.setCell])⟩

/-- Behind a call nothing has turned but block g, and new ones. -/
def Only (g : Nat) (w w' : World) : Prop := w.grownBy w' (some g)
theorem Only.refl (g : Nat) (w : World) : Only g w w := ⟨rfl, rfl, rfl, Nat.le_refl _, fun _ _ _ => rfl⟩
theorem Only.trans {g : Nat} {a b c : World} (h : Only g a b) (k : Only g b c) : Only g a c :=
  ⟨k.os.trans h.os, k.tape.trans h.tape, k.output.trans h.output, Nat.le_trans h.size k.size, fun i hi hn => (k.block i (Nat.lt_of_lt_of_le hi h.size) hn).trans (h.block i hi hn)⟩
theorem Only.below {g : Nat} {a b : World} (h : Below a.heap.size a b) : Only g a b := ⟨h.os, h.tape, h.output, h.size, fun k hk _ => h.block k hk⟩
theorem Only.setCell {g : Nat} (w : World) (j : Nat) (v : Value) : Only g w (w.setCell ⟨g, j, none⟩ v) :=
  ⟨rfl, rfl, rfl, by simp [World.setCell], fun k _ hn => heap_setCell_other w ⟨g, j, none⟩ k v (fun e => hn (by rw [e]))⟩
theorem Only.setCells {g : Nat} (w : World) (o : Nat) (vs : List Value) : Only g w (w.setCells g o vs) := by
  obtain ⟨a, b, c, d⟩ := setCells_rest g vs o w
  exact ⟨a, b, c, by omega, fun k _ hn => setCells_other g vs o w k (fun e => hn (by rw [e]))⟩
theorem Only.drewN {g : Nat} {a b : World} (h : Only g a b) (n : Nat) : Only g a (b.drewN n) := ⟨h.os, h.tape, h.output, h.size, h.block⟩
theorem Only.undrew {g : Nat} {a b : World} (h : Only g a.drew b) : Only g a b := ⟨h.os, h.tape, h.output, h.size, h.block⟩
theorem Only.undrewN {g n : Nat} {a b : World} (h : Only g (a.drewN n) b) : Only g a b := ⟨h.os, h.tape, h.output, h.size, h.block⟩
theorem Only.at {g : Nat} {w w' : World} (h : Only g w w') {k : IntKind} {b off : Nat} {l : List Int} (ha : At w k b off l) (hb : b < w.heap.size) (hg : b ≠ g) : At w' k b off l :=
  fun j hj => (World.cell?_of_block (a := ⟨b, off + j, none⟩) (h.block b hb (fun e => hg (by cases e; rfl)))).trans (ha j hj)
theorem Only.tab {g : Nat} {w w' : World} (h : Only g w w') (ht : Tab w) (hg : g ≠ 0) : Tab w' := ⟨Nat.lt_of_lt_of_le ht.1 h.size, h.at ht.2 ht.1 (Ne.symm hg)⟩

theorem Dig.there {w : World} {g : Nat} {s : Sh.S} {r : List Int} {h c : Int} (hd : Dig w g s r h c) : w.there g 0 8 := by
  intro j hj
  rw [hd.get]
  refine ⟨?_, hd.free _⟩
  have := dg_length s r h c hd.1
  rw [Nat.zero_add, List.getElem?_eq_getElem (by omega)]; rfl
theorem Dig.other {w w' : World} {g : Nat} {s : Sh.S} {r : List Int} {h c : Int} (hd : Dig w g s r h c) (hb : w'.heap[g]? = w.heap[g]?) : Dig w' g s r h c := ⟨hd.1, hb.trans hd.2⟩


/-! ### What has been taken in -/
namespace Sh
def H0 : S := ⟨1779033703, 3144134277, 1013904242, 2773480762, 1359893119, 2600822924, 528734635, 1541459225⟩
/-- The state behind n blocks. -/
def blocks : Nat → S → List Int → S
  | 0, s, _ => s
  | n + 1, s, l => after KK (blocks n s l) ((l.drop (64 * n)).take 64)
def stOf (l : List Int) : S := blocks (l.length / 64) H0 l
theorem blocks_ok (n : Nat) (s : S) (l : List Int) (h : s.ok) : (blocks n s l).ok := by
  cases n with
  | zero => exact h
  | succ n => exact plus_ok _ _
theorem blocks_append (n : Nat) (s : S) (l m : List Int) (h : 64 * n ≤ l.length) : blocks n s (l ++ m) = blocks n s l := by
  induction n with
  | zero => rfl
  | succ n ih =>
    simp only [blocks]
    rw [ih (by omega), List.drop_append_of_le_length (by omega), List.take_append_of_le_length (by simp; omega)]
theorem H0_ok : H0.ok := by unfold S.ok W32 H0; decide
end Sh

/-- A digest stands for the bytes that it has taken in. -/
structure Rep (w : World) (g : Nat) (l : List Int) : Prop where
  bytes : ∀ x ∈ l, Sh.W8 x
  dig : ∃ r, Dig w g (Sh.stOf l) r ((l.length % 64 : Nat) : Int) ((l.length : Nat) : Int) ∧ (∀ x ∈ r, Sh.W8 x) ∧ r.take (l.length % 64) = l.drop (64 * (l.length / 64))
end Go.Proofs.YtiodmmjjoodmoaaDoor
