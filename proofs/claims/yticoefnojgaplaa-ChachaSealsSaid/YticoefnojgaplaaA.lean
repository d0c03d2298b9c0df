/- What lies where: blocks known whole, slices of numbers; regions that draw their order. Taken over from the proof of layer 3. -/
import Derived.Test.YticoefnojgaplaaRows
import Derived.WalkKit
import Derived.WalkSpells
import Derived.WalkLawsBesides
import Derived.Lib.Hide
import Derived.Deep.RegionWith
import Derived.Deep.QuietTactic
import Derived.BigQuiet
import Derived.BigRegion
import Derived.WalkSmall
import Derived.Laws.BitsAllLaws
import Derived.Deep.MidRow
import Derived.Below
import Derived.Laws.CopyOwn
import Derived.Laws.Externs
import Derived.StillTailTactics
import Derived.Orders
import Derived.Deep.WholeRow
import Derived.Maps.AppendAt
import Derived.ArgAppend
import Derived.Laws.ResultCell
namespace Go.Proofs.Yticoefnojgaplaa
open Go.RowKit

/-- A block that is known whole: numbers of one kind. -/
def Blk (w : World) (g : Nat) (k : IntKind) (t : TypeId) (l : List Int) : Prop := w.heap[g]? = some (.cells (l.map (Value.int k)).toArray t (0, 0))
theorem Blk.cell {w : World} {g : Nat} {k : IntKind} {t : TypeId} {l : List Int} (h : Blk w g k t l) (j : Nat) (hj : j < l.length) : w.cell? ⟨g, j, none⟩ = some (.int k (l.getD j 0)) := by
  rw [cell_of_row w g j _ t (0, 0) h]
  simp [hj]
theorem Blk.free {w : World} {g : Nat} {k : IntKind} {t : TypeId} {l : List Int} (h : Blk w g k t l) (j : Nat) : w.frozen? ⟨g, j, none⟩ = false := frozen_of_row w g j _ t h
theorem Blk.set {w : World} {g : Nat} {k : IntKind} {t : TypeId} {l : List Int} (h : Blk w g k t l) (j : Nat) (x : Int) : Blk (w.setCell ⟨g, j, none⟩ (.int k x)) g k t (l.set j x) := by
  unfold Blk
  rw [heap_setCell_same w g j _ t _ h]
  simp [List.map_set]
theorem Blk.other {w w' : World} {g : Nat} {k : IntKind} {t : TypeId} {l : List Int} (h : Blk w g k t l) (hb : w'.heap[g]? = w.heap[g]?) : Blk w' g k t l := hb.trans h
theorem Blk.lt {w : World} {g : Nat} {k : IntKind} {t : TypeId} {l : List Int} (h : Blk w g k t l) : g < w.heap.size := lt_of_block h
theorem heap_alloc3 (w : World) (o1 o2 o3 : Obj) : ((((w.alloc o1).alloc o2).alloc o3).heap[w.heap.size]? = some o1 ∧ (((w.alloc o1).alloc o2).alloc o3).heap[w.heap.size + 1]? = some o2 ∧ (((w.alloc o1).alloc o2).alloc o3).heap[w.heap.size + 1 + 1]? = some o3) ∧ Below w.heap.size w (((w.alloc o1).alloc o2).alloc o3) := by
  refine ⟨⟨?_, ?_, ?_⟩, ?_⟩
  · exact (Below.heap_alloc _ _ _ (by simp; omega)).trans ((Below.heap_alloc _ _ _ (by simp)).trans (heap_alloc_new w o1))
  · exact (Below.heap_alloc _ _ _ (by simp)).trans (by simpa using heap_alloc_new (w.alloc o1) o2)
  · simpa using heap_alloc_new ((w.alloc o1).alloc o2) o3
  · exact ((((Below.refl _ _).alloc (Nat.le_refl _) _).alloc (by simp) _).alloc (by simp; omega) _)
theorem heap_alloc4 (w : World) (o1 o2 o3 o4 : Obj) : (((((w.alloc o1).alloc o2).alloc o3).alloc o4).heap[w.heap.size]? = some o1 ∧ ((((w.alloc o1).alloc o2).alloc o3).alloc o4).heap[w.heap.size + 1]? = some o2 ∧ ((((w.alloc o1).alloc o2).alloc o3).alloc o4).heap[w.heap.size + 1 + 1]? = some o3 ∧ ((((w.alloc o1).alloc o2).alloc o3).alloc o4).heap[w.heap.size + 1 + 1 + 1]? = some o4) ∧ Below w.heap.size w ((((w.alloc o1).alloc o2).alloc o3).alloc o4) := by
  obtain ⟨⟨h1, h2, h3⟩, h4⟩ := heap_alloc3 w o1 o2 o3
  refine ⟨⟨?_, ?_, ?_, ?_⟩, h4.alloc (by simp; omega) _⟩
  · exact (Below.heap_alloc _ _ _ (by simp; omega)).trans h1
  · exact (Below.heap_alloc _ _ _ (by simp)).trans h2
  · exact (Below.heap_alloc _ _ _ (by simp)).trans h3
  · simpa using heap_alloc_new (((w.alloc o1).alloc o2).alloc o3) o4

/-- So many numbers of a kind lie in a block from a place on. -/
def At (w : World) (k : IntKind) (b off : Nat) (l : List Int) : Prop := ∀ j, j < l.length → w.cell? ⟨b, off + j, none⟩ = some (.int k (l.getD j 0))
theorem At.below {w w' : World} {B : Nat} {k : IntKind} {b off : Nat} {l : List Int} (h : At w k b off l) (hb : Below B w w') (hB : b < B) : At w' k b off l :=
  fun j hj => (hb.cell (p := ⟨b, off + j, none⟩) hB).trans (h j hj)
/-- A slice of numbers of a kind, by its value; all are in bounds. -/
def Sl (k : IntKind) (bd : Int → Prop) (w : World) (v : Value) (l : List Int) : Prop := ∃ a cap, v = .slice a l.length cap ∧ l.length ≤ cap ∧ (∀ x ∈ l, bd x) ∧ (l = [] ∨ ∃ b off, a = some ⟨b, off, none⟩ ∧ b < w.heap.size ∧ At w k b off l)
theorem Sl.below {k : IntKind} {bd : Int → Prop} {w w' : World} {v : Value} {l : List Int} {B : Nat} (h : Sl k bd w v l) (hb : Below B w w') (hB : w.heap.size ≤ B) : Sl k bd w' v l := by
  obtain ⟨a, cap, h1, h2, h3, h4⟩ := h
  refine ⟨a, cap, h1, h2, h3, ?_⟩
  rcases h4 with h4 | ⟨b, off, h5, h6, h7⟩
  · exact Or.inl h4
  · exact Or.inr ⟨b, off, h5, Nat.lt_of_lt_of_le h6 hb.size, h7.below hb (by omega)⟩
def W8 (x : Int) : Prop := 0 ≤ x ∧ x ≤ 255
def W32 (x : Int) : Prop := 0 ≤ x ∧ x ≤ 4294967295
/-- Bytes. -/
abbrev Slc (w : World) (v : Value) (l : List Int) : Prop := Sl .u8 W8 w v l
/-- A number, by the value of the slice of its words. -/
abbrev Num (w : World) (v : Value) (l : List Int) : Prop := Sl .u32 W32 w v l

namespace Grow
/-- What is known of a value. -/
inductive Spec
  | is (v : Value)
  | slc (l : List Int)
    | held (p : Value → World → Prop) (k : ∀ u w w', p u w → Below w.heap.size w w' → p u w')
def Spec.meets : Spec → Value → World → Prop
  | .is v, u, _ => u = v
  | .slc l, u, w => Slc w u l
  | .held p _, u, w => p u w
theorem Spec.keeps (s : Spec) {u : Value} {w w' : World} (h : s.meets u w) (hb : Below w.heap.size w w') : s.meets u w' := by
  cases s with
  | is v => exact h
  | slc l => exact Sl.below h hb (Nat.le_refl _)
  | held p k => exact k u w w' h hb

def dstOf (ops : Array Oper) (j : Nat) : Option Tmp := (ops[j]?).bind (·.dst)
def deps (md : Region.Mode) (ops : Array Oper) (o : Oper) (j d : Nat) : Bool := o.after.any (fun e => Region.binds md e && e.on == j) && dstOf ops j == some d
/-- No two write one temporary; all are written in the frame; each waits for earlier ones alone. -/
def fits (ops : Array Oper) (n : Nat) : Bool :=
  (List.range ops.size).all fun i => (match dstOf ops i with
    | some d => decide (d < n) && (List.range ops.size).all fun j => j == i || dstOf ops j != some d
    | none => false) && (match ops[i]? with | some o => o.after.all fun e => decide (e.on < i) | none => false)
def free (ops : Array Oper) (t : Nat) : Bool := (List.range ops.size).all fun j => dstOf ops j != some t

def Hop (P : Program) (md : Region.Mode) (ops : Array Oper) (specs : Nat → Spec) (Q : Exit → Act → World → Prop) (a0 : Act) (w0 : World) (i : Nat) (o : Oper) : Prop :=
  ∀ a w, Below w0.heap.size w0 w → a.tmps.size = a0.tmps.size → (∀ j d, deps md ops o j d = true → (specs j).meets (a.eval (.tmp d)) w) → (∀ t, free ops t = true → a.eval (.tmp t) = a0.eval (.tmp t)) →
    Region.wanted o (yielded ops a.tmps) = true ∧ o.wp P a w (fun a' w' => ∃ v, a' = a.put o.dst v ∧ (specs i).meets v w' ∧ Below w.heap.size w w') Q
/-- All of them. -/
def Hops (P : Program) (md : Region.Mode) (ops : Array Oper) (specs : Nat → Spec) (Q : Exit → Act → World → Prop) (a0 : Act) (w0 : World) : Nat → List Oper → Prop
  | _, [] => True
  | i, o :: r => Hop P md ops specs Q a0 w0 i o ∧ Hops P md ops specs Q a0 w0 (i + 1) r

section
variable {P : Program} {ops : Array Oper} {Q : Exit → Act → World → Prop} {md : Region.Mode} {specs : Nat → Spec} {a0 : Act} {w0 : World}
theorem Hops.get : ∀ {i : Nat} {l : List Oper}, Hops P md ops specs Q a0 w0 i l → ∀ (j : Nat) (o : Oper), l[j]? = some o → Hop P md ops specs Q a0 w0 (i + j) o
  | i, [], _, j, o, hj => by simp at hj
  | i, x :: r, h, 0, o, hj => by
    simp only [List.getElem?_cons_zero, Option.some.injEq] at hj
    subst hj; exact h.1
  | i, x :: r, h, j + 1, o, hj => by
    have := Hops.get h.2 j o (by simpa using hj)
    rwa [show i + 1 + j = i + (j + 1) by omega] at this

theorem fits_dst {n : Nat} (h : fits ops n = true) {i : Nat} {o : Oper} (hi : ops[i]? = some o) : ∃ d, o.dst = some d ∧ d < n ∧ (∀ j, j < ops.size → j ≠ i → dstOf ops j ≠ some d) ∧ ∀ e ∈ o.after, e.on < i := by
  have hlt : i < ops.size := (Array.getElem?_eq_some_iff.1 hi).1
  unfold fits at h
  rw [List.all_eq_true] at h
  have h1 := h i (List.mem_range.2 hlt)
  simp only [Bool.and_eq_true, hi] at h1
  obtain ⟨h2, h3⟩ := h1
  have hd : dstOf ops i = o.dst := by simp [dstOf, hi]
  rw [hd] at h2
  cases hod : o.dst with
  | none => rw [hod] at h2; cases h2
  | some d =>
    rw [hod] at h2
    simp only [Bool.and_eq_true, decide_eq_true_eq, List.all_eq_true, List.mem_range] at h2
    refine ⟨d, rfl, h2.1, fun j hj hne => ?_, fun e he => ?_⟩
    · have := h2.2 j hj
      simp only [Bool.or_eq_true, beq_iff_eq, bne_iff_ne, ne_eq] at this
      rcases this with h | h
      · exact absurd h hne
      · exact h
    · rw [Array.all_eq_true_iff_forall_mem] at h3
      simpa using h3 e he

structure Inv (md : Region.Mode) (ops : Array Oper) (specs : Nat → Spec) (a0 : Act) (w0 : World) (listed : Array Bool) (a : Act) (w : World) : Prop where
  lsize : listed.size = ops.size
  below : Below w0.heap.size w0 w
  tsize : a.tmps.size = a0.tmps.size
  known : ∀ i d, dstOf ops i = some d → listed.getD i false = true → (specs i).meets (a.eval (.tmp d)) w
  rest : ∀ t, free ops t = true → a.eval (.tmp t) = a0.eval (.tmp t)
  defers : a.defers = a0.defers

theorem eval_put_ne {a : Act} {d t : Nat} {v : Value} (h : d ≠ t) : (a.put (some d) v).eval (.tmp t) = a.eval (.tmp t) := by
  simp [Act.eval, Act.put, Array.getElem?_setIfInBounds_ne h]
theorem eval_put_eq {a : Act} {d : Nat} {v : Value} (h : d < a.tmps.size) : (a.put (some d) v).eval (.tmp d) = v := by
  simp [Act.eval, Act.put, h]

theorem Inv.step {listed : Array Bool} {a : Act} {w : World} (hf : fits ops a0.tmps.size = true) (h : Inv md ops specs a0 w0 listed a w) {i : Nat} {o : Oper} (hi : ops[i]? = some o) {v : Value} {w' : World}
    (hv : (specs i).meets v w') (hb : Below w.heap.size w w') : Inv md ops specs a0 w0 (listed.setIfInBounds i true) (a.put o.dst v) w' := by
  obtain ⟨d, hd, hdn, hne, -⟩ := fits_dst hf hi
  have hlt : i < ops.size := (Array.getElem?_eq_some_iff.1 hi).1
  have hdi : dstOf ops i = some d := by simp [dstOf, hi, hd]
  rw [hd]
  refine ⟨by simp [h.lsize], h.below.trans (hb.mono h.below.size), by simp [Act.put, h.tsize], ?_, ?_, by simp [Act.put, h.defers]⟩
  · intro j e hj hl
    by_cases hji : j = i
    · subst hji
      obtain rfl : d = e := Option.some.inj (hdi.symm.trans hj)
      rw [eval_put_eq (by rw [h.tsize]; exact hdn)]
      exact hv
    · have hjlt : j < ops.size := by
        rcases Nat.lt_or_ge j ops.size with h | h
        · exact h
        · simp [dstOf, Array.getElem?_eq_none h] at hj
      have hde : d ≠ e := fun hh => hne j hjlt hji (hh ▸ hj)
      rw [eval_put_ne hde]
      refine ((specs j).keeps (h.known j e hj ?_) hb)
      simpa [Array.getElem?_setIfInBounds_ne (Ne.symm hji)] using hl
  · intro t ht
    have : d ≠ t := by
      intro hh
      subst hh
      unfold free at ht
      rw [List.all_eq_true] at ht
      have := ht i (List.mem_range.2 hlt)
      rw [hdi] at this
      simp at this
    rw [eval_put_ne this]
    exact h.rest t ht

theorem wpAny_grow (hf : fits ops a0.tmps.size = true) (hops : Hops P md ops specs Q a0 w0 0 ops.toList)
    (hend : ∀ a w, Below w0.heap.size w0 w → (∀ i d, dstOf ops i = some d → (specs i).meets (a.eval (.tmp d)) w) → a.defers = a0.defers → (∀ t, free ops t = true → a.eval (.tmp t) = a0.eval (.tmp t)) → Q .normal a w) :
    ∀ (fuel : Nat) (listed : Array Bool) (a : Act) (w : World), listed.toList.count false ≤ fuel → Inv md ops specs a0 w0 listed a w → wpAny P md ops Q fuel listed a w := by
  have done : ∀ (listed : Array Bool) (a : Act) (w : World), Inv md ops specs a0 w0 listed a w → Region.ready md ops listed = [] → Q .normal a w := by
    intro listed a w h hr
    have hall : ∀ n i, i < n → i < ops.size → listed.getD i false = true := by
      intro n
      induction n with
      | zero => intro i hi; omega
      | succ n ih =>
        intro i hi hlt
        by_cases hin : i < n
        · exact ih i hin hlt
        · obtain ⟨o, ho⟩ : ∃ o, ops[i]? = some o := ⟨_, Array.getElem?_eq_getElem hlt⟩
          obtain ⟨_, _, _, _, haf⟩ := fits_dst hf ho
          cases hl : listed.getD i false with
          | true => rfl
          | false =>
            have hm : i ∈ Region.ready md ops listed := by
              refine mem_ready.2 ⟨?_, o, ho, fun e he _ => ih e.on (by have := haf e he; omega) (by have := haf e he; omega)⟩
              have hs : i < listed.size := by rw [h.lsize]; exact hlt
              simpa [Array.getElem?_eq_getElem hs] using hl
            rw [hr] at hm; cases hm
    exact hend a w h.below (fun i d hd => h.known i d hd (hall (i + 1) i (Nat.lt_succ_self _) (by
      rcases Nat.lt_or_ge i ops.size with h | h
      · exact h
      · simp [dstOf, Array.getElem?_eq_none h] at hd))) h.defers h.rest
  intro fuel
  induction fuel with
  | zero =>
    intro listed a w hc h
    have hr : Region.ready md ops listed = [] := by
      cases hr : Region.ready md ops listed with
      | nil => rfl
      | cons j r =>
        have hj : j ∈ Region.ready md ops listed := by rw [hr]; exact List.mem_cons_self
        obtain ⟨h0, o, ho, _⟩ := mem_ready.1 hj
        have hs : j < listed.size := by rw [h.lsize]; exact (Array.getElem?_eq_some_iff.1 ho).1
        have hm : false ∈ listed.toList := by
          rw [Array.mem_toList_iff]
          refine Array.mem_of_getElem? (i := j) ?_
          rw [Array.getElem?_eq_getElem hs]
          simpa [Array.getElem?_eq_getElem hs] using h0
        have := List.count_pos_iff.2 hm
        omega
    exact ⟨hr, done listed a w h hr⟩
  | succ fuel ih =>
    intro listed a w hc h
    refine ⟨done listed a w h, fun i hi => ?_⟩
    obtain ⟨h0, o, ho, hall⟩ := mem_ready.1 hi
    have hs : i < listed.size := by rw [h.lsize]; exact (Array.getElem?_eq_some_iff.1 ho).1
    have hl0 : listed[i] = false := by simpa [Array.getElem?_eq_getElem hs] using h0
    have hcount : (listed.setIfInBounds i true).toList.count false ≤ fuel := by
      have hm : false ∈ listed.toList := by
        rw [Array.mem_toList_iff]
        exact Array.mem_of_getElem? (i := i) (by rw [Array.getElem?_eq_getElem hs, hl0])
      have hp := List.count_pos_iff.2 hm
      rw [Array.toList_setIfInBounds, List.count_set (by simpa using hs)]
      rw [if_pos (by simp [hl0]), if_neg (by simp)]
      omega
    have hhop := hops.get i o (by simpa using ho)
    rw [Nat.zero_add] at hhop
    obtain ⟨hw, hwp⟩ := hhop a w h.below h.tsize (fun j d hd => by
      unfold deps at hd
      simp only [Bool.and_eq_true, beq_iff_eq] at hd
      obtain ⟨hd1, hd2⟩ := hd
      rw [Array.any_eq_true'] at hd1
      obtain ⟨e, he, heb⟩ := hd1
      simp only [Bool.and_eq_true, beq_iff_eq] at heb
      obtain ⟨hb, rfl⟩ := heb
      exact h.known _ d hd2 (hall e he hb)) h.rest
    unfold wpOp
    simp only [ho, hw, if_true]
    refine Or.inl (Oper.wp_mono ?_ hwp)
    rintro a' w' ⟨v, rfl, hv, hb⟩
    exact ih _ _ _ hcount (h.step hf ho hv hb)

theorem region_grow {id : Nat} (hm : P.follows .mixedOrders = true) (specs : Nat → Spec) (hf : fits ops a0.tmps.size = true) (hops : Hops P .any ops specs Q a0 w0 0 ops.toList)
    (hend : ∀ a w, Below w0.heap.size w0 w → (∀ i d, dstOf ops i = some d → (specs i).meets (a.eval (.tmp d)) w) → a.defers = a0.defers → (∀ t, free ops t = true → a.eval (.tmp t) = a0.eval (.tmp t)) → Q .normal a w) :
    (Code.region id ops true).wp P Q a0 w0 := by
  refine wp_region_any hm (wpAny_grow hf hops hend _ _ _ _ ?_ ?_)
  · simp
  · refine ⟨by simp, ⟨rfl, rfl, rfl, Nat.le_refl _, fun _ _ => rfl⟩, rfl, ?_, fun _ _ => rfl, rfl⟩
    intro i d _ hl
    simp [Array.getElem?_replicate] at hl
    split at hl <;> simp at hl
end
end Grow

namespace Grow

/-- No two write one temporary; all are written in the frame; each waits for earlier ones alone; the last waits for all. -/
def fits2 (ops : Array Oper) (m n : Nat) : Bool :=
  ops.size == m + 1 && (((List.range m).all fun i => (match dstOf ops i with
    | some d => decide (d < n) && (List.range m).all fun j => j == i || dstOf ops j != some d
    | none => false) && (match ops[i]? with | some o => o.after.all fun e => decide (e.on < i) | none => false)) &&
   (match ops[m]? with | some o => (List.range m).all (fun i => o.after.any fun e => Region.binds .any e && e.on == i) && o.after.all (fun e => decide (e.on < m)) | none => false))
def free2 (ops : Array Oper) (m t : Nat) : Bool := (List.range m).all fun j => dstOf ops j != some t

def Hop2 (P : Program) (m : Nat) (ops : Array Oper) (specs : Nat → Spec) (Q : Exit → Act → World → Prop) (a0 : Act) (w0 : World) (i : Nat) (o : Oper) : Prop :=
  ∀ a w, Below w0.heap.size w0 w → a.tmps.size = a0.tmps.size → (∀ j d, deps .any ops o j d = true → (specs j).meets (a.eval (.tmp d)) w) → (∀ t, free2 ops m t = true → a.eval (.tmp t) = a0.eval (.tmp t)) →
    (Region.wanted o (yielded ops a.tmps) = true ∧ o.wp P a w (fun a' w' => ∃ v, a' = a.put o.dst v ∧ (specs i).meets v w' ∧ Below w.heap.size w w') Q) ∨ (Region.wanted o (yielded ops a.tmps) = false ∧ (specs i).meets undef w)
def Hops2 (P : Program) (m : Nat) (ops : Array Oper) (specs : Nat → Spec) (Q : Exit → Act → World → Prop) (a0 : Act) (w0 : World) : Nat → List Oper → Prop
  | _, [] => True
  | i, o :: r => Hop2 P m ops specs Q a0 w0 i o ∧ Hops2 P m ops specs Q a0 w0 (i + 1) r

section
variable {P : Program} {m : Nat} {ops : Array Oper} {Q : Exit → Act → World → Prop} {specs : Nat → Spec} {a0 : Act} {w0 : World}
theorem Hops2.get : ∀ {i : Nat} {l : List Oper}, Hops2 P m ops specs Q a0 w0 i l → ∀ (j : Nat) (o : Oper), l[j]? = some o → Hop2 P m ops specs Q a0 w0 (i + j) o
  | i, [], _, j, o, hj => by simp at hj
  | i, x :: r, h, 0, o, hj => by
    simp only [List.getElem?_cons_zero, Option.some.injEq] at hj
    subst hj; exact h.1
  | i, x :: r, h, j + 1, o, hj => by
    have := Hops2.get h.2 j o (by simpa using hj)
    rwa [show i + 1 + j = i + (j + 1) by omega] at this
theorem fits2_size {n : Nat} (h : fits2 ops m n = true) : ops.size = m + 1 := by
  unfold fits2 at h
  simp only [Bool.and_eq_true, beq_iff_eq] at h
  exact h.1
theorem fits2_dst {n : Nat} (h : fits2 ops m n = true) {i : Nat} {o : Oper} (hm : i < m) (hi : ops[i]? = some o) : ∃ d, o.dst = some d ∧ d < n ∧ (∀ j, j < m → j ≠ i → dstOf ops j ≠ some d) ∧ ∀ e ∈ o.after, e.on < i := by
  unfold fits2 at h
  simp only [Bool.and_eq_true] at h
  have h0 := h.2.1
  rw [List.all_eq_true] at h0
  have h1 := h0 i (List.mem_range.2 hm)
  simp only [Bool.and_eq_true, hi] at h1
  obtain ⟨h2, h3⟩ := h1
  have hd : dstOf ops i = o.dst := by simp [dstOf, hi]
  rw [hd] at h2
  cases hod : o.dst with
  | none => rw [hod] at h2; cases h2
  | some d =>
    rw [hod] at h2
    simp only [Bool.and_eq_true, decide_eq_true_eq, List.all_eq_true, List.mem_range] at h2
    refine ⟨d, rfl, h2.1, fun j hj hne => ?_, fun e he => ?_⟩
    · have := h2.2 j hj
      simp only [Bool.or_eq_true, beq_iff_eq, bne_iff_ne, ne_eq] at this
      rcases this with h | h
      · exact absurd h hne
      · exact h
    · rw [Array.all_eq_true_iff_forall_mem] at h3
      simpa using h3 e he
theorem fits2_last {n : Nat} (h : fits2 ops m n = true) {o : Oper} (hi : ops[m]? = some o) : (∀ i, i < m → ∃ e ∈ o.after, Region.binds .any e = true ∧ e.on = i) ∧ ∀ e ∈ o.after, e.on < m := by
  unfold fits2 at h
  simp only [Bool.and_eq_true] at h
  have h0 := h.2.2
  rw [hi] at h0
  simp only [Bool.and_eq_true] at h0
  obtain ⟨h1, h2⟩ := h0
  refine ⟨fun i hi => ?_, fun e he => ?_⟩
  · rw [List.all_eq_true] at h1
    have h3 := h1 i (List.mem_range.2 hi)
    rw [Array.any_eq_true'] at h3
    obtain ⟨e, he, heb⟩ := h3
    simp only [Bool.and_eq_true, beq_iff_eq] at heb
    exact ⟨e, he, heb.1, heb.2⟩
  · rw [Array.all_eq_true_iff_forall_mem] at h2
    simpa using h2 e he

structure Inv2 (m : Nat) (ops : Array Oper) (specs : Nat → Spec) (a0 : Act) (w0 : World) (listed : Array Bool) (a : Act) (w : World) : Prop where
  lsize : listed.size = ops.size
  below : Below w0.heap.size w0 w
  tsize : a.tmps.size = a0.tmps.size
  known : ∀ i d, i < m → dstOf ops i = some d → listed.getD i false = true → (specs i).meets (a.eval (.tmp d)) w
  rest : ∀ t, free2 ops m t = true → a.eval (.tmp t) = a0.eval (.tmp t)
  defers : a.defers = a0.defers
  last : listed.getD m false = false

theorem Inv2.step {listed : Array Bool} {a : Act} {w : World} (hf : fits2 ops m a0.tmps.size = true) (h : Inv2 m ops specs a0 w0 listed a w) {i : Nat} {o : Oper} (him : i < m) (hi : ops[i]? = some o) {v : Value} {w' : World}
    (hv : (specs i).meets v w') (hb : Below w.heap.size w w') : Inv2 m ops specs a0 w0 (listed.setIfInBounds i true) (a.put o.dst v) w' := by
  obtain ⟨d, hd, hdn, hne, -⟩ := fits2_dst hf him hi
  have hlt : i < ops.size := (Array.getElem?_eq_some_iff.1 hi).1
  have hdi : dstOf ops i = some d := by simp [dstOf, hi, hd]
  rw [hd]
  refine ⟨by simp [h.lsize], h.below.trans (hb.mono h.below.size), by simp [Act.put, h.tsize], ?_, ?_, by simp [Act.put, h.defers], ?_⟩
  · intro j e hjm hj hl
    by_cases hji : j = i
    · subst hji
      obtain rfl : d = e := Option.some.inj (hdi.symm.trans hj)
      rw [eval_put_eq (by rw [h.tsize]; exact hdn)]
      exact hv
    · have hde : d ≠ e := fun hh => hne j hjm hji (hh ▸ hj)
      rw [eval_put_ne hde]
      refine ((specs j).keeps (h.known j e hjm hj ?_) hb)
      simpa [Array.getElem?_setIfInBounds_ne (Ne.symm hji)] using hl
  · intro t ht
    have : d ≠ t := by
      intro hh
      subst hh
      unfold free2 at ht
      rw [List.all_eq_true] at ht
      have := ht i (List.mem_range.2 him)
      rw [hdi] at this
      simp at this
    rw [eval_put_ne this]
    exact h.rest t ht
  · simpa [Array.getElem?_setIfInBounds_ne (show i ≠ m by omega)] using h.last

theorem wpAny_all {md : Region.Mode} {listed : Array Bool} {a : Act} {w : World} (h : ∀ i, i < ops.size → listed.getD i false = true) (hs : listed.size = ops.size) (hq : Q .normal a w) : ∀ fuel, wpAny P md ops Q fuel listed a w := by
  have hr : Region.ready md ops listed = [] := by
    cases hr : Region.ready md ops listed with
    | nil => rfl
    | cons j r =>
      have hj : j ∈ Region.ready md ops listed := by rw [hr]; exact List.mem_cons_self
      obtain ⟨h0, o, ho, _⟩ := mem_ready.1 hj
      have hlt := (Array.getElem?_eq_some_iff.1 ho).1
      have h1 := h j hlt
      have hs' : j < listed.size := by omega
      simp [Array.getElem?_eq_getElem hs'] at h0 h1
      rw [h0] at h1; cases h1
  intro fuel
  cases fuel with
  | zero => exact ⟨hr, hq⟩
  | succ n => exact ⟨fun _ => hq, fun i hi => by rw [hr] at hi; cases hi⟩

theorem wpAny_tail (hf : fits2 ops m a0.tmps.size = true) (hops : Hops2 P m ops specs Q a0 w0 0 (ops.toList.take m))
    (hend : ∀ o a w, ops[m]? = some o → Below w0.heap.size w0 w → a.tmps.size = a0.tmps.size → (∀ i d, i < m → dstOf ops i = some d → (specs i).meets (a.eval (.tmp d)) w) → a.defers = a0.defers → (∀ t, free2 ops m t = true → a.eval (.tmp t) = a0.eval (.tmp t)) → Region.wanted o (yielded ops a.tmps) = true ∧ o.wp P a w (fun a' w' => Q .normal a' w') Q) :
    ∀ (fuel : Nat) (listed : Array Bool) (a : Act) (w : World), listed.toList.count false ≤ fuel → Inv2 m ops specs a0 w0 listed a w → wpAny P .any ops Q fuel listed a w := by
  have hsz := fits2_size hf
  intro fuel
  induction fuel with
  | zero =>
    intro listed a w hc h
    exfalso
    have hs : m < listed.size := by rw [h.lsize, hsz]; omega
    have hl0 : listed[m] = false := by have := h.last; simpa [Array.getElem?_eq_getElem hs] using this
    have hm : false ∈ listed.toList := by
      rw [Array.mem_toList_iff]
      exact Array.mem_of_getElem? (i := m) (by rw [Array.getElem?_eq_getElem hs, hl0])
    have := List.count_pos_iff.2 hm
    omega
  | succ fuel ih =>
    intro listed a w hc h
    refine ⟨fun hr => ?_, fun i hi => ?_⟩
    · exfalso
      have hall : ∀ n i, i < n → i < ops.size → listed.getD i false = true := by
        intro n
        induction n with
        | zero => intro i hi; omega
        | succ n ihn =>
          intro i hi hlt
          by_cases hin : i < n
          · exact ihn i hin hlt
          · obtain ⟨o, ho⟩ : ∃ o, ops[i]? = some o := ⟨_, Array.getElem?_eq_getElem hlt⟩
            have haf : ∀ e ∈ o.after, e.on < i := by
              by_cases him : i < m
              · obtain ⟨_, _, _, _, haf⟩ := fits2_dst hf him ho
                exact haf
              · obtain rfl : i = m := by omega
                exact (fits2_last hf ho).2
            cases hl : listed.getD i false with
            | true => rfl
            | false =>
              have hm : i ∈ Region.ready .any ops listed := by
                refine mem_ready.2 ⟨?_, o, ho, fun e he _ => ihn e.on (by have := haf e he; omega) (by have := haf e he; omega)⟩
                have hs : i < listed.size := by rw [h.lsize]; exact hlt
                simpa [Array.getElem?_eq_getElem hs] using hl
              rw [hr] at hm; cases hm
      have := hall (m + 1) m (Nat.lt_succ_self _) (by omega)
      rw [h.last] at this; cases this
    · obtain ⟨h0, o, ho, hall⟩ := mem_ready.1 hi
      have hs : i < listed.size := by rw [h.lsize]; exact (Array.getElem?_eq_some_iff.1 ho).1
      have hl0 : listed[i] = false := by simpa [Array.getElem?_eq_getElem hs] using h0
      have hcount : (listed.setIfInBounds i true).toList.count false ≤ fuel := by
        have hm : false ∈ listed.toList := by
          rw [Array.mem_toList_iff]
          exact Array.mem_of_getElem? (i := i) (by rw [Array.getElem?_eq_getElem hs, hl0])
        have hp := List.count_pos_iff.2 hm
        rw [Array.toList_setIfInBounds, List.count_set (by simpa using hs)]
        rw [if_pos (by simp [hl0]), if_neg (by simp)]
        omega
      by_cases him : i < m
      · have hhop := hops.get i o (by rw [List.getElem?_take_of_lt him]; simpa using ho)
        rw [Nat.zero_add] at hhop
        rcases hhop a w h.below h.tsize (fun j d hd => by
          unfold deps at hd
          simp only [Bool.and_eq_true, beq_iff_eq] at hd
          obtain ⟨hd1, hd2⟩ := hd
          rw [Array.any_eq_true'] at hd1
          obtain ⟨e, he, heb⟩ := hd1
          simp only [Bool.and_eq_true, beq_iff_eq] at heb
          obtain ⟨hb, rfl⟩ := heb
          obtain ⟨_, _, _, _, haf⟩ := fits2_dst hf him ho
          exact h.known _ d (by have := haf e he; omega) hd2 (hall e he hb)) h.rest with ⟨hw, hwp⟩ | ⟨hw, hm⟩
        · unfold wpOp
          simp only [ho, hw, if_true]
          refine Or.inl (Oper.wp_mono ?_ hwp)
          rintro a' w' ⟨v, rfl, hv, hb⟩
          exact ih _ _ _ hcount (h.step hf him ho hv hb)
        · unfold wpOp
          simp only [ho, hw, Bool.false_eq_true, if_false]
          exact ih _ _ _ hcount (h.step hf him ho hm (Below.refl _ _))
      · have him' : i = m := by
          have := (Array.getElem?_eq_some_iff.1 ho).1
          omega
        subst him'
        have hl : ∀ j, j < i → listed.getD j false = true := by
          intro j hj
          obtain ⟨e, he, hb, hon⟩ := (fits2_last hf ho).1 j hj
          rw [← hon]
          exact hall e he hb
        obtain ⟨hw, hwp⟩ := hend o a w ho h.below h.tsize (fun j d hj hd => h.known j d hj hd (hl j hj)) h.defers h.rest
        unfold wpOp
        simp only [ho, hw, if_true]
        refine Or.inl (Oper.wp_mono ?_ hwp)
        intro a' w' hq
        refine wpAny_all (fun j hj => ?_) (by simp [h.lsize]) hq fuel
        by_cases hji : j = i
        · subst hji
          simp [Array.getElem?_setIfInBounds_self_of_lt hs]
        · have := hl j (by omega)
          simpa [Array.getElem?_setIfInBounds_ne (Ne.symm hji)] using this

theorem region_tail {id : Nat} (hm : P.follows .mixedOrders = true) (m : Nat) (specs : Nat → Spec) (hf : fits2 ops m a0.tmps.size = true) (hops : Hops2 P m ops specs Q a0 w0 0 (ops.toList.take m))
    (hend : ∀ o a w, ops[m]? = some o → Below w0.heap.size w0 w → a.tmps.size = a0.tmps.size → (∀ i d, i < m → dstOf ops i = some d → (specs i).meets (a.eval (.tmp d)) w) → a.defers = a0.defers → (∀ t, free2 ops m t = true → a.eval (.tmp t) = a0.eval (.tmp t)) → Region.wanted o (yielded ops a.tmps) = true ∧ o.wp P a w (fun a' w' => Q .normal a' w') Q) :
    (Code.region id ops true).wp P Q a0 w0 := by
  have hsz := fits2_size hf
  refine wp_region_any hm (wpAny_tail hf hops hend _ _ _ _ ?_ ?_)
  · simp
  · refine ⟨by simp, ⟨rfl, rfl, rfl, Nat.le_refl _, fun _ _ => rfl⟩, rfl, ?_, fun _ _ => rfl, rfl, ?_⟩
    · intro i d _ _ hl
      simp [Array.getElem?_replicate] at hl
      split at hl <;> simp at hl
    · simp [hsz]
end
end Grow

namespace Grow
section
variable {P : Program} {m : Nat} {ops : Array Oper} {Q : Exit → Act → World → Prop} {specs : Nat → Spec} {a0 : Act} {w0 : World}
theorem Inv2.step3 {listed : Array Bool} {a : Act} {w : World} (hm : m = ops.size) (hf : fits ops a0.tmps.size = true) (h : Inv2 m ops specs a0 w0 listed a w) {i : Nat} {o : Oper} (hi : ops[i]? = some o) {v : Value} {w' : World}
    (hv : (specs i).meets v w') (hb : Below w.heap.size w w') : Inv2 m ops specs a0 w0 (listed.setIfInBounds i true) (a.put o.dst v) w' := by
  obtain ⟨d, hd, hdn, hne, -⟩ := fits_dst hf hi
  have hlt : i < ops.size := (Array.getElem?_eq_some_iff.1 hi).1
  have hdi : dstOf ops i = some d := by simp [dstOf, hi, hd]
  rw [hd]
  refine ⟨by simp [h.lsize], h.below.trans (hb.mono h.below.size), by simp [Act.put, h.tsize], ?_, ?_, by simp [Act.put, h.defers], ?_⟩
  · intro j e hjm hj hl
    by_cases hji : j = i
    · subst hji
      obtain rfl : d = e := Option.some.inj (hdi.symm.trans hj)
      rw [eval_put_eq (by rw [h.tsize]; exact hdn)]
      exact hv
    · have hde : d ≠ e := fun hh => hne j (by omega) hji (hh ▸ hj)
      rw [eval_put_ne hde]
      refine ((specs j).keeps (h.known j e hjm hj ?_) hb)
      simpa [Array.getElem?_setIfInBounds_ne (Ne.symm hji)] using hl
  · intro t ht
    have : d ≠ t := by
      intro hh
      subst hh
      unfold free2 at ht
      rw [List.all_eq_true] at ht
      have := ht i (List.mem_range.2 (by omega))
      rw [hdi] at this
      simp at this
    rw [eval_put_ne this]
    exact h.rest t ht
  · simpa [Array.getElem?_setIfInBounds_ne (show i ≠ m by omega)] using h.last

theorem wpAny_all3 (hm : m = ops.size) (hf : fits ops a0.tmps.size = true) (hops : Hops2 P m ops specs Q a0 w0 0 ops.toList)
    (hend : ∀ a w, Below w0.heap.size w0 w → a.tmps.size = a0.tmps.size → (∀ i d, i < m → dstOf ops i = some d → (specs i).meets (a.eval (.tmp d)) w) → a.defers = a0.defers → (∀ t, free2 ops m t = true → a.eval (.tmp t) = a0.eval (.tmp t)) → Q .normal a w) :
    ∀ (fuel : Nat) (listed : Array Bool) (a : Act) (w : World), listed.toList.count false ≤ fuel → Inv2 m ops specs a0 w0 listed a w → wpAny P .any ops Q fuel listed a w := by
  have done : ∀ (listed : Array Bool) (a : Act) (w : World), Inv2 m ops specs a0 w0 listed a w → Region.ready .any ops listed = [] → Q .normal a w := by
    intro listed a w h hr
    have hall : ∀ n i, i < n → i < ops.size → listed.getD i false = true := by
      intro n
      induction n with
      | zero => intro i hi; omega
      | succ n ih =>
        intro i hi hlt
        by_cases hin : i < n
        · exact ih i hin hlt
        · obtain ⟨o, ho⟩ : ∃ o, ops[i]? = some o := ⟨_, Array.getElem?_eq_getElem hlt⟩
          obtain ⟨_, _, _, _, haf⟩ := fits_dst hf ho
          cases hl : listed.getD i false with
          | true => rfl
          | false =>
            have hm : i ∈ Region.ready .any ops listed := by
              refine mem_ready.2 ⟨?_, o, ho, fun e he _ => ih e.on (by have := haf e he; omega) (by have := haf e he; omega)⟩
              have hs : i < listed.size := by rw [h.lsize]; exact hlt
              simpa [Array.getElem?_eq_getElem hs] using hl
            rw [hr] at hm; cases hm
    exact hend a w h.below h.tsize (fun i d hi hd => h.known i d hi hd (hall (i + 1) i (Nat.lt_succ_self _) (by omega))) h.defers h.rest
  intro fuel
  induction fuel with
  | zero =>
    intro listed a w hc h
    have hr : Region.ready .any ops listed = [] := by
      cases hr : Region.ready .any ops listed with
      | nil => rfl
      | cons j r =>
        have hj : j ∈ Region.ready .any ops listed := by rw [hr]; exact List.mem_cons_self
        obtain ⟨h0, o, ho, _⟩ := mem_ready.1 hj
        have hs : j < listed.size := by rw [h.lsize]; exact (Array.getElem?_eq_some_iff.1 ho).1
        have hm : false ∈ listed.toList := by
          rw [Array.mem_toList_iff]
          refine Array.mem_of_getElem? (i := j) ?_
          rw [Array.getElem?_eq_getElem hs]
          simpa [Array.getElem?_eq_getElem hs] using h0
        have := List.count_pos_iff.2 hm
        omega
    exact ⟨hr, done listed a w h hr⟩
  | succ fuel ih =>
    intro listed a w hc h
    refine ⟨done listed a w h, fun i hi => ?_⟩
    obtain ⟨h0, o, ho, hall⟩ := mem_ready.1 hi
    have hlt : i < ops.size := (Array.getElem?_eq_some_iff.1 ho).1
    have hs : i < listed.size := by rw [h.lsize]; exact hlt
    have hl0 : listed[i] = false := by simpa [Array.getElem?_eq_getElem hs] using h0
    have hcount : (listed.setIfInBounds i true).toList.count false ≤ fuel := by
      have hm : false ∈ listed.toList := by
        rw [Array.mem_toList_iff]
        exact Array.mem_of_getElem? (i := i) (by rw [Array.getElem?_eq_getElem hs, hl0])
      have hp := List.count_pos_iff.2 hm
      rw [Array.toList_setIfInBounds, List.count_set (by simpa using hs)]
      rw [if_pos (by simp [hl0]), if_neg (by simp)]
      omega
    have hhop := hops.get i o (by simpa using ho)
    rw [Nat.zero_add] at hhop
    obtain ⟨_, _, _, _, haf⟩ := fits_dst hf ho
    rcases hhop a w h.below h.tsize (fun j d hd => by
      unfold deps at hd
      simp only [Bool.and_eq_true, beq_iff_eq] at hd
      obtain ⟨hd1, hd2⟩ := hd
      rw [Array.any_eq_true'] at hd1
      obtain ⟨e, he, heb⟩ := hd1
      simp only [Bool.and_eq_true, beq_iff_eq] at heb
      obtain ⟨hb, rfl⟩ := heb
      exact h.known _ d (by have := haf e he; omega) hd2 (hall e he hb)) h.rest with ⟨hw, hwp⟩ | ⟨hw, hmt⟩
    · unfold wpOp
      simp only [ho, hw, if_true]
      refine Or.inl (Oper.wp_mono ?_ hwp)
      rintro a' w' ⟨v, rfl, hv, hb⟩
      exact ih _ _ _ hcount (h.step3 hm hf ho hv hb)
    · unfold wpOp
      simp only [ho, hw, Bool.false_eq_true, if_false]
      exact ih _ _ _ hcount (h.step3 hm hf ho hmt (Below.refl _ _))

theorem region_all {id : Nat} (hmo : P.follows .mixedOrders = true) (m : Nat) (specs : Nat → Spec) (hm : m = ops.size) (hf : fits ops a0.tmps.size = true) (hops : Hops2 P m ops specs Q a0 w0 0 ops.toList)
    (hend : ∀ a w, Below w0.heap.size w0 w → a.tmps.size = a0.tmps.size → (∀ i d, i < m → dstOf ops i = some d → (specs i).meets (a.eval (.tmp d)) w) → a.defers = a0.defers → (∀ t, free2 ops m t = true → a.eval (.tmp t) = a0.eval (.tmp t)) → Q .normal a w) :
    (Code.region id ops true).wp P Q a0 w0 := by
  refine wp_region_any hmo (wpAny_all3 hm hf hops hend _ _ _ _ ?_ ?_)
  · simp
  · refine ⟨by simp, ⟨rfl, rfl, rfl, Nat.le_refl _, fun _ _ => rfl⟩, rfl, ?_, fun _ _ => rfl, rfl, ?_⟩
    · intro i d _ _ hl
      simp [Array.getElem?_replicate] at hl
      split at hl <;> simp at hl
    · simp [hm]
end
end Grow

namespace Grow
/-- What is known when an operation's turn comes. -/
structure Known (m : Nat) (ops : Array Oper) (specs : Nat → Spec) (a0 : Act) (w0 : World) (o : Oper) (a : Act) (w : World) : Prop where
  below : Below w0.heap.size w0 w
  deps : ∀ j d, deps .any ops o j d = true → (specs j).meets (a.eval (.tmp d)) w
  rest : ∀ t, free2 ops m t = true → a.eval (.tmp t) = a0.eval (.tmp t)
/-- The guard holds. -/
def Runs2 (ops : Array Oper) (specs : Nat → Spec) (a0 : Act) (o : Oper) : Prop :=
  o.guard = none ∨ ∃ g d b, o.guard = some (g, b) ∧ deps .any ops o g d = true ∧ specs g = .is (.bool b) ∧ d < a0.tmps.size
/-- The guard doesn't hold. -/
def Skips (ops : Array Oper) (specs : Nat → Spec) (a0 : Act) (o : Oper) : Prop :=
  ∃ g d b v, o.guard = some (g, b) ∧ deps .any ops o g d = true ∧ specs g = .is v ∧ v ≠ .bool b ∧ d < a0.tmps.size

section
variable {ops : Array Oper} {Q : Exit → Act → World → Prop} {specs : Nat → Spec} {a0 : Act} {w0 : World} {i : Nat} {o : Oper}
theorem wp_move {a : Act} {w : World} {K : Act → World → Prop} (x : Operand) (h : o.op = .move x ∨ o.op = .assign x) (hk : K (a.put o.dst (a.eval x)) w) : o.wp Try.prog a w K Q := by
  unfold Oper.wp execOp
  rcases h with h | h
  · rw [h]; exact hk
  · rw [h]; exact hk
theorem wp_value {a : Act} {w w' : World} {v : Value} {K : Act → World → Prop} (h : (execOp a.eval o).run Try.prog w = .ok (.value v) w') (hk : K (a.put o.dst v) w') : o.wp Try.prog a w K Q := by
  unfold Oper.wp
  rw [h]; exact hk
theorem wp_enter {a : Act} {w : World} {f : FuncId} {args : Array Value} {K : Act → World → Prop} (h : (execOp a.eval o).run Try.prog w = .ok (.enter f args) w) (hk : Calls Try.prog f args w fun e w' => ∃ v, e = .returned v ∧ K (a.put o.dst v) w') : o.wp Try.prog a w K Q := by
  unfold Oper.wp
  rw [h]
  refine hk.mono ?_
  rintro e w' ⟨v, rfl, h1⟩
  exact h1

end
section
variable {m : Nat} {ops : Array Oper} {Q : Exit → Act → World → Prop} {specs : Nat → Spec} {a0 : Act} {w0 : World} {i : Nat} {o : Oper}
theorem yielded_of {a : Act} {g d : Nat} (h1 : deps .any ops o g d = true) (hd : d < a.tmps.size) : yielded ops a.tmps g = match a.eval (.tmp d) with | .bool b => some b | _ => none := by
  unfold deps at h1
  simp only [Bool.and_eq_true, beq_iff_eq] at h1
  have h6 : ((ops[g]?).bind (·.dst)) = some d := h1.2
  unfold yielded
  rw [h6]
  simp only [Option.bind_some, Array.getElem?_eq_getElem hd]
  have : a.eval (.tmp d) = a.tmps[d] := by simp [Act.eval, Array.getElem?_eq_getElem hd]
  rw [this]
  cases a.tmps[d] <;> rfl
theorem wanted2_of (hr : Runs2 ops specs a0 o) {a : Act} {w : World} (ht : a.tmps.size = a0.tmps.size) (hk : ∀ j d, deps .any ops o j d = true → (specs j).meets (a.eval (.tmp d)) w) : Region.wanted o (yielded ops a.tmps) = true := by
  rcases hr with h | ⟨g, d, b, h1, h2, h3, h4⟩
  · simp [Region.wanted, h]
  · have h5 := hk g d h2
    rw [h3] at h5
    have h5 : a.eval (.tmp d) = .bool b := h5
    have h6 := yielded_of h2 (by rw [ht]; exact h4)
    rw [h5] at h6
    simp [Region.wanted, h1, h6]
theorem h2_skip (hr : Skips ops specs a0 o) (hs : specs i = .is undef) : Hop2 Try.prog m ops specs Q a0 w0 i o := by
  intro a w _ ht hk _
  right
  obtain ⟨g, d, b, v, h1, h2, h3, h4, h5⟩ := hr
  have h6 := hk g d h2
  rw [h3] at h6
  have h6 : a.eval (.tmp d) = v := h6
  have h7 := yielded_of h2 (by rw [ht]; exact h5)
  rw [h6] at h7
  refine ⟨?_, by rw [hs]; rfl⟩
  simp only [Region.wanted, h1, h7]
  cases v <;> simp_all
theorem h2_wp (hr : Runs2 ops specs a0 o) (h : ∀ a w, Known m ops specs a0 w0 o a w → o.wp Try.prog a w (fun a' w' => ∃ v, a' = a.put o.dst v ∧ (specs i).meets v w' ∧ Below w.heap.size w w') Q) : Hop2 Try.prog m ops specs Q a0 w0 i o := by
  intro a w hb ht hk hfr
  exact Or.inl ⟨wanted2_of hr ht hk, h a w ⟨hb, hk, hfr⟩⟩
/-- A value that is found, and changes nothing but by what it adds. -/
theorem h2_val (hr : Runs2 ops specs a0 o) (h : ∀ a w, Known m ops specs a0 w0 o a w → ∃ v w', (execOp a.eval o).run Try.prog w = .ok (.value v) w' ∧ (specs i).meets v w' ∧ Below w.heap.size w w') : Hop2 Try.prog m ops specs Q a0 w0 i o :=
  h2_wp hr fun a w hk => by
    obtain ⟨v, w', h1, h2, h3⟩ := h a w hk
    exact wp_value h1 ⟨v, rfl, h2, h3⟩
theorem h2_move (hr : Runs2 ops specs a0 o) (x : Operand) (ho : o.op = .move x ∨ o.op = .assign x) (h : ∀ a w, Known m ops specs a0 w0 o a w → (specs i).meets (a.eval x) w) : Hop2 Try.prog m ops specs Q a0 w0 i o :=
  h2_wp hr fun a w hk => wp_move x ho ⟨_, rfl, h a w hk, Below.refl _ _⟩
theorem h2_call0 (hr : Runs2 ops specs a0 o) (f : FuncId) (he : ∀ args w, (callFunc f args).run Try.prog w = .ok (.enter f args) w) (ts : Array TypeId) (ho : o.op = .call { callee := .value (.func f), args := #[], argTypes := ts })
    (h : ∀ a w, Known m ops specs a0 w0 o a w → Calls Try.prog f #[] w fun e w' => ∃ v, e = .returned v ∧ (specs i).meets v w' ∧ Below w.heap.size w w') : Hop2 Try.prog m ops specs Q a0 w0 i o :=
  h2_wp hr fun a w hk => by
    refine wp_enter (f := f) (args := #[]) ?_ ((h a w hk).mono ?_)
    · unfold execOp
      rw [ho]
      go_simp
    · rintro e w' ⟨v, rfl, h1, h2⟩
      exact ⟨v, rfl, v, rfl, h1, h2⟩
theorem h2_call1 (hr : Runs2 ops specs a0 o) (f : FuncId) (he : ∀ args w, (callFunc f args).run Try.prog w = .ok (.enter f args) w) (ts : Array TypeId) (x : Operand) (ho : o.op = .call { callee := .value (.func f), args := #[x], argTypes := ts })
    (h : ∀ a w, Known m ops specs a0 w0 o a w → Calls Try.prog f #[a.eval x] w fun e w' => ∃ v, e = .returned v ∧ (specs i).meets v w' ∧ Below w.heap.size w w') : Hop2 Try.prog m ops specs Q a0 w0 i o :=
  h2_wp hr fun a w hk => by
    refine wp_enter (f := f) (args := #[a.eval x]) ?_ ((h a w hk).mono ?_)
    · unfold execOp
      rw [ho]
      go_simp
    · rintro e w' ⟨v, rfl, h1, h2⟩
      exact ⟨v, rfl, v, rfl, h1, h2⟩
theorem h2_call2 (hr : Runs2 ops specs a0 o) (f : FuncId) (he : ∀ args w, (callFunc f args).run Try.prog w = .ok (.enter f args) w) (ts : Array TypeId) (x y : Operand) (ho : o.op = .call { callee := .value (.func f), args := #[x, y], argTypes := ts })
    (h : ∀ a w, Known m ops specs a0 w0 o a w → Calls Try.prog f #[a.eval x, a.eval y] w fun e w' => ∃ v, e = .returned v ∧ (specs i).meets v w' ∧ Below w.heap.size w w') : Hop2 Try.prog m ops specs Q a0 w0 i o :=
  h2_wp hr fun a w hk => by
    refine wp_enter (f := f) (args := #[a.eval x, a.eval y]) ?_ ((h a w hk).mono ?_)
    · unfold execOp
      rw [ho]
      go_simp
    · rintro e w' ⟨v, rfl, h1, h2⟩
      exact ⟨v, rfl, v, rfl, h1, h2⟩
/-- A row that lay there from the start. -/
theorem h2_row (hr : Runs2 ops specs a0 o) (t g : Nat) (ty : TypeId) (cs : Array Value) (d : TypeDesc) (hd : (match d with | .struct _ | .array _ _ => true | _ => false) = true) (hu : Try.prog.underlying ty = some d) (hi : (Try.prog.info? ty).map (·.size) = some cs.size)
    (ho : o.op = .load ty (.tmp t)) (hf : free2 ops m t = true) (hv : a0.eval (.tmp t) = .pointer (some ⟨g, 0, none⟩)) (hg : w0.heap[g]? = some (.cells cs ty (0, 0))) (hs : specs i = .is (.agg cs)) : Hop2 Try.prog m ops specs Q a0 w0 i o :=
  h2_wp hr fun a w hk => by
    refine wp_load_row ty (.tmp t) ho g ((hk.rest t hf).trans hv) ty cs (0, 0) d ((hk.below.block g (lt_of_block hg)).trans hg) hu (by cases d <;> first | rfl | cases hd) hi ?_
    exact ⟨_, rfl, by rw [hs]; rfl, Below.refl _ _⟩
end
/-- What the operations ahead of the last write. -/
def dsts (ops : Array Oper) (m : Nat) : List Nat := (List.range m).filterMap (dstOf ops)
theorem free2_of {ops : Array Oper} {m t : Nat} (h : t ∉ dsts ops m) : free2 ops m t = true := by
  unfold free2
  rw [List.all_eq_true]
  intro j hj
  simp only [bne_iff_ne, ne_eq]
  intro hh
  exact h (List.mem_filterMap.2 ⟨j, hj, hh⟩)
def putAll (a0 a : Act) : List Nat → Act
  | [] => a0
  | d :: r => (putAll a0 a r).put (some d) (a.eval (.tmp d))
theorem putAll_size (a0 a : Act) : ∀ l, (putAll a0 a l).tmps.size = a0.tmps.size
  | [] => rfl
  | d :: r => by simp [putAll, Act.put, putAll_size a0 a r]
theorem putAll_defers (a0 a : Act) : ∀ l, (putAll a0 a l).defers = a0.defers
  | [] => rfl
  | d :: r => by simp [putAll, Act.put, putAll_defers a0 a r]
theorem putAll_get {a0 a : Act} (hs : a.tmps.size = a0.tmps.size) : ∀ (l : List Nat) (t : Nat), t < a0.tmps.size → (putAll a0 a l).eval (.tmp t) = if t ∈ l then a.eval (.tmp t) else a0.eval (.tmp t)
  | [], t, _ => by simp [putAll]
  | d :: r, t, ht => by
    by_cases h : d = t
    · subst h
      rw [if_pos List.mem_cons_self]
      exact eval_put_eq (by rw [putAll_size]; exact ht)
    · show ((putAll a0 a r).put (some d) (a.eval (.tmp d))).eval (.tmp t) = _
      rw [eval_put_ne h, putAll_get hs r t ht]
      have : t ∈ d :: r ↔ t ∈ r := by
        rw [List.mem_cons]
        exact ⟨fun hh => hh.resolve_left (fun e => h e.symm), Or.inr⟩
      simp only [this]
/-- The frame behind a region: what it was, with what was written. -/
theorem act_after {ops : Array Oper} {m : Nat} {a a0 : Act} (hs : a.tmps.size = a0.tmps.size) (hd : a.defers = a0.defers) (hf : ∀ t, free2 ops m t = true → a.eval (.tmp t) = a0.eval (.tmp t)) : a = putAll a0 a (dsts ops m) := by
  have e : a.tmps = (putAll a0 a (dsts ops m)).tmps := by
    refine Array.ext (by rw [putAll_size]; exact hs) fun i h1 h2 => ?_
    have h3 : i < a0.tmps.size := by rw [← hs]; exact h1
    have h := putAll_get hs (dsts ops m) i h3
    have ea : a.eval (.tmp i) = a.tmps[i] := by simp [Act.eval, Array.getElem?_eq_getElem h1]
    have eb : (putAll a0 a (dsts ops m)).eval (.tmp i) = (putAll a0 a (dsts ops m)).tmps[i] := by simp [Act.eval, Array.getElem?_eq_getElem h2]
    rw [eb] at h
    rw [h, ← ea]
    split
    · rfl
    · next hn => exact hf i (free2_of hn)
  have ed := hd.trans (putAll_defers a0 a (dsts ops m)).symm
  cases a
  generalize hb : putAll a0 _ (dsts ops m) = b at *
  cases b
  simp only at e ed
  rw [e, ed]

section
variable {m : Nat} {ops : Array Oper} {Q : Exit → Act → World → Prop} {specs : Nat → Spec} {a0 : Act} {w0 : World} {i : Nat} {o : Oper}
theorem h2_pick (hr : Runs2 ops specs a0 o) (j1 d1 j2 d2 : Nat) (y : Operand) (ho : o.op = .pick (.tmp d1) (.tmp d2) y) (hj1 : deps .any ops o j1 d1 = true) (hj2 : deps .any ops o j2 d2 = true) (hs1 : specs j1 = .is (.bool true)) (hs2 : specs i = specs j2) : Hop2 Try.prog m ops specs Q a0 w0 i o :=
  h2_val hr fun a w hk => by
    have h1 := hk.deps j1 d1 hj1
    have h2 := hk.deps j2 d2 hj2
    rw [hs1] at h1
    rw [← hs2] at h2
    have h1 : a.eval (.tmp d1) = .bool true := h1
    refine ⟨a.eval (.tmp d2), w, ?_, h2, Below.refl _ _⟩
    unfold execOp
    rw [ho]
    simp only [h1]
    go_simp
end
theorem wp_assign {o : Oper} {a : Act} {w : World} {Q : Exit → Act → World → Prop} {K : Act → World → Prop} (d : Nat) (x : Operand) (ho : o.op = .assign x) (hd : o.dst = some d) (hk : K (a.put (some d) (a.eval x)) w) : o.wp Try.prog a w K Q :=
  wp_move x (Or.inr ho) (by rw [hd]; exact hk)
end Grow
theorem own_below {w wr w' : World} {k : Nat} {e : TypeId} {v : Value} {xs : List Value} (hb : Below w.heap.size w wr) (h : wr.ownsRow w.heap.size e 1 v k xs) (hg : wr.grownBy w' v.ownBlock) : Below w.heap.size w w' := by
  refine hb.trans ⟨hg.os, hg.tape, hg.output, hg.size, fun i hi => hg.block i (Nat.lt_of_lt_of_le hi hb.size) ?_⟩
  rcases h.2 with ⟨rfl, _⟩ | ⟨g, cap, cur, rfl, hg', _⟩
  · simp [Value.ownBlock]
  · intro hh
    simp only [Value.ownBlock, Option.some.injEq] at hh
    omega
/-- A row of numbers that was made since. -/
def Mine (k : IntKind) (e : TypeId) (w0 w : World) (v : Value) (xs : List Int) : Prop := w.ownsRow w0.heap.size e 1 v xs.length (xs.map (Value.int k)) ∧ Below w0.heap.size w0 w
theorem Mine.nil (k : IntKind) (e : TypeId) (w : World) : Mine k e w w (.slice none 0 0) [] := ⟨⟨rfl, Or.inl ⟨rfl, rfl⟩⟩, Below.refl _ _⟩
theorem Mine.form {k : IntKind} {e : TypeId} {w0 w : World} {v : Value} {xs : List Int} (h : Mine k e w0 w v xs) : ∃ a c, v = .slice a xs.length c := by
  rcases h.1.2 with ⟨h, h0⟩ | ⟨g, cap, cur, h, _⟩
  · exact ⟨none, 0, by rw [h0]; exact h⟩
  · exact ⟨_, _, h⟩
theorem src_of_at {w : World} {k : IntKind} {b off : Nat} {l : List Int} (h : At w k b off l) : ∀ (j : Nat) (u : Value), (l.map (Value.int k))[j]? = some u → w.cell? ((⟨b, off, none⟩ : Addr).add j) = some u := by
  intro j u hu
  have hj : j < l.length := by
    rcases Nat.lt_or_ge j l.length with h | h
    · exact h
    · rw [List.getElem?_eq_none (by simpa using h)] at hu; cases hu
  have e := h j hj
  rw [Addr.add_mid, e]
  simp [hj] at hu
  simp [hj, hu]
theorem Mine.block {e : TypeId} {k : IntKind} {w0 w : World} {v : Value} {xs : List Int} (h : Mine k e w0 w v xs) (h0 : 0 < xs.length) : ∃ g cap cur, v = .slice (some ⟨g, 0, none⟩) xs.length cap ∧ w0.heap.size ≤ g ∧ w.heap[g]? = some (.cells cur e (0, 0)) ∧ xs.length ≤ cap ∧ xs.length ≤ cur.size ∧ cur.toList.take xs.length = xs.map (Value.int k) := by
  rcases h.1.2 with ⟨_, h2⟩ | ⟨g, cap, cur, h1, h2, h3, h4, _, h6, h7⟩
  · omega
  · rw [Nat.mul_one] at h6 h7
    exact ⟨g, cap, cur, h1, h2, h3, h4, by omega, h7⟩
theorem sliced_whole (g m cap : Nat) (h : 0 < cap) : sliced (some ⟨g, 0, none⟩) 0 m cap 1 = .slice (some ⟨g, 0, none⟩) m cap := by
  unfold sliced
  rw [if_neg (by omega)]
  simp [Addr.add]

/-- A word of what was made since is another one. -/
theorem own_set {k : IntKind} {e : TypeId} {bd : Int → Prop} {w : World} {g cap j : Nat} {cur : Array Value} {l : List Int} {x : Int} (hw : ∀ y ∈ l, bd y) (hx : bd x) (hj : j < l.length) (hg : w.heap[g]? = some (.cells cur e (0, 0))) (ht : cur.toList.take l.length = l.map (Value.int k)) (hc : l.length ≤ cap) (hs : l.length ≤ cur.size) :
    w.cell? ⟨g, j, none⟩ = some (.int k (l.getD j 0)) ∧ w.frozen? ⟨g, j, none⟩ = false ∧ Sl k bd (w.setCell ⟨g, j, none⟩ (.int k x)) (.slice (some ⟨g, 0, none⟩) l.length cap) (l.set j x) := by
  have hcell : ∀ j, j < l.length → cur[j]? = some (.int k (l.getD j 0)) := by
    intro j hj
    have e : (cur.toList.take l.length)[j]? = some (.int k (l.getD j 0)) := by rw [ht]; simp [hj]
    rw [List.getElem?_take_of_lt hj] at e
    simpa using e
  refine ⟨?_, frozen_of_row w g j _ e hg, ?_⟩
  · rw [cell_of_row w g j _ e (0, 0) hg]
    exact hcell j hj
  · have hg2 := heap_setCell_same w g j _ e (.int k x) hg
    refine ⟨_, cap, by rw [List.length_set], by rw [List.length_set]; omega, ?_, Or.inr ⟨g, 0, rfl, lt_of_block hg2, fun i hi => ?_⟩⟩
    · intro y hy
      rcases List.mem_or_eq_of_mem_set hy with h | h
      · exact hw y h
      · rw [h]; exact hx
    rw [List.length_set] at hi
    rw [Nat.zero_add, cell_of_row _ g i _ e (0, 0) hg2]
    by_cases h7 : i = j
    · subst h7
      rw [Array.getElem?_setIfInBounds_self_of_lt (by omega)]
      simp [hi]
    · rw [Array.getElem?_setIfInBounds_ne (by omega), hcell i hi]
      simp [List.getD_eq_getElem?_getD, List.getElem?_set_ne (show j ≠ i by omega)]

theorem Blk.at {w : World} {g : Nat} {k : IntKind} {t : TypeId} {l : List Int} (h : Blk w g k t l) : At w k g 0 l := by
  intro j hj
  rw [Nat.zero_add, cell_of_row w g j _ t (0, 0) h]
  simp [hj]
theorem At.sub {w : World} {k : IntKind} {b off : Nat} {P : List Int} (h : At w k b off P) (n m : Nat) (hm : n + m ≤ P.length) : At w k b (off + n) ((P.drop n).take m) := by
  intro j hj
  have hj' : j < m := by simp at hj; omega
  rw [show off + n + j = off + (n + j) by omega, h (n + j) (by omega)]
  simp [hj']
theorem slc_blk {w : World} {g : Nat} {l : List Int} {n : Nat} {t : TypeId} (h : Blk w g .u8 t l) (hl : l.length = n) (hw : ∀ x ∈ l, W8 x) : Slc w (.slice (some ⟨g, 0, none⟩) n n) l :=
  ⟨_, n, by rw [hl], by omega, hw, Or.inr ⟨g, 0, rfl, h.lt, h.at⟩⟩

theorem slc_form {w : World} {v : Value} {l : List Int} (h : Slc w v l) : ∃ a c, v = .slice a l.length c := by
  obtain ⟨a, c, hv, _⟩ := h; exact ⟨a, c, hv⟩
theorem slc_cell {w : World} {a : Option Addr} {c : Nat} {l : List Int} (h : Slc w (.slice a l.length c) l) (j : Nat) (hj : j < l.length) : ∃ b o, a = some ⟨b, o, none⟩ ∧ b < w.heap.size ∧ w.cell? ⟨b, o + j, none⟩ = some (.int .u8 (l.getD j 0)) ∧ l.length ≤ c := by
  obtain ⟨a', c', hv, h0, _, hm⟩ := h
  simp only [Value.slice.injEq] at hv
  obtain ⟨rfl, -, rfl⟩ := hv
  rcases hm with hm | ⟨b, off, rfl, h2, h3⟩
  · rw [hm] at hj; simp at hj
  · exact ⟨b, off, rfl, h2, h3 j hj, h0⟩

end Go.Proofs.Yticoefnojgaplaa
