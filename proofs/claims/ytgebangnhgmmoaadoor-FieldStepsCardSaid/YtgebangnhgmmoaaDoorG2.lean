/- Layer 3, part 2 of the proof. -/
import Derived.Test.YtgebangnhgmmoaaDoorG1
import Derived.Orders
import Derived.DeepKeys
/- A region that draws its order, whose operations only add to the world: what is known of each operation's value holds on, whatever comes up next. One look at each operation serves every order. -/
namespace Go.Proofs.YtgebangnhgmmoaaDoor
open Go.RowKit

/-- So many numbers of a kind lie in a block from a place on. -/
def At (w : World) (k : IntKind) (b off : Nat) (l : List Int) : Prop := ∀ j, j < l.length → w.cell? ⟨b, off + j, none⟩ = some (.int k (l.getD j 0))
theorem At.below {w w' : World} {B : Nat} {k : IntKind} {b off : Nat} {l : List Int} (h : At w k b off l) (hb : Below B w w') (hB : b < B) : At w' k b off l :=
  fun j hj => (hb.cell (p := ⟨b, off + j, none⟩) hB).trans (h j hj)
/-- A slice of numbers of a kind, by its value; all are in bounds. -/
def Sl (k : IntKind) (bd : Int → Prop) (w : World) (v : Value) (l : List Int) : Prop := ∃ a cap, v = .slice a l.length cap ∧ l.length ≤ cap ∧ (∀ x ∈ l, bd x) ∧ (l = [] ∨ ∃ b off, a = some ⟨b, off, none⟩ ∧ b < w.heap.size ∧ At w k b off l)
theorem Sl.below {k : IntKind} {bd : Int → Prop} {w w' : World} {v : Value} {l : List Int} {B : Nat} (h : Sl k bd w v l) (hb : Below B w w') (hB : w.heap.size ≤ B) : Sl k bd w' v l := by
  obtain ⟨a, cap, h1, h2, h3, h4⟩ := h
  refine ⟨a, cap, h1, h2, h3, ?_⟩
  rcases h4 with h4 | ⟨b, off, h5, h6, h7⟩
  · exact Or.inl h4
  · exact Or.inr ⟨b, off, h5, Nat.lt_of_lt_of_le h6 hb.size, h7.below hb (by omega)⟩
def W8 (x : Int) : Prop := 0 ≤ x ∧ x ≤ 255
def W32 (x : Int) : Prop := 0 ≤ x ∧ x ≤ 4294967295
/-- Bytes. -/
abbrev Slc (w : World) (v : Value) (l : List Int) : Prop := Sl .u8 W8 w v l
/-- A number, by the value of the slice of its words. -/
abbrev Num (w : World) (v : Value) (l : List Int) : Prop := Sl .u32 W32 w v l

namespace Grow
/-- What is known of a value. -/
inductive Spec
  | is (v : Value)
  | slc (l : List Int)
  | num (l : List Int)
  | held (p : Value → World → Prop) (k : ∀ u w w', p u w → Below w.heap.size w w' → p u w')
def Spec.meets : Spec → Value → World → Prop
  | .is v, u, _ => u = v
  | .slc l, u, w => Slc w u l
  | .num l, u, w => Num w u l
  | .held p _, u, w => p u w
theorem Spec.keeps (s : Spec) {u : Value} {w w' : World} (h : s.meets u w) (hb : Below w.heap.size w w') : s.meets u w' := by
  cases s with
  | is v => exact h
  | slc l => exact Sl.below h hb (Nat.le_refl _)
  | num l => exact Sl.below h hb (Nat.le_refl _)
  | held p k => exact k u w w' h hb

def dstOf (ops : Array Oper) (j : Nat) : Option Tmp := (ops[j]?).bind (·.dst)
def deps (md : Region.Mode) (ops : Array Oper) (o : Oper) (j d : Nat) : Bool := o.after.any (fun e => Region.binds md e && e.on == j) && dstOf ops j == some d
/-- No two write one temporary; all are written in the frame; each waits for earlier ones alone. -/
def fits (ops : Array Oper) (n : Nat) : Bool :=
  (List.range ops.size).all fun i => (match dstOf ops i with
    | some d => decide (d < n) && (List.range ops.size).all fun j => j == i || dstOf ops j != some d
    | none => false) && (match ops[i]? with | some o => o.after.all fun e => decide (e.on < i) | none => false)
def free (ops : Array Oper) (t : Nat) : Bool := (List.range ops.size).all fun j => dstOf ops j != some t

def Hop (P : Program) (md : Region.Mode) (ops : Array Oper) (specs : Nat → Spec) (Q : Exit → Act → World → Prop) (a0 : Act) (w0 : World) (i : Nat) (o : Oper) : Prop :=
  ∀ a w, Below w0.heap.size w0 w → a.tmps.size = a0.tmps.size → (∀ j d, deps md ops o j d = true → (specs j).meets (a.eval (.tmp d)) w) → (∀ t, free ops t = true → a.eval (.tmp t) = a0.eval (.tmp t)) →
    Region.wanted o (yielded ops a.tmps) = true ∧ o.wp P a w (fun a' w' => ∃ v, a' = a.put o.dst v ∧ (specs i).meets v w' ∧ Below w.heap.size w w') Q
/-- All of them. -/
def Hops (P : Program) (md : Region.Mode) (ops : Array Oper) (specs : Nat → Spec) (Q : Exit → Act → World → Prop) (a0 : Act) (w0 : World) : Nat → List Oper → Prop
  | _, [] => True
  | i, o :: r => Hop P md ops specs Q a0 w0 i o ∧ Hops P md ops specs Q a0 w0 (i + 1) r

section
variable {P : Program} {ops : Array Oper} {Q : Exit → Act → World → Prop} {md : Region.Mode} {specs : Nat → Spec} {a0 : Act} {w0 : World}
theorem Hops.get : ∀ {i : Nat} {l : List Oper}, Hops P md ops specs Q a0 w0 i l → ∀ (j : Nat) (o : Oper), l[j]? = some o → Hop P md ops specs Q a0 w0 (i + j) o
  | i, [], _, j, o, hj => by simp at hj
  | i, x :: r, h, 0, o, hj => by
    simp only [List.getElem?_cons_zero, Option.some.injEq] at hj
    subst hj; exact h.1
  | i, x :: r, h, j + 1, o, hj => by
    have := Hops.get h.2 j o (by simpa using hj)
    rwa [show i + 1 + j = i + (j + 1) by omega] at this

theorem fits_dst {n : Nat} (h : fits ops n = true) {i : Nat} {o : Oper} (hi : ops[i]? = some o) : ∃ d, o.dst = some d ∧ d < n ∧ (∀ j, j < ops.size → j ≠ i → dstOf ops j ≠ some d) ∧ ∀ e ∈ o.after, e.on < i := by
  have hlt : i < ops.size := (Array.getElem?_eq_some_iff.1 hi).1
  unfold fits at h
  rw [List.all_eq_true] at h
  have h1 := h i (List.mem_range.2 hlt)
  simp only [Bool.and_eq_true, hi] at h1
  obtain ⟨h2, h3⟩ := h1
  have hd : dstOf ops i = o.dst := by simp [dstOf, hi]
  rw [hd] at h2
  cases hod : o.dst with
  | none => rw [hod] at h2; cases h2
  | some d =>
    rw [hod] at h2
    simp only [Bool.and_eq_true, decide_eq_true_eq, List.all_eq_true, List.mem_range] at h2
    refine ⟨d, rfl, h2.1, fun j hj hne => ?_, fun e he => ?_⟩
    · have := h2.2 j hj
      simp only [Bool.or_eq_true, beq_iff_eq, bne_iff_ne, ne_eq] at this
      rcases this with h | h
      · exact absurd h hne
      · exact h
    · rw [Array.all_eq_true_iff_forall_mem] at h3
      simpa using h3 e he

structure Inv (md : Region.Mode) (ops : Array Oper) (specs : Nat → Spec) (a0 : Act) (w0 : World) (listed : Array Bool) (a : Act) (w : World) : Prop where
  lsize : listed.size = ops.size
  below : Below w0.heap.size w0 w
  tsize : a.tmps.size = a0.tmps.size
  known : ∀ i d, dstOf ops i = some d → listed.getD i false = true → (specs i).meets (a.eval (.tmp d)) w
  rest : ∀ t, free ops t = true → a.eval (.tmp t) = a0.eval (.tmp t)
  defers : a.defers = a0.defers

theorem eval_put_ne {a : Act} {d t : Nat} {v : Value} (h : d ≠ t) : (a.put (some d) v).eval (.tmp t) = a.eval (.tmp t) := by
  simp [Act.eval, Act.put, Array.getElem?_setIfInBounds_ne h]
theorem eval_put_eq {a : Act} {d : Nat} {v : Value} (h : d < a.tmps.size) : (a.put (some d) v).eval (.tmp d) = v := by
  simp [Act.eval, Act.put, h]

theorem Inv.step {listed : Array Bool} {a : Act} {w : World} (hf : fits ops a0.tmps.size = true) (h : Inv md ops specs a0 w0 listed a w) {i : Nat} {o : Oper} (hi : ops[i]? = some o) {v : Value} {w' : World}
    (hv : (specs i).meets v w') (hb : Below w.heap.size w w') : Inv md ops specs a0 w0 (listed.setIfInBounds i true) (a.put o.dst v) w' := by
  obtain ⟨d, hd, hdn, hne, -⟩ := fits_dst hf hi
  have hlt : i < ops.size := (Array.getElem?_eq_some_iff.1 hi).1
  have hdi : dstOf ops i = some d := by simp [dstOf, hi, hd]
  rw [hd]
  refine ⟨by simp [h.lsize], h.below.trans (hb.mono h.below.size), by simp [Act.put, h.tsize], ?_, ?_, by simp [Act.put, h.defers]⟩
  · intro j e hj hl
    by_cases hji : j = i
    · subst hji
      obtain rfl : d = e := Option.some.inj (hdi.symm.trans hj)
      rw [eval_put_eq (by rw [h.tsize]; exact hdn)]
      exact hv
    · have hjlt : j < ops.size := by
        rcases Nat.lt_or_ge j ops.size with h | h
        · exact h
        · simp [dstOf, Array.getElem?_eq_none h] at hj
      have hde : d ≠ e := fun hh => hne j hjlt hji (hh ▸ hj)
      rw [eval_put_ne hde]
      refine ((specs j).keeps (h.known j e hj ?_) hb)
      simpa [Array.getElem?_setIfInBounds_ne (Ne.symm hji)] using hl
  · intro t ht
    have : d ≠ t := by
      intro hh
      subst hh
      unfold free at ht
      rw [List.all_eq_true] at ht
      have := ht i (List.mem_range.2 hlt)
      rw [hdi] at this
      simp at this
    rw [eval_put_ne this]
    exact h.rest t ht

theorem wpAny_grow (hf : fits ops a0.tmps.size = true) (hops : Hops P md ops specs Q a0 w0 0 ops.toList)
    (hend : ∀ a w, Below w0.heap.size w0 w → (∀ i d, dstOf ops i = some d → (specs i).meets (a.eval (.tmp d)) w) → a.defers = a0.defers → (∀ t, free ops t = true → a.eval (.tmp t) = a0.eval (.tmp t)) → Q .normal a w) :
    ∀ (fuel : Nat) (listed : Array Bool) (a : Act) (w : World), listed.toList.count false ≤ fuel → Inv md ops specs a0 w0 listed a w → wpAny P md ops Q fuel listed a w := by
  have done : ∀ (listed : Array Bool) (a : Act) (w : World), Inv md ops specs a0 w0 listed a w → Region.ready md ops listed = [] → Q .normal a w := by
    intro listed a w h hr
    have hall : ∀ n i, i < n → i < ops.size → listed.getD i false = true := by
      intro n
      induction n with
      | zero => intro i hi; omega
      | succ n ih =>
        intro i hi hlt
        by_cases hin : i < n
        · exact ih i hin hlt
        · obtain ⟨o, ho⟩ : ∃ o, ops[i]? = some o := ⟨_, Array.getElem?_eq_getElem hlt⟩
          obtain ⟨_, _, _, _, haf⟩ := fits_dst hf ho
          cases hl : listed.getD i false with
          | true => rfl
          | false =>
            have hm : i ∈ Region.ready md ops listed := by
              refine mem_ready.2 ⟨?_, o, ho, fun e he _ => ih e.on (by have := haf e he; omega) (by have := haf e he; omega)⟩
              have hs : i < listed.size := by rw [h.lsize]; exact hlt
              simpa [Array.getElem?_eq_getElem hs] using hl
            rw [hr] at hm; cases hm
    exact hend a w h.below (fun i d hd => h.known i d hd (hall (i + 1) i (Nat.lt_succ_self _) (by
      rcases Nat.lt_or_ge i ops.size with h | h
      · exact h
      · simp [dstOf, Array.getElem?_eq_none h] at hd))) h.defers h.rest
  intro fuel
  induction fuel with
  | zero =>
    intro listed a w hc h
    have hr : Region.ready md ops listed = [] := by
      cases hr : Region.ready md ops listed with
      | nil => rfl
      | cons j r =>
        have hj : j ∈ Region.ready md ops listed := by rw [hr]; exact List.mem_cons_self
        obtain ⟨h0, o, ho, _⟩ := mem_ready.1 hj
        have hs : j < listed.size := by rw [h.lsize]; exact (Array.getElem?_eq_some_iff.1 ho).1
        have hm : false ∈ listed.toList := by
          rw [Array.mem_toList_iff]
          refine Array.mem_of_getElem? (i := j) ?_
          rw [Array.getElem?_eq_getElem hs]
          simpa [Array.getElem?_eq_getElem hs] using h0
        have := List.count_pos_iff.2 hm
        omega
    exact ⟨hr, done listed a w h hr⟩
  | succ fuel ih =>
    intro listed a w hc h
    refine ⟨done listed a w h, fun i hi => ?_⟩
    obtain ⟨h0, o, ho, hall⟩ := mem_ready.1 hi
    have hs : i < listed.size := by rw [h.lsize]; exact (Array.getElem?_eq_some_iff.1 ho).1
    have hl0 : listed[i] = false := by simpa [Array.getElem?_eq_getElem hs] using h0
    have hcount : (listed.setIfInBounds i true).toList.count false ≤ fuel := by
      have hm : false ∈ listed.toList := by
        rw [Array.mem_toList_iff]
        exact Array.mem_of_getElem? (i := i) (by rw [Array.getElem?_eq_getElem hs, hl0])
      have hp := List.count_pos_iff.2 hm
      rw [Array.toList_setIfInBounds, List.count_set (by simpa using hs)]
      rw [if_pos (by simp [hl0]), if_neg (by simp)]
      omega
    have hhop := hops.get i o (by simpa using ho)
    rw [Nat.zero_add] at hhop
    obtain ⟨hw, hwp⟩ := hhop a w h.below h.tsize (fun j d hd => by
      unfold deps at hd
      simp only [Bool.and_eq_true, beq_iff_eq] at hd
      obtain ⟨hd1, hd2⟩ := hd
      rw [Array.any_eq_true'] at hd1
      obtain ⟨e, he, heb⟩ := hd1
      simp only [Bool.and_eq_true, beq_iff_eq] at heb
      obtain ⟨hb, rfl⟩ := heb
      exact h.known _ d hd2 (hall e he hb)) h.rest
    unfold wpOp
    simp only [ho, hw, if_true]
    refine Or.inl (Oper.wp_mono ?_ hwp)
    rintro a' w' ⟨v, rfl, hv, hb⟩
    exact ih _ _ _ hcount (h.step hf ho hv hb)

theorem region_grow {id : Nat} (hm : P.follows .mixedOrders = true) (specs : Nat → Spec) (hf : fits ops a0.tmps.size = true) (hops : Hops P .any ops specs Q a0 w0 0 ops.toList)
    (hend : ∀ a w, Below w0.heap.size w0 w → (∀ i d, dstOf ops i = some d → (specs i).meets (a.eval (.tmp d)) w) → a.defers = a0.defers → (∀ t, free ops t = true → a.eval (.tmp t) = a0.eval (.tmp t)) → Q .normal a w) :
    (Code.region id ops true).wp P Q a0 w0 := by
  refine wp_region_any hm (wpAny_grow hf hops hend _ _ _ _ ?_ ?_)
  · simp
  · refine ⟨by simp, ⟨rfl, rfl, rfl, Nat.le_refl _, fun _ _ => rfl⟩, rfl, ?_, fun _ _ => rfl, rfl⟩
    intro i d _ hl
    simp [Array.getElem?_replicate] at hl
    split at hl <;> simp at hl
end
end Grow
end Go.Proofs.YtgebangnhgmmoaaDoor

/- The operations of such a region, each by one law. -/
namespace Go.Proofs.YtgebangnhgmmoaaDoor
open Go.RowKit

namespace Grow
/-- The operation is carried out. -/
def Runs (ops : Array Oper) (specs : Nat → Spec) (a0 : Act) (o : Oper) : Prop :=
  o.guard = none ∨ ∃ g d, o.guard = some (g, true) ∧ deps .any ops o g d = true ∧ specs g = .is (.bool true) ∧ d < a0.tmps.size

section
variable {ops : Array Oper} {Q : Exit → Act → World → Prop} {specs : Nat → Spec} {a0 : Act} {w0 : World} {i : Nat} {o : Oper}

theorem wanted_of (hr : Runs ops specs a0 o) {a : Act} {w : World} (ht : a.tmps.size = a0.tmps.size) (hk : ∀ j d, deps .any ops o j d = true → (specs j).meets (a.eval (.tmp d)) w) : Region.wanted o (yielded ops a.tmps) = true := by
  rcases hr with h | ⟨g, d, h1, h2, h3, h4⟩
  · simp [Region.wanted, h]
  · have h5 := hk g d h2
    rw [h3] at h5
    have h5 : a.eval (.tmp d) = .bool true := h5
    unfold deps at h2
    simp only [Bool.and_eq_true, beq_iff_eq] at h2
    have h6 : ((ops[g]?).bind (·.dst)) = some d := h2.2
    have h7 : a.tmps[d]? = some (.bool true) := by
      have hlt : d < a.tmps.size := by rw [ht]; exact h4
      rw [Array.getElem?_eq_getElem hlt]
      simpa [Act.eval, Array.getElem?_eq_getElem hlt] using h5
    simp [Region.wanted, h1, yielded, h6, h7]

theorem wp_move {a : Act} {w : World} {K : Act → World → Prop} (x : Operand) (h : o.op = .move x ∨ o.op = .assign x) (hk : K (a.put o.dst (a.eval x)) w) : o.wp Tryd.prog a w K Q := by
  unfold Oper.wp execOp
  rcases h with h | h
  · rw [h]; exact hk
  · rw [h]; exact hk
theorem wp_value {a : Act} {w w' : World} {v : Value} {K : Act → World → Prop} (h : (execOp a.eval o).run Tryd.prog w = .ok (.value v) w') (hk : K (a.put o.dst v) w') : o.wp Tryd.prog a w K Q := by
  unfold Oper.wp
  rw [h]; exact hk
theorem wp_enter {a : Act} {w : World} {f : FuncId} {args : Array Value} {K : Act → World → Prop} (h : (execOp a.eval o).run Tryd.prog w = .ok (.enter f args) w) (hk : Calls Tryd.prog f args w fun e w' => ∃ v, e = .returned v ∧ K (a.put o.dst v) w') : o.wp Tryd.prog a w K Q := by
  unfold Oper.wp
  rw [h]
  refine hk.mono ?_
  rintro e w' ⟨v, rfl, h1⟩
  exact h1

theorem hop_move (hr : Runs ops specs a0 o) (j d : Nat) (ho : o.op = .move (.tmp d) ∨ o.op = .assign (.tmp d)) (hj : deps .any ops o j d = true) (hs : specs i = specs j) : Hop Tryd.prog .any ops specs Q a0 w0 i o := by
  intro a w _ ht hk _
  refine ⟨wanted_of hr ht hk, ?_⟩
  have h := hk j d hj
  rw [← hs] at h
  exact wp_move _ ho ⟨_, rfl, h, Below.refl _ _⟩
theorem hop_free (hr : Runs ops specs a0 o) (t : Nat) (v : Value) (ho : o.op = .move (.tmp t)) (hf : free ops t = true) (hv : a0.eval (.tmp t) = v) (hs : specs i = .is v) : Hop Tryd.prog .any ops specs Q a0 w0 i o := by
  intro a w _ ht hk hfr
  refine ⟨wanted_of hr ht hk, ?_⟩
  refine wp_move _ (Or.inl ho) ⟨_, rfl, ?_, Below.refl _ _⟩
  rw [hs]
  exact (hfr t hf).trans hv
theorem hop_eql (hr : Runs ops specs a0 o) (j1 d1 j2 d2 : Nat) (s : ByteArray) (ho : o.op = .binOp .eql 9 (.tmp d1) (.tmp d2) 9) (hj1 : deps .any ops o j1 d1 = true) (hj2 : deps .any ops o j2 d2 = true) (hs1 : specs j1 = .is (.string s)) (hs2 : specs j2 = .is (.string s)) (hi : specs i = .is (.bool true)) : Hop Tryd.prog .any ops specs Q a0 w0 i o := by
  intro a w _ ht hk _
  refine ⟨wanted_of hr ht hk, ?_⟩
  have h1 := hk j1 d1 hj1
  have h2 := hk j2 d2 hj2
  rw [hs1] at h1
  rw [hs2] at h2
  have h1 : a.eval (.tmp d1) = .string s := h1
  have h2 : a.eval (.tmp d2) = .string s := h2
  have hu := Tryd.underlying9
  refine wp_value (v := .bool true) (w' := w) ?_ ⟨_, rfl, by rw [hi]; rfl, Below.refl _ _⟩
  unfold execOp
  rw [ho]
  simp only [h1, h2]
  go_simp
theorem hop_pick (hr : Runs ops specs a0 o) (j1 d1 j2 d2 : Nat) (y : Operand) (ho : o.op = .pick (.tmp d1) (.tmp d2) y) (hj1 : deps .any ops o j1 d1 = true) (hj2 : deps .any ops o j2 d2 = true) (hs1 : specs j1 = .is (.bool true)) (hs2 : specs i = specs j2) : Hop Tryd.prog .any ops specs Q a0 w0 i o := by
  intro a w _ ht hk _
  refine ⟨wanted_of hr ht hk, ?_⟩
  have h1 := hk j1 d1 hj1
  have h2 := hk j2 d2 hj2
  rw [hs1] at h1
  rw [← hs2] at h2
  have h1 : a.eval (.tmp d1) = .bool true := h1
  refine wp_value (v := a.eval (.tmp d2)) (w' := w) ?_ ⟨_, rfl, h2, Below.refl _ _⟩
  unfold execOp
  rw [ho]
  simp only [h1]
  go_simp
theorem hop_call1 (hr : Runs ops specs a0 o) (f : FuncId) (he : ∀ args w, (callFunc f args).run Tryd.prog w = .ok (.enter f args) w) (ts : Array TypeId) (j d : Nat) (ho : o.op = .call { callee := .value (.func f), args := #[.tmp d], argTypes := ts }) (hj : deps .any ops o j d = true)
    (hc : ∀ u w, Below w0.heap.size w0 w → (specs j).meets u w → Calls Tryd.prog f #[u] w fun e w' => ∃ v, e = .returned v ∧ (specs i).meets v w' ∧ Below w.heap.size w w') : Hop Tryd.prog .any ops specs Q a0 w0 i o := by
  intro a w hb ht hk _
  refine ⟨wanted_of hr ht hk, ?_⟩
  have h := hc _ w hb (hk j d hj)
  refine wp_enter (f := f) (args := #[a.eval (.tmp d)]) ?_ (h.mono ?_)
  · unfold execOp
    rw [ho]
    go_simp
  · rintro e w' ⟨v, rfl, h1, h2⟩
    exact ⟨v, rfl, v, rfl, h1, h2⟩
theorem hop_call2 (hr : Runs ops specs a0 o) (f : FuncId) (he : ∀ args w, (callFunc f args).run Tryd.prog w = .ok (.enter f args) w) (ts : Array TypeId) (j1 d1 j2 d2 : Nat) (ho : o.op = .call { callee := .value (.func f), args := #[.tmp d1, .tmp d2], argTypes := ts }) (hj1 : deps .any ops o j1 d1 = true) (hj2 : deps .any ops o j2 d2 = true)
    (hc : ∀ u1 u2 w, Below w0.heap.size w0 w → (specs j1).meets u1 w → (specs j2).meets u2 w → Calls Tryd.prog f #[u1, u2] w fun e w' => ∃ v, e = .returned v ∧ (specs i).meets v w' ∧ Below w.heap.size w w') : Hop Tryd.prog .any ops specs Q a0 w0 i o := by
  intro a w hb ht hk _
  refine ⟨wanted_of hr ht hk, ?_⟩
  have h := hc _ _ w hb (hk j1 d1 hj1) (hk j2 d2 hj2)
  refine wp_enter (f := f) (args := #[a.eval (.tmp d1), a.eval (.tmp d2)]) ?_ (h.mono ?_)
  · unfold execOp
    rw [ho]
    go_simp
  · rintro e w' ⟨v, rfl, h1, h2⟩
    exact ⟨v, rfl, v, rfl, h1, h2⟩
/-- A row is read whole: it lay there from the start. -/
theorem hop_row (hr : Runs ops specs a0 o) (t g : Nat) (x : Fe.E) (ho : o.op = .load 30 (.tmp t)) (hf : free ops t = true) (hv : a0.eval (.tmp t) = .pointer (some ⟨g, 0, none⟩)) (hg : w0.heap[g]? = some (.cells (ec x) 30 (0, 0))) (hs : specs i = .is (.agg (ec x))) : Hop Tryd.prog .any ops specs Q a0 w0 i o := by
  intro a w hb ht hk hfr
  refine ⟨wanted_of hr ht hk, ?_⟩
  have hp : a.eval (.tmp t) = .pointer (some ⟨g, 0, none⟩) := (hfr t hf).trans hv
  have hg' : w.heap[g]? = some (.cells (ec x) 30 (0, 0)) := (hb.block g (lt_of_block hg)).trans hg
  have c0 : w.cell? ⟨g, 0, none⟩ = some (.int .u64 x.a) := by rw [cell_of_row w g 0 _ 30 (0, 0) hg']; rfl
  have c1 : w.cell? ⟨g, 1, none⟩ = some (.int .u64 x.b) := by rw [cell_of_row w g 1 _ 30 (0, 0) hg']; rfl
  have c2 : w.cell? ⟨g, 2, none⟩ = some (.int .u64 x.c) := by rw [cell_of_row w g 2 _ 30 (0, 0) hg']; rfl
  have c3 : w.cell? ⟨g, 3, none⟩ = some (.int .u64 x.d) := by rw [cell_of_row w g 3 _ 30 (0, 0) hg']; rfl
  have c4 : w.cell? ⟨g, 4, none⟩ = some (.int .u64 x.e) := by rw [cell_of_row w g 4 _ 30 (0, 0) hg']; rfl
  refine wp_value (v := .agg (ec x)) (w' := w) ?_ ⟨_, rfl, by rw [hs]; rfl, Below.refl _ _⟩
  clear hk hfr hf hv hg hg' hs hb
  unfold execOp ec
  rw [ho]
  simp only [hp]
  go_simp
end
end Grow
end Go.Proofs.YtgebangnhgmmoaaDoor

/- Are two rows of five one? -/
namespace Go.Proofs.YtgebangnhgmmoaaDoor
open Go.RowKit

def eqE (x y : Fe.E) : Bool := x.a == y.a && (x.b == y.b && (x.c == y.c && (x.d == y.d && x.e == y.e)))
theorem info28 : ∃ i, Tryd.prog.info? 28 = some i ∧ i.size = 1 := by
  have h : (Tryd.prog.info? 28).map (·.size) = some 1 := by kernel_rfl
  cases hi : Tryd.prog.info? 28 with
  | none => rw [hi] at h; cases h
  | some i => rw [hi] at h; exact ⟨i, rfl, by simpa using h⟩
theorem cells28 : Tryd.prog.cellsOf 28 = 1 := by kernel_rfl
theorem part28 (x : Fe.E) (w : World) (j : Nat) (hj : j < 5) : (part 28 (ec x) (j * 1)).run Tryd.prog w = .ok (.int .u64 (x.cells.getD j 0)) w := by
  have h2 := Tryd.sizeOf28
  have h3 := Tryd.isAgg28
  match j, hj with
  | 0, _ => simp [part, h2, h3, ec, Fe.E.cells]
  | 1, _ => simp [part, h2, h3, ec, Fe.E.cells]
  | 2, _ => simp [part, h2, h3, ec, Fe.E.cells]
  | 3, _ => simp [part, h2, h3, ec, Fe.E.cells]
  | 4, _ => simp [part, h2, h3, ec, Fe.E.cells]
theorem items28 (x y : Fe.E) (w : World) (d : Nat) : ∀ is : List Nat, (∀ j ∈ is, j < 5) → (Op.eqItems (d + 1) 28 1 (ec x) (ec y) is).run Tryd.prog w = .ok (is.all fun j => x.cells.getD j 0 == y.cells.getD j 0) w
  | [], _ => by simp [Op.eqItems]
  | j :: is, h => by
    have hj := h j List.mem_cons_self
    have ih := items28 x y w d is (fun k hk => h k (List.mem_cons_of_mem _ hk))
    have he := run_equalIn_int (P := Tryd.prog) w d 28 .u64 .u64 (x.cells.getD j 0) (y.cells.getD j 0) Tryd.underlying28
    unfold Op.eqItems
    simp only [Sem.run_bind, part28 x w j hj, part28 y w j hj, he, Result.andThen_ok, List.all_cons]
    cases hb : (x.cells.getD j 0 == y.cells.getD j 0)
    · simp
    · simpa using ih
theorem eq30 (x y : Fe.E) (w : World) : (Op.equalIn 10000 30 (.agg (ec x)) (.agg (ec y))).run Tryd.prog w = .ok (eqE x y) w := by
  obtain ⟨i, hi, hs⟩ := info28
  rw [show (10000 : Nat) = 9999 + 1 from rfl, run_equalIn_array w 9999 (ec x) (ec y) Tryd.underlying30 hi, cells28]
  rw [show (9999 : Nat) = 9998 + 1 from rfl, items28 x y w 9998 (List.range 5) (fun j hj => List.mem_range.1 hj)]
  simp [List.range, List.range.loop, Fe.E.cells, eqE]
theorem run30 (x y : Fe.E) (w : World) : (binOp .eql 30 (.agg (ec x)) (.agg (ec y))).run Tryd.prog w = .ok (.bool (eqE x y)) w := by
  have h := eq30 x y w
  have hu := Tryd.underlying30
  go_simp
end Go.Proofs.YtgebangnhgmmoaaDoor

/- Arithmetic modulo 2^255 - 19, the walks: is a number nought, are two numbers one? -/
namespace Go.Proofs.YtgebangnhgmmoaaDoor
open Go.RowKit

namespace Fe
/-- Each part in its bits. -/
def Canon (x : E) : Prop := (0 ≤ x.a ∧ x.a < 2251799813685248) ∧ (0 ≤ x.b ∧ x.b < 2251799813685248) ∧ (0 ≤ x.c ∧ x.c < 2251799813685248) ∧ (0 ≤ x.d ∧ x.d < 2251799813685248) ∧ (0 ≤ x.e ∧ x.e < 2251799813685248)
theorem least_canon (x : E) : Canon (least x) := by
  have h : ∀ v : Int, 0 ≤ v % 2251799813685248 ∧ v % 2251799813685248 < 2251799813685248 := fun v => by omega
  exact ⟨h _, h _, h _, h _, h _⟩
end Fe
theorem eqE_val {x y : Fe.E} (hx : Fe.Canon x) (hy : Fe.Canon y) : eqE x y = decide (Fe.val x = Fe.val y) := by
  unfold Fe.Canon at hx hy
  have e : (x.a = y.a ∧ x.b = y.b ∧ x.c = y.c ∧ x.d = y.d ∧ x.e = y.e) ↔ Fe.val x = Fe.val y := by
    unfold Fe.val Fe.M
    omega
  have h : eqE x y = true ↔ Fe.val x = Fe.val y := by
    rw [← e]
    unfold eqE
    simp only [Bool.and_eq_true, beq_iff_eq]
  by_cases hv : Fe.val x = Fe.val y
  · rw [h.2 hv, decide_eq_true hv]
  · rw [decide_eq_false hv]
    cases hb : eqE x y
    · rfl
    · exact absurd (h.1 hb) hv
theorem same_val (x y : Fe.E) (hx : Fe.Ok x) (hy : Fe.Ok y) : eqE (Fe.least x) (Fe.least y) = decide (Fe.val x % Fe.P = Fe.val y % Fe.P) := by
  rw [eqE_val (Fe.least_canon x) (Fe.least_canon y), (Fe.least_val hx).1, (Fe.least_val hy).1]

set_option maxRecDepth 100000 in
set_option maxHeartbeats 400000 in
theorem zero_any (w : World) (x : Fe.E) (hx : Fe.Ok x) :
    Calls Tryd.prog 17 #[.agg (ec x)] w fun e w' => e = .returned (.bool (decide (Fe.val x % Fe.P = 0))) ∧ Below w.heap.size w w' := by
  have h1 := heap_alloc_new w (.cells (ec x) 30)
  have h3 : Below w.heap.size w (w.alloc (.cells (ec x) 30)) := (Below.refl _ _).alloc (Nat.le_refl _) _
  have HS := Lib.hid (least_any (w.alloc (.cells (ec x) 30)) x hx)
  have HB := Lib.hid h3
  have hz : eqE (Fe.least x) Fe.z = decide (Fe.val x % Fe.P = 0) := by
    rw [eqE_val (Fe.least_canon x) (by unfold Fe.Canon Fe.z; simp only; omega), (Fe.least_val hx).1]
    rfl
  have he : ∀ w, (Op.equalIn 10000 30 (.agg (ec (Fe.least x))) (.agg #[.int .u64 0, .int .u64 0, .int .u64 0, .int .u64 0, .int .u64 0])).run Tryd.prog w = .ok (eqE (Fe.least x) Fe.z) w := fun w => eq30 (Fe.least x) Fe.z w
  rw [hz] at he
  have hu := Tryd.underlying30
  clear hx h3 hz
  generalize decide (Fe.val x % Fe.P = 0) = r at *
  generalize ec (Fe.least x) = lx at *
  go_enter Tryd.func17, Tryd.ntmps17
  go_wp2_with (first
    | (go_at_call 39; refine HS.out.mono ?_; rintro e w5 ⟨rfl, hb⟩; have HB5 := Lib.hid (HB.out.trans (hb.mono HB.out.size)); clear hb)
    | ((with_reducible refine wpList_load_row (o := ⟨some 3, _, _, _, _, _⟩) rfl 30 (.tmp 1) rfl w.heap.size rfl 30 _ (0, 0) _ h1 Tryd.underlying30 rfl ?_ ?_); exact i30))
  go_ret
  exact ⟨rfl, HB5.out⟩

namespace Grow
section
variable {ops : Array Oper} {Q : Exit → Act → World → Prop} {specs : Nat → Spec} {a0 : Act} {w0 : World} {i : Nat} {o : Oper}
theorem hop_eqE (hr : Runs ops specs a0 o) (j1 d1 j2 d2 : Nat) (x y : Fe.E) (r : Bool) (ho : o.op = .binOp .eql 30 (.tmp d1) (.tmp d2) 30) (hj1 : deps .any ops o j1 d1 = true) (hj2 : deps .any ops o j2 d2 = true) (hs1 : specs j1 = .is (.agg (ec x))) (hs2 : specs j2 = .is (.agg (ec y))) (he : eqE x y = r) (hi : specs i = .is (.bool r)) : Hop Tryd.prog .any ops specs Q a0 w0 i o := by
  intro a w _ ht hk _
  refine ⟨wanted_of hr ht hk, ?_⟩
  have h1 := hk j1 d1 hj1
  have h2 := hk j2 d2 hj2
  rw [hs1] at h1
  rw [hs2] at h2
  have h1 : a.eval (.tmp d1) = .agg (ec x) := h1
  have h2 : a.eval (.tmp d2) = .agg (ec y) := h2
  have hrun := eq30 x y w
  rw [he] at hrun
  have hu := Tryd.underlying30
  have hu2 := Tryd.underlying28
  refine wp_value (v := .bool r) (w' := w) ?_ ⟨_, rfl, by rw [hi]; rfl, Below.refl _ _⟩
  clear hk hi hs1 hs2 hj1 hj2 he
  unfold execOp
  rw [ho]
  simp only [h1, h2]
  go_simp
end
theorem enter39 (args : Array Value) (w : World) : (callFunc 39 args).run Tryd.prog w = .ok (.enter 39 args) w := by
  have := Tryd.func39
  go_simp
end Grow

set_option maxRecDepth 100000 in
set_option maxHeartbeats 400000 in
theorem same_any (w : World) (x y : Fe.E) (hx : Fe.Ok x) (hy : Fe.Ok y) :
    Calls Tryd.prog 23 #[.agg (ec x), .agg (ec y)] w fun e w' => e = .returned (.bool (decide (Fe.val x % Fe.P = Fe.val y % Fe.P))) ∧ Below w.heap.size w w' := by
  have h1 := heap_alloc2_old w (.cells (ec x) 30) (.cells (ec y) 30)
  have h2 := heap_alloc2_new w (.cells (ec x) 30) (.cells (ec y) 30)
  have h3 : Below w.heap.size w ((w.alloc (.cells (ec x) 30)).alloc (.cells (ec y) 30)) := ((Below.refl _ _).alloc (Nat.le_refl _) _).alloc (by simp) _
  have HB := Lib.hid h3
  have HV := Lib.hid (same_val x y hx hy)
  clear h3
  go_enter Tryd.func23, Tryd.ntmps23
  go_wp2_with fail
  refine Grow.region_grow (by kernel_rfl) (fun i => ([.is (.agg (ec x)), .is (.agg (ec (Fe.least x))), .is (.agg (ec y)), .is (.agg (ec (Fe.least y))), .is (.bool (decide (Fe.val x % Fe.P = Fe.val y % Fe.P))), .is (.bool (decide (Fe.val x % Fe.P = Fe.val y % Fe.P)))] : List Grow.Spec).getD i (.is undef)) (by kernel_rfl) ⟨
    Grow.hop_row (Or.inl rfl) 2 w.heap.size x rfl (by kernel_rfl) rfl h1 rfl,
    Grow.hop_call1 (Or.inl rfl) 39 Grow.enter39 #[30] 0 5 rfl (by kernel_rfl) (fun u wx _ hu => by obtain rfl : u = .agg (ec x) := hu; refine (least_any wx x hx).mono ?_; rintro e w5 ⟨rfl, hb⟩; exact ⟨_, rfl, rfl, hb⟩),
    Grow.hop_row (Or.inl rfl) 3 (w.heap.size + 1) y rfl (by kernel_rfl) rfl h2 rfl,
    Grow.hop_call1 (Or.inl rfl) 39 Grow.enter39 #[30] 2 7 rfl (by kernel_rfl) (fun u wx _ hu => by obtain rfl : u = .agg (ec y) := hu; refine (least_any wx y hy).mono ?_; rintro e w5 ⟨rfl, hb⟩; exact ⟨_, rfl, rfl, hb⟩),
    Grow.hop_eqE (Or.inl rfl) 1 6 3 8 (Fe.least x) (Fe.least y) _ rfl (by kernel_rfl) (by kernel_rfl) rfl rfl HV.out rfl,
    Grow.hop_move (Or.inl rfl) 4 9 (Or.inr rfl) (by kernel_rfl) rfl, trivial⟩ ?_
  intro a w5 hb5 hk5 hd5 _
  have h6 := hk5 5 4 rfl
  clear hk5
  have h6 : a.eval (.tmp 4) = .bool (decide (Fe.val x % Fe.P = Fe.val y % Fe.P)) := h6
  go_wp2
  refine bodyPost_ret (results_tmp rfl _ _ _) hd5 ?_
  exact ⟨congrArg Ending.returned h6, HB.out.trans (hb5.mono HB.out.size)⟩
end Go.Proofs.YtgebangnhgmmoaaDoor

/- Numbers bit by bit: bytes and parts of 51 bits out of the bits, plain functions. -/
namespace Go.Proofs.YtgebangnhgmmoaaDoor
namespace Bt
/-- A bit. -/
def bit (N i : Nat) : Nat := N / 2 ^ i % 2
theorem bit_le (N i : Nat) : bit N i ≤ 1 := by unfold bit; omega
/-- Of the lowest bits the place of k bits, number j. -/
def place (k N i j : Nat) : Nat := N % 2 ^ i / 2 ^ (k * j) % 2 ^ k
theorem place_lt (k N i j : Nat) : place k N i j < 2 ^ k := Nat.mod_lt _ (Nat.two_pow_pos k)
theorem mod_more (N i : Nat) : N % 2 ^ (i + 1) = N % 2 ^ i + 2 ^ i * bit N i := by
  unfold bit
  rw [Nat.mod_pow_succ]
theorem place_zero (k N j : Nat) : place k N 0 j = 0 := by
  unfold place
  rw [Nat.pow_zero, Nat.mod_one, Nat.zero_div, Nat.zero_mod]
/-- Where the bit falls it is added; elsewhere nothing changes. -/
theorem place_more (k N i j : Nat) (hk : 0 < k) : place k N (i + 1) j = place k N i j + (if j = i / k then bit N i * 2 ^ (i % k) else 0) := by
  have hr : N % 2 ^ i < 2 ^ i := Nat.mod_lt _ (Nat.two_pow_pos i)
  have hb := bit_le N i
  have hdm := Nat.div_add_mod i k
  have hmk := Nat.mod_lt i hk
  unfold place
  rw [mod_more]
  generalize N % 2 ^ i = r at *
  generalize bit N i = b at *
  by_cases h1 : i < k * j
  · have hne : ¬ j = i / k := by
      intro h
      rw [h] at h1
      omega
    rw [if_neg hne, Nat.add_zero]
    have h2 : 2 ^ (i + 1) ≤ 2 ^ (k * j) := Nat.pow_le_pow_right (by decide) h1
    have h3 : 2 ^ (i + 1) = 2 ^ i * 2 := Nat.pow_succ 2 i
    have h4 : 2 ^ i * b ≤ 2 ^ i * 1 := Nat.mul_le_mul_left _ hb
    rw [Nat.div_eq_of_lt (by omega), Nat.div_eq_of_lt (by omega)]
  · obtain ⟨d, hd⟩ : ∃ d, i = k * j + d := ⟨i - k * j, by omega⟩
    have h2 : 2 ^ i = 2 ^ (k * j) * 2 ^ d := by rw [hd, Nat.pow_add]
    have h3 : (r + 2 ^ i * b) / 2 ^ (k * j) = r / 2 ^ (k * j) + 2 ^ d * b := by
      rw [h2, Nat.mul_assoc, Nat.add_mul_div_left _ _ (Nat.two_pow_pos _)]
    rw [h3]
    have h4 : r / 2 ^ (k * j) < 2 ^ d := by
      rw [Nat.div_lt_iff_lt_mul (Nat.two_pow_pos _), Nat.mul_comm, ← h2]
      exact hr
    by_cases h5 : d < k
    · have hj : j = i / k := by
        rw [hd, Nat.mul_add_div hk, Nat.div_eq_of_lt h5, Nat.add_zero]
      have hm : i % k = d := by
        rw [hd, Nat.mul_add_mod, Nat.mod_eq_of_lt h5]
      rw [if_pos hj, hm]
      have h6 : 2 ^ (d + 1) ≤ 2 ^ k := Nat.pow_le_pow_right (by decide) h5
      have h7 : 2 ^ (d + 1) = 2 ^ d * 2 := Nat.pow_succ 2 d
      have h8 : 2 ^ d * b ≤ 2 ^ d * 1 := Nat.mul_le_mul_left _ hb
      rw [Nat.mod_eq_of_lt (by omega), Nat.mod_eq_of_lt (by omega), Nat.mul_comm b]
    · have hne : ¬ j = i / k := by
        intro h
        have : d = i % k := by
          have e := hdm
          rw [← h] at e
          omega
        omega
      rw [if_neg hne, Nat.add_zero]
      have h6 : 2 ^ d = 2 ^ k * 2 ^ (d - k) := by rw [← Nat.pow_add]; congr 1; omega
      rw [h6, Nat.mul_assoc, Nat.add_mul_mod_self_left]
/-- All places. -/
def row (k n N i : Nat) : List Int := (List.range n).map fun j => ((place k N i j : Nat) : Int)
theorem row_length (k n N i : Nat) : (row k n N i).length = n := by simp [row]
theorem row_get (k n N i j : Nat) (hj : j < n) : (row k n N i).getD j 0 = ((place k N i j : Nat) : Int) := by simp [row, hj]
theorem row_zero (k n N : Nat) : row k n N 0 = List.replicate n 0 := by
  unfold row
  apply List.ext_getElem
  · simp
  · intro j h1 h2
    simp [place_zero]
theorem row_more (k n N i : Nat) (hk : 0 < k) : (row k n N i).set (i / k) (((place k N i (i / k) + bit N i * 2 ^ (i % k) : Nat)) : Int) = row k n N (i + 1) := by
  unfold row
  apply List.ext_getElem
  · simp
  · intro j h1 h2
    have hj : j < n := by simpa using h2
    rw [List.getElem_set]
    by_cases h : i / k = j
    · rw [if_pos h]
      simp only [List.getElem_map, List.getElem_range]
      rw [place_more k N i j hk, if_pos h.symm, h]
    · rw [if_neg h]
      simp only [List.getElem_map, List.getElem_range]
      rw [place_more k N i j hk, if_neg (Ne.symm h), Nat.add_zero]
/-- The bit out of the places: place i/k has it at i%k. -/
theorem bit_place (k n N i : Nat) (hk : 0 < k) (hN : N < 2 ^ (k * n)) : place k N (k * n) (i / k) / 2 ^ (i % k) % 2 = bit N i := by
  unfold place bit
  rw [Nat.mod_eq_of_lt hN]
  have hdm := Nat.div_add_mod i k
  have hmk := Nat.mod_lt i hk
  have h1 : 2 ^ k = 2 ^ (i % k) * 2 ^ (k - i % k) := by rw [← Nat.pow_add]; congr 1; omega
  rw [h1, Nat.mod_mul_right_div_self, Nat.div_div_eq_div_mul, ← Nat.pow_add, hdm]
  have h2 : 2 ^ (k - i % k) = 2 * 2 ^ (k - i % k - 1) := by rw [← Nat.pow_succ']; congr 1; omega
  rw [h2, Nat.mod_mul_right_mod]
/-- What lies in a place already is below the bit that comes. -/
theorem place_small (k N i : Nat) : place k N i (i / k) < 2 ^ (i % k) := by
  have hdm := Nat.div_add_mod i k
  have hr : N % 2 ^ i < 2 ^ i := Nat.mod_lt _ (Nat.two_pow_pos i)
  unfold place
  refine Nat.lt_of_le_of_lt (Nat.mod_le _ _) ?_
  rw [Nat.div_lt_iff_lt_mul (Nat.two_pow_pos _), ← Nat.pow_add, Nat.add_comm, hdm]
  exact hr
end Bt
/-- The parts of a number in the least form. -/
theorem limb {x : Fe.E} (h : Fe.Canon x) (N : Nat) (hN : Fe.val x = (N : Int)) (q : Nat) (hq : q < 5) : x.cells.getD q 0 = ((Bt.place 51 N 255 q : Nat) : Int) := by
  unfold Fe.Canon at h
  unfold Fe.val Fe.M at hN
  unfold Bt.place
  match q, hq with
  | 0, _ => simp only [Fe.E.cells, List.getD_cons_zero, Nat.reduceMul, Nat.reducePow]; omega
  | 1, _ => simp only [Fe.E.cells, List.getD_cons_zero, List.getD_cons_succ, Nat.reduceMul, Nat.reducePow]; omega
  | 2, _ => simp only [Fe.E.cells, List.getD_cons_zero, List.getD_cons_succ, Nat.reduceMul, Nat.reducePow]; omega
  | 3, _ => simp only [Fe.E.cells, List.getD_cons_zero, List.getD_cons_succ, Nat.reduceMul, Nat.reducePow]; omega
  | 4, _ => simp only [Fe.E.cells, List.getD_cons_zero, List.getD_cons_succ, Nat.reduceMul, Nat.reducePow]; omega
end Go.Proofs.YtgebangnhgmmoaaDoor

/- Arithmetic modulo 2^255 - 19, the walks: a number's bytes. -/
namespace Go.Proofs.YtgebangnhgmmoaaDoor
open Go.RowKit

theorem run_mk32 (w : World) : (Instr.makeSlice 22 (.int .i64 32) (.int .i64 32)).run Tryd.prog w = .ok (.slice (some ⟨w.heap.size, 0, none⟩) 32 32) (w.alloc (.cells ((List.replicate 32 (0 : Int)).map (Value.int .u8)).toArray 5)) := by kernel_rfl
theorem or8 (o s b : Nat) (hs : s < 8) (hb : b ≤ 1) (ho : o < 2 ^ s) : bits BinOp.or IntKind.u8 (o : Int) ((b * 2 ^ s : Nat) : Int) = ((o + b * 2 ^ s : Nat) : Int) := by
  have h1 : 2 ^ s * 2 ≤ 256 := by
    have : 2 ^ (s + 1) ≤ 2 ^ 8 := Nat.pow_le_pow_right (by decide) hs
    rw [Nat.pow_succ] at this; exact this
  have h2 : b * 2 ^ s ≤ 1 * 2 ^ s := Nat.mul_le_mul_right _ hb
  rw [u8_or_nat _ _ (by omega) (by omega), Nat.or_comm, nat_join s _ _ (Nat.mul_mod_left _ _) ho, Nat.add_comm]

set_option maxRecDepth 100000 in
set_option maxHeartbeats 1000000 in
theorem bytes_any (w : World) (x : Fe.E) (hx : Fe.Ok x) (N : Nat) (hN : Fe.val x % Fe.P = (N : Int)) :
    Calls Tryd.prog 13 #[.agg (ec x)] w fun e w' => ∃ g, e = .returned (.slice (some ⟨g, 0, none⟩) 32 32) ∧ Blk w' g .u8 5 (Bt.row 8 32 N 255) ∧ Below w.heap.size w w' := by
  have h1 := heap_alloc_new w (.cells (ec x) 30)
  have h3 : Below w.heap.size w (w.alloc (.cells (ec x) 30)) := (Below.refl _ _).alloc (Nat.le_refl _) _
  have HS := Lib.hid (least_any (w.alloc (.cells (ec x) 30)) x hx)
  have HB := Lib.hid h3
  have H1 := Lib.hid h1
  have hlt := (Fe.least_val hx).2.2
  have hv := (Fe.least_val hx).1
  rw [hN] at hv
  have hNP : N < 2 ^ (51 * 5) := by
    rw [hv] at hlt
    unfold Fe.P at hlt
    simp only [Nat.reduceMul, Nat.reducePow]
    omega
  have HLI := Lib.hid (fun q hq => limb (Fe.least_canon x) N hv q hq)
  have HNP := Lib.hid hNP
  have hmk := run_mk32
  have hsz : w.heap.size < (w.alloc (.cells (ec x) 30)).heap.size := lt_of_block h1
  clear hx h3 hlt hv hNP hN
  generalize Fe.least x = l at *
  go_enter Tryd.func13, Tryd.ntmps13
  go_wp2_with (first
    | ((with_reducible refine wpList_store_row (o := ⟨none, _, _, _, _, _⟩) rfl 30 (.tmp 1) (.tmp 6) rfl w.heap.size (ec l) rfl rfl 30 _ HZ.out ?_ ?_ ?_ ?_); exact i30; exact rfl; exact ec_one _; have HR := Lib.hid (setRow_heap w5 w.heap.size _ (ec l) 30 _ HZ.out); have HB6 := Lib.hid (below_setRow HB5.out (Nat.le_refl _) (ec l)); generalize w5.setRow w.heap.size (ec l) = w6 at *)
    | (go_at_call 39; refine HS.out.mono ?_; rintro e w5 ⟨rfl, hb⟩; have HB5 := Lib.hid (HB.out.trans (hb.mono HB.out.size)); have HZ := Lib.hid ((hb.block _ hsz).trans H1.out); clear hb)
    | ((with_reducible refine wpList_load_row (o := ⟨some 5, _, _, _, _, _⟩) rfl 30 (.tmp 1) rfl w.heap.size rfl 30 _ (0, 0) _ h1 Tryd.underlying30 rfl ?_ ?_); exact i30))
  change Code.wp _ _ _ _ (w6.alloc (.cells ((List.replicate 32 (0 : Int)).map (Value.int .u8)).toArray 5))
  have BB : Hid (Blk (w6.alloc (.cells ((List.replicate 32 (0 : Int)).map (Value.int .u8)).toArray 5)) w6.heap.size .u8 5 (Bt.row 8 32 N 0)) := by
    show Blk _ _ _ _ _
    rw [Bt.row_zero]; exact heap_alloc_new w6 _
  have LB : Hid ((w6.alloc (.cells ((List.replicate 32 (0 : Int)).map (Value.int .u8)).toArray 5)).heap[w.heap.size]? = some (.cells (ec l) 30 (0, 0))) := (Below.heap_alloc _ _ _ (lt_of_block HR.out)).trans HR.out
  have B7 : Hid (Below w.heap.size w (w6.alloc (.cells ((List.replicate 32 (0 : Int)).map (Value.int .u8)).toArray 5))) := HB6.out.alloc HB6.out.size _
  have hgb : w.heap.size < w6.heap.size := lt_of_block HR.out
  clear HR HB6 HZ HB5 HS H1 HB hmk h1 hsz
  generalize (w6.alloc (.cells ((List.replicate 32 (0 : Int)).map (Value.int .u8)).toArray 5)) = w7 at *
  generalize w6.heap.size = gb at *
  go_loopw [8] (fun i wr => ∃ k : Nat, k ≤ 255 ∧ i = .int .i64 k ∧ Hid (Blk wr gb .u8 5 (Bt.row 8 32 N k)) ∧ Hid (wr.heap[w.heap.size]? = some (.cells (ec l) 30 (0, 0))) ∧ Hid (Below w.heap.size w wr)) (fun i _ => 255 - (intOf i).toNat)
  case atStart => exact ⟨0, by omega, rfl, BB, LB, B7⟩
  case round =>
    clear BB LB B7
    obtain ⟨k, hk, rfl, BB, LB, BW⟩ := hrel
    by_cases hlt : k < 255
    · have c1 := BB.out.cell (k / 8) (by rw [Bt.row_length]; omega)
      have f1 := BB.out.free (k / 8)
      rw [Bt.row_get _ _ _ _ _ (by omega)] at c1
      have hlb : Blk wr w.heap.size .u64 30 l.cells := LB.out
      have c2 := hlb.cell (k / 51) (by rw [show l.cells.length = 5 from rfl]; omega)
      rw [HLI.out (k / 51) (by omega)] at c2
      have hbit := Bt.bit_place 51 5 N k (by decide) HNP.out
      rw [show 51 * 5 = 255 from rfl] at hbit
      have hsm := Bt.place_small 8 N k
      have hpl := Bt.place_lt 51 N 255 (k / 51)
      have hb1 := Bt.bit_le N k
      have hset := BB.out.set (k / 8) ((Bt.place 8 N k (k / 8) + Bt.bit N k * 2 ^ (k % 8) : Nat) : Int)
      rw [Bt.row_more 8 32 N k (by decide)] at hset
      have hoth := fun v => heap_setCell_other wr ⟨gb, k / 8, none⟩ w.heap.size v (by simp; omega)
      have hor := or8 (Bt.place 8 N k (k / 8)) (k % 8) (Bt.bit N k) (by omega) hb1 hsm
      have HSET := Lib.hid hset
      have HOTH := Lib.hid hoth
      clear hset hoth hlb hsm
      generalize Bt.place 8 N k (k / 8) = o at *
      generalize Bt.place 51 N 255 (k / 51) = v at *
      generalize Bt.bit N k = b at *
      have hvb : ((v : Int) / 2 ^ (k % 51)) % 2 = (b : Int) := by
        rw [← hbit]
        simp
      have hm := and1 ((v : Int) / 2 ^ (k % 51)) (Int.ediv_nonneg (by omega) (Int.le_of_lt (Int.pow_pos (by decide)))) (Int.le_trans (Int.ediv_le_self _ (by omega)) (by simp only [Nat.reducePow] at hpl; omega))
      rw [hvb] at hm
      have h2p : 2 ^ (k % 8) ≤ 2 ^ 7 := Nat.pow_le_pow_right (by decide) (by omega)
      have hbp : b * 2 ^ (k % 8) ≤ 1 * 2 ^ (k % 8) := Nat.mul_le_mul_right _ hb1
      have hcast : (b : Int) * 2 ^ (k % 8) % 256 = ((b * 2 ^ (k % 8) : Nat) : Int) := by
        rw [show (b : Int) * 2 ^ (k % 8) = ((b * 2 ^ (k % 8) : Nat) : Int) by simp]
        exact Int.emod_eq_of_lt (by omega) (by omega)
      have hval : bits BinOp.or IntKind.u8 (o : Int) ((b : Int) * 2 ^ (k % 8) % 256) = ((o + b * 2 ^ (k % 8) : Nat) : Int) := by rw [hcast]; exact hor
      have HVAL := Lib.hid hval
      clear hor hval hcast h2p hbp hbit
      go_wp2
      go_region
      all_goals go_wp2
      all_goals go_roundw
      case rel => exact ⟨k + 1, by omega, by go_num, by rw [HVAL.out]; exact HSET.out, (HOTH.out _).trans LB.out, (BW.out.setCell (by simp; omega) _).drew⟩
      case measure => simp [intOf]; omega
    · obtain rfl : k = 255 := by omega
      go_wp2
      go_ret
      exact ⟨gb, rfl, BB.out, BW.out⟩
end Go.Proofs.YtgebangnhgmmoaaDoor

/- Arithmetic modulo 2^255 - 19, the walks: the number in bytes. -/
namespace Go.Proofs.YtgebangnhgmmoaaDoor
open Go.RowKit

namespace Bt
/-- Bytes as a number, the lowest first. -/
def low : List Int → Nat
  | [] => 0
  | x :: r => x.toNat + 256 * low r
theorem low_lt : ∀ l : List Int, (∀ x ∈ l, W8 x) → low l < 2 ^ (8 * l.length)
  | [], _ => by simp [low]
  | x :: r, h => by
    have h1 := low_lt r (fun y hy => h y (List.mem_cons_of_mem _ hy))
    have h2 := (h x List.mem_cons_self).2
    have e : 2 ^ (8 * (x :: r).length) = 256 * 2 ^ (8 * r.length) := by
      rw [List.length_cons, Nat.mul_add, Nat.pow_add, Nat.mul_comm]
    rw [e]
    show x.toNat + 256 * low r < _
    omega
theorem low_digit : ∀ (l : List Int) (j : Nat), (∀ x ∈ l, W8 x) → j < l.length → ((low l / 256 ^ j % 256 : Nat) : Int) = l.getD j 0
  | [], j, _, hj => by simp at hj
  | x :: r, 0, h, _ => by
    obtain ⟨h1, h2⟩ := h x List.mem_cons_self
    show (((x.toNat + 256 * low r) / 256 ^ 0 % 256 : Nat) : Int) = x
    rw [Nat.pow_zero, Nat.div_one]
    omega
  | x :: r, j + 1, h, hj => by
    have ih := low_digit r j (fun y hy => h y (List.mem_cons_of_mem _ hy)) (by simpa using hj)
    obtain ⟨h1, h2⟩ := h x List.mem_cons_self
    have e : (x.toNat + 256 * low r) / 256 ^ (j + 1) = low r / 256 ^ j := by
      rw [Nat.pow_succ', ← Nat.div_div_eq_div_mul]
      congr 1
      omega
    show (((x.toNat + 256 * low r) / 256 ^ (j + 1) % 256 : Nat) : Int) = _
    rw [e, ih]
    simp
theorem place_low (l : List Int) (j : Nat) (h : ∀ x ∈ l, W8 x) (hj : j < l.length) : ((place 8 (low l) (8 * l.length) j : Nat) : Int) = l.getD j 0 := by
  unfold place
  rw [Nat.mod_eq_of_lt (low_lt l h), Nat.pow_mul, show (2 : Nat) ^ 8 = 256 from rfl]
  exact low_digit l j h hj
end Bt
/-- The element of a number's lowest 255 bits. -/
def Fe.rd (N : Nat) : Fe.E := ⟨(Bt.place 51 N 255 0 : Nat), (Bt.place 51 N 255 1 : Nat), (Bt.place 51 N 255 2 : Nat), (Bt.place 51 N 255 3 : Nat), (Bt.place 51 N 255 4 : Nat)⟩
theorem Fe.rd_cells (N : Nat) : (Fe.rd N).cells = Bt.row 51 5 N 255 := rfl
theorem Fe.rd_ok (N : Nat) : Fe.Ok (Fe.rd N) := by
  have h : ∀ j, Fe.Pt ((Bt.place 51 N 255 j : Nat) : Int) := by
    intro j
    have := Bt.place_lt 51 N 255 j
    simp only [Nat.reducePow] at this
    unfold Fe.Pt; omega
  exact ⟨h 0, h 1, h 2, h 3, h 4⟩
theorem Fe.rd_val (N : Nat) : Fe.val (Fe.rd N) = ((N % 2 ^ 255 : Nat) : Int) := by
  unfold Fe.val Fe.rd Fe.M Bt.place
  simp only [Nat.reduceMul, Nat.reducePow]
  omega
theorem and1_8 (v : Int) (h0 : 0 ≤ v) (h1 : v ≤ 255) : bits BinOp.and IntKind.u8 v 1 = v % 2 := by
  obtain ⟨n, rfl⟩ := Int.eq_ofNat_of_zero_le h0
  have h := u8_and_nat n 1 (by omega) (by decide)
  rw [nat_mask1, Int.natCast_emod] at h
  exact h
theorem or51 (o s b : Nat) (hs : s < 51) (hb : b ≤ 1) (ho : o < 2 ^ s) : bits BinOp.or IntKind.u64 (o : Int) ((b * 2 ^ s : Nat) : Int) = ((o + b * 2 ^ s : Nat) : Int) := by
  have h1 : 2 ^ s ≤ 2 ^ 50 := Nat.pow_le_pow_right (by decide) (by omega)
  simp only [Nat.reducePow] at h1
  have h2 : b * 2 ^ s ≤ 1 * 2 ^ s := Nat.mul_le_mul_right _ hb
  rw [u64_or_nat _ _ (by omega) (by omega), Nat.or_comm, nat_join s _ _ (Nat.mul_mod_left _ _) ho, Nat.add_comm]

set_option maxRecDepth 100000 in
set_option maxHeartbeats 1000000 in
theorem read_none (w : World) (a : Option Addr) (n c : Nat) (hn : n ≠ 32) :
    Calls Tryd.prog 11 #[.slice a n c] w fun e w' => e = .returned (.agg (ec Fe.z)) ∧ Below w.heap.size w w' := by
  have hne : ((n : Int) != 32) = true := by simp; omega
  go_enter Tryd.func11, Tryd.ntmps11
  go_wp2
  exact bodyPost_ret (results_cell_row Tryd.results11 _ _ w.heap.size 30 (ec Fe.z) (0, 0) _ rfl (heap_alloc2_old w (.cells (ec Fe.z) 30) (.cells (ec Fe.z) 30)) Tryd.underlying30 rfl i30) rfl ⟨rfl, ((Below.refl _ _).alloc (Nat.le_refl _) _).alloc (by simp) _⟩
end Go.Proofs.YtgebangnhgmmoaaDoor

/- Arithmetic modulo 2^255 - 19, the walks: the number in 32 bytes. -/
namespace Go.Proofs.YtgebangnhgmmoaaDoor
open Go.RowKit

set_option maxRecDepth 100000 in
set_option maxHeartbeats 1000000 in
theorem read_32 (w : World) (a : Option Addr) (c : Nat) (l : List Int) (hl : l.length = 32) (hS : Slc w (.slice a 32 c) l) :
    Calls Tryd.prog 11 #[.slice a 32 c] w fun e w' => e = .returned (.agg (ec (Fe.rd (Bt.low l)))) ∧ Below w.heap.size w w' := by
  obtain ⟨b, off, rfl, hbw, hat, h8⟩ : ∃ b off, a = some ⟨b, off, none⟩ ∧ b < w.heap.size ∧ At w .u8 b off l ∧ ∀ x ∈ l, W8 x := by
    obtain ⟨a', c', hv, _, h8, hm⟩ := hS
    simp only [Value.slice.injEq] at hv
    obtain ⟨rfl, -, -⟩ := hv
    rcases hm with hm | ⟨b, off, rfl, h2, h3⟩
    · rw [hm] at hl; simp at hl
    · exact ⟨b, off, rfl, h2, h3, h8⟩
  have HPL := Lib.hid (fun j hj => Bt.place_low l j h8 hj)
  have HNP := Lib.hid (Bt.low_lt l h8)
  have HAT := Lib.hid hat
  have h1 := heap_alloc2_old w (.cells (ec Fe.z) 30) (.cells ((Bt.row 51 5 (Bt.low l) 0).map (Value.int .u64)).toArray 30)
  have h2 := heap_alloc2_new w (.cells (ec Fe.z) 30) (.cells ((Bt.row 51 5 (Bt.low l) 0).map (Value.int .u64)).toArray 30)
  have h3 : Below w.heap.size w ((w.alloc (.cells (ec Fe.z) 30)).alloc (.cells ((Bt.row 51 5 (Bt.low l) 0).map (Value.int .u64)).toArray 30)) := ((Below.refl _ _).alloc (Nat.le_refl _) _).alloc (by simp) _
  rw [Bt.row_zero] at h1 h2 h3
  have RB : Hid (Blk ((w.alloc (.cells (ec Fe.z) 30)).alloc (.cells ((List.replicate 5 (0 : Int)).map (Value.int .u64)).toArray 30)) (w.heap.size + 1) .u64 30 (Bt.row 51 5 (Bt.low l) 0)) := by
    show Blk _ _ _ _ _
    rw [Bt.row_zero]; exact h2
  have ZB := Lib.hid h1
  have BW := Lib.hid h3
  rw [hl] at HPL HNP
  clear h1 h2 h3 hS hat h8
  generalize Bt.low l = N at *
  go_enter Tryd.func11, Tryd.ntmps11
  go_wp2_with fail
  change Code.wp _ _ _ _ ((w.alloc (.cells (ec Fe.z) 30)).alloc (.cells ((List.replicate 5 (0 : Int)).map (Value.int .u64)).toArray 30))
  generalize ((w.alloc (.cells (ec Fe.z) 30)).alloc (.cells ((List.replicate 5 (0 : Int)).map (Value.int .u64)).toArray 30)) = w7 at *
  go_loopw [9] (fun i wr => ∃ k : Nat, k ≤ 255 ∧ i = .int .i64 k ∧ Hid (Blk wr (w.heap.size + 1) .u64 30 (Bt.row 51 5 N k)) ∧ Hid (wr.heap[w.heap.size]? = some (.cells (ec Fe.z) 30 (0, 0))) ∧ Hid (Below w.heap.size w wr)) (fun i _ => 255 - (intOf i).toNat)
  case atStart => exact ⟨0, by omega, rfl, RB, ZB, BW⟩
  case round =>
    clear RB ZB BW
    obtain ⟨k, hk, rfl, RB, ZB, BW⟩ := hrel
    by_cases hlt : k < 255
    · have c1 := RB.out.cell (k / 51) (by rw [Bt.row_length]; omega)
      have f1 := RB.out.free (k / 51)
      rw [Bt.row_get _ _ _ _ _ (by omega)] at c1
      have c2 := HAT.out.below BW.out hbw (k / 8) (by omega)
      have hpl := HPL.out (k / 8) (by omega)
      rw [← hpl] at c2
      have hbit := Bt.bit_place 8 32 N k (by decide) HNP.out
      have hsm := Bt.place_small 51 N k
      have hp8 := Bt.place_lt 8 N (8 * 32) (k / 8)
      have hb1 := Bt.bit_le N k
      have hset := RB.out.set (k / 51) ((Bt.place 51 N k (k / 51) + Bt.bit N k * 2 ^ (k % 51) : Nat) : Int)
      rw [Bt.row_more 51 5 N k (by decide)] at hset
      have hoth := fun v => heap_setCell_other wr ⟨w.heap.size + 1, k / 51, none⟩ w.heap.size v (by simp)
      have hor := or51 (Bt.place 51 N k (k / 51)) (k % 51) (Bt.bit N k) (by omega) hb1 hsm
      have HSET := Lib.hid hset
      have HOTH := Lib.hid hoth
      clear hset hoth hsm hpl
      generalize Bt.place 51 N k (k / 51) = o at *
      generalize Bt.place 8 N (8 * 32) (k / 8) = v at *
      generalize Bt.bit N k = b at *
      have hvb : ((v : Int) / 2 ^ (k % 8)) % 2 = (b : Int) := by
        rw [← hbit]
        simp
      have hm := and1_8 ((v : Int) / 2 ^ (k % 8)) (Int.ediv_nonneg (by omega) (Int.le_of_lt (Int.pow_pos (by decide)))) (Int.le_trans (Int.ediv_le_self _ (by omega)) (by simp only [Nat.reducePow] at hp8; omega))
      rw [hvb] at hm
      have h2p : 2 ^ (k % 51) ≤ 2 ^ 50 := Nat.pow_le_pow_right (by decide) (by omega)
      simp only [Nat.reducePow] at h2p
      have hbp : b * 2 ^ (k % 51) ≤ 1 * 2 ^ (k % 51) := Nat.mul_le_mul_right _ hb1
      have hcast : (b : Int) * 2 ^ (k % 51) % 18446744073709551616 = ((b * 2 ^ (k % 51) : Nat) : Int) := by
        rw [show (b : Int) * 2 ^ (k % 51) = ((b * 2 ^ (k % 51) : Nat) : Int) by simp]
        exact Int.emod_eq_of_lt (by omega) (by omega)
      have hval : bits BinOp.or IntKind.u64 (o : Int) ((b : Int) * 2 ^ (k % 51) % 18446744073709551616) = ((o + b * 2 ^ (k % 51) : Nat) : Int) := by rw [hcast]; exact hor
      have HVAL := Lib.hid hval
      clear hor hval hcast h2p hbp hbit
      go_wp2
      go_region
      all_goals go_wp2
      all_goals go_roundw
      case rel => exact ⟨k + 1, by omega, by go_num, by rw [IntKind.wrap_u64, HVAL.out]; exact HSET.out, (HOTH.out _).trans ZB.out, (BW.out.setCell (by simp) _).drew⟩
      case measure => simp [intOf]; omega
    · have hk5 : ((k : Nat) : Int) = 255 := by omega
      rw [hk5]
      clear hk5
      obtain rfl : k = 255 := by omega
      have h1 : wr.heap[w.heap.size + 1]? = some (.cells (ec (Fe.rd N)) 30 (0, 0)) := RB.out
      have h2 := ZB.out
      go_wp2_with (first
        | ((with_reducible refine wpList_load_row (o := ⟨some 32, _, _, _, _, _⟩) rfl 30 (.tmp 3) rfl (w.heap.size + 1) rfl 30 _ (0, 0) _ h1 Tryd.underlying30 rfl ?_ ?_); exact i30)
        | ((with_reducible refine wpList_store_row (o := ⟨none, _, _, _, _, _⟩) rfl 30 (.tmp 2) (.tmp 32) rfl w.heap.size (ec (Fe.rd N)) rfl rfl 30 _ h2 ?_ ?_ ?_ ?_); exact i30; exact rfl; exact ec_one _))
      exact bodyPost_ret (results_cell_row Tryd.results11 _ _ w.heap.size 30 _ (0, 0) _ rfl (setRow_heap wr w.heap.size _ (ec (Fe.rd N)) 30 _ h2) Tryd.underlying30 rfl i30) rfl ⟨rfl, below_setRow BW.out (Nat.le_refl _) _⟩
end Go.Proofs.YtgebangnhgmmoaaDoor
