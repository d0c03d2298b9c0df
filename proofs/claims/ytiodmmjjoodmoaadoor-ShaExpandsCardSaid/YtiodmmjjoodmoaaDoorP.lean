/- A region that draws its order, whose operations only add to the world: what is known of each operation's value holds on, whatever comes up next. One look at each operation serves every order. -/
import Derived.Test.YtiodmmjjoodmoaaDoorO
import Derived.Orders
namespace Go.Proofs.YtiodmmjjoodmoaaDoor
open Go.RowKit

namespace Grow
/-- What is known of a value. -/
inductive Spec
  | is (v : Value)
  | row (n : Nat) (l : List Int)
  | parts (ls : List (List Int))
  | slc (l : List Int)
  | one (x : Int)
def Spec.meets : Spec → Value → World → Prop
  | .is v, u, _ => u = v
  | .row n l, u, w => ∃ go, u = .slice (some ⟨go, 0, none⟩) n n ∧ At w .u8 go 0 l ∧ go < w.heap.size
  | .parts ls, u, w => Parts w u ls
  | .slc l, u, w => Slc w u l
  | .one x, u, w => ∃ g, u = .slice (some ⟨g, 0, none⟩) 1 1 ∧ Sh.W8 x ∧ w.heap[g]? = some (.cells #[.int .u8 x] 5 (0, 0))
theorem Spec.keeps (s : Spec) {u : Value} {w w' : World} (h : s.meets u w) (hb : Below w.heap.size w w') : s.meets u w' := by
  cases s with
  | is v => exact h
  | row n l =>
    obtain ⟨go, h1, h2, h3⟩ := h
    exact ⟨go, h1, h2.below hb h3, Nat.lt_of_lt_of_le h3 hb.size⟩
  | parts ls => exact Parts.below h hb (Nat.le_refl _)
  | slc l => exact Slc.below h hb (Nat.le_refl _)
  | one x =>
    obtain ⟨g, h1, h2, h3⟩ := h
    exact ⟨g, h1, h2, (hb.block g (lt_of_block h3)).trans h3⟩

def dstOf (ops : Array Oper) (j : Nat) : Option Tmp := (ops[j]?).bind (·.dst)
def deps (md : Region.Mode) (ops : Array Oper) (o : Oper) (j d : Nat) : Bool := o.after.any (fun e => Region.binds md e && e.on == j) && dstOf ops j == some d
/-- No two write one temporary; all are written in the frame; each waits for earlier ones alone. -/
def fits (ops : Array Oper) (n : Nat) : Bool :=
  (List.range ops.size).all fun i => (match dstOf ops i with
    | some d => decide (d < n) && (List.range ops.size).all fun j => j == i || dstOf ops j != some d
    | none => false) && (match ops[i]? with | some o => o.after.all fun e => decide (e.on < i) | none => false)
def free (ops : Array Oper) (t : Nat) : Bool := (List.range ops.size).all fun j => dstOf ops j != some t

def Hop (P : Program) (md : Region.Mode) (ops : Array Oper) (specs : Nat → Spec) (Q : Exit → Act → World → Prop) (a0 : Act) (w0 : World) (i : Nat) (o : Oper) : Prop :=
  ∀ a w, Below w0.heap.size w0 w → a.tmps.size = a0.tmps.size → (∀ j d, deps md ops o j d = true → (specs j).meets (a.eval (.tmp d)) w) → (∀ t, free ops t = true → a.eval (.tmp t) = a0.eval (.tmp t)) →
    Region.wanted o (yielded ops a.tmps) = true ∧ o.wp P a w (fun a' w' => ∃ v, a' = a.put o.dst v ∧ (specs i).meets v w' ∧ Below w.heap.size w w') Q
/-- All of them. -/
def Hops (P : Program) (md : Region.Mode) (ops : Array Oper) (specs : Nat → Spec) (Q : Exit → Act → World → Prop) (a0 : Act) (w0 : World) : Nat → List Oper → Prop
  | _, [] => True
  | i, o :: r => Hop P md ops specs Q a0 w0 i o ∧ Hops P md ops specs Q a0 w0 (i + 1) r

section
variable {P : Program} {ops : Array Oper} {Q : Exit → Act → World → Prop} {md : Region.Mode} {specs : Nat → Spec} {a0 : Act} {w0 : World}
theorem Hops.get : ∀ {i : Nat} {l : List Oper}, Hops P md ops specs Q a0 w0 i l → ∀ (j : Nat) (o : Oper), l[j]? = some o → Hop P md ops specs Q a0 w0 (i + j) o
  | i, [], _, j, o, hj => by simp at hj
  | i, x :: r, h, 0, o, hj => by
    simp only [List.getElem?_cons_zero, Option.some.injEq] at hj
    subst hj; exact h.1
  | i, x :: r, h, j + 1, o, hj => by
    have := Hops.get h.2 j o (by simpa using hj)
    rwa [show i + 1 + j = i + (j + 1) by omega] at this

theorem fits_dst {n : Nat} (h : fits ops n = true) {i : Nat} {o : Oper} (hi : ops[i]? = some o) : ∃ d, o.dst = some d ∧ d < n ∧ (∀ j, j < ops.size → j ≠ i → dstOf ops j ≠ some d) ∧ ∀ e ∈ o.after, e.on < i := by
  have hlt : i < ops.size := (Array.getElem?_eq_some_iff.1 hi).1
  unfold fits at h
  rw [List.all_eq_true] at h
  have h1 := h i (List.mem_range.2 hlt)
  simp only [Bool.and_eq_true, hi] at h1
  obtain ⟨h2, h3⟩ := h1
  have hd : dstOf ops i = o.dst := by simp [dstOf, hi]
  rw [hd] at h2
  cases hod : o.dst with
  | none => rw [hod] at h2; cases h2
  | some d =>
    rw [hod] at h2
    simp only [Bool.and_eq_true, decide_eq_true_eq, List.all_eq_true, List.mem_range] at h2
    refine ⟨d, rfl, h2.1, fun j hj hne => ?_, fun e he => ?_⟩
    · have := h2.2 j hj
      simp only [Bool.or_eq_true, beq_iff_eq, bne_iff_ne, ne_eq] at this
      rcases this with h | h
      · exact absurd h hne
      · exact h
    · rw [Array.all_eq_true_iff_forall_mem] at h3
      simpa using h3 e he

structure Inv (md : Region.Mode) (ops : Array Oper) (specs : Nat → Spec) (a0 : Act) (w0 : World) (listed : Array Bool) (a : Act) (w : World) : Prop where
  lsize : listed.size = ops.size
  below : Below w0.heap.size w0 w
  tsize : a.tmps.size = a0.tmps.size
  known : ∀ i d, dstOf ops i = some d → listed.getD i false = true → (specs i).meets (a.eval (.tmp d)) w
  rest : ∀ t, free ops t = true → a.eval (.tmp t) = a0.eval (.tmp t)
  defers : a.defers = a0.defers

theorem eval_put_ne {a : Act} {d t : Nat} {v : Value} (h : d ≠ t) : (a.put (some d) v).eval (.tmp t) = a.eval (.tmp t) := by
  simp [Act.eval, Act.put, Array.getElem?_setIfInBounds_ne h]
theorem eval_put_eq {a : Act} {d : Nat} {v : Value} (h : d < a.tmps.size) : (a.put (some d) v).eval (.tmp d) = v := by
  simp [Act.eval, Act.put, h]

theorem Inv.step {listed : Array Bool} {a : Act} {w : World} (hf : fits ops a0.tmps.size = true) (h : Inv md ops specs a0 w0 listed a w) {i : Nat} {o : Oper} (hi : ops[i]? = some o) {v : Value} {w' : World}
    (hv : (specs i).meets v w') (hb : Below w.heap.size w w') : Inv md ops specs a0 w0 (listed.setIfInBounds i true) (a.put o.dst v) w' := by
  obtain ⟨d, hd, hdn, hne, -⟩ := fits_dst hf hi
  have hlt : i < ops.size := (Array.getElem?_eq_some_iff.1 hi).1
  have hdi : dstOf ops i = some d := by simp [dstOf, hi, hd]
  rw [hd]
  refine ⟨by simp [h.lsize], h.below.trans (hb.mono h.below.size), by simp [Act.put, h.tsize], ?_, ?_, by simp [Act.put, h.defers]⟩
  · intro j e hj hl
    by_cases hji : j = i
    · subst hji
      obtain rfl : d = e := Option.some.inj (hdi.symm.trans hj)
      rw [eval_put_eq (by rw [h.tsize]; exact hdn)]
      exact hv
    · have hjlt : j < ops.size := by
        rcases Nat.lt_or_ge j ops.size with h | h
        · exact h
        · simp [dstOf, Array.getElem?_eq_none h] at hj
      have hde : d ≠ e := fun hh => hne j hjlt hji (hh ▸ hj)
      rw [eval_put_ne hde]
      refine ((specs j).keeps (h.known j e hj ?_) hb)
      simpa [Array.getElem?_setIfInBounds_ne (Ne.symm hji)] using hl
  · intro t ht
    have : d ≠ t := by
      intro hh
      subst hh
      unfold free at ht
      rw [List.all_eq_true] at ht
      have := ht i (List.mem_range.2 hlt)
      rw [hdi] at this
      simp at this
    rw [eval_put_ne this]
    exact h.rest t ht

theorem wpAny_grow (hf : fits ops a0.tmps.size = true) (hops : Hops P md ops specs Q a0 w0 0 ops.toList)
    (hend : ∀ a w, Below w0.heap.size w0 w → (∀ i d, dstOf ops i = some d → (specs i).meets (a.eval (.tmp d)) w) → a.defers = a0.defers → (∀ t, free ops t = true → a.eval (.tmp t) = a0.eval (.tmp t)) → Q .normal a w) :
    ∀ (fuel : Nat) (listed : Array Bool) (a : Act) (w : World), listed.toList.count false ≤ fuel → Inv md ops specs a0 w0 listed a w → wpAny P md ops Q fuel listed a w := by
  have done : ∀ (listed : Array Bool) (a : Act) (w : World), Inv md ops specs a0 w0 listed a w → Region.ready md ops listed = [] → Q .normal a w := by
    intro listed a w h hr
    have hall : ∀ n i, i < n → i < ops.size → listed.getD i false = true := by
      intro n
      induction n with
      | zero => intro i hi; omega
      | succ n ih =>
        intro i hi hlt
        by_cases hin : i < n
        · exact ih i hin hlt
        · obtain ⟨o, ho⟩ : ∃ o, ops[i]? = some o := ⟨_, Array.getElem?_eq_getElem hlt⟩
          obtain ⟨_, _, _, _, haf⟩ := fits_dst hf ho
          cases hl : listed.getD i false with
          | true => rfl
          | false =>
            have hm : i ∈ Region.ready md ops listed := by
              refine mem_ready.2 ⟨?_, o, ho, fun e he _ => ih e.on (by have := haf e he; omega) (by have := haf e he; omega)⟩
              have hs : i < listed.size := by rw [h.lsize]; exact hlt
              simpa [Array.getElem?_eq_getElem hs] using hl
            rw [hr] at hm; cases hm
    exact hend a w h.below (fun i d hd => h.known i d hd (hall (i + 1) i (Nat.lt_succ_self _) (by
      rcases Nat.lt_or_ge i ops.size with h | h
      · exact h
      · simp [dstOf, Array.getElem?_eq_none h] at hd))) h.defers h.rest
  intro fuel
  induction fuel with
  | zero =>
    intro listed a w hc h
    have hr : Region.ready md ops listed = [] := by
      cases hr : Region.ready md ops listed with
      | nil => rfl
      | cons j r =>
        have hj : j ∈ Region.ready md ops listed := by rw [hr]; exact List.mem_cons_self
        obtain ⟨h0, o, ho, _⟩ := mem_ready.1 hj
        have hs : j < listed.size := by rw [h.lsize]; exact (Array.getElem?_eq_some_iff.1 ho).1
        have hm : false ∈ listed.toList := by
          rw [Array.mem_toList_iff]
          refine Array.mem_of_getElem? (i := j) ?_
          rw [Array.getElem?_eq_getElem hs]
          simpa [Array.getElem?_eq_getElem hs] using h0
        have := List.count_pos_iff.2 hm
        omega
    exact ⟨hr, done listed a w h hr⟩
  | succ fuel ih =>
    intro listed a w hc h
    refine ⟨done listed a w h, fun i hi => ?_⟩
    obtain ⟨h0, o, ho, hall⟩ := mem_ready.1 hi
    have hs : i < listed.size := by rw [h.lsize]; exact (Array.getElem?_eq_some_iff.1 ho).1
    have hl0 : listed[i] = false := by simpa [Array.getElem?_eq_getElem hs] using h0
    have hcount : (listed.setIfInBounds i true).toList.count false ≤ fuel := by
      have hm : false ∈ listed.toList := by
        rw [Array.mem_toList_iff]
        exact Array.mem_of_getElem? (i := i) (by rw [Array.getElem?_eq_getElem hs, hl0])
      have hp := List.count_pos_iff.2 hm
      rw [Array.toList_setIfInBounds, List.count_set (by simpa using hs)]
      rw [if_pos (by simp [hl0]), if_neg (by simp)]
      omega
    have hhop := hops.get i o (by simpa using ho)
    rw [Nat.zero_add] at hhop
    obtain ⟨hw, hwp⟩ := hhop a w h.below h.tsize (fun j d hd => by
      unfold deps at hd
      simp only [Bool.and_eq_true, beq_iff_eq] at hd
      obtain ⟨hd1, hd2⟩ := hd
      rw [Array.any_eq_true'] at hd1
      obtain ⟨e, he, heb⟩ := hd1
      simp only [Bool.and_eq_true, beq_iff_eq] at heb
      obtain ⟨hb, rfl⟩ := heb
      exact h.known _ d hd2 (hall e he hb)) h.rest
    unfold wpOp
    simp only [ho, hw, if_true]
    refine Or.inl (Oper.wp_mono ?_ hwp)
    rintro a' w' ⟨v, rfl, hv, hb⟩
    exact ih _ _ _ hcount (h.step hf ho hv hb)

theorem region_grow {id : Nat} (hm : P.follows .mixedOrders = true) (specs : Nat → Spec) (hf : fits ops a0.tmps.size = true) (hops : Hops P .any ops specs Q a0 w0 0 ops.toList)
    (hend : ∀ a w, Below w0.heap.size w0 w → (∀ i d, dstOf ops i = some d → (specs i).meets (a.eval (.tmp d)) w) → a.defers = a0.defers → (∀ t, free ops t = true → a.eval (.tmp t) = a0.eval (.tmp t)) → Q .normal a w) :
    (Code.region id ops true).wp P Q a0 w0 := by
  refine wp_region_any hm (wpAny_grow hf hops hend _ _ _ _ ?_ ?_)
  · simp
  · refine ⟨by simp, ⟨rfl, rfl, rfl, Nat.le_refl _, fun _ _ => rfl⟩, rfl, ?_, fun _ _ => rfl, rfl⟩
    intro i d _ hl
    simp [Array.getElem?_replicate] at hl
    split at hl <;> simp at hl
end
end Grow
end Go.Proofs.YtiodmmjjoodmoaaDoor
