/- Layer 3, part 6 of the proof. -/
import Derived.Test.YtgebangnhgmmoaaDoorG5
/- A region that draws its order, whose last operation waits for all others: these only add to the world, the last may do anything. An operation whose guard does not hold writes nothing. -/
namespace Go.Proofs.YtgebangnhgmmoaaDoor
open Go.RowKit
namespace Grow

/-- No two write one temporary; all are written in the frame; each waits for earlier ones alone; the last waits for all. -/
def fits2 (ops : Array Oper) (m n : Nat) : Bool :=
  ops.size == m + 1 && (((List.range m).all fun i => (match dstOf ops i with
    | some d => decide (d < n) && (List.range m).all fun j => j == i || dstOf ops j != some d
    | none => false) && (match ops[i]? with | some o => o.after.all fun e => decide (e.on < i) | none => false)) &&
   (match ops[m]? with | some o => (List.range m).all (fun i => o.after.any fun e => Region.binds .any e && e.on == i) && o.after.all (fun e => decide (e.on < m)) | none => false))
def free2 (ops : Array Oper) (m t : Nat) : Bool := (List.range m).all fun j => dstOf ops j != some t

def Hop2 (P : Program) (m : Nat) (ops : Array Oper) (specs : Nat → Spec) (Q : Exit → Act → World → Prop) (a0 : Act) (w0 : World) (i : Nat) (o : Oper) : Prop :=
  ∀ a w, Below w0.heap.size w0 w → a.tmps.size = a0.tmps.size → (∀ j d, deps .any ops o j d = true → (specs j).meets (a.eval (.tmp d)) w) → (∀ t, free2 ops m t = true → a.eval (.tmp t) = a0.eval (.tmp t)) →
    (Region.wanted o (yielded ops a.tmps) = true ∧ o.wp P a w (fun a' w' => ∃ v, a' = a.put o.dst v ∧ (specs i).meets v w' ∧ Below w.heap.size w w') Q) ∨ (Region.wanted o (yielded ops a.tmps) = false ∧ (specs i).meets undef w)
def Hops2 (P : Program) (m : Nat) (ops : Array Oper) (specs : Nat → Spec) (Q : Exit → Act → World → Prop) (a0 : Act) (w0 : World) : Nat → List Oper → Prop
  | _, [] => True
  | i, o :: r => Hop2 P m ops specs Q a0 w0 i o ∧ Hops2 P m ops specs Q a0 w0 (i + 1) r

section
variable {P : Program} {m : Nat} {ops : Array Oper} {Q : Exit → Act → World → Prop} {specs : Nat → Spec} {a0 : Act} {w0 : World}
theorem Hops2.get : ∀ {i : Nat} {l : List Oper}, Hops2 P m ops specs Q a0 w0 i l → ∀ (j : Nat) (o : Oper), l[j]? = some o → Hop2 P m ops specs Q a0 w0 (i + j) o
  | i, [], _, j, o, hj => by simp at hj
  | i, x :: r, h, 0, o, hj => by
    simp only [List.getElem?_cons_zero, Option.some.injEq] at hj
    subst hj; exact h.1
  | i, x :: r, h, j + 1, o, hj => by
    have := Hops2.get h.2 j o (by simpa using hj)
    rwa [show i + 1 + j = i + (j + 1) by omega] at this
theorem fits2_size {n : Nat} (h : fits2 ops m n = true) : ops.size = m + 1 := by
  unfold fits2 at h
  simp only [Bool.and_eq_true, beq_iff_eq] at h
  exact h.1
theorem fits2_dst {n : Nat} (h : fits2 ops m n = true) {i : Nat} {o : Oper} (hm : i < m) (hi : ops[i]? = some o) : ∃ d, o.dst = some d ∧ d < n ∧ (∀ j, j < m → j ≠ i → dstOf ops j ≠ some d) ∧ ∀ e ∈ o.after, e.on < i := by
  unfold fits2 at h
  simp only [Bool.and_eq_true] at h
  have h0 := h.2.1
  rw [List.all_eq_true] at h0
  have h1 := h0 i (List.mem_range.2 hm)
  simp only [Bool.and_eq_true, hi] at h1
  obtain ⟨h2, h3⟩ := h1
  have hd : dstOf ops i = o.dst := by simp [dstOf, hi]
  rw [hd] at h2
  cases hod : o.dst with
  | none => rw [hod] at h2; cases h2
  | some d =>
    rw [hod] at h2
    simp only [Bool.and_eq_true, decide_eq_true_eq, List.all_eq_true, List.mem_range] at h2
    refine ⟨d, rfl, h2.1, fun j hj hne => ?_, fun e he => ?_⟩
    · have := h2.2 j hj
      simp only [Bool.or_eq_true, beq_iff_eq, bne_iff_ne, ne_eq] at this
      rcases this with h | h
      · exact absurd h hne
      · exact h
    · rw [Array.all_eq_true_iff_forall_mem] at h3
      simpa using h3 e he
theorem fits2_last {n : Nat} (h : fits2 ops m n = true) {o : Oper} (hi : ops[m]? = some o) : (∀ i, i < m → ∃ e ∈ o.after, Region.binds .any e = true ∧ e.on = i) ∧ ∀ e ∈ o.after, e.on < m := by
  unfold fits2 at h
  simp only [Bool.and_eq_true] at h
  have h0 := h.2.2
  rw [hi] at h0
  simp only [Bool.and_eq_true] at h0
  obtain ⟨h1, h2⟩ := h0
  refine ⟨fun i hi => ?_, fun e he => ?_⟩
  · rw [List.all_eq_true] at h1
    have h3 := h1 i (List.mem_range.2 hi)
    rw [Array.any_eq_true'] at h3
    obtain ⟨e, he, heb⟩ := h3
    simp only [Bool.and_eq_true, beq_iff_eq] at heb
    exact ⟨e, he, heb.1, heb.2⟩
  · rw [Array.all_eq_true_iff_forall_mem] at h2
    simpa using h2 e he

structure Inv2 (m : Nat) (ops : Array Oper) (specs : Nat → Spec) (a0 : Act) (w0 : World) (listed : Array Bool) (a : Act) (w : World) : Prop where
  lsize : listed.size = ops.size
  below : Below w0.heap.size w0 w
  tsize : a.tmps.size = a0.tmps.size
  known : ∀ i d, i < m → dstOf ops i = some d → listed.getD i false = true → (specs i).meets (a.eval (.tmp d)) w
  rest : ∀ t, free2 ops m t = true → a.eval (.tmp t) = a0.eval (.tmp t)
  defers : a.defers = a0.defers
  last : listed.getD m false = false

theorem Inv2.step {listed : Array Bool} {a : Act} {w : World} (hf : fits2 ops m a0.tmps.size = true) (h : Inv2 m ops specs a0 w0 listed a w) {i : Nat} {o : Oper} (him : i < m) (hi : ops[i]? = some o) {v : Value} {w' : World}
    (hv : (specs i).meets v w') (hb : Below w.heap.size w w') : Inv2 m ops specs a0 w0 (listed.setIfInBounds i true) (a.put o.dst v) w' := by
  obtain ⟨d, hd, hdn, hne, -⟩ := fits2_dst hf him hi
  have hlt : i < ops.size := (Array.getElem?_eq_some_iff.1 hi).1
  have hdi : dstOf ops i = some d := by simp [dstOf, hi, hd]
  rw [hd]
  refine ⟨by simp [h.lsize], h.below.trans (hb.mono h.below.size), by simp [Act.put, h.tsize], ?_, ?_, by simp [Act.put, h.defers], ?_⟩
  · intro j e hjm hj hl
    by_cases hji : j = i
    · subst hji
      obtain rfl : d = e := Option.some.inj (hdi.symm.trans hj)
      rw [eval_put_eq (by rw [h.tsize]; exact hdn)]
      exact hv
    · have hde : d ≠ e := fun hh => hne j hjm hji (hh ▸ hj)
      rw [eval_put_ne hde]
      refine ((specs j).keeps (h.known j e hjm hj ?_) hb)
      simpa [Array.getElem?_setIfInBounds_ne (Ne.symm hji)] using hl
  · intro t ht
    have : d ≠ t := by
      intro hh
      subst hh
      unfold free2 at ht
      rw [List.all_eq_true] at ht
      have := ht i (List.mem_range.2 him)
      rw [hdi] at this
      simp at this
    rw [eval_put_ne this]
    exact h.rest t ht
  · simpa [Array.getElem?_setIfInBounds_ne (show i ≠ m by omega)] using h.last

theorem wpAny_all {md : Region.Mode} {listed : Array Bool} {a : Act} {w : World} (h : ∀ i, i < ops.size → listed.getD i false = true) (hs : listed.size = ops.size) (hq : Q .normal a w) : ∀ fuel, wpAny P md ops Q fuel listed a w := by
  have hr : Region.ready md ops listed = [] := by
    cases hr : Region.ready md ops listed with
    | nil => rfl
    | cons j r =>
      have hj : j ∈ Region.ready md ops listed := by rw [hr]; exact List.mem_cons_self
      obtain ⟨h0, o, ho, _⟩ := mem_ready.1 hj
      have hlt := (Array.getElem?_eq_some_iff.1 ho).1
      have h1 := h j hlt
      have hs' : j < listed.size := by omega
      simp [Array.getElem?_eq_getElem hs'] at h0 h1
      rw [h0] at h1; cases h1
  intro fuel
  cases fuel with
  | zero => exact ⟨hr, hq⟩
  | succ n => exact ⟨fun _ => hq, fun i hi => by rw [hr] at hi; cases hi⟩

theorem wpAny_tail (hf : fits2 ops m a0.tmps.size = true) (hops : Hops2 P m ops specs Q a0 w0 0 (ops.toList.take m))
    (hend : ∀ o a w, ops[m]? = some o → Below w0.heap.size w0 w → a.tmps.size = a0.tmps.size → (∀ i d, i < m → dstOf ops i = some d → (specs i).meets (a.eval (.tmp d)) w) → a.defers = a0.defers → (∀ t, free2 ops m t = true → a.eval (.tmp t) = a0.eval (.tmp t)) → Region.wanted o (yielded ops a.tmps) = true ∧ o.wp P a w (fun a' w' => Q .normal a' w') Q) :
    ∀ (fuel : Nat) (listed : Array Bool) (a : Act) (w : World), listed.toList.count false ≤ fuel → Inv2 m ops specs a0 w0 listed a w → wpAny P .any ops Q fuel listed a w := by
  have hsz := fits2_size hf
  intro fuel
  induction fuel with
  | zero =>
    intro listed a w hc h
    exfalso
    have hs : m < listed.size := by rw [h.lsize, hsz]; omega
    have hl0 : listed[m] = false := by have := h.last; simpa [Array.getElem?_eq_getElem hs] using this
    have hm : false ∈ listed.toList := by
      rw [Array.mem_toList_iff]
      exact Array.mem_of_getElem? (i := m) (by rw [Array.getElem?_eq_getElem hs, hl0])
    have := List.count_pos_iff.2 hm
    omega
  | succ fuel ih =>
    intro listed a w hc h
    refine ⟨fun hr => ?_, fun i hi => ?_⟩
    · exfalso
      have hall : ∀ n i, i < n → i < ops.size → listed.getD i false = true := by
        intro n
        induction n with
        | zero => intro i hi; omega
        | succ n ihn =>
          intro i hi hlt
          by_cases hin : i < n
          · exact ihn i hin hlt
          · obtain ⟨o, ho⟩ : ∃ o, ops[i]? = some o := ⟨_, Array.getElem?_eq_getElem hlt⟩
            have haf : ∀ e ∈ o.after, e.on < i := by
              by_cases him : i < m
              · obtain ⟨_, _, _, _, haf⟩ := fits2_dst hf him ho
                exact haf
              · obtain rfl : i = m := by omega
                exact (fits2_last hf ho).2
            cases hl : listed.getD i false with
            | true => rfl
            | false =>
              have hm : i ∈ Region.ready .any ops listed := by
                refine mem_ready.2 ⟨?_, o, ho, fun e he _ => ihn e.on (by have := haf e he; omega) (by have := haf e he; omega)⟩
                have hs : i < listed.size := by rw [h.lsize]; exact hlt
                simpa [Array.getElem?_eq_getElem hs] using hl
              rw [hr] at hm; cases hm
      have := hall (m + 1) m (Nat.lt_succ_self _) (by omega)
      rw [h.last] at this; cases this
    · obtain ⟨h0, o, ho, hall⟩ := mem_ready.1 hi
      have hs : i < listed.size := by rw [h.lsize]; exact (Array.getElem?_eq_some_iff.1 ho).1
      have hl0 : listed[i] = false := by simpa [Array.getElem?_eq_getElem hs] using h0
      have hcount : (listed.setIfInBounds i true).toList.count false ≤ fuel := by
        have hm : false ∈ listed.toList := by
          rw [Array.mem_toList_iff]
          exact Array.mem_of_getElem? (i := i) (by rw [Array.getElem?_eq_getElem hs, hl0])
        have hp := List.count_pos_iff.2 hm
        rw [Array.toList_setIfInBounds, List.count_set (by simpa using hs)]
        rw [if_pos (by simp [hl0]), if_neg (by simp)]
        omega
      by_cases him : i < m
      · have hhop := hops.get i o (by rw [List.getElem?_take_of_lt him]; simpa using ho)
        rw [Nat.zero_add] at hhop
        rcases hhop a w h.below h.tsize (fun j d hd => by
          unfold deps at hd
          simp only [Bool.and_eq_true, beq_iff_eq] at hd
          obtain ⟨hd1, hd2⟩ := hd
          rw [Array.any_eq_true'] at hd1
          obtain ⟨e, he, heb⟩ := hd1
          simp only [Bool.and_eq_true, beq_iff_eq] at heb
          obtain ⟨hb, rfl⟩ := heb
          obtain ⟨_, _, _, _, haf⟩ := fits2_dst hf him ho
          exact h.known _ d (by have := haf e he; omega) hd2 (hall e he hb)) h.rest with ⟨hw, hwp⟩ | ⟨hw, hm⟩
        · unfold wpOp
          simp only [ho, hw, if_true]
          refine Or.inl (Oper.wp_mono ?_ hwp)
          rintro a' w' ⟨v, rfl, hv, hb⟩
          exact ih _ _ _ hcount (h.step hf him ho hv hb)
        · unfold wpOp
          simp only [ho, hw, Bool.false_eq_true, if_false]
          exact ih _ _ _ hcount (h.step hf him ho hm (Below.refl _ _))
      · have him' : i = m := by
          have := (Array.getElem?_eq_some_iff.1 ho).1
          omega
        subst him'
        have hl : ∀ j, j < i → listed.getD j false = true := by
          intro j hj
          obtain ⟨e, he, hb, hon⟩ := (fits2_last hf ho).1 j hj
          rw [← hon]
          exact hall e he hb
        obtain ⟨hw, hwp⟩ := hend o a w ho h.below h.tsize (fun j d hj hd => h.known j d hj hd (hl j hj)) h.defers h.rest
        unfold wpOp
        simp only [ho, hw, if_true]
        refine Or.inl (Oper.wp_mono ?_ hwp)
        intro a' w' hq
        refine wpAny_all (fun j hj => ?_) (by simp [h.lsize]) hq fuel
        by_cases hji : j = i
        · subst hji
          simp [Array.getElem?_setIfInBounds_self_of_lt hs]
        · have := hl j (by omega)
          simpa [Array.getElem?_setIfInBounds_ne (Ne.symm hji)] using this

theorem region_tail {id : Nat} (hm : P.follows .mixedOrders = true) (m : Nat) (specs : Nat → Spec) (hf : fits2 ops m a0.tmps.size = true) (hops : Hops2 P m ops specs Q a0 w0 0 (ops.toList.take m))
    (hend : ∀ o a w, ops[m]? = some o → Below w0.heap.size w0 w → a.tmps.size = a0.tmps.size → (∀ i d, i < m → dstOf ops i = some d → (specs i).meets (a.eval (.tmp d)) w) → a.defers = a0.defers → (∀ t, free2 ops m t = true → a.eval (.tmp t) = a0.eval (.tmp t)) → Region.wanted o (yielded ops a.tmps) = true ∧ o.wp P a w (fun a' w' => Q .normal a' w') Q) :
    (Code.region id ops true).wp P Q a0 w0 := by
  have hsz := fits2_size hf
  refine wp_region_any hm (wpAny_tail hf hops hend _ _ _ _ ?_ ?_)
  · simp
  · refine ⟨by simp, ⟨rfl, rfl, rfl, Nat.le_refl _, fun _ _ => rfl⟩, rfl, ?_, fun _ _ => rfl, rfl, ?_⟩
    · intro i d _ _ hl
      simp [Array.getElem?_replicate] at hl
      split at hl <;> simp at hl
    · simp [hsz]
end
end Grow
end Go.Proofs.YtgebangnhgmmoaaDoor

/- The operations of such a region, each by one law; the inverse. -/
namespace Go.Proofs.YtgebangnhgmmoaaDoor
open Go.RowKit
namespace Grow
/-- What is known when an operation's turn comes. -/
structure Known (m : Nat) (ops : Array Oper) (specs : Nat → Spec) (a0 : Act) (w0 : World) (o : Oper) (a : Act) (w : World) : Prop where
  below : Below w0.heap.size w0 w
  deps : ∀ j d, deps .any ops o j d = true → (specs j).meets (a.eval (.tmp d)) w
  rest : ∀ t, free2 ops m t = true → a.eval (.tmp t) = a0.eval (.tmp t)
/-- The guard holds. -/
def Runs2 (ops : Array Oper) (specs : Nat → Spec) (a0 : Act) (o : Oper) : Prop :=
  o.guard = none ∨ ∃ g d b, o.guard = some (g, b) ∧ deps .any ops o g d = true ∧ specs g = .is (.bool b) ∧ d < a0.tmps.size
/-- The guard doesn't hold. -/
def Skips (ops : Array Oper) (specs : Nat → Spec) (a0 : Act) (o : Oper) : Prop :=
  ∃ g d b v, o.guard = some (g, b) ∧ deps .any ops o g d = true ∧ specs g = .is v ∧ v ≠ .bool b ∧ d < a0.tmps.size

section
variable {m : Nat} {ops : Array Oper} {Q : Exit → Act → World → Prop} {specs : Nat → Spec} {a0 : Act} {w0 : World} {i : Nat} {o : Oper}
theorem yielded_of {a : Act} {g d : Nat} (h1 : deps .any ops o g d = true) (hd : d < a.tmps.size) : yielded ops a.tmps g = match a.eval (.tmp d) with | .bool b => some b | _ => none := by
  unfold deps at h1
  simp only [Bool.and_eq_true, beq_iff_eq] at h1
  have h6 : ((ops[g]?).bind (·.dst)) = some d := h1.2
  unfold yielded
  rw [h6]
  simp only [Option.bind_some, Array.getElem?_eq_getElem hd]
  have : a.eval (.tmp d) = a.tmps[d] := by simp [Act.eval, Array.getElem?_eq_getElem hd]
  rw [this]
  cases a.tmps[d] <;> rfl
theorem wanted2_of (hr : Runs2 ops specs a0 o) {a : Act} {w : World} (ht : a.tmps.size = a0.tmps.size) (hk : ∀ j d, deps .any ops o j d = true → (specs j).meets (a.eval (.tmp d)) w) : Region.wanted o (yielded ops a.tmps) = true := by
  rcases hr with h | ⟨g, d, b, h1, h2, h3, h4⟩
  · simp [Region.wanted, h]
  · have h5 := hk g d h2
    rw [h3] at h5
    have h5 : a.eval (.tmp d) = .bool b := h5
    have h6 := yielded_of h2 (by rw [ht]; exact h4)
    rw [h5] at h6
    simp [Region.wanted, h1, h6]
theorem h2_skip (hr : Skips ops specs a0 o) (hs : specs i = .is undef) : Hop2 Tryd.prog m ops specs Q a0 w0 i o := by
  intro a w _ ht hk _
  right
  obtain ⟨g, d, b, v, h1, h2, h3, h4, h5⟩ := hr
  have h6 := hk g d h2
  rw [h3] at h6
  have h6 : a.eval (.tmp d) = v := h6
  have h7 := yielded_of h2 (by rw [ht]; exact h5)
  rw [h6] at h7
  refine ⟨?_, by rw [hs]; rfl⟩
  simp only [Region.wanted, h1, h7]
  cases v <;> simp_all
theorem h2_wp (hr : Runs2 ops specs a0 o) (h : ∀ a w, Known m ops specs a0 w0 o a w → o.wp Tryd.prog a w (fun a' w' => ∃ v, a' = a.put o.dst v ∧ (specs i).meets v w' ∧ Below w.heap.size w w') Q) : Hop2 Tryd.prog m ops specs Q a0 w0 i o := by
  intro a w hb ht hk hfr
  exact Or.inl ⟨wanted2_of hr ht hk, h a w ⟨hb, hk, hfr⟩⟩
/-- A value that is found, and changes nothing but by what it adds. -/
theorem h2_val (hr : Runs2 ops specs a0 o) (h : ∀ a w, Known m ops specs a0 w0 o a w → ∃ v w', (execOp a.eval o).run Tryd.prog w = .ok (.value v) w' ∧ (specs i).meets v w' ∧ Below w.heap.size w w') : Hop2 Tryd.prog m ops specs Q a0 w0 i o :=
  h2_wp hr fun a w hk => by
    obtain ⟨v, w', h1, h2, h3⟩ := h a w hk
    exact wp_value h1 ⟨v, rfl, h2, h3⟩
theorem h2_move (hr : Runs2 ops specs a0 o) (x : Operand) (ho : o.op = .move x ∨ o.op = .assign x) (h : ∀ a w, Known m ops specs a0 w0 o a w → (specs i).meets (a.eval x) w) : Hop2 Tryd.prog m ops specs Q a0 w0 i o :=
  h2_wp hr fun a w hk => wp_move x ho ⟨_, rfl, h a w hk, Below.refl _ _⟩
theorem h2_call0 (hr : Runs2 ops specs a0 o) (f : FuncId) (he : ∀ args w, (callFunc f args).run Tryd.prog w = .ok (.enter f args) w) (ts : Array TypeId) (ho : o.op = .call { callee := .value (.func f), args := #[], argTypes := ts })
    (h : ∀ a w, Known m ops specs a0 w0 o a w → Calls Tryd.prog f #[] w fun e w' => ∃ v, e = .returned v ∧ (specs i).meets v w' ∧ Below w.heap.size w w') : Hop2 Tryd.prog m ops specs Q a0 w0 i o :=
  h2_wp hr fun a w hk => by
    refine wp_enter (f := f) (args := #[]) ?_ ((h a w hk).mono ?_)
    · unfold execOp
      rw [ho]
      go_simp
    · rintro e w' ⟨v, rfl, h1, h2⟩
      exact ⟨v, rfl, v, rfl, h1, h2⟩
theorem h2_call1 (hr : Runs2 ops specs a0 o) (f : FuncId) (he : ∀ args w, (callFunc f args).run Tryd.prog w = .ok (.enter f args) w) (ts : Array TypeId) (x : Operand) (ho : o.op = .call { callee := .value (.func f), args := #[x], argTypes := ts })
    (h : ∀ a w, Known m ops specs a0 w0 o a w → Calls Tryd.prog f #[a.eval x] w fun e w' => ∃ v, e = .returned v ∧ (specs i).meets v w' ∧ Below w.heap.size w w') : Hop2 Tryd.prog m ops specs Q a0 w0 i o :=
  h2_wp hr fun a w hk => by
    refine wp_enter (f := f) (args := #[a.eval x]) ?_ ((h a w hk).mono ?_)
    · unfold execOp
      rw [ho]
      go_simp
    · rintro e w' ⟨v, rfl, h1, h2⟩
      exact ⟨v, rfl, v, rfl, h1, h2⟩
theorem h2_call2 (hr : Runs2 ops specs a0 o) (f : FuncId) (he : ∀ args w, (callFunc f args).run Tryd.prog w = .ok (.enter f args) w) (ts : Array TypeId) (x y : Operand) (ho : o.op = .call { callee := .value (.func f), args := #[x, y], argTypes := ts })
    (h : ∀ a w, Known m ops specs a0 w0 o a w → Calls Tryd.prog f #[a.eval x, a.eval y] w fun e w' => ∃ v, e = .returned v ∧ (specs i).meets v w' ∧ Below w.heap.size w w') : Hop2 Tryd.prog m ops specs Q a0 w0 i o :=
  h2_wp hr fun a w hk => by
    refine wp_enter (f := f) (args := #[a.eval x, a.eval y]) ?_ ((h a w hk).mono ?_)
    · unfold execOp
      rw [ho]
      go_simp
    · rintro e w' ⟨v, rfl, h1, h2⟩
      exact ⟨v, rfl, v, rfl, h1, h2⟩
/-- A row that lay there from the start. -/
theorem h2_row (hr : Runs2 ops specs a0 o) (t g : Nat) (ty : TypeId) (cs : Array Value) (d : TypeDesc) (hd : (match d with | .struct _ | .array _ _ => true | _ => false) = true) (hu : Tryd.prog.underlying ty = some d) (hi : (Tryd.prog.info? ty).map (·.size) = some cs.size)
    (ho : o.op = .load ty (.tmp t)) (hf : free2 ops m t = true) (hv : a0.eval (.tmp t) = .pointer (some ⟨g, 0, none⟩)) (hg : w0.heap[g]? = some (.cells cs ty (0, 0))) (hs : specs i = .is (.agg cs)) : Hop2 Tryd.prog m ops specs Q a0 w0 i o :=
  h2_wp hr fun a w hk => by
    refine wp_load_row ty (.tmp t) ho g ((hk.rest t hf).trans hv) ty cs (0, 0) d ((hk.below.block g (lt_of_block hg)).trans hg) hu (by cases d <;> first | rfl | cases hd) hi ?_
    exact ⟨_, rfl, by rw [hs]; rfl, Below.refl _ _⟩
end
theorem enter48 (args : Array Value) (w : World) : (callFunc 48 args).run Tryd.prog w = .ok (.enter 48 args) w := by
  have := Tryd.func48
  go_simp
theorem enter31 (args : Array Value) (w : World) : (callFunc 31 args).run Tryd.prog w = .ok (.enter 31 args) w := by
  have := Tryd.func31
  go_simp
def elem (n : Int) : Spec := .held (fun u _ => ∃ y, u = .agg (ec y) ∧ Fe.Re y n) (fun _ _ _ h _ => h)
end Grow
theorem ends_W8 {lo hi : Int} (l : W8 lo) (h : W8 hi) : ∀ b ∈ ends lo hi, W8 b := by
  intro b hb
  unfold ends at hb
  rcases List.mem_or_eq_of_mem_set hb with hb | rfl
  · rcases List.mem_or_eq_of_mem_set hb with hb | rfl
    · unfold fillk at hb
      rw [List.mem_map] at hb
      obtain ⟨j, hj, rfl⟩ := hb
      rw [if_pos (List.mem_range.1 hj)]
      unfold W8; omega
    · exact l
  · exact h
theorem low_ends_inv : Bt.low (ends 235 127) = Nm.PN - 2 := by decide +kernel
theorem low_ends_root : Bt.low (ends 254 15) = (Nm.PN + 3) / 8 := by decide +kernel
theorem low_ends_turn : Bt.low (ends 251 31) = (Nm.PN - 1) / 4 := by decide +kernel

set_option maxRecDepth 100000 in
set_option maxHeartbeats 400000 in
theorem inv_any (w : World) (x : Fe.E) (n : Int) (hx : Fe.Re x n) :
    Calls Tryd.prog 30 #[.agg (ec x)] w fun e w' => ∃ y, e = .returned (.agg (ec y)) ∧ Fe.Re y (n ^ (Nm.PN - 2)) ∧ Below w.heap.size w w' := by
  have h1 := heap_alloc2_old w (.cells (ec x) 30) (.cells (ec Fe.z) 30)
  have h2 := heap_alloc2_new w (.cells (ec x) 30) (.cells (ec Fe.z) 30)
  have h3 : Below w.heap.size w ((w.alloc (.cells (ec x) 30)).alloc (.cells (ec Fe.z) 30)) := ((Below.refl _ _).alloc (Nat.le_refl _) _).alloc (by simp) _
  have H1 := Lib.hid h1
  have H2 := Lib.hid h2
  have HB := Lib.hid h3
  clear h1 h2 h3
  go_enter Tryd.func30, Tryd.ntmps30
  go_wp2_with fail
  change Code.wp _ _ _ _ ((w.alloc (.cells (ec x) 30)).alloc (.cells (ec Fe.z) 30))
  generalize (w.alloc (.cells (ec x) 30)).alloc (.cells (ec Fe.z) 30) = w3 at *
  refine Grow.region_tail (by kernel_rfl) 3 (fun i => ([.is (.agg (ec x)), .is (bv (ends 235 127)), Grow.elem (n ^ (Nm.PN - 2))] : List Grow.Spec).getD i (.is undef)) (by kernel_rfl) ⟨
    Grow.h2_row (Or.inl rfl) 1 w.heap.size 30 (ec x) _ rfl Tryd.underlying30 i30 rfl (by kernel_rfl) rfl H1.out rfl,
    Grow.h2_call2 (Or.inl rfl) 48 Grow.enter48 _ _ _ rfl (fun a w hk => by refine (exponent_any w 235 127).mono ?_; rintro e w5 ⟨rfl, hb⟩; exact ⟨_, rfl, rfl, hb⟩),
    Grow.h2_call2 (Or.inl rfl) 31 Grow.enter31 _ _ _ rfl (fun a w hk => by
      have e0 : a.eval (.tmp 3) = .agg (ec x) := hk.deps 0 3 (by kernel_rfl)
      have e1 : a.eval (.tmp 4) = bv (ends 235 127) := hk.deps 1 4 (by kernel_rfl)
      rw [e0, e1]
      refine (power_any w x n hx (ends 235 127) (ends_length _ _) (ends_W8 (by unfold W8; omega) (by unfold W8; omega))).mono ?_
      rintro e w5 ⟨y, rfl, hy, hb⟩
      rw [low_ends_inv] at hy
      exact ⟨_, rfl, ⟨y, rfl, hy⟩, hb⟩), trivial⟩ ?_
  intro o a w5 ho hb hts hk hd hfr
  obtain rfl := Option.some.inj ho
  obtain ⟨y, hy1, hy2⟩ : ∃ y, a.eval (.tmp 5) = .agg (ec y) ∧ Fe.Re y (n ^ (Nm.PN - 2)) := hk 2 5 (by decide) rfl
  have he2 : a.eval (.tmp 2) = .pointer (some ⟨w.heap.size + 1, 0, none⟩) := hfr 2 (by kernel_rfl)
  have hz := (hb.block _ (lt_of_block H2.out)).trans H2.out
  refine ⟨rfl, wp_store_row 30 (.tmp 2) (.tmp 5) rfl (w.heap.size + 1) (ec y) he2 hy1 30 (ec Fe.z) hz i30 rfl (ec_one _) ?_⟩
  have HBF := Lib.hid (below_setRow (HB.out.trans (hb.mono HB.out.size)) (show w.heap.size ≤ w.heap.size + 1 by omega) (ec y))
  have HS := Lib.hid (setRow_heap w5 (w.heap.size + 1) _ (ec y) 30 _ hz)
  clear hk hfr
  go_wp2
  exact bodyPost_ret (results_cell_row Tryd.results30 _ _ (w.heap.size + 1) 30 _ (0, 0) _ he2 HS.out Tryd.underlying30 rfl i30) hd ⟨y, rfl, hy2, HBF.out⟩
end Go.Proofs.YtgebangnhgmmoaaDoor

/- The laws' own helpers, the walks: the document's examples. -/
namespace Go.Proofs.YtgebangnhgmmoaaDoor
open Go.RowKit

theorem row_first : (Bt.row 8 32 (Nm.PN - 1) 255).getD 0 0 = 236 := by decide +kernel
theorem row_last : (Bt.row 8 32 (Nm.PN - 1) 255).getD 31 0 = 127 := by decide +kernel
theorem two_inv {y : Fe.E} (hy : Fe.Re y (2 ^ (Nm.PN - 2))) : decide (Fe.val (Fe.mul y (Fe.num 2)) % Fe.P = Fe.val (Fe.num 1) % Fe.P) = true := by
  refine decide_eq_true ?_
  rw [(hy.mul (Fe.Re.num (n := 2) (by decide) (by decide))).eq, (Fe.Re.num (n := 1) (by decide) (by decide)).eq, Int.mul_comm, Fe.P_PN]
  have h := Nm.inv_one (x := 2) (by decide) (by decide)
  rw [h]
  decide

set_option maxRecDepth 100000 in
set_option maxHeartbeats 1000000 in
theorem awake_any (w : World) (hd : Dbl w) : Calls Tryd.prog 9 #[] w fun e w' => e = .returned (.bool true) ∧ Below w.heap.size w w' := by
  have HD := Lib.hid hd
  have HN : Hid (Fe.val (Fe.neg (Fe.num 1)) % Fe.P = ((Nm.PN - 1 : Nat) : Int)) := by
    show _ = _
    rw [(Fe.Re.num (n := 1) (by decide) (by decide)).neg.eq]
    decide
  have HO := Lib.hid ((Fe.Re.num (n := 1) (by decide) (by decide)).neg.ok)
  clear hd
  go_enter Tryd.func9, Tryd.ntmps9
  go_wp2_with (first
    | (go_at_call 23; refine (same_any _ _ _ (Fe.mul_ok HY.out.ok (Fe.num_ok 2 (by decide) (by decide))) (Fe.num_ok 1 (by decide) (by decide))).mono ?_; rintro e w9 ⟨rfl, hb⟩; rw [two_inv HY.out]; have HB9 := Lib.hid (HB8.out.trans (hb.mono HB8.out.size)); have hbl := HG.out.other ((hb.mono HB38.out.size).block _ HG.out.lt |>.trans (HB38.out.block _ HG.out.lt)); have c0 := hbl.cell 0 (by rw [Bt.row_length]; decide); have c1 := hbl.cell 31 (by rw [Bt.row_length]; decide); rw [row_first] at c0; rw [row_last] at c1; clear hb hbl)
    | (go_at_call 28; refine (num_any w7 _ (by decide) (by decide)).mono ?_; rintro e w8 ⟨rfl, hb⟩; have HB8 := Lib.hid (HB7.out.trans (hb.mono HB7.out.size)); have HB38 := Lib.hid (HB37.out.trans (hb.mono HB37.out.size)); clear hb)
    | (go_at_call 25; refine (mul_any w6 _ _ HY.out.ok (Fe.num_ok 2 (by decide) (by decide))).mono ?_; rintro e w7 ⟨rfl, hb⟩; have HB7 := Lib.hid (HB6.out.trans (hb.mono HB6.out.size)); have HB37 := Lib.hid (HB36.out.trans (hb.mono HB36.out.size)); clear hb)
    | (go_at_call 28; refine (num_any w5 _ (by decide) (by decide)).mono ?_; rintro e w6 ⟨rfl, hb⟩; have HB6 := Lib.hid (HB5.out.trans (hb.mono HB5.out.size)); have HB36 := Lib.hid (HB35.out.trans (hb.mono HB35.out.size)); clear hb)
    | (go_at_call 30; refine (inv_any w4 _ 2 (Fe.Re.num (n := 2) (by decide) (by decide))).mono ?_; rintro e w5 ⟨y, rfl, hy, hb⟩; have HY := Lib.hid hy; have HB5 := Lib.hid (HB4.out.trans (hb.mono HB4.out.size)); have HB35 := Lib.hid (HB34.out.trans (hb.mono HB34.out.size)); clear hb hy)
    | (go_at_call 28; refine (num_any w3 _ (by decide) (by decide)).mono ?_; rintro e w4 ⟨rfl, hb⟩; have HB4 := Lib.hid (HB3.out.trans (hb.mono HB3.out.size)); have HB34 := Lib.hid hb; clear hb)
    | (go_at_call 13; refine (bytes_any w2 _ HO.out _ HN.out).mono ?_; rintro e w3 ⟨g, rfl, hg, hb⟩; have HG := Lib.hid hg; have HB3 := Lib.hid (HB2.out.trans (hb.mono HB2.out.size)); clear hb hg)
    | (go_at_call 22; refine (neg_any w1 _ (Fe.num_ok 1 (by decide) (by decide)) (HD.out.below HB1.out HD.out.1)).mono ?_; rintro e w2 ⟨rfl, hb⟩; have HB2 := Lib.hid (HB1.out.trans (hb.mono HB1.out.size)); clear hb)
    | (go_at_call 28; refine (num_any w _ (by decide) (by decide)).mono ?_; rintro e w1 ⟨rfl, hb⟩; have HB1 := Lib.hid hb; clear hb))
  go_ret
  exact ⟨rfl, HB9.out⟩
end Go.Proofs.YtgebangnhgmmoaaDoor

/- The laws, the walks: what lies where. -/
namespace Go.Proofs.YtgebangnhgmmoaaDoor
open Go.RowKit

/-- What lies where while a law is walked: elements, bytes, numbers. -/
structure St (w0 : World) (rows : List (Nat × Fe.E)) (bys : List (Nat × List Int)) (nums : List (Value × List Int)) (wr : World) : Prop where
  rows : ∀ r ∈ rows, wr.heap[r.1]? = some (.cells (ec r.2) 30 (0, 0))
  bys : ∀ r ∈ bys, Blk wr r.1 .u8 23 r.2
  nums : ∀ r ∈ nums, Num wr r.1 r.2
  dbl : Dbl wr
  bb : Below w0.heap.size w0 wr
section
variable {w0 w w' : World} {rows : List (Nat × Fe.E)} {bys : List (Nat × List Int)} {nums : List (Value × List Int)}
theorem St.below (h : St w0 rows bys nums w) (hb : Below w.heap.size w w') : St w0 rows bys nums w' :=
  ⟨fun r hr => (hb.block _ (lt_of_block (h.rows r hr))).trans (h.rows r hr), fun r hr => (h.bys r hr).other (hb.block _ (h.bys r hr).lt), fun r hr => (h.nums r hr).below hb (Nat.le_refl _), h.dbl.below hb h.dbl.1, h.bb.trans (hb.mono h.bb.size)⟩
theorem St.num (h : St w0 rows bys nums w) {v : Value} {l : List Int} (hn : Num w v l) : St w0 rows bys ((v, l) :: nums) w :=
  ⟨h.rows, h.bys, fun r hr => by rcases List.mem_cons.1 hr with rfl | hr; exact hn; exact h.nums r hr, h.dbl, h.bb⟩
/-- An element laid into a new block. -/
theorem St.row (h : St w0 rows bys nums w) (x : Fe.E) : St w0 ((w.heap.size, x) :: rows) bys nums ((w.alloc (.cells #[.int .u64 0, .int .u64 0, .int .u64 0, .int .u64 0, .int .u64 0] 30)).setRow w.heap.size (ec x)) := by
  rw [World.setRow_alloc_new]
  have h2 := h.below ((Below.refl w.heap.size w).alloc (Nat.le_refl _) (.cells (ec x) 30))
  refine ⟨fun r hr => ?_, h2.bys, h2.nums, h2.dbl, h2.bb⟩
  rcases List.mem_cons.1 hr with rfl | hr
  · exact heap_alloc_new w _
  · exact h2.rows r hr
theorem zero_new (w : World) : (w.alloc (.cells #[.int .u64 0, .int .u64 0, .int .u64 0, .int .u64 0, .int .u64 0] 30)).heap[w.heap.size]? = some (.cells (ec Fe.z) 30 (0, 0)) := heap_alloc_new w (.cells (ec Fe.z) 30)
end
/-- An element is read, whatever guards the operation, if the guard holds. -/
theorem load_rowG {ops : Array Oper} {rest : List Oper} {o : Oper} {a : Act} {w : World} {Q : Exit → Act → World → Prop} (x : Fe.E) (t g : Nat) (ho : o.op = .load 30 (.tmp t)) (hx : a.eval (.tmp t) = .pointer (some ⟨g, 0, none⟩))
    (hg : w.heap[g]? = some (.cells (ec x) 30 (0, 0))) (hw : Region.wanted o (yielded ops a.tmps) = true) (h : wpList Tryd.prog ops Q rest (a.put o.dst (.agg (ec x))) w) : wpList Tryd.prog ops Q (o :: rest) a w := by
  unfold wpList
  rw [if_pos hw]
  exact Or.inl (wp_load_row 30 (.tmp t) ho g hx 30 (ec x) (0, 0) _ hg Tryd.underlying30 rfl i30 h)
/-- The number that 32 bytes are. -/
def nb (p : List Int) : Int := ((Bt.low p % 2 ^ 255 : Nat) : Int)
theorem rd_re (p : List Int) : Fe.Re (Fe.rd (Bt.low p)) (nb p) := ⟨Fe.rd_ok _, by rw [Fe.rd_val]; rfl⟩
theorem mod_P_le (x : Int) : x % Fe.P ≤ Fe.P := Int.le_of_lt (Int.emod_lt_of_pos _ (by decide))
theorem mod_P_mod (x : Int) : x % Fe.P % Fe.P = x % Fe.P := Int.emod_emod _ _
/-- Two boxes. -/
theorem St.two {w : World} (hd : Dbl w) (p q : List Int) : St w [] [(w.heap.size, p), (w.heap.size + 1, q)] [] ((w.alloc (.cells (p.map (Value.int .u8)).toArray 23)).alloc (.cells (q.map (Value.int .u8)).toArray 23)) := by
  have h3 : Below w.heap.size w ((w.alloc (.cells (p.map (Value.int .u8)).toArray 23)).alloc (.cells (q.map (Value.int .u8)).toArray 23)) := ((Below.refl _ _).alloc (Nat.le_refl _) _).alloc (by simp) _
  refine ⟨fun r hr => (List.not_mem_nil hr).elim, fun r hr => ?_, fun r hr => (List.not_mem_nil hr).elim, hd.below h3 hd.1, h3⟩
  simp only [List.mem_cons, List.not_mem_nil, or_false] at hr
  rcases hr with rfl | rfl
  · exact heap_alloc2_old w _ _
  · exact heap_alloc2_new w _ _

theorem num_nil (w : World) : Num w (.slice none 0 0) [] := ⟨none, 0, rfl, Nat.le_refl _, Nt.Ws.nil, Or.inl rfl⟩
section
variable {x y : Fe.E} {X Y a b s : Int}
theorem ok_add (hx : Fe.Re x X) (hy : Fe.Re y Y) {lx ly l : List Int} (ha : Nt.val lx = X % Fe.P) (hb : Nt.val ly = Y % Fe.P) (hs : Nt.val l = (Nt.val lx + Nt.val ly) % Fe.P) : decide (Fe.val (Fe.add x y) % Fe.P = Nt.val l) = true := by
  refine decide_eq_true ?_
  rw [(hx.add hy).eq, hs, ha, hb, ← Int.add_emod]
theorem ok_sub (hx : Fe.Re x X) (hy : Fe.Re y Y) {lx ly l : List Int} (ha : Nt.val lx = X % Fe.P) (hb : Nt.val ly = Y % Fe.P) (hs : Nt.val l = (Nt.val lx - Nt.val ly) % Fe.P) : decide (Fe.val (Fe.sub x y) % Fe.P = Nt.val l) = true := by
  refine decide_eq_true ?_
  rw [(hx.sub hy).eq, hs, ha, hb, ← Int.sub_emod]
theorem ok_neg (hx : Fe.Re x X) {lx l : List Int} (ha : Nt.val lx = X % Fe.P) (hs : Nt.val l = (Nt.val [] - Nt.val lx) % Fe.P) : decide (Fe.val (Fe.neg x) % Fe.P = Nt.val l) = true := by
  refine decide_eq_true ?_
  have h0 : Fe.Re Fe.z 0 := ⟨Fe.z_ok, rfl⟩
  show Fe.val (Fe.sub Fe.z x) % Fe.P = _
  rw [(h0.sub hx).eq, hs, ha]
  show _ = (0 - _) % _
  rw [Int.sub_emod 0 (X % Fe.P), Int.emod_emod, ← Int.sub_emod]
theorem ok_cmp (hx : Fe.Re x X) (hy : Fe.Re y Y) {lx ly : List Int} {r : Int} (ha : Nt.val lx = X % Fe.P) (hb : Nt.val ly = Y % Fe.P) (h1 : r ≤ 0 ↔ Nt.val lx ≤ Nt.val ly) (h2 : r < 0 ↔ Nt.val lx < Nt.val ly) : (decide (Fe.val x % Fe.P = Fe.val y % Fe.P) == (r == 0)) = true := by
  rw [hx.eq, hy.eq, ← ha, ← hb]
  have : r = 0 ↔ Nt.val lx = Nt.val ly := by omega
  by_cases h : Nt.val lx = Nt.val ly
  · rw [decide_eq_true h, this.2 h]; rfl
  · rw [decide_eq_false h]
    have h3 : ¬ r = 0 := fun h4 => h (this.1 h4)
    simp [h3]
end

set_option maxRecDepth 100000 in
set_option maxHeartbeats 1000000 in
theorem sums_walk (w : World) (hd : Dbl w) (p q : List Int) (hp : p.length = 32) (hq : q.length = 32) (wp : ∀ x ∈ p, W8 x) (wq : ∀ x ∈ q, W8 x) :
    Calls Tryd.prog 4 #[bv p, bv q] w fun e w' => e = .returned (.bool true) ∧ Below w.heap.size w w' := by
  have S0 := Lib.hid (St.two hd p q)
  have WP := Lib.hid wp
  have WQ := Lib.hid wq
  have LP := Lib.hid hp
  have LQ := Lib.hid hq
  clear hd wp wq hp hq
  unfold bv
  go_enter Tryd.func4, Tryd.ntmps4
  go_wp2_with (first
    | (go_at_call 24; refine (cmp_any _ _ _ lx ly (S17.out.nums (vx, lx) (by simp)) (S17.out.nums (vy, ly) (by simp)) (Nat.le_trans Lx.out (by decide)) (Nat.le_trans Ly.out (by decide))).mono ?_; rintro e wq18 ⟨r, rfl, hr1, hr2, hb⟩; have S18 := Lib.hid (S17.out.below hb); have hr := ok_cmp (rd_re p) (rd_re q) Vx.out Vy.out hr1 hr2; clear hr1 hr2; clear hb)
    | (go_at_call 23; refine (same_any _ (Fe.rd (Bt.low p)) (Fe.rd (Bt.low q)) (Fe.rd_ok _) (Fe.rd_ok _)).mono ?_; rintro e wq17 ⟨rfl, hb⟩; have S17 := Lib.hid (S16.out.below hb); clear hb)
    | ((with_reducible refine load_rowG (o := ⟨some 45, _, _, _, _, _⟩) (Fe.rd (Bt.low q)) 6 wq3.heap.size rfl rfl (S16.out.rows (wq3.heap.size, Fe.rd (Bt.low q)) (by simp)) ?_ ?_); exact rfl)
    | ((with_reducible refine load_rowG (o := ⟨some 44, _, _, _, _, _⟩) (Fe.rd (Bt.low p)) 5 wq1.heap.size rfl rfl (S16.out.rows (wq1.heap.size, Fe.rd (Bt.low p)) (by simp)) ?_ ?_); exact rfl)
    | (go_at_call 12; refine (is_any _ (Fe.neg (Fe.rd (Bt.low p))) (Fe.sub_ok Fe.z_ok (Fe.rd_ok _)) vn ln (S15.out.nums (vn, ln) (by simp)) Ln.out).mono ?_; rintro e wq16 ⟨rfl, hb⟩; have S16 := Lib.hid (S15.out.below hb); rw [ok_neg (rd_re p) Vx.out Vn.out]; clear hb)
    | (go_at_call 21; refine (rsub_any _ _ _ [] lx (num_nil _) (S14.out.nums (vx, lx) (by simp)) (by decide) (by rw [Vx.out]; exact mod_P_le _)).mono ?_; rintro e wq15 ⟨vn, ln, rfl, hn, hv, _, hl, hb⟩; have S15 := Lib.hid ((S14.out.below hb).num (hn.below (Below.refl _ _) (Nat.le_refl _))); have Vn := Lib.hid hv; have Ln : Hid (ln.length ≤ 20000) := Nat.le_trans hl (by decide); clear hn hv hl; clear hb)
    | (go_at_call 22; refine (neg_any _ (Fe.rd (Bt.low p)) (Fe.rd_ok _) S13.out.dbl).mono ?_; rintro e wq14 ⟨rfl, hb⟩; have S14 := Lib.hid (S13.out.below hb); clear hb)
    | ((with_reducible refine load_rowG (o := ⟨some 37, _, _, _, _, _⟩) (Fe.rd (Bt.low p)) 5 wq1.heap.size rfl rfl (S13.out.rows (wq1.heap.size, Fe.rd (Bt.low p)) (by simp)) ?_ ?_); exact rfl)
    | (go_at_call 12; refine (is_any _ (Fe.sub (Fe.rd (Bt.low p)) (Fe.rd (Bt.low q))) (Fe.sub_ok (Fe.rd_ok _) (Fe.rd_ok _)) vd ld (S12.out.nums (vd, ld) (by simp)) Ld.out).mono ?_; rintro e wq13 ⟨rfl, hb⟩; have S13 := Lib.hid (S12.out.below hb); rw [ok_sub (rd_re p) (rd_re q) Vx.out Vy.out Vd.out]; clear hb)
    | (go_at_call 21; refine (rsub_any _ _ _ lx ly (S11.out.nums (vx, lx) (by simp)) (S11.out.nums (vy, ly) (by simp)) Lx.out (by rw [Vy.out]; exact mod_P_le _)).mono ?_; rintro e wq12 ⟨vd, ld, rfl, hn, hv, _, hl, hb⟩; have S12 := Lib.hid ((S11.out.below hb).num (hn.below (Below.refl _ _) (Nat.le_refl _))); have Vd := Lib.hid hv; have Ld : Hid (ld.length ≤ 20000) := Nat.le_trans hl (by decide); clear hn hv hl; clear hb)
    | (go_at_call 20; refine (sub_any _ (Fe.rd (Bt.low p)) (Fe.rd (Bt.low q)) (Fe.rd_ok _) (Fe.rd_ok _) S10.out.dbl).mono ?_; rintro e wq11 ⟨rfl, hb⟩; have S11 := Lib.hid (S10.out.below hb); clear hb)
    | ((with_reducible refine load_rowG (o := ⟨some 29, _, _, _, _, _⟩) (Fe.rd (Bt.low q)) 6 wq3.heap.size rfl rfl (S10.out.rows (wq3.heap.size, Fe.rd (Bt.low q)) (by simp)) ?_ ?_); exact rfl)
    | ((with_reducible refine load_rowG (o := ⟨some 28, _, _, _, _, _⟩) (Fe.rd (Bt.low p)) 5 wq1.heap.size rfl rfl (S10.out.rows (wq1.heap.size, Fe.rd (Bt.low p)) (by simp)) ?_ ?_); exact rfl)
    | (go_at_call 12; refine (is_any _ (Fe.add (Fe.rd (Bt.low p)) (Fe.rd (Bt.low q))) (Fe.add_ok (Fe.rd_ok _) (Fe.rd_ok _)) vs ls (S9.out.nums (vs, ls) (by simp)) Ls.out).mono ?_; rintro e wq10 ⟨rfl, hb⟩; have S10 := Lib.hid (S9.out.below hb); rw [ok_add (rd_re p) (rd_re q) Vx.out Vy.out Vs.out]; clear hb)
    | (go_at_call 19; refine (radd_any _ _ _ lx ly (S8.out.nums (vx, lx) (by simp)) (S8.out.nums (vy, ly) (by simp)) Lx.out Ly.out).mono ?_; rintro e wq9 ⟨vs, ls, rfl, hn, hv, _, hl, hb⟩; have S9 := Lib.hid ((S8.out.below hb).num (hn.below (Below.refl _ _) (Nat.le_refl _))); have Vs := Lib.hid hv; have Ls : Hid (ls.length ≤ 20000) := Nat.le_trans hl (by decide); clear hn hv hl; clear hb)
    | (go_at_call 18; refine (add_any _ (Fe.rd (Bt.low p)) (Fe.rd (Bt.low q)) (Fe.rd_ok _) (Fe.rd_ok _)).mono ?_; rintro e wq8 ⟨rfl, hb⟩; have S8 := Lib.hid (S7.out.below hb); clear hb)
    | ((with_reducible refine load_rowG (o := ⟨some 20, _, _, _, _, _⟩) (Fe.rd (Bt.low q)) 6 wq3.heap.size rfl rfl (S7.out.rows (wq3.heap.size, Fe.rd (Bt.low q)) (by simp)) ?_ ?_); exact rfl)
    | ((with_reducible refine load_rowG (o := ⟨some 19, _, _, _, _, _⟩) (Fe.rd (Bt.low p)) 5 wq1.heap.size rfl rfl (S7.out.rows (wq1.heap.size, Fe.rd (Bt.low p)) (by simp)) ?_ ?_); exact rfl)
    | (go_at_call 9; refine (awake_any _ S6.out.dbl).mono ?_; rintro e wq7 ⟨rfl, hb⟩; have S7 := Lib.hid (S6.out.below hb); clear hb)
    | (go_at_call 10; refine (of_32 _ _ _ q LQ.out (slc_blk (S5.out.bys (w.heap.size + 1, q) (by simp)) LQ.out WQ.out)).mono ?_; rintro e wq6 ⟨vy, ly, rfl, hn, hv, hne, hl, hb⟩; have S6 := Lib.hid ((S5.out.below hb).num (hn.below (Below.refl _ _) (Nat.le_refl _))); have Vy : Hid (Nt.val ly = nb q % Fe.P) := hv; have Ly : Hid (ly.length ≤ 20000) := Nat.le_trans hl (by decide); have Ny := Lib.hid hne; clear hn hv hl hne; clear hb)
    | (go_at_call 10; refine (of_32 _ _ _ p LP.out (slc_blk (S4.out.bys (w.heap.size, p) (by simp)) LP.out WP.out)).mono ?_; rintro e wq5 ⟨vx, lx, rfl, hn, hv, hne, hl, hb⟩; have S5 := Lib.hid ((S4.out.below hb).num (hn.below (Below.refl _ _) (Nat.le_refl _))); have Vx : Hid (Nt.val lx = nb p % Fe.P) := hv; have Lx : Hid (lx.length ≤ 20000) := Nat.le_trans hl (by decide); have Nx := Lib.hid hne; clear hn hv hl hne; clear hb)
    | ((with_reducible refine wpList_store_row (o := ⟨none, _, _, _, _, _⟩) rfl 30 (.tmp 6) (.tmp 12) rfl wq3.heap.size (ec (Fe.rd (Bt.low q))) rfl rfl 30 _ (zero_new wq3) ?_ ?_ ?_ ?_); exact i30; exact rfl; exact ec_one _; have S4 := Lib.hid (S3.out.row (Fe.rd (Bt.low q))))
    | (go_at_call 11; refine (read_32 _ _ _ q LQ.out (slc_blk (S2.out.bys (w.heap.size + 1, q) (by simp)) LQ.out WQ.out)).mono ?_; rintro e wq3 ⟨rfl, hb⟩; have S3 := Lib.hid (S2.out.below hb); clear hb)
    | ((with_reducible refine wpList_store_row (o := ⟨none, _, _, _, _, _⟩) rfl 30 (.tmp 5) (.tmp 10) rfl wq1.heap.size (ec (Fe.rd (Bt.low p))) rfl rfl 30 _ (zero_new wq1) ?_ ?_ ?_ ?_); exact i30; exact rfl; exact ec_one _; have S2 := Lib.hid (S1.out.row (Fe.rd (Bt.low p))))
    | (go_at_call 11; refine (read_32 _ _ _ p LP.out (slc_blk (S0.out.bys (w.heap.size, p) (by simp)) LP.out WP.out)).mono ?_; rintro e wq1 ⟨rfl, hb⟩; have S1 := Lib.hid (S0.out.below hb); clear hb))
  go_ret
  exact ⟨rfl, S18.out.bb⟩
end Go.Proofs.YtgebangnhgmmoaaDoor

/- Regions with a tail: what the frame holds behind one; picks, new blocks. -/
namespace Go.Proofs.YtgebangnhgmmoaaDoor
open Go.RowKit
namespace Grow
/-- What the operations ahead of the last write. -/
def dsts (ops : Array Oper) (m : Nat) : List Nat := (List.range m).filterMap (dstOf ops)
theorem free2_of {ops : Array Oper} {m t : Nat} (h : t ∉ dsts ops m) : free2 ops m t = true := by
  unfold free2
  rw [List.all_eq_true]
  intro j hj
  simp only [bne_iff_ne, ne_eq]
  intro hh
  exact h (List.mem_filterMap.2 ⟨j, hj, hh⟩)
def putAll (a0 a : Act) : List Nat → Act
  | [] => a0
  | d :: r => (putAll a0 a r).put (some d) (a.eval (.tmp d))
theorem putAll_size (a0 a : Act) : ∀ l, (putAll a0 a l).tmps.size = a0.tmps.size
  | [] => rfl
  | d :: r => by simp [putAll, Act.put, putAll_size a0 a r]
theorem putAll_defers (a0 a : Act) : ∀ l, (putAll a0 a l).defers = a0.defers
  | [] => rfl
  | d :: r => by simp [putAll, Act.put, putAll_defers a0 a r]
theorem putAll_get {a0 a : Act} (hs : a.tmps.size = a0.tmps.size) : ∀ (l : List Nat) (t : Nat), t < a0.tmps.size → (putAll a0 a l).eval (.tmp t) = if t ∈ l then a.eval (.tmp t) else a0.eval (.tmp t)
  | [], t, _ => by simp [putAll]
  | d :: r, t, ht => by
    by_cases h : d = t
    · subst h
      rw [if_pos List.mem_cons_self]
      exact eval_put_eq (by rw [putAll_size]; exact ht)
    · show ((putAll a0 a r).put (some d) (a.eval (.tmp d))).eval (.tmp t) = _
      rw [eval_put_ne h, putAll_get hs r t ht]
      have : t ∈ d :: r ↔ t ∈ r := by
        rw [List.mem_cons]
        exact ⟨fun hh => hh.resolve_left (fun e => h e.symm), Or.inr⟩
      simp only [this]
/-- The frame behind a region: what it was, with what was written. -/
theorem act_after {ops : Array Oper} {m : Nat} {a a0 : Act} (hs : a.tmps.size = a0.tmps.size) (hd : a.defers = a0.defers) (hf : ∀ t, free2 ops m t = true → a.eval (.tmp t) = a0.eval (.tmp t)) : a = putAll a0 a (dsts ops m) := by
  have e : a.tmps = (putAll a0 a (dsts ops m)).tmps := by
    refine Array.ext (by rw [putAll_size]; exact hs) fun i h1 h2 => ?_
    have h3 : i < a0.tmps.size := by rw [← hs]; exact h1
    have h := putAll_get hs (dsts ops m) i h3
    have ea : a.eval (.tmp i) = a.tmps[i] := by simp [Act.eval, Array.getElem?_eq_getElem h1]
    have eb : (putAll a0 a (dsts ops m)).eval (.tmp i) = (putAll a0 a (dsts ops m)).tmps[i] := by simp [Act.eval, Array.getElem?_eq_getElem h2]
    rw [eb] at h
    rw [h, ← ea]
    split
    · rfl
    · next hn => exact hf i (free2_of hn)
  have ed := hd.trans (putAll_defers a0 a (dsts ops m)).symm
  cases a
  generalize hb : putAll a0 _ (dsts ops m) = b at *
  cases b
  simp only at e ed
  rw [e, ed]

section
variable {m : Nat} {ops : Array Oper} {Q : Exit → Act → World → Prop} {specs : Nat → Spec} {a0 : Act} {w0 : World} {i : Nat} {o : Oper}
theorem h2_pick (hr : Runs2 ops specs a0 o) (j1 d1 j2 d2 : Nat) (y : Operand) (ho : o.op = .pick (.tmp d1) (.tmp d2) y) (hj1 : deps .any ops o j1 d1 = true) (hj2 : deps .any ops o j2 d2 = true) (hs1 : specs j1 = .is (.bool true)) (hs2 : specs i = specs j2) : Hop2 Tryd.prog m ops specs Q a0 w0 i o :=
  h2_val hr fun a w hk => by
    have h1 := hk.deps j1 d1 hj1
    have h2 := hk.deps j2 d2 hj2
    rw [hs1] at h1
    rw [← hs2] at h2
    have h1 : a.eval (.tmp d1) = .bool true := h1
    refine ⟨a.eval (.tmp d2), w, ?_, h2, Below.refl _ _⟩
    unfold execOp
    rw [ho]
    simp only [h1]
    go_simp
/-- A new block for an element. -/
def newRow (w0 : World) : Spec := .held (fun u w => ∃ g, u = .pointer (some ⟨g, 0, none⟩) ∧ w.heap[g]? = some (.cells (ec Fe.z) 30 (0, 0)) ∧ w0.heap.size ≤ g) (fun _ _ _ h hb => by
  obtain ⟨g, h1, h2, h3⟩ := h
  exact ⟨g, h1, (hb.block g (lt_of_block h2)).trans h2, h3⟩)
theorem h2_alloc (hr : Runs2 ops specs a0 o) (ho : o.op = .alloc 30) (hs : specs i = newRow w0) : Hop2 Tryd.prog m ops specs Q a0 w0 i o :=
  h2_val hr fun a w hk => by
    have hu := Tryd.underlying30
    refine ⟨.pointer (some ⟨w.heap.size, 0, none⟩), w.alloc (.cells (ec Fe.z) 30), ?_, ?_, (Below.refl _ _).alloc (Nat.le_refl _) _⟩
    · unfold execOp
      rw [ho]
      kernel_rfl
    · rw [hs]
      exact ⟨_, rfl, heap_alloc_new w _, hk.below.size⟩
/-- A number of the reference's. -/
def nat (N : Int) : Spec := .held (fun u w => ∃ l, Num w u l ∧ Nt.val l = N ∧ Nt.Neat l ∧ l.length ≤ 20000) (fun _ _ _ h hb => by
  obtain ⟨l, h1, h2, h3, h4⟩ := h
  exact ⟨l, h1.below hb (Nat.le_refl _), h2, h3, h4⟩)
end
theorem enter9 (args : Array Value) (w : World) : (callFunc 9 args).run Tryd.prog w = .ok (.enter 9 args) w := by
  have := Tryd.func9
  go_simp
theorem enter10 (args : Array Value) (w : World) : (callFunc 10 args).run Tryd.prog w = .ok (.enter 10 args) w := by
  have := Tryd.func10
  go_simp
theorem enter11 (args : Array Value) (w : World) : (callFunc 11 args).run Tryd.prog w = .ok (.enter 11 args) w := by
  have := Tryd.func11
  go_simp
theorem enter12 (args : Array Value) (w : World) : (callFunc 12 args).run Tryd.prog w = .ok (.enter 12 args) w := by
  have := Tryd.func12
  go_simp
theorem enter13 (args : Array Value) (w : World) : (callFunc 13 args).run Tryd.prog w = .ok (.enter 13 args) w := by
  have := Tryd.func13
  go_simp
theorem enter14 (args : Array Value) (w : World) : (callFunc 14 args).run Tryd.prog w = .ok (.enter 14 args) w := by
  have := Tryd.func14
  go_simp
theorem enter15 (args : Array Value) (w : World) : (callFunc 15 args).run Tryd.prog w = .ok (.enter 15 args) w := by
  have := Tryd.func15
  go_simp
theorem enter16 (args : Array Value) (w : World) : (callFunc 16 args).run Tryd.prog w = .ok (.enter 16 args) w := by
  have := Tryd.func16
  go_simp
theorem enter17 (args : Array Value) (w : World) : (callFunc 17 args).run Tryd.prog w = .ok (.enter 17 args) w := by
  have := Tryd.func17
  go_simp
theorem enter18 (args : Array Value) (w : World) : (callFunc 18 args).run Tryd.prog w = .ok (.enter 18 args) w := by
  have := Tryd.func18
  go_simp
theorem enter19 (args : Array Value) (w : World) : (callFunc 19 args).run Tryd.prog w = .ok (.enter 19 args) w := by
  have := Tryd.func19
  go_simp
theorem enter20 (args : Array Value) (w : World) : (callFunc 20 args).run Tryd.prog w = .ok (.enter 20 args) w := by
  have := Tryd.func20
  go_simp
theorem enter21 (args : Array Value) (w : World) : (callFunc 21 args).run Tryd.prog w = .ok (.enter 21 args) w := by
  have := Tryd.func21
  go_simp
theorem enter22 (args : Array Value) (w : World) : (callFunc 22 args).run Tryd.prog w = .ok (.enter 22 args) w := by
  have := Tryd.func22
  go_simp
theorem enter23 (args : Array Value) (w : World) : (callFunc 23 args).run Tryd.prog w = .ok (.enter 23 args) w := by
  have := Tryd.func23
  go_simp
theorem enter25 (args : Array Value) (w : World) : (callFunc 25 args).run Tryd.prog w = .ok (.enter 25 args) w := by
  have := Tryd.func25
  go_simp
theorem enter26 (args : Array Value) (w : World) : (callFunc 26 args).run Tryd.prog w = .ok (.enter 26 args) w := by
  have := Tryd.func26
  go_simp
theorem enter27 (args : Array Value) (w : World) : (callFunc 27 args).run Tryd.prog w = .ok (.enter 27 args) w := by
  have := Tryd.func27
  go_simp
theorem enter28 (args : Array Value) (w : World) : (callFunc 28 args).run Tryd.prog w = .ok (.enter 28 args) w := by
  have := Tryd.func28
  go_simp
theorem enter29 (args : Array Value) (w : World) : (callFunc 29 args).run Tryd.prog w = .ok (.enter 29 args) w := by
  have := Tryd.func29
  go_simp
theorem enter32 (args : Array Value) (w : World) : (callFunc 32 args).run Tryd.prog w = .ok (.enter 32 args) w := by
  have := Tryd.func32
  go_simp
theorem enter33 (args : Array Value) (w : World) : (callFunc 33 args).run Tryd.prog w = .ok (.enter 33 args) w := by
  have := Tryd.func33
  go_simp
theorem enter34 (args : Array Value) (w : World) : (callFunc 34 args).run Tryd.prog w = .ok (.enter 34 args) w := by
  have := Tryd.func34
  go_simp
theorem enter36 (args : Array Value) (w : World) : (callFunc 36 args).run Tryd.prog w = .ok (.enter 36 args) w := by
  have := Tryd.func36
  go_simp
end Grow
end Go.Proofs.YtgebangnhgmmoaaDoor
