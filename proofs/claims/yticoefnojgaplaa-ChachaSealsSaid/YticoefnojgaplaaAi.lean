/- A drawn region whose last operation waits, through others, for all: region_tail once more, with waits that go on. -/
import Derived.Test.YticoefnojgaplaaAg
namespace Go.Proofs.Yticoefnojgaplaa
open Go.RowKit
namespace Grow
/-- An operation waits for another. -/
def waits (ops : Array Oper) (j i : Nat) : Bool := match ops[j]? with | some o => o.after.any fun e => Region.binds .any e && e.on == i | none => false
/-- No two write one temporary; all are written in the frame; each waits for earlier ones alone; for each some later one waits. -/
def fits4 (ops : Array Oper) (m n : Nat) : Bool :=
  ops.size == m + 1 && (((List.range m).all fun i => (match dstOf ops i with
    | some d => decide (d < n) && (List.range m).all fun j => j == i || dstOf ops j != some d
    | none => false) && (match ops[i]? with | some o => o.after.all fun e => decide (e.on < i) | none => false)) &&
   (((List.range m).all fun i => (List.range (m + 1)).any fun j => decide (i < j) && waits ops j i) && (match ops[m]? with | some o => o.after.all (fun e => decide (e.on < m)) | none => false)))
/-- What is listed has what it waited for listed. -/
def Closed (ops : Array Oper) (m : Nat) (listed : Array Bool) : Prop := ∀ j o e, j < m → ops[j]? = some o → listed.getD j false = true → e ∈ o.after → Region.binds .any e = true → listed.getD e.on false = true
section
variable {P : Program} {m : Nat} {ops : Array Oper} {Q : Exit → Act → World → Prop} {specs : Nat → Spec} {a0 : Act} {w0 : World}
theorem fits4_size {n : Nat} (h : fits4 ops m n = true) : ops.size = m + 1 := by
  unfold fits4 at h
  simp only [Bool.and_eq_true, beq_iff_eq] at h
  exact h.1
theorem fits4_dst {n : Nat} (h : fits4 ops m n = true) {i : Nat} {o : Oper} (hm : i < m) (hi : ops[i]? = some o) : ∃ d, o.dst = some d ∧ d < n ∧ (∀ j, j < m → j ≠ i → dstOf ops j ≠ some d) ∧ ∀ e ∈ o.after, e.on < i := by
  unfold fits4 at h
  simp only [Bool.and_eq_true] at h
  have h0 := h.2.1
  rw [List.all_eq_true] at h0
  have h1 := h0 i (List.mem_range.2 hm)
  simp only [Bool.and_eq_true, hi] at h1
  obtain ⟨h2, h3⟩ := h1
  have hd : dstOf ops i = o.dst := by simp [dstOf, hi]
  rw [hd] at h2
  cases hod : o.dst with
  | none => rw [hod] at h2; cases h2
  | some d =>
    rw [hod] at h2
    simp only [Bool.and_eq_true, decide_eq_true_eq, List.all_eq_true, List.mem_range] at h2
    refine ⟨d, rfl, h2.1, fun j hj hne => ?_, fun e he => ?_⟩
    · have := h2.2 j hj
      simp only [Bool.or_eq_true, beq_iff_eq, bne_iff_ne, ne_eq] at this
      rcases this with h | h
      · exact absurd h hne
      · exact h
    · rw [Array.all_eq_true_iff_forall_mem] at h3
      simpa using h3 e he
theorem fits4_waits {n : Nat} (h : fits4 ops m n = true) {i : Nat} (hi : i < m) : ∃ j o e, i < j ∧ j ≤ m ∧ ops[j]? = some o ∧ e ∈ o.after ∧ Region.binds .any e = true ∧ e.on = i := by
  unfold fits4 at h
  simp only [Bool.and_eq_true] at h
  have h0 := h.2.2.1
  rw [List.all_eq_true] at h0
  have h1 := h0 i (List.mem_range.2 hi)
  rw [List.any_eq_true] at h1
  obtain ⟨j, hj, h2⟩ := h1
  simp only [Bool.and_eq_true, decide_eq_true_eq] at h2
  obtain ⟨h3, h4⟩ := h2
  have hjm := List.mem_range.1 hj
  unfold waits at h4
  cases ho : ops[j]? with
  | none => rw [ho] at h4; cases h4
  | some o =>
    rw [ho] at h4
    simp only [Array.any_eq_true', Bool.and_eq_true, beq_iff_eq] at h4
    obtain ⟨e, he, hb, hon⟩ := h4
    exact ⟨j, o, e, h3, by omega, ho, he, hb, hon⟩
theorem fits4_last {n : Nat} (h : fits4 ops m n = true) {o : Oper} (hi : ops[m]? = some o) : ∀ e ∈ o.after, e.on < m := by
  unfold fits4 at h
  simp only [Bool.and_eq_true] at h
  have h2 := h.2.2.2
  rw [hi] at h2
  intro e he
  simp only [Array.all_eq_true_iff_forall_mem] at h2
  simpa using h2 e he
theorem Closed.step {listed : Array Bool} (h : Closed ops m listed) {i : Nat} {o : Oper} (hi : ops[i]? = some o) (hall : ∀ e ∈ o.after, Region.binds .any e = true → listed.getD e.on false = true) : Closed ops m (listed.setIfInBounds i true) := by
  have up : ∀ k, listed.getD k false = true → (listed.setIfInBounds i true).getD k false = true := by
    intro k hk
    by_cases hki : k = i
    · subst hki
      have hs : k < listed.size := by
        apply Decidable.byContradiction
        intro hn
        simp [Array.getElem?_eq_none (Nat.le_of_not_lt hn)] at hk
      simp [Array.getElem?_setIfInBounds_self_of_lt hs]
    · simpa [Array.getElem?_setIfInBounds_ne (Ne.symm hki)] using hk
  intro j oj e hj hoj hl he hb
  by_cases hji : j = i
  · subst hji
    obtain rfl := Option.some.inj (hi.symm.trans hoj)
    exact up _ (hall e he hb)
  · refine up _ (h j oj e hj hoj ?_ he hb)
    simpa [Array.getElem?_setIfInBounds_ne (Ne.symm hji)] using hl
theorem Inv2.step4 {listed : Array Bool} {a : Act} {w : World} (hf : fits4 ops m a0.tmps.size = true) (h : Inv2 m ops specs a0 w0 listed a w) {i : Nat} {o : Oper} (him : i < m) (hi : ops[i]? = some o) {v : Value} {w' : World}
    (hv : (specs i).meets v w') (hb : Below w.heap.size w w') : Inv2 m ops specs a0 w0 (listed.setIfInBounds i true) (a.put o.dst v) w' := by
  obtain ⟨d, hd, hdn, hne, -⟩ := fits4_dst hf him hi
  have hlt : i < ops.size := (Array.getElem?_eq_some_iff.1 hi).1
  have hdi : dstOf ops i = some d := by simp [dstOf, hi, hd]
  rw [hd]
  refine ⟨by simp [h.lsize], h.below.trans (hb.mono h.below.size), by simp [Act.put, h.tsize], ?_, ?_, by simp [Act.put, h.defers], ?_⟩
  · intro j e hjm hj hl
    by_cases hji : j = i
    · subst hji
      obtain rfl : d = e := Option.some.inj (hdi.symm.trans hj)
      rw [eval_put_eq (by rw [h.tsize]; exact hdn)]
      exact hv
    · have hde : d ≠ e := fun hh => hne j hjm hji (hh ▸ hj)
      rw [eval_put_ne hde]
      refine ((specs j).keeps (h.known j e hjm hj ?_) hb)
      simpa [Array.getElem?_setIfInBounds_ne (Ne.symm hji)] using hl
  · intro t ht
    have : d ≠ t := by
      intro hh
      subst hh
      unfold free2 at ht
      rw [List.all_eq_true] at ht
      have := ht i (List.mem_range.2 him)
      rw [hdi] at this
      simp at this
    rw [eval_put_ne this]
    exact h.rest t ht
  · simpa [Array.getElem?_setIfInBounds_ne (show i ≠ m by omega)] using h.last

theorem wpAny_wait (hf : fits4 ops m a0.tmps.size = true) (hops : Hops2 P m ops specs Q a0 w0 0 (ops.toList.take m))
    (hend : ∀ o a w, ops[m]? = some o → Below w0.heap.size w0 w → a.tmps.size = a0.tmps.size → (∀ i d, i < m → dstOf ops i = some d → (specs i).meets (a.eval (.tmp d)) w) → a.defers = a0.defers → (∀ t, free2 ops m t = true → a.eval (.tmp t) = a0.eval (.tmp t)) → Region.wanted o (yielded ops a.tmps) = true ∧ o.wp P a w (fun a' w' => Q .normal a' w') Q) :
    ∀ (fuel : Nat) (listed : Array Bool) (a : Act) (w : World), listed.toList.count false ≤ fuel → Inv2 m ops specs a0 w0 listed a w → Closed ops m listed → wpAny P .any ops Q fuel listed a w := by
  have hsz := fits4_size hf
  intro fuel
  induction fuel with
  | zero =>
    intro listed a w hc h hcl
    exfalso
    have hs : m < listed.size := by rw [h.lsize, hsz]; omega
    have hl0 : listed[m] = false := by have := h.last; simpa [Array.getElem?_eq_getElem hs] using this
    have hm : false ∈ listed.toList := by
      rw [Array.mem_toList_iff]
      exact Array.mem_of_getElem? (i := m) (by rw [Array.getElem?_eq_getElem hs, hl0])
    have := List.count_pos_iff.2 hm
    omega
  | succ fuel ih =>
    intro listed a w hc h hcl
    refine ⟨fun hr => ?_, fun i hi => ?_⟩
    · exfalso
      have hall : ∀ n i, i < n → i < ops.size → listed.getD i false = true := by
        intro n
        induction n with
        | zero => intro i hi; omega
        | succ n ihn =>
          intro i hi hlt
          by_cases hin : i < n
          · exact ihn i hin hlt
          · obtain ⟨o, ho⟩ : ∃ o, ops[i]? = some o := ⟨_, Array.getElem?_eq_getElem hlt⟩
            have haf : ∀ e ∈ o.after, e.on < i := by
              by_cases him : i < m
              · obtain ⟨_, _, _, _, haf⟩ := fits4_dst hf him ho
                exact haf
              · obtain rfl : i = m := by omega
                exact fits4_last hf ho
            cases hl : listed.getD i false with
            | true => rfl
            | false =>
              have hm : i ∈ Region.ready .any ops listed := by
                refine mem_ready.2 ⟨?_, o, ho, fun e he _ => ihn e.on (by have := haf e he; omega) (by have := haf e he; omega)⟩
                have hs : i < listed.size := by rw [h.lsize]; exact hlt
                simpa [Array.getElem?_eq_getElem hs] using hl
              rw [hr] at hm; cases hm
      have := hall (m + 1) m (Nat.lt_succ_self _) (by omega)
      rw [h.last] at this; cases this
    · obtain ⟨h0, o, ho, hall⟩ := mem_ready.1 hi
      have hs : i < listed.size := by rw [h.lsize]; exact (Array.getElem?_eq_some_iff.1 ho).1
      have hl0 : listed[i] = false := by simpa [Array.getElem?_eq_getElem hs] using h0
      have hcount : (listed.setIfInBounds i true).toList.count false ≤ fuel := by
        have hm : false ∈ listed.toList := by
          rw [Array.mem_toList_iff]
          exact Array.mem_of_getElem? (i := i) (by rw [Array.getElem?_eq_getElem hs, hl0])
        have hp := List.count_pos_iff.2 hm
        rw [Array.toList_setIfInBounds, List.count_set (by simpa using hs)]
        rw [if_pos (by simp [hl0]), if_neg (by simp)]
        omega
      by_cases him : i < m
      · have hhop := hops.get i o (by rw [List.getElem?_take_of_lt him]; simpa using ho)
        rw [Nat.zero_add] at hhop
        rcases hhop a w h.below h.tsize (fun j d hd => by
          unfold deps at hd
          simp only [Bool.and_eq_true, beq_iff_eq] at hd
          obtain ⟨hd1, hd2⟩ := hd
          rw [Array.any_eq_true'] at hd1
          obtain ⟨e, he, heb⟩ := hd1
          simp only [Bool.and_eq_true, beq_iff_eq] at heb
          obtain ⟨hb, rfl⟩ := heb
          obtain ⟨_, _, _, _, haf⟩ := fits4_dst hf him ho
          exact h.known _ d (by have := haf e he; omega) hd2 (hall e he hb)) h.rest with ⟨hw, hwp⟩ | ⟨hw, hm⟩
        · unfold wpOp
          simp only [ho, hw, if_true]
          refine Or.inl (Oper.wp_mono ?_ hwp)
          rintro a' w' ⟨v, rfl, hv, hb⟩
          exact ih _ _ _ hcount (h.step4 hf him ho hv hb) (hcl.step ho hall)
        · unfold wpOp
          simp only [ho, hw, Bool.false_eq_true, if_false]
          exact ih _ _ _ hcount (h.step4 hf him ho hm (Below.refl _ _)) (hcl.step ho hall)
      · have him' : i = m := by
          have := (Array.getElem?_eq_some_iff.1 ho).1
          omega
        subst him'
        have hl2 : ∀ n j, i - j ≤ n → j < i → listed.getD j false = true := by
          intro n
          induction n with
          | zero => intro j h1 h2; omega
          | succ n ihn =>
            intro j h1 h2
            obtain ⟨k, ok, e, hjk, hki, hok, he, hb, hon⟩ := fits4_waits hf h2
            rw [← hon]
            rcases Nat.lt_or_ge k i with hlt | hge
            · exact hcl k ok e hlt hok (ihn k (by omega) hlt) he hb
            · obtain rfl : k = i := by omega
              obtain rfl := Option.some.inj (ho.symm.trans hok)
              exact hall e he hb
        have hl : ∀ j, j < i → listed.getD j false = true := fun j hj => hl2 (i - j) j (Nat.le_refl _) hj
        obtain ⟨hw, hwp⟩ := hend o a w ho h.below h.tsize (fun j d hj hd => h.known j d hj hd (hl j hj)) h.defers h.rest
        unfold wpOp
        simp only [ho, hw, if_true]
        refine Or.inl (Oper.wp_mono ?_ hwp)
        intro a' w' hq
        refine wpAny_all (fun j hj => ?_) (by simp [h.lsize]) hq fuel
        by_cases hji : j = i
        · subst hji
          simp [Array.getElem?_setIfInBounds_self_of_lt hs]
        · have := hl j (by omega)
          simpa [Array.getElem?_setIfInBounds_ne (Ne.symm hji)] using this

theorem region_wait {id : Nat} (hm : P.follows .mixedOrders = true) (m : Nat) (specs : Nat → Spec) (hf : fits4 ops m a0.tmps.size = true) (hops : Hops2 P m ops specs Q a0 w0 0 (ops.toList.take m))
    (hend : ∀ o a w, ops[m]? = some o → Below w0.heap.size w0 w → a.tmps.size = a0.tmps.size → (∀ i d, i < m → dstOf ops i = some d → (specs i).meets (a.eval (.tmp d)) w) → a.defers = a0.defers → (∀ t, free2 ops m t = true → a.eval (.tmp t) = a0.eval (.tmp t)) → Region.wanted o (yielded ops a.tmps) = true ∧ o.wp P a w (fun a' w' => Q .normal a' w') Q) :
    (Code.region id ops true).wp P Q a0 w0 := by
  have hsz := fits4_size hf
  refine wp_region_any hm (wpAny_wait hf hops hend _ _ _ _ ?_ ?_ ?_)
  · simp
  · refine ⟨by simp, ⟨rfl, rfl, rfl, Nat.le_refl _, fun _ _ => rfl⟩, rfl, ?_, fun _ _ => rfl, rfl, ?_⟩
    · intro i d _ _ hl
      simp [Array.getElem?_replicate] at hl
      split at hl <;> simp at hl
    · simp [hsz]
  · intro j o e _ _ hl _ _
    simp [Array.getElem?_replicate] at hl
    split at hl <;> simp at hl
end
end Grow
end Go.Proofs.Yticoefnojgaplaa
