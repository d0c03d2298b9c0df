/- A drawn region behind whose drawn operations some follow one after the other. -/
import Derived.Test.YticoefnojgaplaaAs
namespace Go.Proofs.Yticoefnojgaplaa
open Go.RowKit
namespace Grow
/-- The first m are drawn: no two write one temporary; all are written in the frame; each waits for earlier ones alone; for each some later one waits. Those behind wait each for the one ahead of it. -/
def fits5 (ops : Array Oper) (m n : Nat) : Bool :=
  decide (m < ops.size) && (((List.range m).all fun i => (match dstOf ops i with
    | some d => decide (d < n) && (List.range m).all fun j => j == i || dstOf ops j != some d
    | none => false) && (match ops[i]? with | some o => o.after.all fun e => decide (e.on < i) | none => false)) &&
   (((List.range m).all fun i => (List.range (m + 1)).any fun j => decide (i < j) && waits ops j i) &&
    ((List.range ops.size).all fun k => decide (k < m) || (match ops[k]? with | some o => o.after.all (fun e => decide (e.on < k)) && (k == m || waits ops k (k - 1)) | none => false))))
/-- One after the other. -/
def wpSeq (P : Program) (ops : Array Oper) (Q : Exit → Act → World → Prop) : List Oper → Act → World → Prop
  | [], a, w => Q .normal a w
  | o :: r, a, w => Region.wanted o (yielded ops a.tmps) = true ∧ o.wp P a w (fun a' w' => wpSeq P ops Q r a' w') Q
section
variable {P : Program} {m : Nat} {ops : Array Oper} {Q : Exit → Act → World → Prop} {specs : Nat → Spec} {a0 : Act} {w0 : World}
theorem fits5_size {n : Nat} (h : fits5 ops m n = true) : m < ops.size := by
  unfold fits5 at h
  simp only [Bool.and_eq_true, decide_eq_true_eq] at h
  exact h.1
theorem fits5_dst {n : Nat} (h : fits5 ops m n = true) {i : Nat} {o : Oper} (hm : i < m) (hi : ops[i]? = some o) : ∃ d, o.dst = some d ∧ d < n ∧ (∀ j, j < m → j ≠ i → dstOf ops j ≠ some d) ∧ ∀ e ∈ o.after, e.on < i := by
  unfold fits5 at h
  simp only [Bool.and_eq_true] at h
  have h0 := h.2.1
  rw [List.all_eq_true] at h0
  have h1 := h0 i (List.mem_range.2 hm)
  simp only [Bool.and_eq_true, hi] at h1
  obtain ⟨h2, h3⟩ := h1
  have hd : dstOf ops i = o.dst := by simp [dstOf, hi]
  rw [hd] at h2
  cases hod : o.dst with
  | none => rw [hod] at h2; cases h2
  | some d =>
    rw [hod] at h2
    simp only [Bool.and_eq_true, decide_eq_true_eq, List.all_eq_true, List.mem_range] at h2
    refine ⟨d, rfl, h2.1, fun j hj hne => ?_, fun e he => ?_⟩
    · have := h2.2 j hj
      simp only [Bool.or_eq_true, beq_iff_eq, bne_iff_ne, ne_eq] at this
      rcases this with h | h
      · exact absurd h hne
      · exact h
    · rw [Array.all_eq_true_iff_forall_mem] at h3
      simpa using h3 e he
theorem waits_get {j i : Nat} (h : waits ops j i = true) : ∃ o e, ops[j]? = some o ∧ e ∈ o.after ∧ Region.binds .any e = true ∧ e.on = i := by
  unfold waits at h
  cases ho : ops[j]? with
  | none => rw [ho] at h; cases h
  | some o =>
    rw [ho] at h
    simp only [Array.any_eq_true', Bool.and_eq_true, beq_iff_eq] at h
    obtain ⟨e, he, hb, hon⟩ := h
    exact ⟨o, e, rfl, he, hb, hon⟩
theorem fits5_waits {n : Nat} (h : fits5 ops m n = true) {i : Nat} (hi : i < m) : ∃ j o e, i < j ∧ j ≤ m ∧ ops[j]? = some o ∧ e ∈ o.after ∧ Region.binds .any e = true ∧ e.on = i := by
  unfold fits5 at h
  simp only [Bool.and_eq_true] at h
  have h0 := h.2.2.1
  rw [List.all_eq_true] at h0
  have h1 := h0 i (List.mem_range.2 hi)
  rw [List.any_eq_true] at h1
  obtain ⟨j, hj, h2⟩ := h1
  simp only [Bool.and_eq_true, decide_eq_true_eq] at h2
  obtain ⟨h3, h4⟩ := h2
  have hjm := List.mem_range.1 hj
  obtain ⟨o, e, h5⟩ := waits_get h4
  exact ⟨j, o, e, h3, by omega, h5⟩
theorem fits5_late {n : Nat} (h : fits5 ops m n = true) {k : Nat} {o : Oper} (hk : m ≤ k) (ho : ops[k]? = some o) : (∀ e ∈ o.after, e.on < k) ∧ (m < k → ∃ e ∈ o.after, Region.binds .any e = true ∧ e.on = k - 1) := by
  unfold fits5 at h
  simp only [Bool.and_eq_true] at h
  have h0 := h.2.2.2
  rw [List.all_eq_true] at h0
  have h1 := h0 k (List.mem_range.2 (Array.getElem?_eq_some_iff.1 ho).1)
  rw [ho] at h1
  simp only [Bool.or_eq_true, decide_eq_true_eq, Bool.and_eq_true, beq_iff_eq, Array.all_eq_true_iff_forall_mem] at h1
  rcases h1 with h1 | ⟨h1, h2⟩
  · omega
  · refine ⟨h1, fun hmk => ?_⟩
    rcases h2 with h2 | h2
    · omega
    · obtain ⟨o', e, h3, h4, h5, h6⟩ := waits_get h2
      obtain rfl := Option.some.inj (ho.symm.trans h3)
      exact ⟨e, h4, h5, h6⟩
theorem Inv2.step5 {listed : Array Bool} {a : Act} {w : World} (hf : fits5 ops m a0.tmps.size = true) (h : Inv2 m ops specs a0 w0 listed a w) {i : Nat} {o : Oper} (him : i < m) (hi : ops[i]? = some o) {v : Value} {w' : World}
    (hv : (specs i).meets v w') (hb : Below w.heap.size w w') : Inv2 m ops specs a0 w0 (listed.setIfInBounds i true) (a.put o.dst v) w' := by
  obtain ⟨d, hd, hdn, hne, -⟩ := fits5_dst hf him hi
  have hlt : i < ops.size := (Array.getElem?_eq_some_iff.1 hi).1
  have hdi : dstOf ops i = some d := by simp [dstOf, hi, hd]
  rw [hd]
  refine ⟨by simp [h.lsize], h.below.trans (hb.mono h.below.size), by simp [Act.put, h.tsize], ?_, ?_, by simp [Act.put, h.defers], ?_⟩
  · intro j e hjm hj hl
    by_cases hji : j = i
    · subst hji
      obtain rfl : d = e := Option.some.inj (hdi.symm.trans hj)
      rw [eval_put_eq (by rw [h.tsize]; exact hdn)]
      exact hv
    · have hde : d ≠ e := fun hh => hne j hjm hji (hh ▸ hj)
      rw [eval_put_ne hde]
      refine ((specs j).keeps (h.known j e hjm hj ?_) hb)
      simpa [Array.getElem?_setIfInBounds_ne (Ne.symm hji)] using hl
  · intro t ht
    have : d ≠ t := by
      intro hh
      subst hh
      unfold free2 at ht
      rw [List.all_eq_true] at ht
      have := ht i (List.mem_range.2 him)
      rw [hdi] at this
      simp at this
    rw [eval_put_ne this]
    exact h.rest t ht
  · simpa [Array.getElem?_setIfInBounds_ne (show i ≠ m by omega)] using h.last

theorem count_listed {listed : Array Bool} {i fuel : Nat} (hs : i < listed.size) (hl0 : listed[i] = false) (hc : listed.toList.count false ≤ fuel + 1) : (listed.setIfInBounds i true).toList.count false ≤ fuel := by
  have hm : false ∈ listed.toList := by
    rw [Array.mem_toList_iff]
    exact Array.mem_of_getElem? (i := i) (by rw [Array.getElem?_eq_getElem hs, hl0])
  have hp := List.count_pos_iff.2 hm
  rw [Array.toList_setIfInBounds, List.count_set (by simpa using hs)]
  rw [if_pos (by simp [hl0]), if_neg (by simp)]
  omega
theorem count_pos {listed : Array Bool} {i : Nat} (hs : i < listed.size) (hl0 : listed.getD i false = false) : 0 < listed.toList.count false := by
  refine List.count_pos_iff.2 ?_
  rw [Array.mem_toList_iff]
  refine Array.mem_of_getElem? (i := i) ?_
  rw [Array.getElem?_eq_getElem hs]
  simpa [Array.getElem?_eq_getElem hs] using hl0

/-- Behind the drawn ones: one after the other. -/
theorem wpAny_seq {n : Nat} (hf : fits5 ops m n = true) : ∀ (l : List Oper) (k : Nat), m ≤ k → ops.toList.drop k = l → ∀ (fuel : Nat) (listed : Array Bool) (a : Act) (w : World), listed.size = ops.size → (∀ j, j < k → j < ops.size → listed.getD j false = true) → (∀ j, k ≤ j → j < ops.size → listed.getD j false = false) → listed.toList.count false ≤ fuel → wpSeq P ops Q l a w → wpAny P .any ops Q fuel listed a w
  | [], k, hk, hd, fuel, listed, a, w, hs, h1, _, _, hq => by
    have hks : ops.size ≤ k := by have := List.drop_eq_nil_iff.1 hd; simpa using this
    exact wpAny_all (fun i hi => h1 i (by omega) hi) hs hq fuel
  | o :: r, k, hk, hd, fuel, listed, a, w, hs, h1, h2, hc, hq => by
    have hks : k < ops.size := by
      have := congrArg List.length hd
      simp at this
      omega
    have ho : ops[k]? = some o := by
      have := congrArg (fun l => l[0]?) hd
      simpa [List.getElem?_drop] using this
    have hr : ops.toList.drop (k + 1) = r := by
      have := congrArg (List.drop 1) hd
      simpa [List.drop_drop] using this
    have hlk := h2 k (Nat.le_refl _) hks
    obtain ⟨fuel, rfl⟩ : ∃ f, fuel = f + 1 := ⟨fuel - 1, by have := count_pos (by omega) hlk; omega⟩
    have hlate := fits5_late hf hk ho
    refine ⟨fun hr => ?_, fun i hi => ?_⟩
    · exfalso
      have hm : k ∈ Region.ready .any ops listed := by
        refine mem_ready.2 ⟨?_, o, ho, fun e he _ => h1 e.on (hlate.1 e he) (by have := hlate.1 e he; omega)⟩
        have hs' : k < listed.size := by omega
        simpa [Array.getElem?_eq_getElem hs'] using hlk
      rw [hr] at hm; cases hm
    · obtain ⟨h0, o', ho', hall⟩ := mem_ready.1 hi
      have hio := (Array.getElem?_eq_some_iff.1 ho').1
      have hsi : i < listed.size := by omega
      have hik : k ≤ i := by
        apply Decidable.byContradiction
        intro hn
        have := h1 i (by omega) hio
        simp [Array.getElem?_eq_getElem hsi] at h0 this
        rw [h0] at this; cases this
      have him : i = k := by
        apply Decidable.byContradiction
        intro hn
        obtain ⟨e, he, hb, hon⟩ := (fits5_late hf (by omega) ho').2 (by omega)
        have h3 := hall e he hb
        rw [hon] at h3
        have h4 := h2 (i - 1) (by omega) (by omega)
        rw [h4] at h3; cases h3
      subst him
      obtain rfl := Option.some.inj (ho.symm.trans ho')
      have hl0 : listed[i] = false := by simpa [Array.getElem?_eq_getElem hsi] using h0
      have hcount := count_listed hsi hl0 hc
      obtain ⟨hw, hwp⟩ := hq
      unfold wpOp
      simp only [ho, hw, if_true]
      refine Or.inl (Oper.wp_mono ?_ hwp)
      intro a' w' hq'
      refine wpAny_seq hf r (i + 1) (by omega) hr fuel _ a' w' (by simp [hs]) (fun j hj hjs => ?_) (fun j hj hjs => ?_) hcount hq'
      · by_cases hji : j = i
        · subst hji
          simp [Array.getElem?_setIfInBounds_self_of_lt hsi]
        · have := h1 j (by omega) hjs
          simpa [Array.getElem?_setIfInBounds_ne (Ne.symm hji)] using this
      · have := h2 j (by omega) hjs
        simpa [Array.getElem?_setIfInBounds_ne (show i ≠ j by omega)] using this

/-- Nothing behind the drawn ones is listed. -/
def Ahead (ops : Array Oper) (m : Nat) (listed : Array Bool) : Prop := ∀ j, m ≤ j → j < ops.size → listed.getD j false = false
theorem wpAny_rest (hf : fits5 ops m a0.tmps.size = true) (hops : Hops2 P m ops specs Q a0 w0 0 (ops.toList.take m))
    (hend : ∀ a w, Below w0.heap.size w0 w → a.tmps.size = a0.tmps.size → (∀ i d, i < m → dstOf ops i = some d → (specs i).meets (a.eval (.tmp d)) w) → a.defers = a0.defers → (∀ t, free2 ops m t = true → a.eval (.tmp t) = a0.eval (.tmp t)) → wpSeq P ops Q (ops.toList.drop m) a w) :
    ∀ (fuel : Nat) (listed : Array Bool) (a : Act) (w : World), listed.toList.count false ≤ fuel → Inv2 m ops specs a0 w0 listed a w → Closed ops m listed → Ahead ops m listed → wpAny P .any ops Q fuel listed a w := by
  have hsz := fits5_size hf
  intro fuel
  induction fuel with
  | zero =>
    intro listed a w hc h hcl hah
    exfalso
    have := count_pos (by rw [h.lsize]; exact hsz) (hah m (Nat.le_refl _) hsz)
    omega
  | succ fuel ih =>
    intro listed a w hc h hcl hah
    by_cases hdone : ∀ j, j < m → listed.getD j false = true
    · exact wpAny_seq hf _ m (Nat.le_refl _) rfl _ listed a w h.lsize (fun j hj _ => hdone j hj) hah hc (hend a w h.below h.tsize (fun j d hj hd => h.known j d hj hd (hdone j hj)) h.defers h.rest)
    · have hl2 : ∀ i, m ≤ i → (∀ o, ops[i]? = some o → ∀ e ∈ o.after, Region.binds .any e = true → listed.getD e.on false = true) → i < ops.size → False := by
        intro i hmi hall hlt
        obtain ⟨o, ho⟩ : ∃ o, ops[i]? = some o := ⟨_, Array.getElem?_eq_getElem hlt⟩
        by_cases him : i = m
        · subst him
          refine hdone ?_
          have hl3 : ∀ n j, i - j ≤ n → j < i → listed.getD j false = true := by
            intro n
            induction n with
            | zero => intro j h1 h2; omega
            | succ n ihn =>
              intro j h1 h2
              obtain ⟨k, ok, e, hjk, hki, hok, he, hb, hon⟩ := fits5_waits hf h2
              rw [← hon]
              rcases Nat.lt_or_ge k i with hlt | hge
              · exact hcl k ok e hlt hok (ihn k (by omega) hlt) he hb
              · obtain rfl : k = i := by omega
                exact hall ok hok e he hb
          exact fun j hj => hl3 (i - j) j (Nat.le_refl _) hj
        · obtain ⟨e, he, hb, hon⟩ := (fits5_late hf hmi ho).2 (by omega)
          have h3 := hall o ho e he hb
          rw [hon, hah (i - 1) (by omega) (by omega)] at h3
          cases h3
      refine ⟨fun hr => ?_, fun i hi => ?_⟩
      · exfalso
        have hall : ∀ n i, i < n → i < m → listed.getD i false = true := by
          intro n
          induction n with
          | zero => intro i hi; omega
          | succ n ihn =>
            intro i hi hlt
            by_cases hin : i < n
            · exact ihn i hin hlt
            · obtain ⟨o, ho⟩ : ∃ o, ops[i]? = some o := ⟨_, Array.getElem?_eq_getElem (by omega)⟩
              obtain ⟨_, _, _, _, haf⟩ := fits5_dst hf hlt ho
              cases hl : listed.getD i false with
              | true => rfl
              | false =>
                have hm : i ∈ Region.ready .any ops listed := by
                  refine mem_ready.2 ⟨?_, o, ho, fun e he _ => ihn e.on (by have := haf e he; omega) (by have := haf e he; omega)⟩
                  have hs : i < listed.size := by rw [h.lsize]; omega
                  simpa [Array.getElem?_eq_getElem hs] using hl
                rw [hr] at hm; cases hm
        exact hdone fun j hj => hall (j + 1) j (Nat.lt_succ_self _) hj
      · obtain ⟨h0, o, ho, hall⟩ := mem_ready.1 hi
        have hio := (Array.getElem?_eq_some_iff.1 ho).1
        have hs : i < listed.size := by rw [h.lsize]; exact hio
        have hl0 : listed[i] = false := by simpa [Array.getElem?_eq_getElem hs] using h0
        have hcount := count_listed hs hl0 hc
        have him : i < m := by
          apply Decidable.byContradiction
          intro hn
          exact hl2 i (by omega) (fun o' ho' => by obtain rfl := Option.some.inj (ho.symm.trans ho'); exact hall) hio
        have hah2 : Ahead ops m (listed.setIfInBounds i true) := fun j hj hjs => by
          have := hah j hj hjs
          simpa [Array.getElem?_setIfInBounds_ne (show i ≠ j by omega)] using this
        have hhop := hops.get i o (by rw [List.getElem?_take_of_lt him]; simpa using ho)
        rw [Nat.zero_add] at hhop
        rcases hhop a w h.below h.tsize (fun j d hd => by
          unfold deps at hd
          simp only [Bool.and_eq_true, beq_iff_eq] at hd
          obtain ⟨hd1, hd2⟩ := hd
          rw [Array.any_eq_true'] at hd1
          obtain ⟨e, he, heb⟩ := hd1
          simp only [Bool.and_eq_true, beq_iff_eq] at heb
          obtain ⟨hb, rfl⟩ := heb
          obtain ⟨_, _, _, _, haf⟩ := fits5_dst hf him ho
          exact h.known _ d (by have := haf e he; omega) hd2 (hall e he hb)) h.rest with ⟨hw, hwp⟩ | ⟨hw, hm⟩
        · unfold wpOp
          simp only [ho, hw, if_true]
          refine Or.inl (Oper.wp_mono ?_ hwp)
          rintro a' w' ⟨v, rfl, hv, hb⟩
          exact ih _ _ _ hcount (h.step5 hf him ho hv hb) (hcl.step ho hall) hah2
        · unfold wpOp
          simp only [ho, hw, Bool.false_eq_true, if_false]
          exact ih _ _ _ hcount (h.step5 hf him ho hm (Below.refl _ _)) (hcl.step ho hall) hah2

theorem region_rest {id : Nat} (hm : P.follows .mixedOrders = true) (m : Nat) (specs : Nat → Spec) (hf : fits5 ops m a0.tmps.size = true) (hops : Hops2 P m ops specs Q a0 w0 0 (ops.toList.take m))
    (hend : ∀ a w, Below w0.heap.size w0 w → a.tmps.size = a0.tmps.size → (∀ i d, i < m → dstOf ops i = some d → (specs i).meets (a.eval (.tmp d)) w) → a.defers = a0.defers → (∀ t, free2 ops m t = true → a.eval (.tmp t) = a0.eval (.tmp t)) → wpSeq P ops Q (ops.toList.drop m) a w) :
    (Code.region id ops true).wp P Q a0 w0 := by
  refine wp_region_any hm (wpAny_rest hf hops hend _ _ _ _ ?_ ?_ ?_ ?_)
  · simp
  · refine ⟨by simp, ⟨rfl, rfl, rfl, Nat.le_refl _, fun _ _ => rfl⟩, rfl, ?_, fun _ _ => rfl, rfl, ?_⟩
    · intro i d _ _ hl
      simp [Array.getElem?_replicate] at hl
      split at hl <;> simp at hl
    · simp [Array.getElem?_replicate]
      split <;> simp
  · intro j o e _ _ hl _ _
    simp [Array.getElem?_replicate] at hl
    split at hl <;> simp at hl
  · intro j _ _
    simp [Array.getElem?_replicate]
    split <;> simp
end
end Grow
end Go.Proofs.Yticoefnojgaplaa
