/- The statement FieldSteps of layer 3, proved as its tied card: for every input it returns true, and changes nothing that was there. No condition of its own: what the table of twice the modulus reads as is tied to the program's text. -/
import Derived.Test.YtgebangnhgmmoaaDoorG9
import Derived.Maps.AppendAt
import Derived.Great.BuildSlice
import Derived.Deep.Cut
import Derived.Test.YtgebangnhgmmoaaDoorGa
namespace Go.Proofs.YtgebangnhgmmoaaDoor
open Go.RowKit
namespace Grow
/-- An operation waits for another. -/
def waits (ops : Array Oper) (j i : Nat) : Bool := match ops[j]? with | some o => o.after.any fun e => Region.binds .any e && e.on == i | none => false
/-- What is listed has what it waited for listed. -/
def Closed (ops : Array Oper) (m : Nat) (listed : Array Bool) : Prop := ∀ j o e, j < m → ops[j]? = some o → listed.getD j false = true → e ∈ o.after → Region.binds .any e = true → listed.getD e.on false = true
section
variable {ops : Array Oper} {m : Nat}
theorem Closed.step {listed : Array Bool} (h : Closed ops m listed) {i : Nat} {o : Oper} (hi : ops[i]? = some o) (hall : ∀ e ∈ o.after, Region.binds .any e = true → listed.getD e.on false = true) : Closed ops m (listed.setIfInBounds i true) := by
  have up : ∀ k, listed.getD k false = true → (listed.setIfInBounds i true).getD k false = true := by
    intro k hk
    by_cases hki : k = i
    · subst hki
      have hs : k < listed.size := by
        apply Decidable.byContradiction
        intro hn
        simp [Array.getElem?_eq_none (Nat.le_of_not_lt hn)] at hk
      simp [Array.getElem?_setIfInBounds_self_of_lt hs]
    · simpa [Array.getElem?_setIfInBounds_ne (Ne.symm hki)] using hk
  intro j oj e hj hoj hl he hb
  by_cases hji : j = i
  · subst hji
    obtain rfl := Option.some.inj (hi.symm.trans hoj)
    exact up _ (hall e he hb)
  · refine up _ (h j oj e hj hoj ?_ he hb)
    simpa [Array.getElem?_setIfInBounds_ne (Ne.symm hji)] using hl
end
/-- The first m are drawn: no two write one temporary; all are written in the frame; each waits for earlier ones alone; for each some later one waits. Those behind wait each for the one ahead of it. -/
def fits5 (ops : Array Oper) (m n : Nat) : Bool :=
  decide (m < ops.size) && (((List.range m).all fun i => (match dstOf ops i with
    | some d => decide (d < n) && (List.range m).all fun j => j == i || dstOf ops j != some d
    | none => false) && (match ops[i]? with | some o => o.after.all fun e => decide (e.on < i) | none => false)) &&
   (((List.range m).all fun i => (List.range (m + 1)).any fun j => decide (i < j) && waits ops j i) &&
    ((List.range ops.size).all fun k => decide (k < m) || (match ops[k]? with | some o => o.after.all (fun e => decide (e.on < k)) && (k == m || waits ops k (k - 1)) | none => false))))
/-- One after the other. -/
def wpSeq (P : Program) (ops : Array Oper) (Q : Exit → Act → World → Prop) : List Oper → Act → World → Prop
  | [], a, w => Q .normal a w
  | o :: r, a, w => Region.wanted o (yielded ops a.tmps) = true ∧ o.wp P a w (fun a' w' => wpSeq P ops Q r a' w') Q
section
variable {P : Program} {m : Nat} {ops : Array Oper} {Q : Exit → Act → World → Prop} {specs : Nat → Spec} {a0 : Act} {w0 : World}
theorem fits5_size {n : Nat} (h : fits5 ops m n = true) : m < ops.size := by
  unfold fits5 at h
  simp only [Bool.and_eq_true, decide_eq_true_eq] at h
  exact h.1
theorem fits5_dst {n : Nat} (h : fits5 ops m n = true) {i : Nat} {o : Oper} (hm : i < m) (hi : ops[i]? = some o) : ∃ d, o.dst = some d ∧ d < n ∧ (∀ j, j < m → j ≠ i → dstOf ops j ≠ some d) ∧ ∀ e ∈ o.after, e.on < i := by
  unfold fits5 at h
  simp only [Bool.and_eq_true] at h
  have h0 := h.2.1
  rw [List.all_eq_true] at h0
  have h1 := h0 i (List.mem_range.2 hm)
  simp only [Bool.and_eq_true, hi] at h1
  obtain ⟨h2, h3⟩ := h1
  have hd : dstOf ops i = o.dst := by simp [dstOf, hi]
  rw [hd] at h2
  cases hod : o.dst with
  | none => rw [hod] at h2; cases h2
  | some d =>
    rw [hod] at h2
    simp only [Bool.and_eq_true, decide_eq_true_eq, List.all_eq_true, List.mem_range] at h2
    refine ⟨d, rfl, h2.1, fun j hj hne => ?_, fun e he => ?_⟩
    · have := h2.2 j hj
      simp only [Bool.or_eq_true, beq_iff_eq, bne_iff_ne, ne_eq] at this
      rcases this with h | h
      · exact absurd h hne
      · exact h
    · rw [Array.all_eq_true_iff_forall_mem] at h3
      simpa using h3 e he
theorem waits_get {j i : Nat} (h : waits ops j i = true) : ∃ o e, ops[j]? = some o ∧ e ∈ o.after ∧ Region.binds .any e = true ∧ e.on = i := by
  unfold waits at h
  cases ho : ops[j]? with
  | none => rw [ho] at h; cases h
  | some o =>
    rw [ho] at h
    simp only [Array.any_eq_true', Bool.and_eq_true, beq_iff_eq] at h
    obtain ⟨e, he, hb, hon⟩ := h
    exact ⟨o, e, rfl, he, hb, hon⟩
theorem fits5_waits {n : Nat} (h : fits5 ops m n = true) {i : Nat} (hi : i < m) : ∃ j o e, i < j ∧ j ≤ m ∧ ops[j]? = some o ∧ e ∈ o.after ∧ Region.binds .any e = true ∧ e.on = i := by
  unfold fits5 at h
  simp only [Bool.and_eq_true] at h
  have h0 := h.2.2.1
  rw [List.all_eq_true] at h0
  have h1 := h0 i (List.mem_range.2 hi)
  rw [List.any_eq_true] at h1
  obtain ⟨j, hj, h2⟩ := h1
  simp only [Bool.and_eq_true, decide_eq_true_eq] at h2
  obtain ⟨h3, h4⟩ := h2
  have hjm := List.mem_range.1 hj
  obtain ⟨o, e, h5⟩ := waits_get h4
  exact ⟨j, o, e, h3, by omega, h5⟩
theorem fits5_late {n : Nat} (h : fits5 ops m n = true) {k : Nat} {o : Oper} (hk : m ≤ k) (ho : ops[k]? = some o) : (∀ e ∈ o.after, e.on < k) ∧ (m < k → ∃ e ∈ o.after, Region.binds .any e = true ∧ e.on = k - 1) := by
  unfold fits5 at h
  simp only [Bool.and_eq_true] at h
  have h0 := h.2.2.2
  rw [List.all_eq_true] at h0
  have h1 := h0 k (List.mem_range.2 (Array.getElem?_eq_some_iff.1 ho).1)
  rw [ho] at h1
  simp only [Bool.or_eq_true, decide_eq_true_eq, Bool.and_eq_true, beq_iff_eq, Array.all_eq_true_iff_forall_mem] at h1
  rcases h1 with h1 | ⟨h1, h2⟩
  · omega
  · refine ⟨h1, fun hmk => ?_⟩
    rcases h2 with h2 | h2
    · omega
    · obtain ⟨o', e, h3, h4, h5, h6⟩ := waits_get h2
      obtain rfl := Option.some.inj (ho.symm.trans h3)
      exact ⟨e, h4, h5, h6⟩
theorem Inv2.step5 {listed : Array Bool} {a : Act} {w : World} (hf : fits5 ops m a0.tmps.size = true) (h : Inv2 m ops specs a0 w0 listed a w) {i : Nat} {o : Oper} (him : i < m) (hi : ops[i]? = some o) {v : Value} {w' : World}
    (hv : (specs i).meets v w') (hb : Below w.heap.size w w') : Inv2 m ops specs a0 w0 (listed.setIfInBounds i true) (a.put o.dst v) w' := by
  obtain ⟨d, hd, hdn, hne, -⟩ := fits5_dst hf him hi
  have hlt : i < ops.size := (Array.getElem?_eq_some_iff.1 hi).1
  have hdi : dstOf ops i = some d := by simp [dstOf, hi, hd]
  rw [hd]
  refine ⟨by simp [h.lsize], h.below.trans (hb.mono h.below.size), by simp [Act.put, h.tsize], ?_, ?_, by simp [Act.put, h.defers], ?_⟩
  · intro j e hjm hj hl
    by_cases hji : j = i
    · subst hji
      obtain rfl : d = e := Option.some.inj (hdi.symm.trans hj)
      rw [eval_put_eq (by rw [h.tsize]; exact hdn)]
      exact hv
    · have hde : d ≠ e := fun hh => hne j hjm hji (hh ▸ hj)
      rw [eval_put_ne hde]
      refine ((specs j).keeps (h.known j e hjm hj ?_) hb)
      simpa [Array.getElem?_setIfInBounds_ne (Ne.symm hji)] using hl
  · intro t ht
    have : d ≠ t := by
      intro hh
      subst hh
      unfold free2 at ht
      rw [List.all_eq_true] at ht
      have := ht i (List.mem_range.2 him)
      rw [hdi] at this
      simp at this
    rw [eval_put_ne this]
    exact h.rest t ht
  · simpa [Array.getElem?_setIfInBounds_ne (show i ≠ m by omega)] using h.last

theorem count_listed {listed : Array Bool} {i fuel : Nat} (hs : i < listed.size) (hl0 : listed[i] = false) (hc : listed.toList.count false ≤ fuel + 1) : (listed.setIfInBounds i true).toList.count false ≤ fuel := by
  have hm : false ∈ listed.toList := by
    rw [Array.mem_toList_iff]
    exact Array.mem_of_getElem? (i := i) (by rw [Array.getElem?_eq_getElem hs, hl0])
  have hp := List.count_pos_iff.2 hm
  rw [Array.toList_setIfInBounds, List.count_set (by simpa using hs)]
  rw [if_pos (by simp [hl0]), if_neg (by simp)]
  omega
theorem count_pos {listed : Array Bool} {i : Nat} (hs : i < listed.size) (hl0 : listed.getD i false = false) : 0 < listed.toList.count false := by
  refine List.count_pos_iff.2 ?_
  rw [Array.mem_toList_iff]
  refine Array.mem_of_getElem? (i := i) ?_
  rw [Array.getElem?_eq_getElem hs]
  simpa [Array.getElem?_eq_getElem hs] using hl0

/-- Behind the drawn ones: one after the other. -/
theorem wpAny_seq {n : Nat} (hf : fits5 ops m n = true) : ∀ (l : List Oper) (k : Nat), m ≤ k → ops.toList.drop k = l → ∀ (fuel : Nat) (listed : Array Bool) (a : Act) (w : World), listed.size = ops.size → (∀ j, j < k → j < ops.size → listed.getD j false = true) → (∀ j, k ≤ j → j < ops.size → listed.getD j false = false) → listed.toList.count false ≤ fuel → wpSeq P ops Q l a w → wpAny P .any ops Q fuel listed a w
  | [], k, hk, hd, fuel, listed, a, w, hs, h1, _, _, hq => by
    have hks : ops.size ≤ k := by have := List.drop_eq_nil_iff.1 hd; simpa using this
    exact wpAny_all (fun i hi => h1 i (by omega) hi) hs hq fuel
  | o :: r, k, hk, hd, fuel, listed, a, w, hs, h1, h2, hc, hq => by
    have hks : k < ops.size := by
      have := congrArg List.length hd
      simp at this
      omega
    have ho : ops[k]? = some o := by
      have := congrArg (fun l => l[0]?) hd
      simpa [List.getElem?_drop] using this
    have hr : ops.toList.drop (k + 1) = r := by
      have := congrArg (List.drop 1) hd
      simpa [List.drop_drop] using this
    have hlk := h2 k (Nat.le_refl _) hks
    obtain ⟨fuel, rfl⟩ : ∃ f, fuel = f + 1 := ⟨fuel - 1, by have := count_pos (by omega) hlk; omega⟩
    have hlate := fits5_late hf hk ho
    refine ⟨fun hr => ?_, fun i hi => ?_⟩
    · exfalso
      have hm : k ∈ Region.ready .any ops listed := by
        refine mem_ready.2 ⟨?_, o, ho, fun e he _ => h1 e.on (hlate.1 e he) (by have := hlate.1 e he; omega)⟩
        have hs' : k < listed.size := by omega
        simpa [Array.getElem?_eq_getElem hs'] using hlk
      rw [hr] at hm; cases hm
    · obtain ⟨h0, o', ho', hall⟩ := mem_ready.1 hi
      have hio := (Array.getElem?_eq_some_iff.1 ho').1
      have hsi : i < listed.size := by omega
      have hik : k ≤ i := by
        apply Decidable.byContradiction
        intro hn
        have := h1 i (by omega) hio
        simp [Array.getElem?_eq_getElem hsi] at h0 this
        rw [h0] at this; cases this
      have him : i = k := by
        apply Decidable.byContradiction
        intro hn
        obtain ⟨e, he, hb, hon⟩ := (fits5_late hf (by omega) ho').2 (by omega)
        have h3 := hall e he hb
        rw [hon] at h3
        have h4 := h2 (i - 1) (by omega) (by omega)
        rw [h4] at h3; cases h3
      subst him
      obtain rfl := Option.some.inj (ho.symm.trans ho')
      have hl0 : listed[i] = false := by simpa [Array.getElem?_eq_getElem hsi] using h0
      have hcount := count_listed hsi hl0 hc
      obtain ⟨hw, hwp⟩ := hq
      unfold wpOp
      simp only [ho, hw, if_true]
      refine Or.inl (Oper.wp_mono ?_ hwp)
      intro a' w' hq'
      refine wpAny_seq hf r (i + 1) (by omega) hr fuel _ a' w' (by simp [hs]) (fun j hj hjs => ?_) (fun j hj hjs => ?_) hcount hq'
      · by_cases hji : j = i
        · subst hji
          simp [Array.getElem?_setIfInBounds_self_of_lt hsi]
        · have := h1 j (by omega) hjs
          simpa [Array.getElem?_setIfInBounds_ne (Ne.symm hji)] using this
      · have := h2 j (by omega) hjs
        simpa [Array.getElem?_setIfInBounds_ne (show i ≠ j by omega)] using this

/-- Nothing behind the drawn ones is listed. -/
def Ahead (ops : Array Oper) (m : Nat) (listed : Array Bool) : Prop := ∀ j, m ≤ j → j < ops.size → listed.getD j false = false
theorem wpAny_rest (hf : fits5 ops m a0.tmps.size = true) (hops : Hops2 P m ops specs Q a0 w0 0 (ops.toList.take m))
    (hend : ∀ a w, Below w0.heap.size w0 w → a.tmps.size = a0.tmps.size → (∀ i d, i < m → dstOf ops i = some d → (specs i).meets (a.eval (.tmp d)) w) → a.defers = a0.defers → (∀ t, free2 ops m t = true → a.eval (.tmp t) = a0.eval (.tmp t)) → wpSeq P ops Q (ops.toList.drop m) a w) :
    ∀ (fuel : Nat) (listed : Array Bool) (a : Act) (w : World), listed.toList.count false ≤ fuel → Inv2 m ops specs a0 w0 listed a w → Closed ops m listed → Ahead ops m listed → wpAny P .any ops Q fuel listed a w := by
  have hsz := fits5_size hf
  intro fuel
  induction fuel with
  | zero =>
    intro listed a w hc h hcl hah
    exfalso
    have := count_pos (by rw [h.lsize]; exact hsz) (hah m (Nat.le_refl _) hsz)
    omega
  | succ fuel ih =>
    intro listed a w hc h hcl hah
    by_cases hdone : ∀ j, j < m → listed.getD j false = true
    · exact wpAny_seq hf _ m (Nat.le_refl _) rfl _ listed a w h.lsize (fun j hj _ => hdone j hj) hah hc (hend a w h.below h.tsize (fun j d hj hd => h.known j d hj hd (hdone j hj)) h.defers h.rest)
    · have hl2 : ∀ i, m ≤ i → (∀ o, ops[i]? = some o → ∀ e ∈ o.after, Region.binds .any e = true → listed.getD e.on false = true) → i < ops.size → False := by
        intro i hmi hall hlt
        obtain ⟨o, ho⟩ : ∃ o, ops[i]? = some o := ⟨_, Array.getElem?_eq_getElem hlt⟩
        by_cases him : i = m
        · subst him
          refine hdone ?_
          have hl3 : ∀ n j, i - j ≤ n → j < i → listed.getD j false = true := by
            intro n
            induction n with
            | zero => intro j h1 h2; omega
            | succ n ihn =>
              intro j h1 h2
              obtain ⟨k, ok, e, hjk, hki, hok, he, hb, hon⟩ := fits5_waits hf h2
              rw [← hon]
              rcases Nat.lt_or_ge k i with hlt | hge
              · exact hcl k ok e hlt hok (ihn k (by omega) hlt) he hb
              · obtain rfl : k = i := by omega
                exact hall ok hok e he hb
          exact fun j hj => hl3 (i - j) j (Nat.le_refl _) hj
        · obtain ⟨e, he, hb, hon⟩ := (fits5_late hf hmi ho).2 (by omega)
          have h3 := hall o ho e he hb
          rw [hon, hah (i - 1) (by omega) (by omega)] at h3
          cases h3
      refine ⟨fun hr => ?_, fun i hi => ?_⟩
      · exfalso
        have hall : ∀ n i, i < n → i < m → listed.getD i false = true := by
          intro n
          induction n with
          | zero => intro i hi; omega
          | succ n ihn =>
            intro i hi hlt
            by_cases hin : i < n
            · exact ihn i hin hlt
            · obtain ⟨o, ho⟩ : ∃ o, ops[i]? = some o := ⟨_, Array.getElem?_eq_getElem (by omega)⟩
              obtain ⟨_, _, _, _, haf⟩ := fits5_dst hf hlt ho
              cases hl : listed.getD i false with
              | true => rfl
              | false =>
                have hm : i ∈ Region.ready .any ops listed := by
                  refine mem_ready.2 ⟨?_, o, ho, fun e he _ => ihn e.on (by have := haf e he; omega) (by have := haf e he; omega)⟩
                  have hs : i < listed.size := by rw [h.lsize]; omega
                  simpa [Array.getElem?_eq_getElem hs] using hl
                rw [hr] at hm; cases hm
        exact hdone fun j hj => hall (j + 1) j (Nat.lt_succ_self _) hj
      · obtain ⟨h0, o, ho, hall⟩ := mem_ready.1 hi
        have hio := (Array.getElem?_eq_some_iff.1 ho).1
        have hs : i < listed.size := by rw [h.lsize]; exact hio
        have hl0 : listed[i] = false := by simpa [Array.getElem?_eq_getElem hs] using h0
        have hcount := count_listed hs hl0 hc
        have him : i < m := by
          apply Decidable.byContradiction
          intro hn
          exact hl2 i (by omega) (fun o' ho' => by obtain rfl := Option.some.inj (ho.symm.trans ho'); exact hall) hio
        have hah2 : Ahead ops m (listed.setIfInBounds i true) := fun j hj hjs => by
          have := hah j hj hjs
          simpa [Array.getElem?_setIfInBounds_ne (show i ≠ j by omega)] using this
        have hhop := hops.get i o (by rw [List.getElem?_take_of_lt him]; simpa using ho)
        rw [Nat.zero_add] at hhop
        rcases hhop a w h.below h.tsize (fun j d hd => by
          unfold deps at hd
          simp only [Bool.and_eq_true, beq_iff_eq] at hd
          obtain ⟨hd1, hd2⟩ := hd
          rw [Array.any_eq_true'] at hd1
          obtain ⟨e, he, heb⟩ := hd1
          simp only [Bool.and_eq_true, beq_iff_eq] at heb
          obtain ⟨hb, rfl⟩ := heb
          obtain ⟨_, _, _, _, haf⟩ := fits5_dst hf him ho
          exact h.known _ d (by have := haf e he; omega) hd2 (hall e he hb)) h.rest with ⟨hw, hwp⟩ | ⟨hw, hm⟩
        · unfold wpOp
          simp only [ho, hw, if_true]
          refine Or.inl (Oper.wp_mono ?_ hwp)
          rintro a' w' ⟨v, rfl, hv, hb⟩
          exact ih _ _ _ hcount (h.step5 hf him ho hv hb) (hcl.step ho hall) hah2
        · unfold wpOp
          simp only [ho, hw, Bool.false_eq_true, if_false]
          exact ih _ _ _ hcount (h.step5 hf him ho hm (Below.refl _ _)) (hcl.step ho hall) hah2

theorem region_rest {id : Nat} (hm : P.follows .mixedOrders = true) (m : Nat) (specs : Nat → Spec) (hf : fits5 ops m a0.tmps.size = true) (hops : Hops2 P m ops specs Q a0 w0 0 (ops.toList.take m))
    (hend : ∀ a w, Below w0.heap.size w0 w → a.tmps.size = a0.tmps.size → (∀ i d, i < m → dstOf ops i = some d → (specs i).meets (a.eval (.tmp d)) w) → a.defers = a0.defers → (∀ t, free2 ops m t = true → a.eval (.tmp t) = a0.eval (.tmp t)) → wpSeq P ops Q (ops.toList.drop m) a w) :
    (Code.region id ops true).wp P Q a0 w0 := by
  refine wp_region_any hm (wpAny_rest hf hops hend _ _ _ _ ?_ ?_ ?_ ?_)
  · simp
  · refine ⟨by simp, ⟨rfl, rfl, rfl, Nat.le_refl _, fun _ _ => rfl⟩, rfl, ?_, fun _ _ => rfl, rfl, ?_⟩
    · intro i d _ _ hl
      simp [Array.getElem?_replicate] at hl
      split at hl <;> simp at hl
    · simp [Array.getElem?_replicate]
      split <;> simp
  · intro j o e _ _ hl _ _
    simp [Array.getElem?_replicate] at hl
    split at hl <;> simp at hl
  · intro j _ _
    simp [Array.getElem?_replicate]
    split <;> simp
end
end Grow
end Go.Proofs.YtgebangnhgmmoaaDoor
namespace Go.Proofs.YtgebangnhgmmoaaDoor
open Go.RowKit
theorem info30 : (Tryd.prog.info? 30).map (fun i => (i.zero, i.size, i.bytes)) = some (some (.agg (ec Fe.z)), 5, 40) := by kernel_rfl
theorem info26 : (Tryd.prog.info? 26).map (fun i => (i.zero, i.size, i.bytes)) = some (some (.slice none 0 0), 1, 24) := by kernel_rfl
theorem info_three {t : TypeId} {z : Value} {s b : Nat} (h : (Tryd.prog.info? t).map (fun i => (i.zero, i.size, i.bytes)) = some (some z, s, b)) : ∃ i, Tryd.prog.info? t = some i ∧ i.zero = some z ∧ i.size = s ∧ i.bytes = b := by
  cases hi : Tryd.prog.info? t with
  | none => rw [hi] at h; cases h
  | some i =>
    rw [hi] at h
    simp only [Option.map_some, Option.some.injEq, Prod.mk.injEq] at h
    exact ⟨i, rfl, h.1, h.2.1, h.2.2⟩
/-- A row that was made, known up to its length; all its cells are of one kind. -/
def RowG (e : TypeId) (size : Nat) (ok : Value → Prop) (w : World) (g c n : Nat) (vs : List Value) : Prop :=
  ∃ cur : Array Value, w.heap[g]? = some (.cells cur e (0, 0)) ∧ cur.size = c * size ∧ n ≤ c ∧ c ≤ maxLen ∧ vs.length = n * size ∧ cur.toList.take (n * size) = vs ∧ ∀ v ∈ cur.toList, ok v
theorem RowG.keep {e : TypeId} {size : Nat} {ok : Value → Prop} {w w' : World} {g c n : Nat} {vs : List Value} (h : RowG e size ok w g c n vs) (hb : w'.heap[g]? = w.heap[g]?) : RowG e size ok w' g c n vs := by
  obtain ⟨cur, h1, h2⟩ := h
  exact ⟨cur, hb.trans h1, h2⟩
theorem RowG.lt {e : TypeId} {size : Nat} {ok : Value → Prop} {w : World} {g c n : Nat} {vs : List Value} (h : RowG e size ok w g c n vs) : g < w.heap.size := by
  obtain ⟨cur, h1, _⟩ := h
  exact lt_of_block h1
theorem RowG.cell {e : TypeId} {size : Nat} {ok : Value → Prop} {w : World} {g c n : Nat} {vs : List Value} (h : RowG e size ok w g c n vs) (j : Nat) (v : Value) (hj : vs[j]? = some v) : w.cell? ⟨g, j, none⟩ = some v := by
  obtain ⟨cur, h1, h2, h3, h4, h5, h6, h7⟩ := h
  rw [cell_of_row w g j cur e (0, 0) h1]
  rw [← h6, List.getElem?_take] at hj
  split at hj
  · simpa using hj
  · cases hj
theorem RowG.all {e : TypeId} {size : Nat} {ok : Value → Prop} {w : World} {g c n : Nat} {vs : List Value} (h : RowG e size ok w g c n vs) (j : Nat) (v : Value) (hj : w.cell? ⟨g, j, none⟩ = some v) : ok v := by
  obtain ⟨cur, h1, h2, h3, h4, h5, h6, h7⟩ := h
  rw [cell_of_row w g j cur e (0, 0) h1] at hj
  exact h7 v (by rw [Array.mem_toList_iff]; exact Array.mem_of_getElem? hj)
set_option maxHeartbeats 1000000 in
theorem run_append_row {e t : TypeId} {size bytes : Nat} {ok : Value → Prop} {z : Value} (ht : Tryd.prog.underlying t = some (.slice e)) (hinfo : (Tryd.prog.info? e).map (fun i => (i.zero, i.size, i.bytes)) = some (some z, size, bytes)) (hzs : z.cells.size = size) (hpos : 0 < size) (hzok : ∀ k, ∀ v ∈ (Builtin.zeroCells z.cells k).toList, ok v) (w : World) (ty : TypeId) {g c n : Nat} {vs : List Value} (h : RowG e size ok w g c n vs) (gy : Nat) (cs : Array Value) (hy : w.heap[gy]? = some (.cells cs e (0, 0))) (hcs : cs.size = size) (hok : ∀ v ∈ cs.toList, ok v) (hone : ∀ v ∈ cs.toList, v.oneCell' = true) (hn : n ≤ 1000) (hb : bytes ≤ 1000) :
    ∃ g' c' w', (Builtin.append_ #[t, t] ty #[.slice (some ⟨g, 0, none⟩) n c, .slice (some ⟨gy, 0, none⟩) 1 1]).run Tryd.prog w = .ok (.slice (some ⟨g', 0, none⟩) (n + 1) c') w' ∧ RowG e size ok w' g' c' (n + 1) (vs ++ cs.toList) ∧ (g' = g ∨ g' = w.heap.size) ∧ w.grownBy w' (some g) := by
  obtain ⟨i, hi, hz, hsize, hby⟩ := info_three hinfo
  obtain ⟨cur, hg, h2, h3, h4, h5, h6, h7⟩ := h
  have hl : cs.toList.length = 1 * i.size := by rw [hsize, Array.length_toList, hcs, Nat.one_mul]
  have hnews : ∀ j u, cs.toList[j]? = some u → w.cell? ((⟨gy, 0, none⟩ : Addr).add j) = some u := fun j u hu => by
    have hadd : (⟨gy, 0, none⟩ : Addr).add j = ⟨gy, j, none⟩ := by unfold Addr.add; split <;> simp_all
    rw [hadd, cell_of_row w gy j cs e (0, 0) hy]
    simpa using hu
  have hlen : (vs ++ cs.toList).length = (n + 1) * size := by rw [List.length_append, h5, Array.length_toList, hcs, Nat.add_mul, Nat.one_mul]
  have hbb : n * bytes ≤ 1000 * 1000 := Nat.mul_le_mul hn hb
  by_cases hroom : n + 1 ≤ c
  · have hfit : n * i.size + cs.toList.length ≤ cur.size := by
      rw [hsize, Array.length_toList, hcs, h2, show n * size + size = (n + 1) * size by rw [Nat.add_mul, Nat.one_mul]]
      exact Nat.mul_le_mul_right _ hroom
    have hr := run_append_room (P := Tryd.prog) w t ty e i ht hi g n c cur hg ⟨gy, 0, none⟩ 1 1 cs.toList hl hnews hone hroom hfit
    refine ⟨g, c, _, hr, ⟨_, setRow_heap w g cur _ e _ hg, ?_, hroom, h4, hlen, ?_, ?_⟩, Or.inl rfl, ⟨rfl, rfl, rfl, by simp, fun k _ hk => setRow_other w g k _ (fun e => hk (by rw [e]))⟩⟩
    · simp only [List.size_toArray, List.length_append, List.length_take, List.length_drop, Array.length_toList] at hfit ⊢
      omega
    · rw [← hsize] at h6 hlen ⊢
      simp only []
      rw [h6, ← hlen]
      exact List.take_left
    · intro v hv
      simp only [List.mem_append] at hv
      rcases hv with (hv | hv) | hv
      · exact h7 v (List.mem_of_mem_take hv)
      · exact hok v hv
      · exact h7 v (List.mem_of_mem_drop hv)
  · have holds : ∀ j u, vs[j]? = some u → w.cell? ((⟨g, 0, none⟩ : Addr).add j) = some u := fun j u hu => by
      have hadd : (⟨g, 0, none⟩ : Addr).add j = ⟨g, j, none⟩ := by unfold Addr.add; split <;> simp_all
      rw [hadd]
      exact RowG.cell ⟨cur, hg, h2, h3, h4, h5, h6, h7⟩ j u hu
    have hr := run_append_grow (P := Tryd.prog) w t ty e i z ht hi hz ⟨g, 0, none⟩ n c vs (by rw [hsize]; exact h5) holds ⟨gy, 0, none⟩ 1 1 cs.toList hl hnews (by omega) (by omega) (growslice_fits (by omega) (by rw [hby, Nat.add_mul]; omega))
    have hge := grownCap_ge w (n + 1) c e
    have hcm2 : grownCap w (n + 1) c e ≤ maxLen := grownCap_le_maxLen w (n + 1) c e (by unfold maxLen; omega)
    refine ⟨w.heap.size, _, _, hr, ⟨_, heap_alloc_new w.drew _, ?_, hge, hcm2, hlen, ?_, ?_⟩, Or.inr rfl, ⟨rfl, rfl, rfl, by simp, fun k hk _ => heap_alloc_old w.drew _ hk⟩⟩
    · simp only [Array.size_append, List.size_toArray, size_zeroCells, hzs, h5, hcs]
      rw [show n * size + size = (n + 1) * size by rw [Nat.add_mul, Nat.one_mul], ← Nat.add_mul]
      congr 1
      omega
    · simp only [Array.toList_append]
      rw [← hlen]
      exact List.take_left
    · intro v hv
      simp only [Array.toList_append, List.mem_append] at hv
      rcases hv with (hv | hv) | hv
      · rw [← h6] at hv
        exact h7 v (List.mem_of_mem_take hv)
      · exact hok v hv
      · exact hzok _ v hv
end Go.Proofs.YtgebangnhgmmoaaDoor
namespace Go.Proofs.YtgebangnhgmmoaaDoor
open Go.RowKit
def Is64 (v : Value) : Prop := ∃ z, v = .int .u64 z
def IsSl (v : Value) : Prop := ∃ a n k, v = .slice a n k
def flat (xs : List Fe.E) : List Value := xs.flatMap fun x => (ec x).toList
theorem flat_append (xs : List Fe.E) (y : Fe.E) : flat (xs ++ [y]) = flat xs ++ (ec y).toList := by simp [flat]
theorem flat_get : ∀ (xs : List Fe.E) (j : Nat), j < xs.length → ∀ (i : Nat) (v : Value), (ec (xs.getD j Fe.z)).toList[i]? = some v → (flat xs)[j * 5 + i]? = some v
  | [], j, h, _, _, _ => by simp at h
  | x :: r, 0, _, i, v, hv => by
    show ((ec x).toList ++ flat r)[0 * 5 + i]? = some v
    have hi : i < (ec x).toList.length := (List.getElem?_eq_some_iff.1 hv).1
    rw [Nat.zero_mul, Nat.zero_add, List.getElem?_append_left hi]
    exact hv
  | x :: r, j + 1, h, i, v, hv => by
    show ((ec x).toList ++ flat r)[(j + 1) * 5 + i]? = some v
    have hl : (ec x).toList.length = 5 := rfl
    rw [List.getElem?_append_right (by omega), hl, show (j + 1) * 5 + i - 5 = j * 5 + i by omega]
    exact flat_get r j (by simpa using h) i v hv
theorem ec_64 (x : Fe.E) : ∀ v ∈ (ec x).toList, Is64 v := by
  intro v hv
  simp [ec] at hv
  rcases hv with rfl | rfl | rfl | rfl | rfl <;> exact ⟨_, rfl⟩
theorem zeros_64 (k : Nat) : ∀ v ∈ (Builtin.zeroCells (Value.agg (ec Fe.z)).cells k).toList, Is64 v := by
  intro v hv
  simp only [Builtin.zeroCells, Array.toList_map, List.mem_map] at hv
  obtain ⟨i, _, rfl⟩ := hv
  have h5 : i % (Value.agg (ec Fe.z)).cells.size < 5 := Nat.mod_lt _ (by decide)
  generalize i % (Value.agg (ec Fe.z)).cells.size = r at h5
  match r, h5 with
  | 0, _ => exact ⟨0, rfl⟩
  | 1, _ => exact ⟨0, rfl⟩
  | 2, _ => exact ⟨0, rfl⟩
  | 3, _ => exact ⟨0, rfl⟩
  | 4, _ => exact ⟨0, rfl⟩
theorem zeros_sl (k : Nat) : ∀ v ∈ (Builtin.zeroCells (Value.slice none 0 0).cells k).toList, IsSl v := by
  intro v hv
  simp only [Builtin.zeroCells, Array.toList_map, List.mem_map] at hv
  obtain ⟨i, _, rfl⟩ := hv
  have h5 : i % (Value.slice none 0 0).cells.size < 1 := Nat.mod_lt _ (by decide)
  generalize i % (Value.slice none 0 0).cells.size = r at h5
  match r, h5 with
  | 0, _ => exact ⟨none, 0, 0, rfl⟩
/-- A number stays where only a block without words is written. -/
theorem num_grown {w w' : World} {u : Value} {l : List Int} {g : Nat} (h : Num w u l) (hg : w.grownBy w' (some g)) (hno : ∀ i x, w.cell? ⟨g, i, none⟩ ≠ some (.int .u32 x)) : Num w' u l := by
  obtain ⟨a, cap, rfl, h1, h2, h3⟩ := h
  refine ⟨a, cap, rfl, h1, h2, ?_⟩
  rcases h3 with rfl | ⟨b, off, rfl, h4, h5⟩
  · exact Or.inl rfl
  · by_cases hl : l = []
    · exact Or.inl hl
    · have hl0 : 0 < l.length := List.length_pos_iff.2 hl
      have hbg : b ≠ g := by
        intro e
        subst e
        exact hno _ _ (h5 0 hl0)
      refine Or.inr ⟨b, off, rfl, Nat.lt_of_lt_of_le h4 hg.size, fun j hj => ?_⟩
      have hb := hg.block b h4 (by intro e; exact hbg (Option.some.inj e))
      rw [World.cell?_of_block (a := ⟨b, off + j, none⟩) hb]
      exact h5 j hj
/-- What lies where while elements and numbers are made one behind the other. -/
structure Sp (w0 : World) (ga ca gx cx : Nat) (xs : List Fe.E) (us : List (Value × List Int)) (w : World) : Prop where
  ra : RowG 30 5 Is64 w ga ca xs.length (flat xs)
  rx : RowG 26 1 IsSl w gx cx us.length (us.map (·.1))
  nums : ∀ r ∈ us, Num w r.1 r.2
  dbl : Dbl w
  ne : w0.heap.size ≤ ga ∧ w0.heap.size ≤ gx
  z0 : 0 < w0.heap.size
  bb : Below w0.heap.size w0 w
section
variable {w0 w w' : World} {ga ca gx cx : Nat} {xs : List Fe.E} {us : List (Value × List Int)}
theorem Sp.below (h : Sp w0 ga ca gx cx xs us w) (hb : Below w.heap.size w w') : Sp w0 ga ca gx cx xs us w' :=
  ⟨h.ra.keep (hb.block _ h.ra.lt), h.rx.keep (hb.block _ h.rx.lt), fun r hr => (h.nums r hr).below hb (Nat.le_refl _), h.dbl.below hb h.dbl.1, h.ne, h.z0, h.bb.trans (hb.mono h.bb.size)⟩
theorem Sp.apart (h : Sp w0 ga ca gx cx xs us w) : ga ≠ gx := by
  intro e
  subst e
  obtain ⟨c1, h1, _⟩ := h.ra
  obtain ⟨c2, h2, _⟩ := h.rx
  rw [h1] at h2
  injection h2 with h3
  injection h3 with h4 h5
  cases h5
theorem Sp.grown (h : Sp w0 ga ca gx cx xs us w) {g : Nat} (hg : w.grownBy w' (some g)) (h0 : w0.heap.size ≤ g) : Below w0.heap.size w0 w' :=
  h.bb.trans ⟨hg.os, hg.tape, hg.output, hg.size, fun i hi => hg.block i (Nat.lt_of_lt_of_le hi h.bb.size) (by intro e; have := Option.some.inj e; omega)⟩
theorem Sp.dbl2 (h : Sp w0 ga ca gx cx xs us w) {g : Nat} (hg : w.grownBy w' (some g)) (h0 : w0.heap.size ≤ g) : Dbl w' :=
  h.dbl.below (B := w0.heap.size) ⟨hg.os, hg.tape, hg.output, hg.size, fun i hi => hg.block i (Nat.lt_of_lt_of_le hi h.bb.size) (by intro e; have := Option.some.inj e; omega)⟩ h.z0
theorem Sp.putA (h : Sp w0 ga ca gx cx xs us w) {ga' ca' : Nat} {y : Fe.E} (hr : RowG 30 5 Is64 w' ga' ca' (xs.length + 1) (flat xs ++ (ec y).toList)) (hga : ga' = ga ∨ ga' = w.heap.size) (hg : w.grownBy w' (some ga)) : Sp w0 ga' ca' gx cx (xs ++ [y]) us w' := by
  refine ⟨?_, h.rx.keep (hg.block _ h.rx.lt (by intro e; exact h.apart (Option.some.inj e).symm)), fun r hr => num_grown (h.nums r hr) hg fun i x hc => ?_, h.dbl2 hg h.ne.1, ⟨?_, h.ne.2⟩, h.z0, h.grown hg h.ne.1⟩
  · rw [flat_append, List.length_append]
    exact hr
  · obtain ⟨z, hz⟩ := h.ra.all i _ hc
    cases hz
  · have h1 := h.ne.1
    have h2 := h.bb.size
    rcases hga with rfl | rfl <;> omega
theorem Sp.putX (h : Sp w0 ga ca gx cx xs us w) {gx' cx' : Nat} {u : Value} {l : List Int} (hu : Num w u l) (hr : RowG 26 1 IsSl w' gx' cx' (us.length + 1) (us.map (·.1) ++ [u])) (hgx : gx' = gx ∨ gx' = w.heap.size) (hg : w.grownBy w' (some gx)) : Sp w0 ga ca gx' cx' xs (us ++ [(u, l)]) w' := by
  have hno : ∀ i x, w.cell? ⟨gx, i, none⟩ ≠ some (.int .u32 x) := fun i x hc => by
    obtain ⟨a, n, k, hz⟩ := h.rx.all i _ hc
    cases hz
  refine ⟨h.ra.keep (hg.block _ h.ra.lt (by intro e; exact h.apart (Option.some.inj e))), ?_, fun r hr => ?_, h.dbl2 hg h.ne.2, ⟨h.ne.1, ?_⟩, h.z0, h.grown hg h.ne.2⟩
  · rw [List.map_append, List.length_append]
    exact hr
  · rcases List.mem_append.1 hr with hr | hr
    · exact num_grown (h.nums r hr) hg hno
    · rw [List.mem_singleton] at hr
      subst hr
      exact num_grown hu hg hno
  · have h1 := h.ne.2
    have h2 := h.bb.size
    rcases hgx with rfl | rfl <;> omega
end
namespace Grow
section
variable {P : Program} {m : Nat} {ops : Array Oper} {Q : Exit → Act → World → Prop} {specs : Nat → Spec} {a0 : Act} {w0 : World}
theorem wpSeq_list : ∀ (l : List Oper) (a : Act) (w : World), wpSeq P ops Q l a w → wpList P ops Q l a w
  | [], _, _, h => h
  | o :: r, a, w, ⟨hw, hwp⟩ => by
    unfold wpList
    rw [if_pos hw]
    exact Or.inl (Oper.wp_mono (fun a' w' h => wpSeq_list r a' w' h) hwp)
theorem line_any (hf : fits5 ops m a0.tmps.size = true) (hops : Hops2 P m ops specs Q a0 w0 0 (ops.toList.take m))
    (hend : ∀ a w, Below w0.heap.size w0 w → a.tmps.size = a0.tmps.size → (∀ i d, i < m → dstOf ops i = some d → (specs i).meets (a.eval (.tmp d)) w) → a.defers = a0.defers → (∀ t, free2 ops m t = true → a.eval (.tmp t) = a0.eval (.tmp t)) → wpSeq P ops Q (ops.toList.drop m) a w) :
    ∀ (n k : Nat), n + k = m → ∀ a w, Below w0.heap.size w0 w → a.tmps.size = a0.tmps.size → (∀ i d, i < k → dstOf ops i = some d → (specs i).meets (a.eval (.tmp d)) w) → a.defers = a0.defers → (∀ t, free2 ops m t = true → a.eval (.tmp t) = a0.eval (.tmp t)) → wpList P ops Q (ops.toList.drop k) a w := by
  intro n
  induction n with
  | zero =>
    intro k hk a w hb ht hkn hd hr
    obtain rfl : k = m := by omega
    exact wpSeq_list _ _ _ (hend a w hb ht hkn hd hr)
  | succ n ih =>
    intro k hk a w hb ht hkn hd hr
    have hsz := fits5_size hf
    have hkm : k < m := by omega
    obtain ⟨o, ho⟩ : ∃ o, ops[k]? = some o := ⟨_, Array.getElem?_eq_getElem (by omega)⟩
    obtain ⟨d, hdst, hdn, hne, haf⟩ := fits5_dst hf hkm ho
    have hdk : dstOf ops k = some d := by simp [dstOf, ho, hdst]
    have hdrop : ops.toList.drop k = o :: ops.toList.drop (k + 1) := by
      rw [List.drop_eq_getElem_cons (show k < ops.toList.length by simp; omega)]
      congr 1
      have := (Array.getElem?_eq_some_iff.1 ho).2
      simpa using this
    have hhop := hops.get k o (by rw [List.getElem?_take_of_lt hkm]; simpa using ho)
    rw [Nat.zero_add] at hhop
    have next : ∀ v w', (specs k).meets v w' → Below w.heap.size w w' → wpList P ops Q (ops.toList.drop (k + 1)) (a.put o.dst v) w' := by
      intro v w' hv hb'
      rw [hdst]
      refine ih (k + 1) (by omega) _ w' (hb.trans (hb'.mono hb.size)) (by simp [Act.put, ht]) (fun i e hi he => ?_) (by simp [Act.put, hd]) (fun t hft => ?_)
      · by_cases hik : i = k
        · subst hik
          obtain rfl : d = e := Option.some.inj (hdk.symm.trans he)
          rw [eval_put_eq (by rw [ht]; exact hdn)]
          exact hv
        · have hde : d ≠ e := fun hh => hne i (by omega) hik (hh ▸ he)
          rw [eval_put_ne hde]
          exact (specs i).keeps (hkn i e (by omega) he) hb'
      · have : d ≠ t := by
          intro hh
          subst hh
          unfold free2 at hft
          rw [List.all_eq_true] at hft
          have := hft k (List.mem_range.2 hkm)
          rw [hdk] at this
          simp at this
        rw [eval_put_ne this]
        exact hr t hft
    rw [hdrop]
    unfold wpList
    rcases hhop a w hb ht (fun j e he => by
      unfold deps at he
      simp only [Bool.and_eq_true, beq_iff_eq] at he
      obtain ⟨hd1, hd2⟩ := he
      rw [Array.any_eq_true'] at hd1
      obtain ⟨f, hf1, hf2⟩ := hd1
      simp only [Bool.and_eq_true, beq_iff_eq] at hf2
      obtain ⟨_, rfl⟩ := hf2
      exact hkn _ e (haf f hf1) hd2) hr with ⟨hw, hwp⟩ | ⟨hw, hm⟩
    · rw [if_pos hw]
      refine Or.inl (Oper.wp_mono ?_ hwp)
      rintro a' w' ⟨v, rfl, hv, hb'⟩
      exact next v w' hv hb'
    · rw [if_neg (by rw [hw]; simp)]
      exact next undef w hm (Below.refl _ _)
theorem region_line {id : Nat} (m : Nat) (specs : Nat → Spec) (hf : fits5 ops m a0.tmps.size = true) (hops : Hops2 P m ops specs Q a0 w0 0 (ops.toList.take m))
    (hend : ∀ a w, Below w0.heap.size w0 w → a.tmps.size = a0.tmps.size → (∀ i d, i < m → dstOf ops i = some d → (specs i).meets (a.eval (.tmp d)) w) → a.defers = a0.defers → (∀ t, free2 ops m t = true → a.eval (.tmp t) = a0.eval (.tmp t)) → wpSeq P ops Q (ops.toList.drop m) a w) :
    (Code.region id ops false).wp P Q a0 w0 :=
  wp_region_list (line_any hf hops hend m 0 (Nat.add_zero m) a0 w0 (Below.refl _ _) rfl (fun i _ h => by omega) rfl (fun _ _ => rfl))
end
end Grow
end Go.Proofs.YtgebangnhgmmoaaDoor
namespace Go.Proofs.YtgebangnhgmmoaaDoor
open Go.RowKit
/-- What an operation of the row finds. -/
theorem run_loadE (w : World) (g off : Nat) (x : Fe.E) (h : ∀ i v, (ec x).toList[i]? = some v → w.cell? ⟨g, off + i, none⟩ = some v) : (loadVar 30 ⟨g, off, none⟩).run Tryd.prog w = .ok (.agg (ec x)) w := by
  have hl : (loadCells ⟨g, off, none⟩ (ec x).toList.length).run Tryd.prog w = .ok (ec x).toList.toArray w :=
    run_loadCells_list (P := Tryd.prog) w ⟨g, off, none⟩ (ec x).toList (fun j v hv => by rw [Addr.add_mid]; exact h j v hv)
  obtain ⟨i, hq, _, hs, _⟩ := info_three info30
  have hagg : (isAgg 30).run Tryd.prog w = .ok true w := by
    unfold isAgg
    rw [Sem.run_bind, run_underlying Tryd.underlying30 w]
    rfl
  have h5 : (ec x).toList.length = 5 := rfl
  rw [h5] at hl
  simp only [Array.toArray_toList] at hl
  simp [loadVar, Sem.run_bind, hagg, sizeOf, typeInfo, hq, hs, hl]
namespace Grow
section
variable {m : Nat} {ops : Array Oper} {Q : Exit → Act → World → Prop} {specs : Nat → Spec} {a0 : Act} {w0 : World} {i : Nat} {o : Oper}
theorem h2_idx48 (hr : Runs2 ops specs a0 o) (j1 d1 j2 d2 g n c k : Nat) (hkn : k < n) (ho : o.op = .indexAddr 48 (.tmp d1) (.tmp d2)) (hj1 : deps .any ops o j1 d1 = true) (hj2 : deps .any ops o j2 d2 = true) (hs1 : specs j1 = .is (.slice (some ⟨g, 0, none⟩) n c)) (hs2 : specs j2 = .is (.int .i64 (k : Int))) (hi : specs i = .is (.pointer (some ⟨g, k * 5, none⟩))) : Hop2 Tryd.prog m ops specs Q a0 w0 i o :=
  h2_val hr fun a w hk => by
    have h1 := hk.deps j1 d1 hj1
    have h2 := hk.deps j2 d2 hj2
    rw [hs1] at h1
    rw [hs2] at h2
    have h1 : a.eval (.tmp d1) = .slice (some ⟨g, 0, none⟩) n c := h1
    have h2 : a.eval (.tmp d2) = .int .i64 (k : Int) := h2
    refine ⟨.pointer (some ⟨g, k * 5, none⟩), w, ?_, by rw [hi]; rfl, Below.refl _ _⟩
    unfold execOp
    rw [ho]
    simp only [h1, h2]
    have hu := Tryd.underlying48
    go_simp
theorem h2_idx49 (hr : Runs2 ops specs a0 o) (j1 d1 j2 d2 g n c k : Nat) (hkn : k < n) (ho : o.op = .indexAddr 49 (.tmp d1) (.tmp d2)) (hj1 : deps .any ops o j1 d1 = true) (hj2 : deps .any ops o j2 d2 = true) (hs1 : specs j1 = .is (.slice (some ⟨g, 0, none⟩) n c)) (hs2 : specs j2 = .is (.int .i64 (k : Int))) (hi : specs i = .is (.pointer (some ⟨g, k * 1, none⟩))) : Hop2 Tryd.prog m ops specs Q a0 w0 i o :=
  h2_val hr fun a w hk => by
    have h1 := hk.deps j1 d1 hj1
    have h2 := hk.deps j2 d2 hj2
    rw [hs1] at h1
    rw [hs2] at h2
    have h1 : a.eval (.tmp d1) = .slice (some ⟨g, 0, none⟩) n c := h1
    have h2 : a.eval (.tmp d2) = .int .i64 (k : Int) := h2
    refine ⟨.pointer (some ⟨g, k * 1, none⟩), w, ?_, by rw [hi]; rfl, Below.refl _ _⟩
    unfold execOp
    rw [ho]
    simp only [h1, h2]
    have hu := Tryd.underlying49
    go_simp
theorem h2_loadE (hr : Runs2 ops specs a0 o) (j d g off : Nat) (x : Fe.E) (ho : o.op = .load 30 (.tmp d)) (hj : deps .any ops o j d = true) (hs : specs j = .is (.pointer (some ⟨g, off, none⟩))) (hg : g < w0.heap.size) (hc : ∀ i v, (ec x).toList[i]? = some v → w0.cell? ⟨g, off + i, none⟩ = some v) (hi : specs i = .is (.agg (ec x))) : Hop2 Tryd.prog m ops specs Q a0 w0 i o :=
  h2_val hr fun a w hk => by
    have h := hk.deps j d hj
    rw [hs] at h
    have h : a.eval (.tmp d) = .pointer (some ⟨g, off, none⟩) := h
    have hl := run_loadE w g off x fun i v hv => (hk.below.cell (p := ⟨g, off + i, none⟩) hg).trans (hc i v hv)
    refine ⟨.agg (ec x), w, ?_, by rw [hi]; rfl, Below.refl _ _⟩
    unfold execOp
    simp only [ho, h, Instr.loadAt, Instr.sureAddr, Sem.run_bind, Sem.run_pure, Result.andThen_ok, hl]
theorem h2_load26 (hr : Runs2 ops specs a0 o) (j d g off : Nat) (u : Value) (hu : IsSl u) (ho : o.op = .load 26 (.tmp d)) (hj : deps .any ops o j d = true) (hs : specs j = .is (.pointer (some ⟨g, off, none⟩))) (hg : g < w0.heap.size) (hc : w0.cell? ⟨g, off, none⟩ = some u) (hi : specs i = .is u) : Hop2 Tryd.prog m ops specs Q a0 w0 i o :=
  h2_val hr fun a w hk => by
    have h := hk.deps j d hj
    rw [hs] at h
    have h : a.eval (.tmp d) = .pointer (some ⟨g, off, none⟩) := h
    have hcw := (hk.below.cell (p := ⟨g, off, none⟩) hg).trans hc
    obtain ⟨a1, n1, k1, rfl⟩ := hu
    refine ⟨.slice a1 n1 k1, w, ?_, by rw [hi]; rfl, Below.refl _ _⟩
    unfold execOp
    rw [ho]
    simp only [h]
    have hu := Tryd.underlying26
    go_simp
/-- A new row of one element. -/
def newE (w0 : World) (x : Fe.E) : Spec :=
  .held (fun u w => ∃ g, u = .slice (some ⟨g, 0, none⟩) 1 1 ∧ w0.heap.size ≤ g ∧ w.heap[g]? = some (.cells (ec x) 30 (0, 0)))
    fun _ _ _ ⟨g, h1, h2, h3⟩ hb => ⟨g, h1, h2, (hb.block _ (lt_of_block h3)).trans h3⟩
theorem h2_buildE (hr : Runs2 ops specs a0 o) (j d : Nat) (x : Fe.E) (ho : o.op = .buildSlice 48 1 #[(0, .tmp d)]) (hj : deps .any ops o j d = true) (hs : specs j = .is (.agg (ec x))) (hi : specs i = newE w0 x) : Hop2 Tryd.prog m ops specs Q a0 w0 i o :=
  h2_wp hr fun a w hk => by
    have h := hk.deps j d hj
    rw [hs] at h
    have h : a.eval (.tmp d) = .agg (ec x) := h
    obtain ⟨i0, hi0, hz0, hz1, hz2⟩ := info_three info30
    refine wp_buildSlice 48 30 1 _ ho (ec x) i0 (.agg (ec Fe.z)) Tryd.underlying48 hi0 hz0 (by rw [hz1]; decide) (by rw [hz1]; decide) ?_ ?_
    · rw [hz1]
      simp only [List.map_toArray, List.map_cons, List.map_nil, h]
      kernel_rfl
    · refine ⟨_, rfl, ?_, (Below.refl _ _).alloc (Nat.le_refl _) _⟩
      rw [hi]
      exact ⟨_, rfl, hk.below.size, heap_alloc_new w _⟩
/-- A new row of one number. -/
def newX (w0 : World) (N : Int) : Spec :=
  .held (fun v w => ∃ g u l, v = .slice (some ⟨g, 0, none⟩) 1 1 ∧ w0.heap.size ≤ g ∧ w.heap[g]? = some (.cells #[u] 26 (0, 0)) ∧ Num w u l ∧ Nt.val l = N ∧ Nt.Neat l ∧ l.length ≤ 20000)
    fun _ _ _ ⟨g, u, l, h1, h2, h3, h4, h5⟩ hb => ⟨g, u, l, h1, h2, (hb.block _ (lt_of_block h3)).trans h3, h4.below hb (Nat.le_refl _), h5⟩
theorem h2_buildX (hr : Runs2 ops specs a0 o) (j d : Nat) (N : Int) (ho : o.op = .buildSlice 49 1 #[(0, .tmp d)]) (hj : deps .any ops o j d = true) (hs : specs j = nat N) (hi : specs i = newX w0 N) : Hop2 Tryd.prog m ops specs Q a0 w0 i o :=
  h2_wp hr fun a w hk => by
    have h := hk.deps j d hj
    rw [hs] at h
    obtain ⟨l, h1, h2, h3, h4⟩ : ∃ l, Num w (a.eval (.tmp d)) l ∧ Nt.val l = N ∧ Nt.Neat l ∧ l.length ≤ 20000 := h
    obtain ⟨a1, c1, hv⟩ := num_form h1
    obtain ⟨i0, hi0, hz0, hz1, hz2⟩ := info_three info26
    rw [hv] at h1
    refine wp_buildSlice 49 26 1 _ ho #[.slice a1 l.length c1] i0 (.slice none 0 0) Tryd.underlying49 hi0 hz0 (by rw [hz1]; decide) (by rw [hz1]; decide) ?_ ?_
    · rw [hz1]
      simp only [List.map_toArray, List.map_cons, List.map_nil, hv]
      kernel_rfl
    · refine ⟨_, rfl, ?_, (Below.refl _ _).alloc (Nat.le_refl _) _⟩
      rw [hi]
      exact ⟨_, _, l, rfl, hk.below.size, heap_alloc_new w _, h1.below ((Below.refl _ _).alloc (Nat.le_refl _) _) (Nat.le_refl _), h2, h3, h4⟩
/-- Two elements in a new row. -/
def newE2 (w0 : World) (x y : Fe.E) : Spec :=
  .held (fun u w => ∃ g, u = .slice (some ⟨g, 0, none⟩) 2 2 ∧ w0.heap.size ≤ g ∧ w.heap[g]? = some (.cells (ec x ++ ec y) 30 (0, 0)))
    fun _ _ _ ⟨g, h1, h2, h3⟩ hb => ⟨g, h1, h2, (hb.block _ (lt_of_block h3)).trans h3⟩
theorem h2_buildE2 (hr : Runs2 ops specs a0 o) (j1 d1 j2 d2 : Nat) (x y : Fe.E) (ho : o.op = .buildSlice 48 2 #[(0, .tmp d1), (1, .tmp d2)]) (hj1 : deps .any ops o j1 d1 = true) (hj2 : deps .any ops o j2 d2 = true) (hs1 : specs j1 = .is (.agg (ec x))) (hs2 : specs j2 = .is (.agg (ec y))) (hi : specs i = newE2 w0 x y) : Hop2 Tryd.prog m ops specs Q a0 w0 i o :=
  h2_wp hr fun a w hk => by
    have h1 := hk.deps j1 d1 hj1
    have h2 := hk.deps j2 d2 hj2
    rw [hs1] at h1
    rw [hs2] at h2
    have h1 : a.eval (.tmp d1) = .agg (ec x) := h1
    have h2 : a.eval (.tmp d2) = .agg (ec y) := h2
    obtain ⟨i0, hi0, hz0, hz1, hz2⟩ := info_three info30
    refine wp_buildSlice 48 30 2 _ ho (ec x ++ ec y) i0 (.agg (ec Fe.z)) Tryd.underlying48 hi0 hz0 (by rw [hz1]; decide) (by rw [hz1]; decide) ?_ ?_
    · rw [hz1]
      simp only [List.map_toArray, List.map_cons, List.map_nil, h1, h2]
      kernel_rfl
    · refine ⟨_, rfl, ?_, (Below.refl _ _).alloc (Nat.le_refl _) _⟩
      rw [hi]
      exact ⟨_, rfl, hk.below.size, heap_alloc_new w _⟩
/-- Two numbers in a new row. -/
def newX2 (w0 : World) (N M : Int) : Spec :=
  .held (fun v w => ∃ g u l u2 l2, v = .slice (some ⟨g, 0, none⟩) 2 2 ∧ w0.heap.size ≤ g ∧ w.heap[g]? = some (.cells #[u, u2] 26 (0, 0)) ∧ (Num w u l ∧ Nt.val l = N ∧ Nt.Neat l ∧ l.length ≤ 20000) ∧ (Num w u2 l2 ∧ Nt.val l2 = M ∧ Nt.Neat l2 ∧ l2.length ≤ 20000))
    fun _ _ _ ⟨g, u, l, u2, l2, h1, h2, h3, ⟨h4, h5⟩, ⟨h6, h7⟩⟩ hb => ⟨g, u, l, u2, l2, h1, h2, (hb.block _ (lt_of_block h3)).trans h3, ⟨h4.below hb (Nat.le_refl _), h5⟩, ⟨h6.below hb (Nat.le_refl _), h7⟩⟩
theorem h2_buildX2 (hr : Runs2 ops specs a0 o) (j1 d1 j2 d2 : Nat) (N M : Int) (ho : o.op = .buildSlice 49 2 #[(0, .tmp d1), (1, .tmp d2)]) (hj1 : deps .any ops o j1 d1 = true) (hj2 : deps .any ops o j2 d2 = true) (hs1 : specs j1 = nat N) (hs2 : specs j2 = nat M) (hi : specs i = newX2 w0 N M) : Hop2 Tryd.prog m ops specs Q a0 w0 i o :=
  h2_wp hr fun a w hk => by
    have h1 := hk.deps j1 d1 hj1
    have h2 := hk.deps j2 d2 hj2
    rw [hs1] at h1
    rw [hs2] at h2
    obtain ⟨l, h11, h12⟩ : ∃ l, Num w (a.eval (.tmp d1)) l ∧ Nt.val l = N ∧ Nt.Neat l ∧ l.length ≤ 20000 := h1
    obtain ⟨l2, h21, h22⟩ : ∃ l, Num w (a.eval (.tmp d2)) l ∧ Nt.val l = M ∧ Nt.Neat l ∧ l.length ≤ 20000 := h2
    obtain ⟨a1, c1, hv1⟩ := num_form h11
    obtain ⟨a2, c2, hv2⟩ := num_form h21
    rw [hv1] at h11
    rw [hv2] at h21
    obtain ⟨i0, hi0, hz0, hz1, hz2⟩ := info_three info26
    refine wp_buildSlice 49 26 2 _ ho #[.slice a1 l.length c1, .slice a2 l2.length c2] i0 (.slice none 0 0) Tryd.underlying49 hi0 hz0 (by rw [hz1]; decide) (by rw [hz1]; decide) ?_ ?_
    · rw [hz1]
      simp only [List.map_toArray, List.map_cons, List.map_nil, hv1, hv2]
      kernel_rfl
    · have hb : Below w.heap.size w (w.alloc (.cells #[.slice a1 l.length c1, .slice a2 l2.length c2] 26)) := (Below.refl _ _).alloc (Nat.le_refl _) _
      refine ⟨_, rfl, ?_, hb⟩
      rw [hi]
      exact ⟨_, _, l, _, l2, rfl, hk.below.size, heap_alloc_new w _, ⟨h11.below hb (Nat.le_refl _), h12⟩, ⟨h21.below hb (Nat.le_refl _), h22⟩⟩
/-- A box of bytes, as a slice. -/
theorem h2_arr (hr : Runs2 ops specs a0 o) (t g : Nat) (ho : o.op = .slice 23 (.tmp t) none none none) (hf : free2 ops m t = true) (hv : a0.eval (.tmp t) = .pointer (some ⟨g, 0, none⟩)) (hs : specs i = .is (.slice (some ⟨g, 0, none⟩) 32 32)) : Hop2 Tryd.prog m ops specs Q a0 w0 i o :=
  h2_val hr fun a w hk => by
    have h : a.eval (.tmp t) = .pointer (some ⟨g, 0, none⟩) := (hk.rest t hf).trans hv
    refine ⟨.slice (some ⟨g, 0, none⟩) 32 32, w, ?_, by rw [hs]; rfl, Below.refl _ _⟩
    unfold execOp
    rw [ho]
    simp only [Option.map_none, h]
    have hu := Tryd.underlying23
    go_simp
theorem h2_len2 (hr : Runs2 ops specs a0 o) (j d : Nat) (t : TypeId) (e : TypeId) (hu : Tryd.prog.underlying t = some (.slice e)) (ad : Option Addr) (n c : Nat) (ho : o.op = .call { callee := .builtin .len, args := #[.tmp d], argTypes := #[t] }) (hj : deps .any ops o j d = true) (hs : specs j = .is (.slice ad n c)) (hi : specs i = .is (.int .i64 n)) : Hop2 Tryd.prog m ops specs Q a0 w0 i o :=
  h2_val hr fun a w hk => by
    have h1 := hk.deps j d hj
    rw [hs] at h1
    have h1 : a.eval (.tmp d) = .slice ad n c := h1
    refine ⟨.int .i64 n, w, ?_, by rw [hi]; rfl, Below.refl _ _⟩
    unfold execOp
    rw [ho]
    have h2 : a.tmps[d]?.getD undef = .slice ad n c := by
      rw [← h1]; simp [Act.eval]
    go_simp
theorem h2_sub1 (hr : Runs2 ops specs a0 o) (j d n : Nat) (hn : n ≤ 1000) (ho : o.op = .binOp .sub 3 (.tmp d) (.const (.int .i64 1)) 3) (hj : deps .any ops o j d = true) (hs : specs j = .is (.int .i64 ((n + 1 : Nat) : Int))) (hi : specs i = .is (.int .i64 (n : Int))) : Hop2 Tryd.prog m ops specs Q a0 w0 i o :=
  h2_val hr fun a w hk => by
    have h := hk.deps j d hj
    rw [hs] at h
    have h : a.eval (.tmp d) = .int .i64 ((n + 1 : Nat) : Int) := h
    refine ⟨.int .i64 (n : Int), w, ?_, by rw [hi]; rfl, Below.refl _ _⟩
    unfold execOp
    rw [ho]
    simp only [h]
    have hu := Tryd.underlying3
    have e : (((n + 1 : Nat) : Int) - 1) = (n : Int) := by omega
    have e2 : IntKind.i64.wrap (n : Int) = (n : Int) := by rw [IntKind.wrap_i64]; omega
    generalize ((n + 1 : Nat) : Int) = N at *
    go_simp
end
theorem wp_append_A {o : Oper} {a : Act} {w : World} {Q : Exit → Act → World → Prop} {K : Act → World → Prop} (s x : Operand) (ho : o.op = .call { callee := .builtin .append, args := #[s, x], argTypes := #[48, 48] })
    {g c n : Nat} {vs : List Value} (h : RowG 30 5 Is64 w g c n vs) (hs : a.eval s = .slice (some ⟨g, 0, none⟩) n c) (y : Fe.E) (gy : Nat) (hx : a.eval x = .slice (some ⟨gy, 0, none⟩) 1 1) (hy : w.heap[gy]? = some (.cells (ec y) 30 (0, 0))) (hn : n ≤ 1000)
    (hK : ∀ g' c' w', RowG 30 5 Is64 w' g' c' (n + 1) (vs ++ (ec y).toList) → (g' = g ∨ g' = w.heap.size) → w.grownBy w' (some g) → K (a.put o.dst (.slice (some ⟨g', 0, none⟩) (n + 1) c')) w') : o.wp Tryd.prog a w K Q := by
  obtain ⟨g', c', w', hr, h1, h2, h3⟩ := run_append_row Tryd.underlying48 info30 rfl (by decide) zeros_64 w o.type h gy (ec y) hy rfl (ec_64 y) (by intro v hv; obtain ⟨z, rfl⟩ := ec_64 y v hv; rfl) hn (by decide)
  unfold Oper.wp execOp
  simp only [ho, resolve, invoke, builtin, Sem.run_bind, Sem.run_pure, Result.andThen_ok, List.map_toArray, List.map_cons, List.map_nil, hs, hx, hr]
  exact hK g' c' w' h1 h2 h3
theorem wp_append_X {o : Oper} {a : Act} {w : World} {Q : Exit → Act → World → Prop} {K : Act → World → Prop} (s x : Operand) (ho : o.op = .call { callee := .builtin .append, args := #[s, x], argTypes := #[49, 49] })
    {g c n : Nat} {vs : List Value} (h : RowG 26 1 IsSl w g c n vs) (hs : a.eval s = .slice (some ⟨g, 0, none⟩) n c) (u : Value) (hu : IsSl u) (gy : Nat) (hx : a.eval x = .slice (some ⟨gy, 0, none⟩) 1 1) (hy : w.heap[gy]? = some (.cells #[u] 26 (0, 0))) (hn : n ≤ 1000)
    (hK : ∀ g' c' w', RowG 26 1 IsSl w' g' c' (n + 1) (vs ++ [u]) → (g' = g ∨ g' = w.heap.size) → w.grownBy w' (some g) → K (a.put o.dst (.slice (some ⟨g', 0, none⟩) (n + 1) c')) w') : o.wp Tryd.prog a w K Q := by
  obtain ⟨g', c', w', hr, h1, h2, h3⟩ := run_append_row Tryd.underlying49 info26 rfl (by decide) zeros_sl w o.type h gy #[u] hy rfl (by intro v hv; simp at hv; rw [hv]; exact hu) (by intro v hv; simp at hv; obtain ⟨a1, n1, k1, rfl⟩ := hu; rw [hv]; rfl) hn (by decide)
  unfold Oper.wp execOp
  simp only [ho, resolve, invoke, builtin, Sem.run_bind, Sem.run_pure, Result.andThen_ok, List.map_toArray, List.map_cons, List.map_nil, hs, hx, hr]
  exact hK g' c' w' h1 h2 h3
end Grow
end Go.Proofs.YtgebangnhgmmoaaDoor
namespace Go.Proofs.YtgebangnhgmmoaaDoor
open Go.RowKit
/-- An element and a number that are the same. -/
def G (x : Fe.E) (l : List Int) : Prop := Fe.Ok x ∧ Nt.val l = Fe.val x % Fe.P ∧ Nt.Neat l ∧ l.length ≤ 20000
def Goods (xs : List Fe.E) (us : List (Value × List Int)) : Prop := ∀ j, j < us.length → G (xs.getD j Fe.z) (us.getD j (undef, [])).2
theorem Goods.more {xs : List Fe.E} {us : List (Value × List Int)} (h : Goods xs us) (hl : xs.length = us.length) {y : Fe.E} {u : Value} {l : List Int} (hy : G y l) : Goods (xs ++ [y]) (us ++ [(u, l)]) := by
  intro j hj
  rw [List.length_append, List.length_singleton] at hj
  by_cases h1 : j < us.length
  · rw [List.getD_eq_getElem?_getD, List.getD_eq_getElem?_getD, List.getElem?_append_left (by omega), List.getElem?_append_left h1, ← List.getD_eq_getElem?_getD, ← List.getD_eq_getElem?_getD]
    exact h j h1
  · obtain rfl : j = us.length := by omega
    rw [List.getD_eq_getElem?_getD, List.getD_eq_getElem?_getD, List.getElem?_append_right (by omega), List.getElem?_append_right (by omega), hl, Nat.sub_self]
    exact hy
theorem getD_last {α : Type} (xs : List α) (y d : α) (n : Nat) (h : xs.length = n) : (xs ++ [y]).getD n d = y := by
  subst h
  rw [List.getD_eq_getElem?_getD, List.getElem?_append_right (Nat.le_refl _), Nat.sub_self]
  rfl
theorem getD_old {α : Type} (xs : List α) (y d : α) (j : Nat) (h : j < xs.length) : (xs ++ [y]).getD j d = xs.getD j d := by
  rw [List.getD_eq_getElem?_getD, List.getElem?_append_left h, ← List.getD_eq_getElem?_getD]
theorem getD_mem {α : Type} (xs : List α) (d : α) (j : Nat) (h : j < xs.length) : xs.getD j d ∈ xs := by
  rw [List.getD_eq_getElem?_getD, List.getElem?_eq_getElem h]
  exact List.getElem_mem h
theorem Sp.elem {w0 w : World} {ga ca gx cx : Nat} {xs : List Fe.E} {us : List (Value × List Int)} (h : Sp w0 ga ca gx cx xs us w) (j : Nat) (hj : j < xs.length) : ∀ i v, (ec (xs.getD j Fe.z)).toList[i]? = some v → w.cell? ⟨ga, j * 5 + i, none⟩ = some v :=
  fun i v hv => h.ra.cell _ v (flat_get xs j hj i v hv)
theorem Sp.numc {w0 w : World} {ga ca gx cx : Nat} {xs : List Fe.E} {us : List (Value × List Int)} (h : Sp w0 ga ca gx cx xs us w) (j : Nat) (hj : j < us.length) : w.cell? ⟨gx, j * 1, none⟩ = some (us.getD j (undef, [])).1 := by
  refine h.rx.cell _ _ ?_
  rw [Nat.mul_one, List.getElem?_map, List.getElem?_eq_getElem hj, List.getD_eq_getElem?_getD, List.getElem?_eq_getElem hj]
  rfl
theorem Sp.numv {w0 w : World} {ga ca gx cx : Nat} {xs : List Fe.E} {us : List (Value × List Int)} (h : Sp w0 ga ca gx cx xs us w) (j : Nat) (hj : j < us.length) : Num w (us.getD j (undef, [])).1 (us.getD j (undef, [])).2 := h.nums _ (getD_mem us _ j hj)
theorem isSl_num {w : World} {u : Value} {l : List Int} (h : Num w u l) : IsSl u := by
  obtain ⟨a, c, rfl⟩ := num_form h
  exact ⟨_, _, _, rfl⟩
namespace Grow
theorem nat_G {w : World} {x : Fe.E} {u : Value} {l : List Int} (h : Num w u l) (hg : G x l) : (nat (Fe.val x % Fe.P)).meets u w := ⟨l, h, hg.2.1, hg.2.2.1, hg.2.2.2⟩
theorem s_add {w : World} {x y : Fe.E} {u v : Value} (hx : Fe.Ok x) (hy : Fe.Ok y) (hu : (nat (Fe.val x % Fe.P)).meets u w) (hv : (nat (Fe.val y % Fe.P)).meets v w) : Calls Tryd.prog 19 #[u, v] w fun e w' => ∃ v, e = .returned v ∧ (nat (Fe.val (Fe.add x y) % Fe.P)).meets v w' ∧ Below w.heap.size w w' := by
  obtain ⟨l, h1, h2, h3, h4⟩ := hu
  obtain ⟨k, k1, k2, k3, k4⟩ := hv
  refine (radd_any w u v l k h1 k1 h4 k4).mono ?_
  rintro e w' ⟨v', r, rfl, r1, r2, r3, r4, hb⟩
  exact ⟨_, rfl, ⟨r, r1, by rw [r2, h2, k2, ((Fe.Re.self hx).add (Fe.Re.self hy)).eq, ← Int.add_emod], r3, Nat.le_trans r4 (by decide)⟩, hb⟩
theorem s_sub {w : World} {x y : Fe.E} {u v : Value} (hx : Fe.Ok x) (hy : Fe.Ok y) (hu : (nat (Fe.val x % Fe.P)).meets u w) (hv : (nat (Fe.val y % Fe.P)).meets v w) : Calls Tryd.prog 21 #[u, v] w fun e w' => ∃ v, e = .returned v ∧ (nat (Fe.val (Fe.sub x y) % Fe.P)).meets v w' ∧ Below w.heap.size w w' := by
  obtain ⟨l, h1, h2, h3, h4⟩ := hu
  obtain ⟨k, k1, k2, k3, k4⟩ := hv
  refine (rsub_any w u v l k h1 k1 h4 (by rw [k2]; exact mod_P_le _)).mono ?_
  rintro e w' ⟨v', r, rfl, r1, r2, r3, r4, hb⟩
  exact ⟨_, rfl, ⟨r, r1, by rw [r2, h2, k2, ((Fe.Re.self hx).sub (Fe.Re.self hy)).eq, ← Int.sub_emod], r3, Nat.le_trans r4 (by decide)⟩, hb⟩
theorem s_mul {w : World} {x y : Fe.E} {u v : Value} (hx : Fe.Ok x) (hy : Fe.Ok y) (hu : (nat (Fe.val x % Fe.P)).meets u w) (hv : (nat (Fe.val y % Fe.P)).meets v w) : Calls Tryd.prog 26 #[u, v] w fun e w' => ∃ v, e = .returned v ∧ (nat (Fe.val (Fe.mul x y) % Fe.P)).meets v w' ∧ Below w.heap.size w w' := by
  refine (c_rmul hu hv).mono ?_
  rintro e w' ⟨v', rfl, r1, hb⟩
  rw [← Int.mul_emod, ← ((Fe.Re.self hx).mul (Fe.Re.self hy)).eq] at r1
  exact ⟨_, rfl, r1, hb⟩
theorem s_neg {w : World} {x : Fe.E} {u : Value} (hx : Fe.Ok x) (hu : (nat (Fe.val x % Fe.P)).meets u w) : Calls Tryd.prog 21 #[.slice none 0 0, u] w fun e w' => ∃ v, e = .returned v ∧ (nat (Fe.val (Fe.neg x) % Fe.P)).meets v w' ∧ Below w.heap.size w w' := by
  have h0 : Fe.Re Fe.z 0 := ⟨Fe.z_ok, rfl⟩
  obtain ⟨l, h1, h2, h3, h4⟩ := hu
  refine (rsub_any w (.slice none 0 0) u [] l (num_nil w) h1 (by decide) (by rw [h2]; exact mod_P_le _)).mono ?_
  rintro e w' ⟨v', r, rfl, r1, r2, r3, r4, hb⟩
  refine ⟨_, rfl, ⟨r, r1, ?_, r3, Nat.le_trans r4 (by decide)⟩, hb⟩
  show Nt.val r = Fe.val (Fe.sub Fe.z x) % Fe.P
  rw [r2, h2, (h0.sub (Fe.Re.self hx)).eq]
  show (0 - _) % _ = _
  rw [Int.sub_emod 0 (Fe.val x % Fe.P), Int.emod_emod, ← Int.sub_emod]
end Grow
end Go.Proofs.YtgebangnhgmmoaaDoor
namespace Go.Proofs.YtgebangnhgmmoaaDoor
open Go.RowKit

set_option maxRecDepth 100000 in
set_option maxHeartbeats 4000000 in
theorem steps_short (w : World) (hd : Dbl w) (p q : List Int) (hp : p.length = 32) (hq : q.length = 32) (wp : ∀ x ∈ p, W8 x) (wq : ∀ x ∈ q, W8 x) (ao : Option Addr) (co : Nat) (O : List Int) (hO : Slc w (.slice ao O.length co) O) (h40 : O.length ≤ 40) :
    Calls Tryd.prog 6 #[bv p, bv q, .slice ao O.length co] w fun e w' => e = .returned (.bool true) ∧ Below w.heap.size w w' := by
  have Z0 := Lib.hid hd.1
  have S0 := Lib.hid (St.two hd p q)
  have HO := Lib.hid hO
  have WP := Lib.hid wp
  have WQ := Lib.hid wq
  have LP := Lib.hid hp
  have LQ := Lib.hid hq
  clear hd wp wq hp hq hO
  unfold bv
  go_enter Tryd.func6, Tryd.ntmps6
  go_wp2_with (go_at_call 9; refine (awake_any _ S0.out.dbl).mono ?_; rintro e w1 ⟨rfl, hb⟩; have S1 := Lib.hid (S0.out.below hb); clear hb)
  clear S0
  refine Grow.region_tail (by kernel_rfl) 5 (fun i => List.getD (Grow.Spec.is (.slice (some ⟨w.heap.size, 0, none⟩) 32 32) :: Grow.Spec.is (.agg (ec (Fe.rd (Bt.low p)))) :: Grow.Spec.is (.slice (some ⟨w.heap.size + 1, 0, none⟩) 32 32) :: Grow.Spec.is (.agg (ec (Fe.rd (Bt.low q)))) :: Grow.newE2 w1 (Fe.rd (Bt.low p)) (Fe.rd (Bt.low q)) :: []) i (Grow.Spec.is undef)) (by kernel_rfl) ⟨
    Grow.h2_arr (Or.inl rfl) 3 w.heap.size rfl (by kernel_rfl) rfl rfl,
    Grow.h2_call1 (Or.inl rfl) 11 Grow.enter11 _ _ rfl (fun a wx hk => by have e1 : a.eval (.tmp 20) = .slice (some ⟨w.heap.size, 0, none⟩) 32 32 := (hk.deps 0 20 (by kernel_rfl)); rw [e1]; refine (read_32 wx _ _ p LP.out (slc_blk ((S1.out.below hk.below).bys (w.heap.size, p) (by simp)) LP.out WP.out)).mono ?_; rintro e w5 ⟨rfl, hb⟩; exact ⟨_, rfl, rfl, hb⟩),
    Grow.h2_arr (Or.inl rfl) 4 (w.heap.size + 1) rfl (by kernel_rfl) rfl rfl,
    Grow.h2_call1 (Or.inl rfl) 11 Grow.enter11 _ _ rfl (fun a wx hk => by have e1 : a.eval (.tmp 22) = .slice (some ⟨w.heap.size + 1, 0, none⟩) 32 32 := (hk.deps 2 22 (by kernel_rfl)); rw [e1]; refine (read_32 wx _ _ q LQ.out (slc_blk ((S1.out.below hk.below).bys (w.heap.size + 1, q) (by simp)) LQ.out WQ.out)).mono ?_; rintro e w5 ⟨rfl, hb⟩; exact ⟨_, rfl, rfl, hb⟩),
    Grow.h2_buildE2 (Or.inl rfl) 1 21 3 23 _ _ rfl (by kernel_rfl) (by kernel_rfl) rfl rfl rfl,
    trivial⟩ ?_
  intro o a w2x ho hb hts hk hdf hfr
  obtain rfl := Option.some.inj ho
  clear ho
  obtain ⟨ga, ev, hga, hza⟩ : ∃ g, a.eval (.tmp 24) = .slice (some ⟨g, 0, none⟩) 2 2 ∧ w1.heap.size ≤ g ∧ w2x.heap[g]? = some (.cells (ec (Fe.rd (Bt.low p)) ++ ec (Fe.rd (Bt.low q))) 30 (0, 0)) := hk 4 24 (by decide) rfl
  refine ⟨rfl, Grow.wp_assign 7 (.tmp 24) rfl rfl ?_⟩
  have ha := Grow.act_after hts hdf hfr
  rw [show Grow.dsts _ 5 = [20, 21, 22, 23, 24] from by kernel_rfl] at ha
  rw [ev]
  simp only [Grow.putAll, ev] at ha
  generalize a.eval (.tmp 20) = u20 at ha
  generalize a.eval (.tmp 21) = u21 at ha
  generalize a.eval (.tmp 22) = u22 at ha
  generalize a.eval (.tmp 23) = u23 at ha
  simp [Act.put] at ha
  have S2 := Lib.hid (S1.out.below hb)
  have HA2 := Lib.hid hza
  have GA2 := Lib.hid (Nat.le_trans S1.out.bb.size hga)
  clear hk hts hdf hfr ev hb hza hga S1
  subst ha
  go_wp2_with fail
  refine Grow.region_tail (by kernel_rfl) 5 (fun i => List.getD (Grow.Spec.is (.slice (some ⟨w.heap.size, 0, none⟩) 32 32) :: Grow.nat (Fe.val (Fe.rd (Bt.low p)) % Fe.P) :: Grow.Spec.is (.slice (some ⟨w.heap.size + 1, 0, none⟩) 32 32) :: Grow.nat (Fe.val (Fe.rd (Bt.low q)) % Fe.P) :: Grow.newX2 w2x (Fe.val (Fe.rd (Bt.low p)) % Fe.P) (Fe.val (Fe.rd (Bt.low q)) % Fe.P) :: []) i (Grow.Spec.is undef)) (by kernel_rfl) ⟨
    Grow.h2_arr (Or.inl rfl) 3 w.heap.size rfl (by kernel_rfl) rfl rfl,
    Grow.h2_call1 (Or.inl rfl) 10 Grow.enter10 _ _ rfl (fun a wx hk => by have e1 : a.eval (.tmp 25) = .slice (some ⟨w.heap.size, 0, none⟩) 32 32 := (hk.deps 0 25 (by kernel_rfl)); rw [e1]; refine (of_32 wx _ _ p LP.out (slc_blk ((S2.out.below hk.below).bys (w.heap.size, p) (by simp)) LP.out WP.out)).mono ?_; rintro e w5 ⟨v5, l5, rfl, hn, hv, hne, hl, hb⟩; exact ⟨_, rfl, ⟨l5, hn, by rw [Fe.rd_val]; exact hv, hne, Nat.le_trans hl (by decide)⟩, hb⟩),
    Grow.h2_arr (Or.inl rfl) 4 (w.heap.size + 1) rfl (by kernel_rfl) rfl rfl,
    Grow.h2_call1 (Or.inl rfl) 10 Grow.enter10 _ _ rfl (fun a wx hk => by have e1 : a.eval (.tmp 27) = .slice (some ⟨w.heap.size + 1, 0, none⟩) 32 32 := (hk.deps 2 27 (by kernel_rfl)); rw [e1]; refine (of_32 wx _ _ q LQ.out (slc_blk ((S2.out.below hk.below).bys (w.heap.size + 1, q) (by simp)) LQ.out WQ.out)).mono ?_; rintro e w5 ⟨v5, l5, rfl, hn, hv, hne, hl, hb⟩; exact ⟨_, rfl, ⟨l5, hn, by rw [Fe.rd_val]; exact hv, hne, Nat.le_trans hl (by decide)⟩, hb⟩),
    Grow.h2_buildX2 (Or.inl rfl) 1 26 3 28 _ _ rfl (by kernel_rfl) (by kernel_rfl) rfl rfl rfl,
    trivial⟩ ?_
  intro o a w3x ho hb hts hk hdf hfr
  obtain rfl := Option.some.inj ho
  clear ho
  obtain ⟨gx, u0, l0, u1, l1, ev, hgx, hzx, h0, h1⟩ : ∃ g u l u2 l2, a.eval (.tmp 29) = .slice (some ⟨g, 0, none⟩) 2 2 ∧ w2x.heap.size ≤ g ∧ w3x.heap[g]? = some (.cells #[u, u2] 26 (0, 0)) ∧ (Num w3x u l ∧ Nt.val l = Fe.val (Fe.rd (Bt.low p)) % Fe.P ∧ Nt.Neat l ∧ l.length ≤ 20000) ∧ (Num w3x u2 l2 ∧ Nt.val l2 = Fe.val (Fe.rd (Bt.low q)) % Fe.P ∧ Nt.Neat l2 ∧ l2.length ≤ 20000) := hk 4 29 (by decide) rfl
  refine ⟨rfl, Grow.wp_assign 8 (.tmp 29) rfl rfl ?_⟩
  have ha := Grow.act_after hts hdf hfr
  rw [show Grow.dsts _ 5 = [25, 26, 27, 28, 29] from by kernel_rfl] at ha
  rw [ev]
  simp only [Grow.putAll, ev] at ha
  generalize a.eval (.tmp 25) = u25 at ha
  generalize a.eval (.tmp 26) = u26 at ha
  generalize a.eval (.tmp 27) = u27 at ha
  generalize a.eval (.tmp 28) = u28 at ha
  simp [Act.put] at ha
  have S3 := S2.out.below hb
  have hza := (hb.block _ (lt_of_block HA2.out)).trans HA2.out
  have SP0 : Hid (Sp w ga 2 gx 2 [Fe.rd (Bt.low p), Fe.rd (Bt.low q)] [(u0, l0), (u1, l1)] w3x) := by
    refine ⟨⟨_, hza, rfl, Nat.le_refl _, by decide, rfl, rfl, ?_⟩, ⟨_, hzx, rfl, Nat.le_refl _, by decide, rfl, rfl, ?_⟩, ?_, S3.dbl, ⟨GA2.out, Nat.le_trans S2.out.bb.size hgx⟩, Z0.out, S3.bb⟩
    · intro v hv
      rw [Array.toList_append, List.mem_append] at hv
      rcases hv with hv | hv
      · exact ec_64 _ v hv
      · exact ec_64 _ v hv
    · intro v hv
      simp at hv
      rcases hv with rfl | rfl
      · exact isSl_num h0.1
      · exact isSl_num h1.1
    · intro r hr
      simp at hr
      rcases hr with rfl | rfl
      · exact h0.1
      · exact h1.1
  have GD0 : Hid (Goods [Fe.rd (Bt.low p), Fe.rd (Bt.low q)] [(u0, l0), (u1, l1)]) := by
    intro j hj
    match j, hj with
    | 0, _ => exact ⟨Fe.rd_ok _, h0.2⟩
    | 1, _ => exact ⟨Fe.rd_ok _, h1.2⟩
  have HL0 : Hid ([Fe.rd (Bt.low p), Fe.rd (Bt.low q)].length = 2 ∧ [(u0, l0), (u1, l1)].length = 2) := ⟨rfl, rfl⟩
  clear hk hts hdf hfr ev hb hza hgx hzx h0 h1 S2 S3 HA2 GA2
  subst ha
  generalize [Fe.rd (Bt.low p), Fe.rd (Bt.low q)] = xs0 at SP0 GD0 HL0
  generalize [(u0, l0), (u1, l1)] = us0 at SP0 GD0 HL0
  go_wp2_with fail
  go_loopw [7, 8, 9] (fun va vx i wr => ∃ (k n ga ca gx cx : Nat) (xs : List Fe.E) (us : List (Value × List Int)), k ≤ O.length ∧ Hid (n = k + 2) ∧ i = .int .i64 k ∧ va = .slice (some ⟨ga, 0, none⟩) n ca ∧ vx = .slice (some ⟨gx, 0, none⟩) n cx ∧ Hid (Sp w ga ca gx cx xs us wr) ∧ Hid (Goods xs us) ∧ Hid (xs.length = n ∧ us.length = n)) (fun _ _ i _ => O.length - (intOf i).toNat)
  case atStart => exact ⟨0, 2, ga, 2, gx, 2, xs0, us0, by omega, rfl, rfl, rfl, rfl, SP0, GD0, HL0⟩
  case round =>
    clear SP0 GD0 HL0
    obtain ⟨k, n, ga, ca, gx, cx, xs, us, hk, HN, rfl, rfl, rfl, SP, GD, HL⟩ := hrel
    by_cases hlt : k < O.length
    · obtain ⟨b1, o1, rfl, hb1, hc1, hcap1⟩ := slc_cell HO.out _ hlt
      have hcb := (SP.out.bb.cell (p := ⟨b1, o1 + k, none⟩) hb1).trans hc1
      have ho8 : W8 (O.getD k 0) := by
        obtain ⟨_, _, _, _, h8, _⟩ := HO.out
        rw [List.getD_eq_getElem?_getD, List.getElem?_eq_getElem hlt]
        exact h8 _ (List.getElem_mem hlt)
      obtain ⟨o0, o255⟩ := ho8
      generalize O.getD k 0 = op at *
      have hn2 : 2 ≤ n := by have := HN.out; omega
      have hn42 : n ≤ 42 := by have := HN.out; omega
      obtain ⟨jj, hjj, HJ⟩ : ∃ jj : Nat, op / 4 % (n : Int) = (jj : Int) ∧ Hid (jj < n) := by
        have h1 := Int.emod_nonneg (op / 4) (show (n : Int) ≠ 0 by omega)
        have h2 := Int.emod_lt_of_pos (op / 4) (show (0 : Int) < n by omega)
        obtain ⟨jj, h3⟩ := Int.eq_ofNat_of_zero_le h1
        exact ⟨jj, h3, by show _ < _; omega⟩
      obtain ⟨kk, hkk, HK⟩ : ∃ kk : Nat, op / 32 % (n : Int) = (kk : Int) ∧ Hid (kk < n) := by
        have h1 := Int.emod_nonneg (op / 32) (show (n : Int) ≠ 0 by omega)
        have h2 := Int.emod_lt_of_pos (op / 32) (show (0 : Int) < n by omega)
        obtain ⟨kk, h3⟩ := Int.eq_ofNat_of_zero_le h1
        exact ⟨kk, h3, by show _ < _; omega⟩
      have HJE := Lib.hid hjj
      have HKE := Lib.hid hkk
      clear hjj hkk
      have hq0 : 0 ≤ op / 4 ∧ op / 4 ≤ 63 := by omega
      have hq1 : 0 ≤ op / 32 ∧ op / 32 ≤ 7 := by omega
      have HLA : Hid (jj < xs.length ∧ kk < xs.length ∧ jj < us.length ∧ kk < us.length) := by have h1 := HL.out; have h2 := HJ.out; have h3 := HK.out; exact ⟨by omega, by omega, by omega, by omega⟩
      have HRA : Hid (RowG 30 5 Is64 wr ga ca n (flat xs)) := by have h := SP.out.ra; rw [HL.out.1] at h; exact h
      have HRX : Hid (RowG 26 1 IsSl wr gx cx n (us.map (·.1))) := by have h := SP.out.rx; rw [HL.out.2] at h; exact h
      have HGJ : Hid (G (xs.getD jj Fe.z) (us.getD jj (undef, [])).2) := GD.out jj HLA.out.2.2.1
      have HGK : Hid (G (xs.getD kk Fe.z) (us.getD kk (undef, [])).2) := GD.out kk HLA.out.2.2.2
      clear hc1 hb1 hcap1
      by_cases hm0 : op % 4 = 0
      · have hcond : True := trivial
        go_wp2_with fail
        clear hcond hq0 hq1 hcb o0 o255
        have HOK : Hid (Fe.Ok (Fe.add (xs.getD jj Fe.z) (xs.getD kk Fe.z))) := Fe.add_ok HGJ.out.1 HGK.out.1
        refine Grow.region_rest (by kernel_rfl) 11 (fun i => List.getD (Grow.Spec.is (.slice (some ⟨ga, 0, none⟩) n ca) :: Grow.Spec.is (.slice (some ⟨ga, 0, none⟩) n ca) :: Grow.Spec.is (.int .i64 (jj : Nat)) :: Grow.Spec.is (.pointer (some ⟨ga, jj * 5, none⟩)) :: Grow.Spec.is (.agg (ec (xs.getD jj Fe.z))) :: Grow.Spec.is (.slice (some ⟨ga, 0, none⟩) n ca) :: Grow.Spec.is (.int .i64 (kk : Nat)) :: Grow.Spec.is (.pointer (some ⟨ga, kk * 5, none⟩)) :: Grow.Spec.is (.agg (ec (xs.getD kk Fe.z))) :: Grow.Spec.is (.agg (ec (Fe.add (xs.getD jj Fe.z) (xs.getD kk Fe.z)))) :: Grow.newE wr (Fe.add (xs.getD jj Fe.z) (xs.getD kk Fe.z)) :: []) i (Grow.Spec.is undef)) (by kernel_rfl) ⟨
          Grow.h2_move (Or.inl rfl) _ (Or.inl rfl) (fun a wx hk => by have e : a.eval (.tmp 7) = _ := hk.rest 7 (by kernel_rfl); rw [e]; rfl),
          Grow.h2_move (Or.inl rfl) _ (Or.inl rfl) (fun a wx hk => by have e : a.eval (.tmp 7) = _ := hk.rest 7 (by kernel_rfl); rw [e]; rfl),
          Grow.h2_move (Or.inl rfl) _ (Or.inl rfl) (fun a wx hk => by have e : a.eval (.tmp 10) = _ := hk.rest 10 (by kernel_rfl); rw [e]; exact congrArg (Value.int IntKind.i64) HJE.out),
          Grow.h2_idx48 (Or.inl rfl) 1 78 2 79 ga n _ jj HJ.out rfl (by kernel_rfl) (by kernel_rfl) rfl rfl rfl,
          Grow.h2_loadE (Or.inl rfl) 3 80 ga (jj * 5) (xs.getD jj Fe.z) rfl (by kernel_rfl) rfl SP.out.ra.lt (SP.out.elem jj HLA.out.1) rfl,
          Grow.h2_move (Or.inl rfl) _ (Or.inl rfl) (fun a wx hk => by have e : a.eval (.tmp 7) = _ := hk.rest 7 (by kernel_rfl); rw [e]; rfl),
          Grow.h2_move (Or.inl rfl) _ (Or.inl rfl) (fun a wx hk => by have e : a.eval (.tmp 11) = _ := hk.rest 11 (by kernel_rfl); rw [e]; exact congrArg (Value.int IntKind.i64) HKE.out),
          Grow.h2_idx48 (Or.inl rfl) 5 82 6 83 ga n _ kk HK.out rfl (by kernel_rfl) (by kernel_rfl) rfl rfl rfl,
          Grow.h2_loadE (Or.inl rfl) 7 84 ga (kk * 5) (xs.getD kk Fe.z) rfl (by kernel_rfl) rfl SP.out.ra.lt (SP.out.elem kk HLA.out.2.1) rfl,
          Grow.h2_call2 (Or.inl rfl) 18 Grow.enter18 _ _ _ rfl (fun a wx hk => by have e1 : a.eval (.tmp 81) = .agg (ec (xs.getD jj Fe.z)) := (hk.deps 4 81 (by kernel_rfl)); have e2 : a.eval (.tmp 85) = .agg (ec (xs.getD kk Fe.z)) := (hk.deps 8 85 (by kernel_rfl)); rw [e1, e2]; refine (add_any wx _ _ HGJ.out.1 HGK.out.1).mono ?_; rintro e w5 ⟨rfl, hb⟩; exact ⟨_, rfl, rfl, hb⟩),
          Grow.h2_buildE (Or.inl rfl) 9 86 _ rfl (by kernel_rfl) rfl rfl,
          trivial⟩ ?_
        intro a1 w6 hb1 hts hk1 hdf hfr
        have ea : a1.eval (.tmp 77) = .slice (some ⟨ga, 0, none⟩) n ca := hk1 0 77 (by decide) rfl
        obtain ⟨gy, ey, hgy, hcy⟩ : ∃ g, a1.eval (.tmp 87) = .slice (some ⟨g, 0, none⟩) 1 1 ∧ wr.heap.size ≤ g ∧ w6.heap[g]? = some (.cells (ec (Fe.add (xs.getD jj Fe.z) (xs.getD kk Fe.z))) 30 (0, 0)) := hk1 10 87 (by decide) rfl
        refine ⟨rfl, Grow.wp_append_A (.tmp 77) (.tmp 87) rfl (HRA.out.keep (hb1.block _ HRA.out.lt)) ea _ gy ey hcy (Nat.le_trans hn42 (by decide)) ?_⟩
        intro g' c' w7 hr7 hg7 hgr7
        refine ⟨rfl, Grow.wp_assign 7 (.tmp 88) rfl rfl ?_⟩
        have e41 : (a1.put (some 88) (.slice (some ⟨g', 0, none⟩) (n + 1) c')).eval (.tmp 88) = .slice (some ⟨g', 0, none⟩) (n + 1) c' := Grow.eval_put_eq (by rw [hts]; exact Nat.le_of_ble_eq_true rfl)
        have SQ : Hid (Sp w g' c' gx cx (xs ++ [Fe.add (xs.getD jj Fe.z) (xs.getD kk Fe.z)]) us w7) := (SP.out.below hb1).putA (by rw [HL.out.1]; exact hr7) hg7 hgr7
        have HRX2 : Hid (RowG 26 1 IsSl w7 gx cx n (us.map (·.1))) := by have h := SQ.out.rx; rw [HL.out.2] at h; exact h
        have ha := Grow.act_after hts hdf hfr
        rw [show Grow.dsts _ 11 = [77, 78, 79, 80, 81, 82, 83, 84, 85, 86, 87] from by kernel_rfl] at ha
        rw [e41]
        simp only [Grow.putAll] at ha
        generalize a1.eval (.tmp 77) = z77 at ha
        generalize a1.eval (.tmp 78) = z78 at ha
        generalize a1.eval (.tmp 79) = z79 at ha
        generalize a1.eval (.tmp 80) = z80 at ha
        generalize a1.eval (.tmp 81) = z81 at ha
        generalize a1.eval (.tmp 82) = z82 at ha
        generalize a1.eval (.tmp 83) = z83 at ha
        generalize a1.eval (.tmp 84) = z84 at ha
        generalize a1.eval (.tmp 85) = z85 at ha
        generalize a1.eval (.tmp 86) = z86 at ha
        generalize a1.eval (.tmp 87) = z87 at ha
        simp [Act.put] at ha
        clear hk1 hts hdf hfr ea e41 hb1 hr7 hg7 hgr7 ey hcy hgy SP HRA HRX
        subst ha
        unfold Grow.wpSeq
        go_wp2_with fail
        refine Grow.region_rest (by kernel_rfl) 11 (fun i => List.getD (Grow.Spec.is (.slice (some ⟨gx, 0, none⟩) n cx) :: Grow.Spec.is (.slice (some ⟨gx, 0, none⟩) n cx) :: Grow.Spec.is (.int .i64 (jj : Nat)) :: Grow.Spec.is (.pointer (some ⟨gx, jj * 1, none⟩)) :: Grow.Spec.is (us.getD jj (undef, [])).1 :: Grow.Spec.is (.slice (some ⟨gx, 0, none⟩) n cx) :: Grow.Spec.is (.int .i64 (kk : Nat)) :: Grow.Spec.is (.pointer (some ⟨gx, kk * 1, none⟩)) :: Grow.Spec.is (us.getD kk (undef, [])).1 :: Grow.nat (Fe.val (Fe.add (xs.getD jj Fe.z) (xs.getD kk Fe.z)) % Fe.P) :: Grow.newX w7 (Fe.val (Fe.add (xs.getD jj Fe.z) (xs.getD kk Fe.z)) % Fe.P) :: []) i (Grow.Spec.is undef)) (by kernel_rfl) ⟨
          Grow.h2_move (Or.inl rfl) _ (Or.inl rfl) (fun a wx hk => by have e : a.eval (.tmp 8) = _ := hk.rest 8 (by kernel_rfl); rw [e]; rfl),
          Grow.h2_move (Or.inl rfl) _ (Or.inl rfl) (fun a wx hk => by have e : a.eval (.tmp 8) = _ := hk.rest 8 (by kernel_rfl); rw [e]; rfl),
          Grow.h2_move (Or.inl rfl) _ (Or.inl rfl) (fun a wx hk => by have e : a.eval (.tmp 10) = _ := hk.rest 10 (by kernel_rfl); rw [e]; exact congrArg (Value.int IntKind.i64) HJE.out),
          Grow.h2_idx49 (Or.inl rfl) 1 90 2 91 gx n _ jj HJ.out rfl (by kernel_rfl) (by kernel_rfl) rfl rfl rfl,
          Grow.h2_load26 (Or.inl rfl) 3 92 gx (jj * 1) (us.getD jj (undef, [])).1 (isSl_num (SQ.out.numv jj HLA.out.2.2.1)) rfl (by kernel_rfl) rfl SQ.out.rx.lt (SQ.out.numc jj HLA.out.2.2.1) rfl,
          Grow.h2_move (Or.inl rfl) _ (Or.inl rfl) (fun a wx hk => by have e : a.eval (.tmp 8) = _ := hk.rest 8 (by kernel_rfl); rw [e]; rfl),
          Grow.h2_move (Or.inl rfl) _ (Or.inl rfl) (fun a wx hk => by have e : a.eval (.tmp 11) = _ := hk.rest 11 (by kernel_rfl); rw [e]; exact congrArg (Value.int IntKind.i64) HKE.out),
          Grow.h2_idx49 (Or.inl rfl) 5 94 6 95 gx n _ kk HK.out rfl (by kernel_rfl) (by kernel_rfl) rfl rfl rfl,
          Grow.h2_load26 (Or.inl rfl) 7 96 gx (kk * 1) (us.getD kk (undef, [])).1 (isSl_num (SQ.out.numv kk HLA.out.2.2.2)) rfl (by kernel_rfl) rfl SQ.out.rx.lt (SQ.out.numc kk HLA.out.2.2.2) rfl,
          Grow.h2_call2 (Or.inl rfl) 19 Grow.enter19 _ _ _ rfl (fun a wx hk => by have e1 : a.eval (.tmp 93) = (us.getD jj (undef, [])).1 := (hk.deps 4 93 (by kernel_rfl)); have e2 : a.eval (.tmp 97) = (us.getD kk (undef, [])).1 := (hk.deps 8 97 (by kernel_rfl)); rw [e1, e2]; exact Grow.s_add HGJ.out.1 HGK.out.1 (Grow.nat_G ((SQ.out.numv jj HLA.out.2.2.1).below hk.below (Nat.le_refl _)) HGJ.out) (Grow.nat_G ((SQ.out.numv kk HLA.out.2.2.2).below hk.below (Nat.le_refl _)) HGK.out)),
          Grow.h2_buildX (Or.inl rfl) 9 98 _ rfl (by kernel_rfl) rfl rfl,
          trivial⟩ ?_
        intro a1 w6 hb1 hts hk1 hdf hfr
        have ea : a1.eval (.tmp 89) = .slice (some ⟨gx, 0, none⟩) n cx := hk1 0 89 (by decide) rfl
        obtain ⟨gy, u, l, ey, hgy, hcy, hnu, hvu, hneu, hlu⟩ : ∃ g u l, a1.eval (.tmp 99) = .slice (some ⟨g, 0, none⟩) 1 1 ∧ w7.heap.size ≤ g ∧ w6.heap[g]? = some (.cells #[u] 26 (0, 0)) ∧ Num w6 u l ∧ Nt.val l = Fe.val (Fe.add (xs.getD jj Fe.z) (xs.getD kk Fe.z)) % Fe.P ∧ Nt.Neat l ∧ l.length ≤ 20000 := hk1 10 99 (by decide) rfl
        refine ⟨rfl, Grow.wp_append_X (.tmp 89) (.tmp 99) rfl (HRX2.out.keep (hb1.block _ HRX2.out.lt)) ea u (isSl_num hnu) gy ey hcy (Nat.le_trans hn42 (by decide)) ?_⟩
        intro g2 c2 w8 hr7 hg7 hgr7
        refine ⟨rfl, Grow.wp_assign 8 (.tmp 100) rfl rfl ?_⟩
        have e41 : (a1.put (some 100) (.slice (some ⟨g2, 0, none⟩) (n + 1) c2)).eval (.tmp 100) = .slice (some ⟨g2, 0, none⟩) (n + 1) c2 := Grow.eval_put_eq (by rw [hts]; exact Nat.le_of_ble_eq_true rfl)
        have SR : Hid (Sp w g' c' g2 c2 (xs ++ [Fe.add (xs.getD jj Fe.z) (xs.getD kk Fe.z)]) (us ++ [(u, l)]) w8) := (SQ.out.below hb1).putX hnu (by rw [HL.out.2]; exact hr7) hg7 hgr7
        have GD2 : Hid (Goods (xs ++ [Fe.add (xs.getD jj Fe.z) (xs.getD kk Fe.z)]) (us ++ [(u, l)])) := GD.out.more (HL.out.1.trans HL.out.2.symm) ⟨HOK.out, hvu, hneu, hlu⟩
        have HL2 : Hid ((xs ++ [Fe.add (xs.getD jj Fe.z) (xs.getD kk Fe.z)]).length = n + 1 ∧ (us ++ [(u, l)]).length = n + 1) := ⟨by rw [List.length_append, HL.out.1]; rfl, by rw [List.length_append, HL.out.2]; rfl⟩
        have ha := Grow.act_after hts hdf hfr
        rw [show Grow.dsts _ 11 = [89, 90, 91, 92, 93, 94, 95, 96, 97, 98, 99] from by kernel_rfl] at ha
        rw [e41]
        simp only [Grow.putAll] at ha
        generalize a1.eval (.tmp 89) = z89 at ha
        generalize a1.eval (.tmp 90) = z90 at ha
        generalize a1.eval (.tmp 91) = z91 at ha
        generalize a1.eval (.tmp 92) = z92 at ha
        generalize a1.eval (.tmp 93) = z93 at ha
        generalize a1.eval (.tmp 94) = z94 at ha
        generalize a1.eval (.tmp 95) = z95 at ha
        generalize a1.eval (.tmp 96) = z96 at ha
        generalize a1.eval (.tmp 97) = z97 at ha
        generalize a1.eval (.tmp 98) = z98 at ha
        generalize a1.eval (.tmp 99) = z99 at ha
        simp [Act.put] at ha
        clear hk1 hts hdf hfr ea e41 hb1 hr7 hg7 hgr7 ey hcy hgy SQ HRX2 hnu hvu hneu hlu GD HGJ HGK
        subst ha
        unfold Grow.wpSeq
        go_wp2_with fail
        have HEL : Hid (∀ i v, (ec (Fe.add (xs.getD jj Fe.z) (xs.getD kk Fe.z))).toList[i]? = some v → w8.cell? ⟨g', n * 5 + i, none⟩ = some v) := by have h := SR.out.elem n (by rw [HL2.out.1]; exact Nat.lt_succ_self n); rw [getD_last xs _ _ n HL.out.1] at h; exact h
        have HNC : Hid (w8.cell? ⟨g2, n * 1, none⟩ = some u) := by have h := SR.out.numc n (by rw [HL2.out.2]; exact Nat.lt_succ_self n); rw [getD_last us _ _ n HL.out.2] at h; exact h
        have HNL : Hid (Num w8 u l) := by have h := SR.out.numv n (by rw [HL2.out.2]; exact Nat.lt_succ_self n); rw [getD_last us _ _ n HL.out.2] at h; exact h
        have HGN : Hid (G (Fe.add (xs.getD jj Fe.z) (xs.getD kk Fe.z)) l) := by have h := GD2.out n (by rw [HL2.out.2]; exact Nat.lt_succ_self n); rw [getD_last us _ _ n HL.out.2, getD_last xs _ _ n HL.out.1] at h; exact h
        refine Grow.region_all (by kernel_rfl) 14 (fun i => List.getD (Grow.Spec.is ((.slice (some ⟨g', 0, none⟩) (n + 1) c')) :: Grow.Spec.is ((.slice (some ⟨g', 0, none⟩) (n + 1) c')) :: Grow.Spec.is (.int .i64 ((n + 1 : Nat) : Int)) :: Grow.Spec.is (.int .i64 (n : Int)) :: Grow.Spec.is (.pointer (some ⟨g', n * 5, none⟩)) :: Grow.Spec.is (.agg (ec (Fe.add (xs.getD jj Fe.z) (xs.getD kk Fe.z)))) :: Grow.Spec.is ((.slice (some ⟨g2, 0, none⟩) (n + 1) c2)) :: Grow.Spec.is ((.slice (some ⟨g2, 0, none⟩) (n + 1) c2)) :: Grow.Spec.is (.int .i64 ((n + 1 : Nat) : Int)) :: Grow.Spec.is (.int .i64 (n : Int)) :: Grow.Spec.is (.pointer (some ⟨g2, n * 1, none⟩)) :: Grow.Spec.is u :: Grow.Spec.is (.bool true) :: Grow.Spec.is (.bool false) :: []) i (Grow.Spec.is undef)) rfl (by kernel_rfl) ⟨
          Grow.h2_move (Or.inl rfl) _ (Or.inl rfl) (fun a wx hk => by have e : a.eval (.tmp 7) = _ := hk.rest 7 (by kernel_rfl); rw [e]; rfl),
          Grow.h2_move (Or.inl rfl) _ (Or.inl rfl) (fun a wx hk => by have e : a.eval (.tmp 7) = _ := hk.rest 7 (by kernel_rfl); rw [e]; rfl),
          Grow.h2_len2 (Or.inl rfl) 1 154 48 30 Tryd.underlying48 (some ⟨g', 0, none⟩) (n + 1) c' rfl (by kernel_rfl) rfl rfl,
          Grow.h2_sub1 (Or.inl rfl) 2 155 n (Nat.le_trans hn42 (by decide)) rfl (by kernel_rfl) rfl rfl,
          Grow.h2_idx48 (Or.inl rfl) 0 153 3 156 g' (n + 1) c' n (Nat.lt_succ_self n) rfl (by kernel_rfl) (by kernel_rfl) rfl rfl rfl,
          Grow.h2_loadE (Or.inl rfl) 4 157 g' (n * 5) (Fe.add (xs.getD jj Fe.z) (xs.getD kk Fe.z)) rfl (by kernel_rfl) rfl SR.out.ra.lt HEL.out rfl,
          Grow.h2_move (Or.inl rfl) _ (Or.inl rfl) (fun a wx hk => by have e : a.eval (.tmp 8) = _ := hk.rest 8 (by kernel_rfl); rw [e]; rfl),
          Grow.h2_move (Or.inl rfl) _ (Or.inl rfl) (fun a wx hk => by have e : a.eval (.tmp 8) = _ := hk.rest 8 (by kernel_rfl); rw [e]; rfl),
          Grow.h2_len2 (Or.inl rfl) 7 160 49 26 Tryd.underlying49 (some ⟨g2, 0, none⟩) (n + 1) c2 rfl (by kernel_rfl) rfl rfl,
          Grow.h2_sub1 (Or.inl rfl) 8 161 n (Nat.le_trans hn42 (by decide)) rfl (by kernel_rfl) rfl rfl,
          Grow.h2_idx49 (Or.inl rfl) 6 159 9 162 g2 (n + 1) c2 n (Nat.lt_succ_self n) rfl (by kernel_rfl) (by kernel_rfl) rfl rfl rfl,
          Grow.h2_load26 (Or.inl rfl) 10 163 g2 (n * 1) u (isSl_num HNL.out) rfl (by kernel_rfl) rfl SR.out.rx.lt HNC.out rfl,
          Grow.h2_call2 (Or.inl rfl) 12 Grow.enter12 _ _ _ rfl (fun a wx hk => by have e1 : a.eval (.tmp 158) = .agg (ec (Fe.add (xs.getD jj Fe.z) (xs.getD kk Fe.z))) := (hk.deps 5 158 (by kernel_rfl)); have e2 : a.eval (.tmp 164) = u := (hk.deps 11 164 (by kernel_rfl)); rw [e1, e2]; exact Grow.c_is HOK.out (Grow.nat_G (HNL.out.below hk.below (Nat.le_refl _)) HGN.out) rfl),
          Grow.h2_not (Or.inl rfl) 12 165 true false rfl rfl (by kernel_rfl) rfl rfl,
          trivial⟩ ?_
        intro a1 w9 hb1 hts hk1 hdf hfr
        have e166 : a1.eval (.tmp 166) = .bool false := hk1 13 166 (by decide) rfl
        have SF := Lib.hid (SR.out.below hb1)
        have ha := Grow.act_after hts hdf hfr
        rw [show Grow.dsts _ 14 = [153, 154, 155, 156, 157, 158, 159, 160, 161, 162, 163, 164, 165, 166] from by kernel_rfl] at ha
        simp only [Grow.putAll, e166] at ha
        generalize a1.eval (.tmp 153) = z153 at ha
        generalize a1.eval (.tmp 154) = z154 at ha
        generalize a1.eval (.tmp 155) = z155 at ha
        generalize a1.eval (.tmp 156) = z156 at ha
        generalize a1.eval (.tmp 157) = z157 at ha
        generalize a1.eval (.tmp 158) = z158 at ha
        generalize a1.eval (.tmp 159) = z159 at ha
        generalize a1.eval (.tmp 160) = z160 at ha
        generalize a1.eval (.tmp 161) = z161 at ha
        generalize a1.eval (.tmp 162) = z162 at ha
        generalize a1.eval (.tmp 163) = z163 at ha
        generalize a1.eval (.tmp 164) = z164 at ha
        generalize a1.eval (.tmp 165) = z165 at ha
        simp [Act.put] at ha
        clear hk1 hts hdf hfr e166 hb1 SR HEL HNC HNL HGN HOK
        subst ha
        go_wp2_with fail
        go_roundw
        case rel => exact ⟨k + 1, n + 1, g', c', g2, c2, _, _, by omega, by show _ = _; rw [HN.out], by go_num, rfl, rfl, SF, GD2, HL2⟩
        case measure => simp [intOf]; omega
      by_cases hm1 : op % 4 = 1
      · have hcond : True := trivial
        go_wp2_with fail
        clear hcond hq0 hq1 hcb o0 o255
        have HOK : Hid (Fe.Ok (Fe.sub (xs.getD jj Fe.z) (xs.getD kk Fe.z))) := Fe.sub_ok HGJ.out.1 HGK.out.1
        refine Grow.region_rest (by kernel_rfl) 11 (fun i => List.getD (Grow.Spec.is (.slice (some ⟨ga, 0, none⟩) n ca) :: Grow.Spec.is (.slice (some ⟨ga, 0, none⟩) n ca) :: Grow.Spec.is (.int .i64 (jj : Nat)) :: Grow.Spec.is (.pointer (some ⟨ga, jj * 5, none⟩)) :: Grow.Spec.is (.agg (ec (xs.getD jj Fe.z))) :: Grow.Spec.is (.slice (some ⟨ga, 0, none⟩) n ca) :: Grow.Spec.is (.int .i64 (kk : Nat)) :: Grow.Spec.is (.pointer (some ⟨ga, kk * 5, none⟩)) :: Grow.Spec.is (.agg (ec (xs.getD kk Fe.z))) :: Grow.Spec.is (.agg (ec (Fe.sub (xs.getD jj Fe.z) (xs.getD kk Fe.z)))) :: Grow.newE wr (Fe.sub (xs.getD jj Fe.z) (xs.getD kk Fe.z)) :: []) i (Grow.Spec.is undef)) (by kernel_rfl) ⟨
          Grow.h2_move (Or.inl rfl) _ (Or.inl rfl) (fun a wx hk => by have e : a.eval (.tmp 7) = _ := hk.rest 7 (by kernel_rfl); rw [e]; rfl),
          Grow.h2_move (Or.inl rfl) _ (Or.inl rfl) (fun a wx hk => by have e : a.eval (.tmp 7) = _ := hk.rest 7 (by kernel_rfl); rw [e]; rfl),
          Grow.h2_move (Or.inl rfl) _ (Or.inl rfl) (fun a wx hk => by have e : a.eval (.tmp 10) = _ := hk.rest 10 (by kernel_rfl); rw [e]; exact congrArg (Value.int IntKind.i64) HJE.out),
          Grow.h2_idx48 (Or.inl rfl) 1 104 2 105 ga n _ jj HJ.out rfl (by kernel_rfl) (by kernel_rfl) rfl rfl rfl,
          Grow.h2_loadE (Or.inl rfl) 3 106 ga (jj * 5) (xs.getD jj Fe.z) rfl (by kernel_rfl) rfl SP.out.ra.lt (SP.out.elem jj HLA.out.1) rfl,
          Grow.h2_move (Or.inl rfl) _ (Or.inl rfl) (fun a wx hk => by have e : a.eval (.tmp 7) = _ := hk.rest 7 (by kernel_rfl); rw [e]; rfl),
          Grow.h2_move (Or.inl rfl) _ (Or.inl rfl) (fun a wx hk => by have e : a.eval (.tmp 11) = _ := hk.rest 11 (by kernel_rfl); rw [e]; exact congrArg (Value.int IntKind.i64) HKE.out),
          Grow.h2_idx48 (Or.inl rfl) 5 108 6 109 ga n _ kk HK.out rfl (by kernel_rfl) (by kernel_rfl) rfl rfl rfl,
          Grow.h2_loadE (Or.inl rfl) 7 110 ga (kk * 5) (xs.getD kk Fe.z) rfl (by kernel_rfl) rfl SP.out.ra.lt (SP.out.elem kk HLA.out.2.1) rfl,
          Grow.h2_call2 (Or.inl rfl) 20 Grow.enter20 _ _ _ rfl (fun a wx hk => by have e1 : a.eval (.tmp 107) = .agg (ec (xs.getD jj Fe.z)) := (hk.deps 4 107 (by kernel_rfl)); have e2 : a.eval (.tmp 111) = .agg (ec (xs.getD kk Fe.z)) := (hk.deps 8 111 (by kernel_rfl)); rw [e1, e2]; refine (sub_any wx _ _ HGJ.out.1 HGK.out.1 (SP.out.dbl.below hk.below SP.out.dbl.1)).mono ?_; rintro e w5 ⟨rfl, hb⟩; exact ⟨_, rfl, rfl, hb⟩),
          Grow.h2_buildE (Or.inl rfl) 9 112 _ rfl (by kernel_rfl) rfl rfl,
          trivial⟩ ?_
        intro a1 w6 hb1 hts hk1 hdf hfr
        have ea : a1.eval (.tmp 103) = .slice (some ⟨ga, 0, none⟩) n ca := hk1 0 103 (by decide) rfl
        obtain ⟨gy, ey, hgy, hcy⟩ : ∃ g, a1.eval (.tmp 113) = .slice (some ⟨g, 0, none⟩) 1 1 ∧ wr.heap.size ≤ g ∧ w6.heap[g]? = some (.cells (ec (Fe.sub (xs.getD jj Fe.z) (xs.getD kk Fe.z))) 30 (0, 0)) := hk1 10 113 (by decide) rfl
        refine ⟨rfl, Grow.wp_append_A (.tmp 103) (.tmp 113) rfl (HRA.out.keep (hb1.block _ HRA.out.lt)) ea _ gy ey hcy (Nat.le_trans hn42 (by decide)) ?_⟩
        intro g' c' w7 hr7 hg7 hgr7
        refine ⟨rfl, Grow.wp_assign 7 (.tmp 114) rfl rfl ?_⟩
        have e41 : (a1.put (some 114) (.slice (some ⟨g', 0, none⟩) (n + 1) c')).eval (.tmp 114) = .slice (some ⟨g', 0, none⟩) (n + 1) c' := Grow.eval_put_eq (by rw [hts]; exact Nat.le_of_ble_eq_true rfl)
        have SQ : Hid (Sp w g' c' gx cx (xs ++ [Fe.sub (xs.getD jj Fe.z) (xs.getD kk Fe.z)]) us w7) := (SP.out.below hb1).putA (by rw [HL.out.1]; exact hr7) hg7 hgr7
        have HRX2 : Hid (RowG 26 1 IsSl w7 gx cx n (us.map (·.1))) := by have h := SQ.out.rx; rw [HL.out.2] at h; exact h
        have ha := Grow.act_after hts hdf hfr
        rw [show Grow.dsts _ 11 = [103, 104, 105, 106, 107, 108, 109, 110, 111, 112, 113] from by kernel_rfl] at ha
        rw [e41]
        simp only [Grow.putAll] at ha
        generalize a1.eval (.tmp 103) = z103 at ha
        generalize a1.eval (.tmp 104) = z104 at ha
        generalize a1.eval (.tmp 105) = z105 at ha
        generalize a1.eval (.tmp 106) = z106 at ha
        generalize a1.eval (.tmp 107) = z107 at ha
        generalize a1.eval (.tmp 108) = z108 at ha
        generalize a1.eval (.tmp 109) = z109 at ha
        generalize a1.eval (.tmp 110) = z110 at ha
        generalize a1.eval (.tmp 111) = z111 at ha
        generalize a1.eval (.tmp 112) = z112 at ha
        generalize a1.eval (.tmp 113) = z113 at ha
        simp [Act.put] at ha
        clear hk1 hts hdf hfr ea e41 hb1 hr7 hg7 hgr7 ey hcy hgy SP HRA HRX
        subst ha
        unfold Grow.wpSeq
        go_wp2_with fail
        refine Grow.region_rest (by kernel_rfl) 11 (fun i => List.getD (Grow.Spec.is (.slice (some ⟨gx, 0, none⟩) n cx) :: Grow.Spec.is (.slice (some ⟨gx, 0, none⟩) n cx) :: Grow.Spec.is (.int .i64 (jj : Nat)) :: Grow.Spec.is (.pointer (some ⟨gx, jj * 1, none⟩)) :: Grow.Spec.is (us.getD jj (undef, [])).1 :: Grow.Spec.is (.slice (some ⟨gx, 0, none⟩) n cx) :: Grow.Spec.is (.int .i64 (kk : Nat)) :: Grow.Spec.is (.pointer (some ⟨gx, kk * 1, none⟩)) :: Grow.Spec.is (us.getD kk (undef, [])).1 :: Grow.nat (Fe.val (Fe.sub (xs.getD jj Fe.z) (xs.getD kk Fe.z)) % Fe.P) :: Grow.newX w7 (Fe.val (Fe.sub (xs.getD jj Fe.z) (xs.getD kk Fe.z)) % Fe.P) :: []) i (Grow.Spec.is undef)) (by kernel_rfl) ⟨
          Grow.h2_move (Or.inl rfl) _ (Or.inl rfl) (fun a wx hk => by have e : a.eval (.tmp 8) = _ := hk.rest 8 (by kernel_rfl); rw [e]; rfl),
          Grow.h2_move (Or.inl rfl) _ (Or.inl rfl) (fun a wx hk => by have e : a.eval (.tmp 8) = _ := hk.rest 8 (by kernel_rfl); rw [e]; rfl),
          Grow.h2_move (Or.inl rfl) _ (Or.inl rfl) (fun a wx hk => by have e : a.eval (.tmp 10) = _ := hk.rest 10 (by kernel_rfl); rw [e]; exact congrArg (Value.int IntKind.i64) HJE.out),
          Grow.h2_idx49 (Or.inl rfl) 1 116 2 117 gx n _ jj HJ.out rfl (by kernel_rfl) (by kernel_rfl) rfl rfl rfl,
          Grow.h2_load26 (Or.inl rfl) 3 118 gx (jj * 1) (us.getD jj (undef, [])).1 (isSl_num (SQ.out.numv jj HLA.out.2.2.1)) rfl (by kernel_rfl) rfl SQ.out.rx.lt (SQ.out.numc jj HLA.out.2.2.1) rfl,
          Grow.h2_move (Or.inl rfl) _ (Or.inl rfl) (fun a wx hk => by have e : a.eval (.tmp 8) = _ := hk.rest 8 (by kernel_rfl); rw [e]; rfl),
          Grow.h2_move (Or.inl rfl) _ (Or.inl rfl) (fun a wx hk => by have e : a.eval (.tmp 11) = _ := hk.rest 11 (by kernel_rfl); rw [e]; exact congrArg (Value.int IntKind.i64) HKE.out),
          Grow.h2_idx49 (Or.inl rfl) 5 120 6 121 gx n _ kk HK.out rfl (by kernel_rfl) (by kernel_rfl) rfl rfl rfl,
          Grow.h2_load26 (Or.inl rfl) 7 122 gx (kk * 1) (us.getD kk (undef, [])).1 (isSl_num (SQ.out.numv kk HLA.out.2.2.2)) rfl (by kernel_rfl) rfl SQ.out.rx.lt (SQ.out.numc kk HLA.out.2.2.2) rfl,
          Grow.h2_call2 (Or.inl rfl) 21 Grow.enter21 _ _ _ rfl (fun a wx hk => by have e1 : a.eval (.tmp 119) = (us.getD jj (undef, [])).1 := (hk.deps 4 119 (by kernel_rfl)); have e2 : a.eval (.tmp 123) = (us.getD kk (undef, [])).1 := (hk.deps 8 123 (by kernel_rfl)); rw [e1, e2]; exact Grow.s_sub HGJ.out.1 HGK.out.1 (Grow.nat_G ((SQ.out.numv jj HLA.out.2.2.1).below hk.below (Nat.le_refl _)) HGJ.out) (Grow.nat_G ((SQ.out.numv kk HLA.out.2.2.2).below hk.below (Nat.le_refl _)) HGK.out)),
          Grow.h2_buildX (Or.inl rfl) 9 124 _ rfl (by kernel_rfl) rfl rfl,
          trivial⟩ ?_
        intro a1 w6 hb1 hts hk1 hdf hfr
        have ea : a1.eval (.tmp 115) = .slice (some ⟨gx, 0, none⟩) n cx := hk1 0 115 (by decide) rfl
        obtain ⟨gy, u, l, ey, hgy, hcy, hnu, hvu, hneu, hlu⟩ : ∃ g u l, a1.eval (.tmp 125) = .slice (some ⟨g, 0, none⟩) 1 1 ∧ w7.heap.size ≤ g ∧ w6.heap[g]? = some (.cells #[u] 26 (0, 0)) ∧ Num w6 u l ∧ Nt.val l = Fe.val (Fe.sub (xs.getD jj Fe.z) (xs.getD kk Fe.z)) % Fe.P ∧ Nt.Neat l ∧ l.length ≤ 20000 := hk1 10 125 (by decide) rfl
        refine ⟨rfl, Grow.wp_append_X (.tmp 115) (.tmp 125) rfl (HRX2.out.keep (hb1.block _ HRX2.out.lt)) ea u (isSl_num hnu) gy ey hcy (Nat.le_trans hn42 (by decide)) ?_⟩
        intro g2 c2 w8 hr7 hg7 hgr7
        refine ⟨rfl, Grow.wp_assign 8 (.tmp 126) rfl rfl ?_⟩
        have e41 : (a1.put (some 126) (.slice (some ⟨g2, 0, none⟩) (n + 1) c2)).eval (.tmp 126) = .slice (some ⟨g2, 0, none⟩) (n + 1) c2 := Grow.eval_put_eq (by rw [hts]; exact Nat.le_of_ble_eq_true rfl)
        have SR : Hid (Sp w g' c' g2 c2 (xs ++ [Fe.sub (xs.getD jj Fe.z) (xs.getD kk Fe.z)]) (us ++ [(u, l)]) w8) := (SQ.out.below hb1).putX hnu (by rw [HL.out.2]; exact hr7) hg7 hgr7
        have GD2 : Hid (Goods (xs ++ [Fe.sub (xs.getD jj Fe.z) (xs.getD kk Fe.z)]) (us ++ [(u, l)])) := GD.out.more (HL.out.1.trans HL.out.2.symm) ⟨HOK.out, hvu, hneu, hlu⟩
        have HL2 : Hid ((xs ++ [Fe.sub (xs.getD jj Fe.z) (xs.getD kk Fe.z)]).length = n + 1 ∧ (us ++ [(u, l)]).length = n + 1) := ⟨by rw [List.length_append, HL.out.1]; rfl, by rw [List.length_append, HL.out.2]; rfl⟩
        have ha := Grow.act_after hts hdf hfr
        rw [show Grow.dsts _ 11 = [115, 116, 117, 118, 119, 120, 121, 122, 123, 124, 125] from by kernel_rfl] at ha
        rw [e41]
        simp only [Grow.putAll] at ha
        generalize a1.eval (.tmp 115) = z115 at ha
        generalize a1.eval (.tmp 116) = z116 at ha
        generalize a1.eval (.tmp 117) = z117 at ha
        generalize a1.eval (.tmp 118) = z118 at ha
        generalize a1.eval (.tmp 119) = z119 at ha
        generalize a1.eval (.tmp 120) = z120 at ha
        generalize a1.eval (.tmp 121) = z121 at ha
        generalize a1.eval (.tmp 122) = z122 at ha
        generalize a1.eval (.tmp 123) = z123 at ha
        generalize a1.eval (.tmp 124) = z124 at ha
        generalize a1.eval (.tmp 125) = z125 at ha
        simp [Act.put] at ha
        clear hk1 hts hdf hfr ea e41 hb1 hr7 hg7 hgr7 ey hcy hgy SQ HRX2 hnu hvu hneu hlu GD HGJ HGK
        subst ha
        unfold Grow.wpSeq
        go_wp2_with fail
        have HEL : Hid (∀ i v, (ec (Fe.sub (xs.getD jj Fe.z) (xs.getD kk Fe.z))).toList[i]? = some v → w8.cell? ⟨g', n * 5 + i, none⟩ = some v) := by have h := SR.out.elem n (by rw [HL2.out.1]; exact Nat.lt_succ_self n); rw [getD_last xs _ _ n HL.out.1] at h; exact h
        have HNC : Hid (w8.cell? ⟨g2, n * 1, none⟩ = some u) := by have h := SR.out.numc n (by rw [HL2.out.2]; exact Nat.lt_succ_self n); rw [getD_last us _ _ n HL.out.2] at h; exact h
        have HNL : Hid (Num w8 u l) := by have h := SR.out.numv n (by rw [HL2.out.2]; exact Nat.lt_succ_self n); rw [getD_last us _ _ n HL.out.2] at h; exact h
        have HGN : Hid (G (Fe.sub (xs.getD jj Fe.z) (xs.getD kk Fe.z)) l) := by have h := GD2.out n (by rw [HL2.out.2]; exact Nat.lt_succ_self n); rw [getD_last us _ _ n HL.out.2, getD_last xs _ _ n HL.out.1] at h; exact h
        refine Grow.region_all (by kernel_rfl) 14 (fun i => List.getD (Grow.Spec.is ((.slice (some ⟨g', 0, none⟩) (n + 1) c')) :: Grow.Spec.is ((.slice (some ⟨g', 0, none⟩) (n + 1) c')) :: Grow.Spec.is (.int .i64 ((n + 1 : Nat) : Int)) :: Grow.Spec.is (.int .i64 (n : Int)) :: Grow.Spec.is (.pointer (some ⟨g', n * 5, none⟩)) :: Grow.Spec.is (.agg (ec (Fe.sub (xs.getD jj Fe.z) (xs.getD kk Fe.z)))) :: Grow.Spec.is ((.slice (some ⟨g2, 0, none⟩) (n + 1) c2)) :: Grow.Spec.is ((.slice (some ⟨g2, 0, none⟩) (n + 1) c2)) :: Grow.Spec.is (.int .i64 ((n + 1 : Nat) : Int)) :: Grow.Spec.is (.int .i64 (n : Int)) :: Grow.Spec.is (.pointer (some ⟨g2, n * 1, none⟩)) :: Grow.Spec.is u :: Grow.Spec.is (.bool true) :: Grow.Spec.is (.bool false) :: []) i (Grow.Spec.is undef)) rfl (by kernel_rfl) ⟨
          Grow.h2_move (Or.inl rfl) _ (Or.inl rfl) (fun a wx hk => by have e : a.eval (.tmp 7) = _ := hk.rest 7 (by kernel_rfl); rw [e]; rfl),
          Grow.h2_move (Or.inl rfl) _ (Or.inl rfl) (fun a wx hk => by have e : a.eval (.tmp 7) = _ := hk.rest 7 (by kernel_rfl); rw [e]; rfl),
          Grow.h2_len2 (Or.inl rfl) 1 154 48 30 Tryd.underlying48 (some ⟨g', 0, none⟩) (n + 1) c' rfl (by kernel_rfl) rfl rfl,
          Grow.h2_sub1 (Or.inl rfl) 2 155 n (Nat.le_trans hn42 (by decide)) rfl (by kernel_rfl) rfl rfl,
          Grow.h2_idx48 (Or.inl rfl) 0 153 3 156 g' (n + 1) c' n (Nat.lt_succ_self n) rfl (by kernel_rfl) (by kernel_rfl) rfl rfl rfl,
          Grow.h2_loadE (Or.inl rfl) 4 157 g' (n * 5) (Fe.sub (xs.getD jj Fe.z) (xs.getD kk Fe.z)) rfl (by kernel_rfl) rfl SR.out.ra.lt HEL.out rfl,
          Grow.h2_move (Or.inl rfl) _ (Or.inl rfl) (fun a wx hk => by have e : a.eval (.tmp 8) = _ := hk.rest 8 (by kernel_rfl); rw [e]; rfl),
          Grow.h2_move (Or.inl rfl) _ (Or.inl rfl) (fun a wx hk => by have e : a.eval (.tmp 8) = _ := hk.rest 8 (by kernel_rfl); rw [e]; rfl),
          Grow.h2_len2 (Or.inl rfl) 7 160 49 26 Tryd.underlying49 (some ⟨g2, 0, none⟩) (n + 1) c2 rfl (by kernel_rfl) rfl rfl,
          Grow.h2_sub1 (Or.inl rfl) 8 161 n (Nat.le_trans hn42 (by decide)) rfl (by kernel_rfl) rfl rfl,
          Grow.h2_idx49 (Or.inl rfl) 6 159 9 162 g2 (n + 1) c2 n (Nat.lt_succ_self n) rfl (by kernel_rfl) (by kernel_rfl) rfl rfl rfl,
          Grow.h2_load26 (Or.inl rfl) 10 163 g2 (n * 1) u (isSl_num HNL.out) rfl (by kernel_rfl) rfl SR.out.rx.lt HNC.out rfl,
          Grow.h2_call2 (Or.inl rfl) 12 Grow.enter12 _ _ _ rfl (fun a wx hk => by have e1 : a.eval (.tmp 158) = .agg (ec (Fe.sub (xs.getD jj Fe.z) (xs.getD kk Fe.z))) := (hk.deps 5 158 (by kernel_rfl)); have e2 : a.eval (.tmp 164) = u := (hk.deps 11 164 (by kernel_rfl)); rw [e1, e2]; exact Grow.c_is HOK.out (Grow.nat_G (HNL.out.below hk.below (Nat.le_refl _)) HGN.out) rfl),
          Grow.h2_not (Or.inl rfl) 12 165 true false rfl rfl (by kernel_rfl) rfl rfl,
          trivial⟩ ?_
        intro a1 w9 hb1 hts hk1 hdf hfr
        have e166 : a1.eval (.tmp 166) = .bool false := hk1 13 166 (by decide) rfl
        have SF := Lib.hid (SR.out.below hb1)
        have ha := Grow.act_after hts hdf hfr
        rw [show Grow.dsts _ 14 = [153, 154, 155, 156, 157, 158, 159, 160, 161, 162, 163, 164, 165, 166] from by kernel_rfl] at ha
        simp only [Grow.putAll, e166] at ha
        generalize a1.eval (.tmp 153) = z153 at ha
        generalize a1.eval (.tmp 154) = z154 at ha
        generalize a1.eval (.tmp 155) = z155 at ha
        generalize a1.eval (.tmp 156) = z156 at ha
        generalize a1.eval (.tmp 157) = z157 at ha
        generalize a1.eval (.tmp 158) = z158 at ha
        generalize a1.eval (.tmp 159) = z159 at ha
        generalize a1.eval (.tmp 160) = z160 at ha
        generalize a1.eval (.tmp 161) = z161 at ha
        generalize a1.eval (.tmp 162) = z162 at ha
        generalize a1.eval (.tmp 163) = z163 at ha
        generalize a1.eval (.tmp 164) = z164 at ha
        generalize a1.eval (.tmp 165) = z165 at ha
        simp [Act.put] at ha
        clear hk1 hts hdf hfr e166 hb1 SR HEL HNC HNL HGN HOK
        subst ha
        go_wp2_with fail
        go_roundw
        case rel => exact ⟨k + 1, n + 1, g', c', g2, c2, _, _, by omega, by show _ = _; rw [HN.out], by go_num, rfl, rfl, SF, GD2, HL2⟩
        case measure => simp [intOf]; omega
      by_cases hm2 : op % 4 = 2
      · have hcond : True := trivial
        go_wp2_with fail
        clear hcond hq0 hq1 hcb o0 o255
        have HOK : Hid (Fe.Ok (Fe.mul (xs.getD jj Fe.z) (xs.getD kk Fe.z))) := Fe.mul_ok HGJ.out.1 HGK.out.1
        refine Grow.region_rest (by kernel_rfl) 11 (fun i => List.getD (Grow.Spec.is (.slice (some ⟨ga, 0, none⟩) n ca) :: Grow.Spec.is (.slice (some ⟨ga, 0, none⟩) n ca) :: Grow.Spec.is (.int .i64 (jj : Nat)) :: Grow.Spec.is (.pointer (some ⟨ga, jj * 5, none⟩)) :: Grow.Spec.is (.agg (ec (xs.getD jj Fe.z))) :: Grow.Spec.is (.slice (some ⟨ga, 0, none⟩) n ca) :: Grow.Spec.is (.int .i64 (kk : Nat)) :: Grow.Spec.is (.pointer (some ⟨ga, kk * 5, none⟩)) :: Grow.Spec.is (.agg (ec (xs.getD kk Fe.z))) :: Grow.Spec.is (.agg (ec (Fe.mul (xs.getD jj Fe.z) (xs.getD kk Fe.z)))) :: Grow.newE wr (Fe.mul (xs.getD jj Fe.z) (xs.getD kk Fe.z)) :: []) i (Grow.Spec.is undef)) (by kernel_rfl) ⟨
          Grow.h2_move (Or.inl rfl) _ (Or.inl rfl) (fun a wx hk => by have e : a.eval (.tmp 7) = _ := hk.rest 7 (by kernel_rfl); rw [e]; rfl),
          Grow.h2_move (Or.inl rfl) _ (Or.inl rfl) (fun a wx hk => by have e : a.eval (.tmp 7) = _ := hk.rest 7 (by kernel_rfl); rw [e]; rfl),
          Grow.h2_move (Or.inl rfl) _ (Or.inl rfl) (fun a wx hk => by have e : a.eval (.tmp 10) = _ := hk.rest 10 (by kernel_rfl); rw [e]; exact congrArg (Value.int IntKind.i64) HJE.out),
          Grow.h2_idx48 (Or.inl rfl) 1 130 2 131 ga n _ jj HJ.out rfl (by kernel_rfl) (by kernel_rfl) rfl rfl rfl,
          Grow.h2_loadE (Or.inl rfl) 3 132 ga (jj * 5) (xs.getD jj Fe.z) rfl (by kernel_rfl) rfl SP.out.ra.lt (SP.out.elem jj HLA.out.1) rfl,
          Grow.h2_move (Or.inl rfl) _ (Or.inl rfl) (fun a wx hk => by have e : a.eval (.tmp 7) = _ := hk.rest 7 (by kernel_rfl); rw [e]; rfl),
          Grow.h2_move (Or.inl rfl) _ (Or.inl rfl) (fun a wx hk => by have e : a.eval (.tmp 11) = _ := hk.rest 11 (by kernel_rfl); rw [e]; exact congrArg (Value.int IntKind.i64) HKE.out),
          Grow.h2_idx48 (Or.inl rfl) 5 134 6 135 ga n _ kk HK.out rfl (by kernel_rfl) (by kernel_rfl) rfl rfl rfl,
          Grow.h2_loadE (Or.inl rfl) 7 136 ga (kk * 5) (xs.getD kk Fe.z) rfl (by kernel_rfl) rfl SP.out.ra.lt (SP.out.elem kk HLA.out.2.1) rfl,
          Grow.h2_call2 (Or.inl rfl) 25 Grow.enter25 _ _ _ rfl (fun a wx hk => by have e1 : a.eval (.tmp 133) = .agg (ec (xs.getD jj Fe.z)) := (hk.deps 4 133 (by kernel_rfl)); have e2 : a.eval (.tmp 137) = .agg (ec (xs.getD kk Fe.z)) := (hk.deps 8 137 (by kernel_rfl)); rw [e1, e2]; refine (mul_any wx _ _ HGJ.out.1 HGK.out.1).mono ?_; rintro e w5 ⟨rfl, hb⟩; exact ⟨_, rfl, rfl, hb⟩),
          Grow.h2_buildE (Or.inl rfl) 9 138 _ rfl (by kernel_rfl) rfl rfl,
          trivial⟩ ?_
        intro a1 w6 hb1 hts hk1 hdf hfr
        have ea : a1.eval (.tmp 129) = .slice (some ⟨ga, 0, none⟩) n ca := hk1 0 129 (by decide) rfl
        obtain ⟨gy, ey, hgy, hcy⟩ : ∃ g, a1.eval (.tmp 139) = .slice (some ⟨g, 0, none⟩) 1 1 ∧ wr.heap.size ≤ g ∧ w6.heap[g]? = some (.cells (ec (Fe.mul (xs.getD jj Fe.z) (xs.getD kk Fe.z))) 30 (0, 0)) := hk1 10 139 (by decide) rfl
        refine ⟨rfl, Grow.wp_append_A (.tmp 129) (.tmp 139) rfl (HRA.out.keep (hb1.block _ HRA.out.lt)) ea _ gy ey hcy (Nat.le_trans hn42 (by decide)) ?_⟩
        intro g' c' w7 hr7 hg7 hgr7
        refine ⟨rfl, Grow.wp_assign 7 (.tmp 140) rfl rfl ?_⟩
        have e41 : (a1.put (some 140) (.slice (some ⟨g', 0, none⟩) (n + 1) c')).eval (.tmp 140) = .slice (some ⟨g', 0, none⟩) (n + 1) c' := Grow.eval_put_eq (by rw [hts]; exact Nat.le_of_ble_eq_true rfl)
        have SQ : Hid (Sp w g' c' gx cx (xs ++ [Fe.mul (xs.getD jj Fe.z) (xs.getD kk Fe.z)]) us w7) := (SP.out.below hb1).putA (by rw [HL.out.1]; exact hr7) hg7 hgr7
        have HRX2 : Hid (RowG 26 1 IsSl w7 gx cx n (us.map (·.1))) := by have h := SQ.out.rx; rw [HL.out.2] at h; exact h
        have ha := Grow.act_after hts hdf hfr
        rw [show Grow.dsts _ 11 = [129, 130, 131, 132, 133, 134, 135, 136, 137, 138, 139] from by kernel_rfl] at ha
        rw [e41]
        simp only [Grow.putAll] at ha
        generalize a1.eval (.tmp 129) = z129 at ha
        generalize a1.eval (.tmp 130) = z130 at ha
        generalize a1.eval (.tmp 131) = z131 at ha
        generalize a1.eval (.tmp 132) = z132 at ha
        generalize a1.eval (.tmp 133) = z133 at ha
        generalize a1.eval (.tmp 134) = z134 at ha
        generalize a1.eval (.tmp 135) = z135 at ha
        generalize a1.eval (.tmp 136) = z136 at ha
        generalize a1.eval (.tmp 137) = z137 at ha
        generalize a1.eval (.tmp 138) = z138 at ha
        generalize a1.eval (.tmp 139) = z139 at ha
        simp [Act.put] at ha
        clear hk1 hts hdf hfr ea e41 hb1 hr7 hg7 hgr7 ey hcy hgy SP HRA HRX
        subst ha
        unfold Grow.wpSeq
        go_wp2_with fail
        refine Grow.region_rest (by kernel_rfl) 11 (fun i => List.getD (Grow.Spec.is (.slice (some ⟨gx, 0, none⟩) n cx) :: Grow.Spec.is (.slice (some ⟨gx, 0, none⟩) n cx) :: Grow.Spec.is (.int .i64 (jj : Nat)) :: Grow.Spec.is (.pointer (some ⟨gx, jj * 1, none⟩)) :: Grow.Spec.is (us.getD jj (undef, [])).1 :: Grow.Spec.is (.slice (some ⟨gx, 0, none⟩) n cx) :: Grow.Spec.is (.int .i64 (kk : Nat)) :: Grow.Spec.is (.pointer (some ⟨gx, kk * 1, none⟩)) :: Grow.Spec.is (us.getD kk (undef, [])).1 :: Grow.nat (Fe.val (Fe.mul (xs.getD jj Fe.z) (xs.getD kk Fe.z)) % Fe.P) :: Grow.newX w7 (Fe.val (Fe.mul (xs.getD jj Fe.z) (xs.getD kk Fe.z)) % Fe.P) :: []) i (Grow.Spec.is undef)) (by kernel_rfl) ⟨
          Grow.h2_move (Or.inl rfl) _ (Or.inl rfl) (fun a wx hk => by have e : a.eval (.tmp 8) = _ := hk.rest 8 (by kernel_rfl); rw [e]; rfl),
          Grow.h2_move (Or.inl rfl) _ (Or.inl rfl) (fun a wx hk => by have e : a.eval (.tmp 8) = _ := hk.rest 8 (by kernel_rfl); rw [e]; rfl),
          Grow.h2_move (Or.inl rfl) _ (Or.inl rfl) (fun a wx hk => by have e : a.eval (.tmp 10) = _ := hk.rest 10 (by kernel_rfl); rw [e]; exact congrArg (Value.int IntKind.i64) HJE.out),
          Grow.h2_idx49 (Or.inl rfl) 1 142 2 143 gx n _ jj HJ.out rfl (by kernel_rfl) (by kernel_rfl) rfl rfl rfl,
          Grow.h2_load26 (Or.inl rfl) 3 144 gx (jj * 1) (us.getD jj (undef, [])).1 (isSl_num (SQ.out.numv jj HLA.out.2.2.1)) rfl (by kernel_rfl) rfl SQ.out.rx.lt (SQ.out.numc jj HLA.out.2.2.1) rfl,
          Grow.h2_move (Or.inl rfl) _ (Or.inl rfl) (fun a wx hk => by have e : a.eval (.tmp 8) = _ := hk.rest 8 (by kernel_rfl); rw [e]; rfl),
          Grow.h2_move (Or.inl rfl) _ (Or.inl rfl) (fun a wx hk => by have e : a.eval (.tmp 11) = _ := hk.rest 11 (by kernel_rfl); rw [e]; exact congrArg (Value.int IntKind.i64) HKE.out),
          Grow.h2_idx49 (Or.inl rfl) 5 146 6 147 gx n _ kk HK.out rfl (by kernel_rfl) (by kernel_rfl) rfl rfl rfl,
          Grow.h2_load26 (Or.inl rfl) 7 148 gx (kk * 1) (us.getD kk (undef, [])).1 (isSl_num (SQ.out.numv kk HLA.out.2.2.2)) rfl (by kernel_rfl) rfl SQ.out.rx.lt (SQ.out.numc kk HLA.out.2.2.2) rfl,
          Grow.h2_call2 (Or.inl rfl) 26 Grow.enter26 _ _ _ rfl (fun a wx hk => by have e1 : a.eval (.tmp 145) = (us.getD jj (undef, [])).1 := (hk.deps 4 145 (by kernel_rfl)); have e2 : a.eval (.tmp 149) = (us.getD kk (undef, [])).1 := (hk.deps 8 149 (by kernel_rfl)); rw [e1, e2]; exact Grow.s_mul HGJ.out.1 HGK.out.1 (Grow.nat_G ((SQ.out.numv jj HLA.out.2.2.1).below hk.below (Nat.le_refl _)) HGJ.out) (Grow.nat_G ((SQ.out.numv kk HLA.out.2.2.2).below hk.below (Nat.le_refl _)) HGK.out)),
          Grow.h2_buildX (Or.inl rfl) 9 150 _ rfl (by kernel_rfl) rfl rfl,
          trivial⟩ ?_
        intro a1 w6 hb1 hts hk1 hdf hfr
        have ea : a1.eval (.tmp 141) = .slice (some ⟨gx, 0, none⟩) n cx := hk1 0 141 (by decide) rfl
        obtain ⟨gy, u, l, ey, hgy, hcy, hnu, hvu, hneu, hlu⟩ : ∃ g u l, a1.eval (.tmp 151) = .slice (some ⟨g, 0, none⟩) 1 1 ∧ w7.heap.size ≤ g ∧ w6.heap[g]? = some (.cells #[u] 26 (0, 0)) ∧ Num w6 u l ∧ Nt.val l = Fe.val (Fe.mul (xs.getD jj Fe.z) (xs.getD kk Fe.z)) % Fe.P ∧ Nt.Neat l ∧ l.length ≤ 20000 := hk1 10 151 (by decide) rfl
        refine ⟨rfl, Grow.wp_append_X (.tmp 141) (.tmp 151) rfl (HRX2.out.keep (hb1.block _ HRX2.out.lt)) ea u (isSl_num hnu) gy ey hcy (Nat.le_trans hn42 (by decide)) ?_⟩
        intro g2 c2 w8 hr7 hg7 hgr7
        refine ⟨rfl, Grow.wp_assign 8 (.tmp 152) rfl rfl ?_⟩
        have e41 : (a1.put (some 152) (.slice (some ⟨g2, 0, none⟩) (n + 1) c2)).eval (.tmp 152) = .slice (some ⟨g2, 0, none⟩) (n + 1) c2 := Grow.eval_put_eq (by rw [hts]; exact Nat.le_of_ble_eq_true rfl)
        have SR : Hid (Sp w g' c' g2 c2 (xs ++ [Fe.mul (xs.getD jj Fe.z) (xs.getD kk Fe.z)]) (us ++ [(u, l)]) w8) := (SQ.out.below hb1).putX hnu (by rw [HL.out.2]; exact hr7) hg7 hgr7
        have GD2 : Hid (Goods (xs ++ [Fe.mul (xs.getD jj Fe.z) (xs.getD kk Fe.z)]) (us ++ [(u, l)])) := GD.out.more (HL.out.1.trans HL.out.2.symm) ⟨HOK.out, hvu, hneu, hlu⟩
        have HL2 : Hid ((xs ++ [Fe.mul (xs.getD jj Fe.z) (xs.getD kk Fe.z)]).length = n + 1 ∧ (us ++ [(u, l)]).length = n + 1) := ⟨by rw [List.length_append, HL.out.1]; rfl, by rw [List.length_append, HL.out.2]; rfl⟩
        have ha := Grow.act_after hts hdf hfr
        rw [show Grow.dsts _ 11 = [141, 142, 143, 144, 145, 146, 147, 148, 149, 150, 151] from by kernel_rfl] at ha
        rw [e41]
        simp only [Grow.putAll] at ha
        generalize a1.eval (.tmp 141) = z141 at ha
        generalize a1.eval (.tmp 142) = z142 at ha
        generalize a1.eval (.tmp 143) = z143 at ha
        generalize a1.eval (.tmp 144) = z144 at ha
        generalize a1.eval (.tmp 145) = z145 at ha
        generalize a1.eval (.tmp 146) = z146 at ha
        generalize a1.eval (.tmp 147) = z147 at ha
        generalize a1.eval (.tmp 148) = z148 at ha
        generalize a1.eval (.tmp 149) = z149 at ha
        generalize a1.eval (.tmp 150) = z150 at ha
        generalize a1.eval (.tmp 151) = z151 at ha
        simp [Act.put] at ha
        clear hk1 hts hdf hfr ea e41 hb1 hr7 hg7 hgr7 ey hcy hgy SQ HRX2 hnu hvu hneu hlu GD HGJ HGK
        subst ha
        unfold Grow.wpSeq
        go_wp2_with fail
        have HEL : Hid (∀ i v, (ec (Fe.mul (xs.getD jj Fe.z) (xs.getD kk Fe.z))).toList[i]? = some v → w8.cell? ⟨g', n * 5 + i, none⟩ = some v) := by have h := SR.out.elem n (by rw [HL2.out.1]; exact Nat.lt_succ_self n); rw [getD_last xs _ _ n HL.out.1] at h; exact h
        have HNC : Hid (w8.cell? ⟨g2, n * 1, none⟩ = some u) := by have h := SR.out.numc n (by rw [HL2.out.2]; exact Nat.lt_succ_self n); rw [getD_last us _ _ n HL.out.2] at h; exact h
        have HNL : Hid (Num w8 u l) := by have h := SR.out.numv n (by rw [HL2.out.2]; exact Nat.lt_succ_self n); rw [getD_last us _ _ n HL.out.2] at h; exact h
        have HGN : Hid (G (Fe.mul (xs.getD jj Fe.z) (xs.getD kk Fe.z)) l) := by have h := GD2.out n (by rw [HL2.out.2]; exact Nat.lt_succ_self n); rw [getD_last us _ _ n HL.out.2, getD_last xs _ _ n HL.out.1] at h; exact h
        refine Grow.region_all (by kernel_rfl) 14 (fun i => List.getD (Grow.Spec.is ((.slice (some ⟨g', 0, none⟩) (n + 1) c')) :: Grow.Spec.is ((.slice (some ⟨g', 0, none⟩) (n + 1) c')) :: Grow.Spec.is (.int .i64 ((n + 1 : Nat) : Int)) :: Grow.Spec.is (.int .i64 (n : Int)) :: Grow.Spec.is (.pointer (some ⟨g', n * 5, none⟩)) :: Grow.Spec.is (.agg (ec (Fe.mul (xs.getD jj Fe.z) (xs.getD kk Fe.z)))) :: Grow.Spec.is ((.slice (some ⟨g2, 0, none⟩) (n + 1) c2)) :: Grow.Spec.is ((.slice (some ⟨g2, 0, none⟩) (n + 1) c2)) :: Grow.Spec.is (.int .i64 ((n + 1 : Nat) : Int)) :: Grow.Spec.is (.int .i64 (n : Int)) :: Grow.Spec.is (.pointer (some ⟨g2, n * 1, none⟩)) :: Grow.Spec.is u :: Grow.Spec.is (.bool true) :: Grow.Spec.is (.bool false) :: []) i (Grow.Spec.is undef)) rfl (by kernel_rfl) ⟨
          Grow.h2_move (Or.inl rfl) _ (Or.inl rfl) (fun a wx hk => by have e : a.eval (.tmp 7) = _ := hk.rest 7 (by kernel_rfl); rw [e]; rfl),
          Grow.h2_move (Or.inl rfl) _ (Or.inl rfl) (fun a wx hk => by have e : a.eval (.tmp 7) = _ := hk.rest 7 (by kernel_rfl); rw [e]; rfl),
          Grow.h2_len2 (Or.inl rfl) 1 154 48 30 Tryd.underlying48 (some ⟨g', 0, none⟩) (n + 1) c' rfl (by kernel_rfl) rfl rfl,
          Grow.h2_sub1 (Or.inl rfl) 2 155 n (Nat.le_trans hn42 (by decide)) rfl (by kernel_rfl) rfl rfl,
          Grow.h2_idx48 (Or.inl rfl) 0 153 3 156 g' (n + 1) c' n (Nat.lt_succ_self n) rfl (by kernel_rfl) (by kernel_rfl) rfl rfl rfl,
          Grow.h2_loadE (Or.inl rfl) 4 157 g' (n * 5) (Fe.mul (xs.getD jj Fe.z) (xs.getD kk Fe.z)) rfl (by kernel_rfl) rfl SR.out.ra.lt HEL.out rfl,
          Grow.h2_move (Or.inl rfl) _ (Or.inl rfl) (fun a wx hk => by have e : a.eval (.tmp 8) = _ := hk.rest 8 (by kernel_rfl); rw [e]; rfl),
          Grow.h2_move (Or.inl rfl) _ (Or.inl rfl) (fun a wx hk => by have e : a.eval (.tmp 8) = _ := hk.rest 8 (by kernel_rfl); rw [e]; rfl),
          Grow.h2_len2 (Or.inl rfl) 7 160 49 26 Tryd.underlying49 (some ⟨g2, 0, none⟩) (n + 1) c2 rfl (by kernel_rfl) rfl rfl,
          Grow.h2_sub1 (Or.inl rfl) 8 161 n (Nat.le_trans hn42 (by decide)) rfl (by kernel_rfl) rfl rfl,
          Grow.h2_idx49 (Or.inl rfl) 6 159 9 162 g2 (n + 1) c2 n (Nat.lt_succ_self n) rfl (by kernel_rfl) (by kernel_rfl) rfl rfl rfl,
          Grow.h2_load26 (Or.inl rfl) 10 163 g2 (n * 1) u (isSl_num HNL.out) rfl (by kernel_rfl) rfl SR.out.rx.lt HNC.out rfl,
          Grow.h2_call2 (Or.inl rfl) 12 Grow.enter12 _ _ _ rfl (fun a wx hk => by have e1 : a.eval (.tmp 158) = .agg (ec (Fe.mul (xs.getD jj Fe.z) (xs.getD kk Fe.z))) := (hk.deps 5 158 (by kernel_rfl)); have e2 : a.eval (.tmp 164) = u := (hk.deps 11 164 (by kernel_rfl)); rw [e1, e2]; exact Grow.c_is HOK.out (Grow.nat_G (HNL.out.below hk.below (Nat.le_refl _)) HGN.out) rfl),
          Grow.h2_not (Or.inl rfl) 12 165 true false rfl rfl (by kernel_rfl) rfl rfl,
          trivial⟩ ?_
        intro a1 w9 hb1 hts hk1 hdf hfr
        have e166 : a1.eval (.tmp 166) = .bool false := hk1 13 166 (by decide) rfl
        have SF := Lib.hid (SR.out.below hb1)
        have ha := Grow.act_after hts hdf hfr
        rw [show Grow.dsts _ 14 = [153, 154, 155, 156, 157, 158, 159, 160, 161, 162, 163, 164, 165, 166] from by kernel_rfl] at ha
        simp only [Grow.putAll, e166] at ha
        generalize a1.eval (.tmp 153) = z153 at ha
        generalize a1.eval (.tmp 154) = z154 at ha
        generalize a1.eval (.tmp 155) = z155 at ha
        generalize a1.eval (.tmp 156) = z156 at ha
        generalize a1.eval (.tmp 157) = z157 at ha
        generalize a1.eval (.tmp 158) = z158 at ha
        generalize a1.eval (.tmp 159) = z159 at ha
        generalize a1.eval (.tmp 160) = z160 at ha
        generalize a1.eval (.tmp 161) = z161 at ha
        generalize a1.eval (.tmp 162) = z162 at ha
        generalize a1.eval (.tmp 163) = z163 at ha
        generalize a1.eval (.tmp 164) = z164 at ha
        generalize a1.eval (.tmp 165) = z165 at ha
        simp [Act.put] at ha
        clear hk1 hts hdf hfr e166 hb1 SR HEL HNC HNL HGN HOK
        subst ha
        go_wp2_with fail
        go_roundw
        case rel => exact ⟨k + 1, n + 1, g', c', g2, c2, _, _, by omega, by show _ = _; rw [HN.out], by go_num, rfl, rfl, SF, GD2, HL2⟩
        case measure => simp [intOf]; omega
      · have hcond : True := trivial
        go_upto_region 11 with fail
        clear hcond hq0 hq1 hcb o0 o255
        have HOK : Hid (Fe.Ok (Fe.neg (xs.getD jj Fe.z))) := Fe.sub_ok Fe.z_ok HGJ.out.1
        refine Grow.region_line 7 (fun i => List.getD (Grow.Spec.is (.slice (some ⟨ga, 0, none⟩) n ca) :: Grow.Spec.is (.slice (some ⟨ga, 0, none⟩) n ca) :: Grow.Spec.is (.int .i64 (jj : Nat)) :: Grow.Spec.is (.pointer (some ⟨ga, jj * 5, none⟩)) :: Grow.Spec.is (.agg (ec (xs.getD jj Fe.z))) :: Grow.Spec.is (.agg (ec (Fe.neg (xs.getD jj Fe.z)))) :: Grow.newE wr (Fe.neg (xs.getD jj Fe.z)) :: []) i (Grow.Spec.is undef)) (by kernel_rfl) ⟨
          Grow.h2_move (Or.inl rfl) _ (Or.inl rfl) (fun a wx hk => by have e : a.eval (.tmp 7) = _ := hk.rest 7 (by kernel_rfl); rw [e]; rfl),
          Grow.h2_move (Or.inl rfl) _ (Or.inl rfl) (fun a wx hk => by have e : a.eval (.tmp 7) = _ := hk.rest 7 (by kernel_rfl); rw [e]; rfl),
          Grow.h2_move (Or.inl rfl) _ (Or.inl rfl) (fun a wx hk => by have e : a.eval (.tmp 10) = _ := hk.rest 10 (by kernel_rfl); rw [e]; exact congrArg (Value.int IntKind.i64) HJE.out),
          Grow.h2_idx48 (Or.inl rfl) 1 60 2 61 ga n _ jj HJ.out rfl (by kernel_rfl) (by kernel_rfl) rfl rfl rfl,
          Grow.h2_loadE (Or.inl rfl) 3 62 ga (jj * 5) (xs.getD jj Fe.z) rfl (by kernel_rfl) rfl SP.out.ra.lt (SP.out.elem jj HLA.out.1) rfl,
          Grow.h2_call1 (Or.inl rfl) 22 Grow.enter22 _ _ rfl (fun a wx hk => by have e1 : a.eval (.tmp 63) = .agg (ec (xs.getD jj Fe.z)) := (hk.deps 4 63 (by kernel_rfl)); rw [e1]; refine (neg_any wx _ HGJ.out.1 (SP.out.dbl.below hk.below SP.out.dbl.1)).mono ?_; rintro e w5 ⟨rfl, hb⟩; exact ⟨_, rfl, rfl, hb⟩),
          Grow.h2_buildE (Or.inl rfl) 5 64 _ rfl (by kernel_rfl) rfl rfl,
          trivial⟩ ?_
        intro a1 w6 hb1 hts hk1 hdf hfr
        have ea : a1.eval (.tmp 59) = .slice (some ⟨ga, 0, none⟩) n ca := hk1 0 59 (by decide) rfl
        obtain ⟨gy, ey, hgy, hcy⟩ : ∃ g, a1.eval (.tmp 65) = .slice (some ⟨g, 0, none⟩) 1 1 ∧ wr.heap.size ≤ g ∧ w6.heap[g]? = some (.cells (ec (Fe.neg (xs.getD jj Fe.z))) 30 (0, 0)) := hk1 6 65 (by decide) rfl
        refine ⟨rfl, Grow.wp_append_A (.tmp 59) (.tmp 65) rfl (HRA.out.keep (hb1.block _ HRA.out.lt)) ea _ gy ey hcy (Nat.le_trans hn42 (by decide)) ?_⟩
        intro g' c' w7 hr7 hg7 hgr7
        refine ⟨rfl, Grow.wp_assign 7 (.tmp 66) rfl rfl ?_⟩
        have e41 : (a1.put (some 66) (.slice (some ⟨g', 0, none⟩) (n + 1) c')).eval (.tmp 66) = .slice (some ⟨g', 0, none⟩) (n + 1) c' := Grow.eval_put_eq (by rw [hts]; exact Nat.le_of_ble_eq_true rfl)
        have SQ : Hid (Sp w g' c' gx cx (xs ++ [Fe.neg (xs.getD jj Fe.z)]) us w7) := (SP.out.below hb1).putA (by rw [HL.out.1]; exact hr7) hg7 hgr7
        have HRX2 : Hid (RowG 26 1 IsSl w7 gx cx n (us.map (·.1))) := by have h := SQ.out.rx; rw [HL.out.2] at h; exact h
        have ha := Grow.act_after hts hdf hfr
        rw [show Grow.dsts _ 7 = [59, 60, 61, 62, 63, 64, 65] from by kernel_rfl] at ha
        rw [e41]
        simp only [Grow.putAll] at ha
        generalize a1.eval (.tmp 59) = z59 at ha
        generalize a1.eval (.tmp 60) = z60 at ha
        generalize a1.eval (.tmp 61) = z61 at ha
        generalize a1.eval (.tmp 62) = z62 at ha
        generalize a1.eval (.tmp 63) = z63 at ha
        generalize a1.eval (.tmp 64) = z64 at ha
        generalize a1.eval (.tmp 65) = z65 at ha
        simp [Act.put] at ha
        clear hk1 hts hdf hfr ea e41 hb1 hr7 hg7 hgr7 ey hcy hgy SP HRA HRX
        subst ha
        unfold Grow.wpSeq
        go_upto_region 12 with fail
        refine Grow.region_line 7 (fun i => List.getD (Grow.Spec.is (.slice (some ⟨gx, 0, none⟩) n cx) :: Grow.Spec.is (.slice (some ⟨gx, 0, none⟩) n cx) :: Grow.Spec.is (.int .i64 (jj : Nat)) :: Grow.Spec.is (.pointer (some ⟨gx, jj * 1, none⟩)) :: Grow.Spec.is (us.getD jj (undef, [])).1 :: Grow.nat (Fe.val (Fe.neg (xs.getD jj Fe.z)) % Fe.P) :: Grow.newX w7 (Fe.val (Fe.neg (xs.getD jj Fe.z)) % Fe.P) :: []) i (Grow.Spec.is undef)) (by kernel_rfl) ⟨
          Grow.h2_move (Or.inl rfl) _ (Or.inl rfl) (fun a wx hk => by have e : a.eval (.tmp 8) = _ := hk.rest 8 (by kernel_rfl); rw [e]; rfl),
          Grow.h2_move (Or.inl rfl) _ (Or.inl rfl) (fun a wx hk => by have e : a.eval (.tmp 8) = _ := hk.rest 8 (by kernel_rfl); rw [e]; rfl),
          Grow.h2_move (Or.inl rfl) _ (Or.inl rfl) (fun a wx hk => by have e : a.eval (.tmp 10) = _ := hk.rest 10 (by kernel_rfl); rw [e]; exact congrArg (Value.int IntKind.i64) HJE.out),
          Grow.h2_idx49 (Or.inl rfl) 1 68 2 69 gx n _ jj HJ.out rfl (by kernel_rfl) (by kernel_rfl) rfl rfl rfl,
          Grow.h2_load26 (Or.inl rfl) 3 70 gx (jj * 1) (us.getD jj (undef, [])).1 (isSl_num (SQ.out.numv jj HLA.out.2.2.1)) rfl (by kernel_rfl) rfl SQ.out.rx.lt (SQ.out.numc jj HLA.out.2.2.1) rfl,
          Grow.h2_call2 (Or.inl rfl) 21 Grow.enter21 _ _ _ rfl (fun a wx hk => by have e1 : a.eval (.tmp 71) = (us.getD jj (undef, [])).1 := (hk.deps 4 71 (by kernel_rfl)); rw [e1]; exact Grow.s_neg HGJ.out.1 (Grow.nat_G ((SQ.out.numv jj HLA.out.2.2.1).below hk.below (Nat.le_refl _)) HGJ.out)),
          Grow.h2_buildX (Or.inl rfl) 5 72 _ rfl (by kernel_rfl) rfl rfl,
          trivial⟩ ?_
        intro a1 w6 hb1 hts hk1 hdf hfr
        have ea : a1.eval (.tmp 67) = .slice (some ⟨gx, 0, none⟩) n cx := hk1 0 67 (by decide) rfl
        obtain ⟨gy, u, l, ey, hgy, hcy, hnu, hvu, hneu, hlu⟩ : ∃ g u l, a1.eval (.tmp 73) = .slice (some ⟨g, 0, none⟩) 1 1 ∧ w7.heap.size ≤ g ∧ w6.heap[g]? = some (.cells #[u] 26 (0, 0)) ∧ Num w6 u l ∧ Nt.val l = Fe.val (Fe.neg (xs.getD jj Fe.z)) % Fe.P ∧ Nt.Neat l ∧ l.length ≤ 20000 := hk1 6 73 (by decide) rfl
        refine ⟨rfl, Grow.wp_append_X (.tmp 67) (.tmp 73) rfl (HRX2.out.keep (hb1.block _ HRX2.out.lt)) ea u (isSl_num hnu) gy ey hcy (Nat.le_trans hn42 (by decide)) ?_⟩
        intro g2 c2 w8 hr7 hg7 hgr7
        refine ⟨rfl, Grow.wp_assign 8 (.tmp 74) rfl rfl ?_⟩
        have e41 : (a1.put (some 74) (.slice (some ⟨g2, 0, none⟩) (n + 1) c2)).eval (.tmp 74) = .slice (some ⟨g2, 0, none⟩) (n + 1) c2 := Grow.eval_put_eq (by rw [hts]; exact Nat.le_of_ble_eq_true rfl)
        have SR : Hid (Sp w g' c' g2 c2 (xs ++ [Fe.neg (xs.getD jj Fe.z)]) (us ++ [(u, l)]) w8) := (SQ.out.below hb1).putX hnu (by rw [HL.out.2]; exact hr7) hg7 hgr7
        have GD2 : Hid (Goods (xs ++ [Fe.neg (xs.getD jj Fe.z)]) (us ++ [(u, l)])) := GD.out.more (HL.out.1.trans HL.out.2.symm) ⟨HOK.out, hvu, hneu, hlu⟩
        have HL2 : Hid ((xs ++ [Fe.neg (xs.getD jj Fe.z)]).length = n + 1 ∧ (us ++ [(u, l)]).length = n + 1) := ⟨by rw [List.length_append, HL.out.1]; rfl, by rw [List.length_append, HL.out.2]; rfl⟩
        have ha := Grow.act_after hts hdf hfr
        rw [show Grow.dsts _ 7 = [67, 68, 69, 70, 71, 72, 73] from by kernel_rfl] at ha
        rw [e41]
        simp only [Grow.putAll] at ha
        generalize a1.eval (.tmp 67) = z67 at ha
        generalize a1.eval (.tmp 68) = z68 at ha
        generalize a1.eval (.tmp 69) = z69 at ha
        generalize a1.eval (.tmp 70) = z70 at ha
        generalize a1.eval (.tmp 71) = z71 at ha
        generalize a1.eval (.tmp 72) = z72 at ha
        generalize a1.eval (.tmp 73) = z73 at ha
        simp [Act.put] at ha
        clear hk1 hts hdf hfr ea e41 hb1 hr7 hg7 hgr7 ey hcy hgy SQ HRX2 hnu hvu hneu hlu GD HGJ HGK
        subst ha
        unfold Grow.wpSeq
        go_wp2_with fail
        have HEL : Hid (∀ i v, (ec (Fe.neg (xs.getD jj Fe.z))).toList[i]? = some v → w8.cell? ⟨g', n * 5 + i, none⟩ = some v) := by have h := SR.out.elem n (by rw [HL2.out.1]; exact Nat.lt_succ_self n); rw [getD_last xs _ _ n HL.out.1] at h; exact h
        have HNC : Hid (w8.cell? ⟨g2, n * 1, none⟩ = some u) := by have h := SR.out.numc n (by rw [HL2.out.2]; exact Nat.lt_succ_self n); rw [getD_last us _ _ n HL.out.2] at h; exact h
        have HNL : Hid (Num w8 u l) := by have h := SR.out.numv n (by rw [HL2.out.2]; exact Nat.lt_succ_self n); rw [getD_last us _ _ n HL.out.2] at h; exact h
        have HGN : Hid (G (Fe.neg (xs.getD jj Fe.z)) l) := by have h := GD2.out n (by rw [HL2.out.2]; exact Nat.lt_succ_self n); rw [getD_last us _ _ n HL.out.2, getD_last xs _ _ n HL.out.1] at h; exact h
        refine Grow.region_all (by kernel_rfl) 14 (fun i => List.getD (Grow.Spec.is ((.slice (some ⟨g', 0, none⟩) (n + 1) c')) :: Grow.Spec.is ((.slice (some ⟨g', 0, none⟩) (n + 1) c')) :: Grow.Spec.is (.int .i64 ((n + 1 : Nat) : Int)) :: Grow.Spec.is (.int .i64 (n : Int)) :: Grow.Spec.is (.pointer (some ⟨g', n * 5, none⟩)) :: Grow.Spec.is (.agg (ec (Fe.neg (xs.getD jj Fe.z)))) :: Grow.Spec.is ((.slice (some ⟨g2, 0, none⟩) (n + 1) c2)) :: Grow.Spec.is ((.slice (some ⟨g2, 0, none⟩) (n + 1) c2)) :: Grow.Spec.is (.int .i64 ((n + 1 : Nat) : Int)) :: Grow.Spec.is (.int .i64 (n : Int)) :: Grow.Spec.is (.pointer (some ⟨g2, n * 1, none⟩)) :: Grow.Spec.is u :: Grow.Spec.is (.bool true) :: Grow.Spec.is (.bool false) :: []) i (Grow.Spec.is undef)) rfl (by kernel_rfl) ⟨
          Grow.h2_move (Or.inl rfl) _ (Or.inl rfl) (fun a wx hk => by have e : a.eval (.tmp 7) = _ := hk.rest 7 (by kernel_rfl); rw [e]; rfl),
          Grow.h2_move (Or.inl rfl) _ (Or.inl rfl) (fun a wx hk => by have e : a.eval (.tmp 7) = _ := hk.rest 7 (by kernel_rfl); rw [e]; rfl),
          Grow.h2_len2 (Or.inl rfl) 1 154 48 30 Tryd.underlying48 (some ⟨g', 0, none⟩) (n + 1) c' rfl (by kernel_rfl) rfl rfl,
          Grow.h2_sub1 (Or.inl rfl) 2 155 n (Nat.le_trans hn42 (by decide)) rfl (by kernel_rfl) rfl rfl,
          Grow.h2_idx48 (Or.inl rfl) 0 153 3 156 g' (n + 1) c' n (Nat.lt_succ_self n) rfl (by kernel_rfl) (by kernel_rfl) rfl rfl rfl,
          Grow.h2_loadE (Or.inl rfl) 4 157 g' (n * 5) (Fe.neg (xs.getD jj Fe.z)) rfl (by kernel_rfl) rfl SR.out.ra.lt HEL.out rfl,
          Grow.h2_move (Or.inl rfl) _ (Or.inl rfl) (fun a wx hk => by have e : a.eval (.tmp 8) = _ := hk.rest 8 (by kernel_rfl); rw [e]; rfl),
          Grow.h2_move (Or.inl rfl) _ (Or.inl rfl) (fun a wx hk => by have e : a.eval (.tmp 8) = _ := hk.rest 8 (by kernel_rfl); rw [e]; rfl),
          Grow.h2_len2 (Or.inl rfl) 7 160 49 26 Tryd.underlying49 (some ⟨g2, 0, none⟩) (n + 1) c2 rfl (by kernel_rfl) rfl rfl,
          Grow.h2_sub1 (Or.inl rfl) 8 161 n (Nat.le_trans hn42 (by decide)) rfl (by kernel_rfl) rfl rfl,
          Grow.h2_idx49 (Or.inl rfl) 6 159 9 162 g2 (n + 1) c2 n (Nat.lt_succ_self n) rfl (by kernel_rfl) (by kernel_rfl) rfl rfl rfl,
          Grow.h2_load26 (Or.inl rfl) 10 163 g2 (n * 1) u (isSl_num HNL.out) rfl (by kernel_rfl) rfl SR.out.rx.lt HNC.out rfl,
          Grow.h2_call2 (Or.inl rfl) 12 Grow.enter12 _ _ _ rfl (fun a wx hk => by have e1 : a.eval (.tmp 158) = .agg (ec (Fe.neg (xs.getD jj Fe.z))) := (hk.deps 5 158 (by kernel_rfl)); have e2 : a.eval (.tmp 164) = u := (hk.deps 11 164 (by kernel_rfl)); rw [e1, e2]; exact Grow.c_is HOK.out (Grow.nat_G (HNL.out.below hk.below (Nat.le_refl _)) HGN.out) rfl),
          Grow.h2_not (Or.inl rfl) 12 165 true false rfl rfl (by kernel_rfl) rfl rfl,
          trivial⟩ ?_
        intro a1 w9 hb1 hts hk1 hdf hfr
        have e166 : a1.eval (.tmp 166) = .bool false := hk1 13 166 (by decide) rfl
        have SF := Lib.hid (SR.out.below hb1)
        have ha := Grow.act_after hts hdf hfr
        rw [show Grow.dsts _ 14 = [153, 154, 155, 156, 157, 158, 159, 160, 161, 162, 163, 164, 165, 166] from by kernel_rfl] at ha
        simp only [Grow.putAll, e166] at ha
        generalize a1.eval (.tmp 153) = z153 at ha
        generalize a1.eval (.tmp 154) = z154 at ha
        generalize a1.eval (.tmp 155) = z155 at ha
        generalize a1.eval (.tmp 156) = z156 at ha
        generalize a1.eval (.tmp 157) = z157 at ha
        generalize a1.eval (.tmp 158) = z158 at ha
        generalize a1.eval (.tmp 159) = z159 at ha
        generalize a1.eval (.tmp 160) = z160 at ha
        generalize a1.eval (.tmp 161) = z161 at ha
        generalize a1.eval (.tmp 162) = z162 at ha
        generalize a1.eval (.tmp 163) = z163 at ha
        generalize a1.eval (.tmp 164) = z164 at ha
        generalize a1.eval (.tmp 165) = z165 at ha
        simp [Act.put] at ha
        clear hk1 hts hdf hfr e166 hb1 SR HEL HNC HNL HGN HOK
        subst ha
        go_wp2_with fail
        go_roundw
        case rel => exact ⟨k + 1, n + 1, g', c', g2, c2, _, _, by omega, by show _ = _; rw [HN.out], by go_num, rfl, rfl, SF, GD2, HL2⟩
        case measure => simp [intOf]; omega
    · obtain rfl : k = O.length := by omega
      go_wp2_with fail
      go_ret
      exact ⟨rfl, SP.out.bb⟩
end Go.Proofs.YtgebangnhgmmoaaDoor
namespace Go.Proofs.YtgebangnhgmmoaaDoor
open Go.RowKit
set_option maxRecDepth 100000 in
set_option maxHeartbeats 1000000 in
theorem steps_long (w : World) (hd : Dbl w) (p q : List Int) (ao : Option Addr) (n co : Nat) (h40 : 40 < n) :
    Calls Tryd.prog 6 #[bv p, bv q, .slice ao n co] w fun e w' => e = .returned (.bool true) ∧ Below w.heap.size w w' := by
  have S0 := Lib.hid (St.two hd p q)
  clear hd
  unfold bv
  go_enter Tryd.func6, Tryd.ntmps6
  go_wp2_with (first
    | (go_at_call 9; refine (awake_any _ S1.out.dbl).mono ?_; rintro e w2 ⟨rfl, hb⟩; have S2 := Lib.hid (S1.out.below hb); clear hb)
    | (go_at_call 9; refine (awake_any _ S0.out.dbl).mono ?_; rintro e w1 ⟨rfl, hb⟩; have S1 := Lib.hid (S0.out.below hb); clear hb))
  go_ret
  exact ⟨rfl, S2.out.bb⟩
theorem steps_walk (w : World) (hd : Dbl w) (p q : List Int) (hp : p.length = 32) (hq : q.length = 32) (wp : ∀ x ∈ p, W8 x) (wq : ∀ x ∈ q, W8 x) (ao : Option Addr) (co : Nat) (O : List Int) (hO : Slc w (.slice ao O.length co) O) :
    Calls Tryd.prog 6 #[bv p, bv q, .slice ao O.length co] w fun e w' => e = .returned (.bool true) ∧ Below w.heap.size w w' := by
  by_cases h : 40 < O.length
  · exact steps_long w hd p q ao _ co h
  · exact steps_short w hd p q hp hq wp wq ao co O hO (by omega)
end Go.Proofs.YtgebangnhgmmoaaDoor
namespace Go.Proofs.YtgebangnhgmmoaaDoor
open Go.ChangeShapes Go.WideShapes Go.ChangeAt Go.RowKit
set_option linter.unusedVariables false

theorem steps_card {W : World} {a2 : Option Addr} {len2 cap2 : Nat} {z2 : List Int} (ht : Dbl W) (p q : List Int) (hp : p.length = 32) (hq : q.length = 32) (wp : ∀ x ∈ p, W8 x) (wq : ∀ x ∈ q, W8 x) (w2 : IsRow .u8 W a2 len2 cap2 z2) :
    Calls Tryd.prog 6 #[bv p, bv q, .slice a2 len2 cap2] W fun e w' => e = .returned (.bool true) ∧ Below W.heap.size W w' := by
  obtain ⟨P, rfl, hP⟩ := slc_row8 w2
  exact steps_walk W ht p q hp hq wp wq a2 cap2 P hP

namespace fieldSteps
/-- What the walks give, for every argument and every world that holds the table. -/
theorem contract (H : Type) (enc : TypeId × Value → H) (W : World) (base : Nat) (args : Array Value) (ds gs : List (DataW H)) (before : List MemPlace)
    (hval : ∀ (j : Nat) t v, Tryd.f6.params[j]? = some t → args[j]? = some v → Value.okWide Tryd.prog W .any base t v)
    (hW : DataW.Whole enc Tryd.prog Tryd.f6.params.toList Rows.fieldStepsSpec.vars false W args.toList ds gs before) (hL : laidMetH Tryd.prog Rows.fieldStepsRow.laid W) :
    Calls Tryd.prog 6 args W fun e W' => ∃ v, e = .returned v ∧ Rows.fieldStepsSpec.post enc Tryd.prog Tryd.f6 false true false false W args v W' := by
  have hW' := hW
  obtain ⟨p, q, hA0, hV, rfl, hfz, hnd⟩ := hW
  have hA : DataW.TrodAll enc Tryd.prog W 0 (fun _ => true) true Tryd.f6.params.toList args.toList ds p := hA0
  rw [Tryd.params6] at hA hval
  obtain ⟨v0, vs0, d0, ds0, p0, q0, hargs, rfl, rfl, h0, r0⟩ := trodAll_cons hA
  obtain ⟨v1, vs1, d1, ds1, p1, q1, rfl, rfl, rfl, h1, r1⟩ := trodAll_cons r0
  obtain ⟨v2, vs2, d2, ds2, p2, q2, rfl, rfl, rfl, h2, r2⟩ := trodAll_cons r1
  obtain ⟨rfl, rfl, rfl⟩ := trodAll_nil r2
  obtain rfl : args = #[v0, v1, v2] := by cases args; simp_all
  obtain ⟨rfl, rfl⟩ := trodVars_none hV
  have k0 := h0
  have lt0 : ∀ x ∈ p0, x.block < W.heap.size := by obtain ⟨m, hm⟩ := k0; exact DataW.trod_lt m _ _ _ hm
  obtain ⟨l0, rfl, len0, w0⟩ := open_arr (hval 0 23 v0 rfl rfl) h0
  have k1 := h1
  have lt1 : ∀ x ∈ p1, x.block < W.heap.size := by obtain ⟨m, hm⟩ := k1; exact DataW.trod_lt m _ _ _ hm
  obtain ⟨l1, rfl, len1, w1⟩ := open_arr (hval 1 23 v1 rfl rfl) h1
  obtain ⟨a2, len2, cap2, rfl⟩ := okWide_slice Tryd.underlying22 (hval 2 22 v2 rfl rfl)
  have k2 := h2
  have lt2 : ∀ x ∈ p2, x.block < W.heap.size := by obtain ⟨m, hm⟩ := k2; exact DataW.trod_lt m _ _ _ hm
  obtain ⟨z2, w2⟩ : ∃ zs, IsRow .u8 W a2 len2 cap2 zs := by
    obtain ⟨fuel, hf⟩ := h2
    rcases open_ints Tryd.underlying22 Tryd.underlying5 (by kernel_rfl) hf with ⟨hcs, _⟩ | ⟨x, l, c, zs, hcs, _, hl, hm, hz, _, hcell, hwz⟩
    · simp [Value.cells] at hcs
      obtain ⟨rfl, rfl, rfl⟩ := hcs
      exact ⟨[], .inl ⟨rfl, rfl, rfl, rfl⟩⟩
    · simp [Value.cells] at hcs
      obtain ⟨rfl, rfl, rfl⟩ := hcs
      exact ⟨zs, .inr ⟨_, rfl, hl, hm, by simpa using hz, hcell, hwz⟩⟩
  clear hA0
  refine (steps_card (tab hL) l0 l1 len0 len1 w0 w1 w2).mono fun e W' ⟨he, bel⟩ => ?_
  subst he
  exact ⟨_, rfl, _, _, _, [], _, [], hW', trodAll_mk1 (shut_bool Tryd.underlying4 _), (trodAll_cons_mk (Below.trod laidOut (by kernel_rfl) (of_decide_eq_true (by kernel_rfl)) k0 bel lt0) (trodAll_cons_mk (Below.trod laidOut (by kernel_rfl) (of_decide_eq_true (by kernel_rfl)) k1 bel lt1) (trodAll_cons_mk (Below.trod laidOut (by kernel_rfl) (of_decide_eq_true (by kernel_rfl)) k2 bel lt2) (trodAll_mk0)))), rfl, bel.frame _, fun h => by cases h⟩

theorem laid_met (os : Os) : laidMet Tryd.prog Rows.fieldStepsRow.laid ((laidWorld os).forCall (fun _ _ => 0) ⟨#[], #[.agg #[.int .u8 0, .int .u8 0, .int .u8 0, .int .u8 0, .int .u8 0, .int .u8 0, .int .u8 0, .int .u8 0, .int .u8 0, .int .u8 0, .int .u8 0, .int .u8 0, .int .u8 0, .int .u8 0, .int .u8 0, .int .u8 0, .int .u8 0, .int .u8 0, .int .u8 0, .int .u8 0, .int .u8 0, .int .u8 0, .int .u8 0, .int .u8 0, .int .u8 0, .int .u8 0, .int .u8 0, .int .u8 0, .int .u8 0, .int .u8 0, .int .u8 0, .int .u8 0], .agg #[.int .u8 0, .int .u8 0, .int .u8 0, .int .u8 0, .int .u8 0, .int .u8 0, .int .u8 0, .int .u8 0, .int .u8 0, .int .u8 0, .int .u8 0, .int .u8 0, .int .u8 0, .int .u8 0, .int .u8 0, .int .u8 0, .int .u8 0, .int .u8 0, .int .u8 0, .int .u8 0, .int .u8 0, .int .u8 0, .int .u8 0, .int .u8 0, .int .u8 0, .int .u8 0, .int .u8 0, .int .u8 0, .int .u8 0, .int .u8 0, .int .u8 0, .int .u8 0], .slice none 0 0], []⟩).memory :=
  laidMet_of_run' 8 (by kernel_rfl) (by kernel_rfl)
theorem reads (os : Os) {H : Type} (enc : TypeId × Value → H) : ∃ places, DataW.whole enc Tryd.prog ((laidWorld os).forCall (fun _ _ => 0) ⟨#[], #[.agg #[.int .u8 0, .int .u8 0, .int .u8 0, .int .u8 0, .int .u8 0, .int .u8 0, .int .u8 0, .int .u8 0, .int .u8 0, .int .u8 0, .int .u8 0, .int .u8 0, .int .u8 0, .int .u8 0, .int .u8 0, .int .u8 0, .int .u8 0, .int .u8 0, .int .u8 0, .int .u8 0, .int .u8 0, .int .u8 0, .int .u8 0, .int .u8 0, .int .u8 0, .int .u8 0, .int .u8 0, .int .u8 0, .int .u8 0, .int .u8 0, .int .u8 0, .int .u8 0], .agg #[.int .u8 0, .int .u8 0, .int .u8 0, .int .u8 0, .int .u8 0, .int .u8 0, .int .u8 0, .int .u8 0, .int .u8 0, .int .u8 0, .int .u8 0, .int .u8 0, .int .u8 0, .int .u8 0, .int .u8 0, .int .u8 0, .int .u8 0, .int .u8 0, .int .u8 0, .int .u8 0, .int .u8 0, .int .u8 0, .int .u8 0, .int .u8 0, .int .u8 0, .int .u8 0, .int .u8 0, .int .u8 0, .int .u8 0, .int .u8 0, .int .u8 0, .int .u8 0], .slice none 0 0], []⟩).memory Tryd.f6.params.toList Rows.fieldStepsSpec.vars false (#[.agg #[.int .u8 0, .int .u8 0, .int .u8 0, .int .u8 0, .int .u8 0, .int .u8 0, .int .u8 0, .int .u8 0, .int .u8 0, .int .u8 0, .int .u8 0, .int .u8 0, .int .u8 0, .int .u8 0, .int .u8 0, .int .u8 0, .int .u8 0, .int .u8 0, .int .u8 0, .int .u8 0, .int .u8 0, .int .u8 0, .int .u8 0, .int .u8 0, .int .u8 0, .int .u8 0, .int .u8 0, .int .u8 0, .int .u8 0, .int .u8 0, .int .u8 0, .int .u8 0], .agg #[.int .u8 0, .int .u8 0, .int .u8 0, .int .u8 0, .int .u8 0, .int .u8 0, .int .u8 0, .int .u8 0, .int .u8 0, .int .u8 0, .int .u8 0, .int .u8 0, .int .u8 0, .int .u8 0, .int .u8 0, .int .u8 0, .int .u8 0, .int .u8 0, .int .u8 0, .int .u8 0, .int .u8 0, .int .u8 0, .int .u8 0, .int .u8 0, .int .u8 0, .int .u8 0, .int .u8 0, .int .u8 0, .int .u8 0, .int .u8 0, .int .u8 0, .int .u8 0], .slice none 0 0] : Array Value).toList 8 = some ([.agg [.lit (.int .u8 0), .lit (.int .u8 0), .lit (.int .u8 0), .lit (.int .u8 0), .lit (.int .u8 0), .lit (.int .u8 0), .lit (.int .u8 0), .lit (.int .u8 0), .lit (.int .u8 0), .lit (.int .u8 0), .lit (.int .u8 0), .lit (.int .u8 0), .lit (.int .u8 0), .lit (.int .u8 0), .lit (.int .u8 0), .lit (.int .u8 0), .lit (.int .u8 0), .lit (.int .u8 0), .lit (.int .u8 0), .lit (.int .u8 0), .lit (.int .u8 0), .lit (.int .u8 0), .lit (.int .u8 0), .lit (.int .u8 0), .lit (.int .u8 0), .lit (.int .u8 0), .lit (.int .u8 0), .lit (.int .u8 0), .lit (.int .u8 0), .lit (.int .u8 0), .lit (.int .u8 0), .lit (.int .u8 0)], .agg [.lit (.int .u8 0), .lit (.int .u8 0), .lit (.int .u8 0), .lit (.int .u8 0), .lit (.int .u8 0), .lit (.int .u8 0), .lit (.int .u8 0), .lit (.int .u8 0), .lit (.int .u8 0), .lit (.int .u8 0), .lit (.int .u8 0), .lit (.int .u8 0), .lit (.int .u8 0), .lit (.int .u8 0), .lit (.int .u8 0), .lit (.int .u8 0), .lit (.int .u8 0), .lit (.int .u8 0), .lit (.int .u8 0), .lit (.int .u8 0), .lit (.int .u8 0), .lit (.int .u8 0), .lit (.int .u8 0), .lit (.int .u8 0), .lit (.int .u8 0), .lit (.int .u8 0), .lit (.int .u8 0), .lit (.int .u8 0), .lit (.int .u8 0), .lit (.int .u8 0), .lit (.int .u8 0), .lit (.int .u8 0)], .nil], [], places) :=
  ⟨[], by kernel_rfl⟩

set_option maxRecDepth 100000 in
theorem lifted (os : Os) (started : os.Started) (H : Type) (enc : TypeId × Value → H) (F : Stop.Interp) :
    ReturnsInHanded {} Tryd.checked os 6 .any ((OpenSpec.ofChange Rows.fieldStepsSpec).preRow enc Tryd.prog Tryd.f6 Rows.fieldStepsRow.domain false Rows.fieldStepsRow.laid) (((OpenSpec.ofChange Rows.fieldStepsSpec).at F).post enc Tryd.prog Tryd.f6 false true false false) := by
  obtain ⟨places, hx⟩ := reads os enc
  refine returnsInHanded_of_row (C := Tryd.checked) (s := OpenSpec.ofChange Rows.fieldStepsSpec) own started (by kernel_rfl) Tryd.func6
    (witness_row_at (enc := enc) (C := Tryd.checked) false (laidWorld os) #[.agg #[.int .u8 0, .int .u8 0, .int .u8 0, .int .u8 0, .int .u8 0, .int .u8 0, .int .u8 0, .int .u8 0, .int .u8 0, .int .u8 0, .int .u8 0, .int .u8 0, .int .u8 0, .int .u8 0, .int .u8 0, .int .u8 0, .int .u8 0, .int .u8 0, .int .u8 0, .int .u8 0, .int .u8 0, .int .u8 0, .int .u8 0, .int .u8 0, .int .u8 0, .int .u8 0, .int .u8 0, .int .u8 0, .int .u8 0, .int .u8 0, .int .u8 0, .int .u8 0], .agg #[.int .u8 0, .int .u8 0, .int .u8 0, .int .u8 0, .int .u8 0, .int .u8 0, .int .u8 0, .int .u8 0, .int .u8 0, .int .u8 0, .int .u8 0, .int .u8 0, .int .u8 0, .int .u8 0, .int .u8 0, .int .u8 0, .int .u8 0, .int .u8 0, .int .u8 0, .int .u8 0, .int .u8 0, .int .u8 0, .int .u8 0, .int .u8 0, .int .u8 0, .int .u8 0, .int .u8 0, .int .u8 0, .int .u8 0, .int .u8 0, .int .u8 0, .int .u8 0], .slice none 0 0] rfl (by kernel_rfl) (by kernel_rfl) (by kernel_rfl)
      (OpenSpec.preRow_of_cond 8 hx (by kernel_rfl) (fun k hk => by cases hk) (by kernel_rfl) (laid_met os))) ?_
  intro W base args ds gs before hval hW _ _ _ hL _ _
  exact contract H enc W base args ds gs before hval hW hL

theorem said : Rows.FieldStepsSaid :=
  OpenClaim.holds_of_cond 6 Tryd.f6 rfl rfl rfl rfl rfl rfl rfl ⟨rfl, rfl, rfl, rfl, rfl⟩ rfl rfl rfl rfl rfl (by kernel_rfl) Tryd.func6 (by kernel_rfl)
    (of_decide_eq_true (by kernel_rfl)) (by unfold Func.isWrapper; first | (rw [if_pos (by decide +kernel)]; kernel_rfl) | (rw [if_neg (by decide +kernel)]; exact ⟨rfl, rfl⟩))
    (fun os started H enc _ F => by rw [OpenClaim.pre_eq_preRow]; exact lifted os started H enc F)

theorem plain (f : FuncId) (fn : Func) (hf : Tryd.pinned.checked.prog.funcNamed "pawl/pawllaw03.FieldSteps" = some f) (hfn : Tryd.pinned.checked.prog.funcs[f]? = some fn) :
    false = Tryd.pinned.checked.prog.looks [] ∧ ∀ (j : Nat) t, fn.params[j]? = some t → Tryd.pinned.checked.prog.wantsStandIn t = false := by
  obtain rfl : f = 6 := Option.some.inj ((show Tryd.prog.funcNamed "pawl/pawllaw03.FieldSteps" = some 6 by kernel_rfl).symm.trans hf) |>.symm
  obtain rfl : fn = Tryd.f6 := (Option.some.inj (Tryd.func6.symm.trans hfn)).symm
  refine ⟨by kernel_rfl, fun j t ht => ?_⟩
  rw [Tryd.params6] at ht
  have hm := Array.mem_of_getElem? ht
  simp only [List.mem_toArray, List.mem_cons, List.not_mem_nil, or_false] at hm
  have s22 : Tryd.prog.wantsStandIn 22 = false := by kernel_rfl
  have s23 : Tryd.prog.wantsStandIn 23 = false := by kernel_rfl
  rcases hm with rfl | rfl | rfl
  all_goals assumption

/-- ████ THE CARD ████ -/
theorem card : Rows.FieldStepsCardSaid :=
  Claim7.holds_tied_plain_at .later [] _ _ _ _ said (fun _ h => by cases h) (by kernel_rfl) (fun _ h => by cases h) fieldSteps_row_tie rfl ⟨rfl, rfl⟩ (by kernel_rfl) rfl plain (by kernel_rfl)
end fieldSteps

theorem fieldSteps_proved : Rows.FieldStepsCardSaid := fieldSteps.card

end Go.Proofs.YtgebangnhgmmoaaDoor
