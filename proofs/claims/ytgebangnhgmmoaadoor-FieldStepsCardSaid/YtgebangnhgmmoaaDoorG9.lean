/- Layer 3, part 9 of the proof. -/
import Derived.Test.YtgebangnhgmmoaaDoorG8
/- The reference's squares, the walks: half a number; has a number a root? -/
namespace Go.Proofs.YtgebangnhgmmoaaDoor
open Go.RowKit

namespace Nt
theorem half_two (x y z : Int) : (x + B * (y + B * z)) / 2 % B = (x + y * 4294967296) / 2 % B := by
  unfold B; omega
theorem down1_more {a O : List Int} {k : Nat} {t : Int} (ha : Ws a) (hO : O.length = k) (ht : t = (a.getD k 0 + a.getD (k + 1) 0 * 4294967296) / 2 % B) (h : val O = val a / 2 % pw k) :
    val (O ++ [t]) = val a / 2 % pw (k + 1) := by
  have e : val [t] = t := by simp [val]
  have e2 : val a / 2 / pw k = val (a.drop k) / 2 := by
    rw [Int.ediv_ediv_of_nonneg (by decide), Int.mul_comm, ← Int.ediv_ediv_of_nonneg (Int.le_of_lt (pw_pos k)), val_high ha]
  rw [val_append, hO, e, h, ht, ← half_two _ _ (val (a.drop (k + 2))), ← drop_word, ← drop_word, ← e2, pw_succ, Int.mul_comm B, emod_two _ _ (pw_pos k)]
theorem down1_end {a O : List Int} {k : Nat} (ha : Ws a) (hk : a.length ≤ k) (h : val O = val a / 2 % pw k) : val O = val a / 2 := by
  rw [h]
  have h0 := val_nonneg ha
  exact Int.emod_eq_of_lt (Int.ediv_nonneg h0 (by decide)) (Int.lt_of_le_of_lt (Int.ediv_le_self _ h0) (Int.lt_of_lt_of_le (val_lt ha) (pw_le hk)))
end Nt

set_option maxRecDepth 100000 in
set_option maxHeartbeats 1000000 in
theorem down1_any (w : World) (va : Value) (a : List Int) (ha : Num w va a) (hla : a.length ≤ 100000) :
    Calls Tryd.prog 50 #[va, .int .i64 1] w fun e w' => ∃ v' l, e = .returned v' ∧ Num w' v' l ∧ Nt.val l = Nt.val a / 2 ∧ Nt.Neat l ∧ l.length ≤ a.length ∧ Below w.heap.size w w' := by
  obtain ⟨aa, ca, rfl⟩ := num_form ha
  have HA := Lib.hid ha
  have hwa : Hid (Nt.Ws a) := by obtain ⟨_, _, _, _, h, _⟩ := ha; exact h
  clear ha
  go_enter Tryd.func50, Tryd.ntmps50
  go_wp2_with fail
  go_loopw [5, 6] (fun v i wr => ∃ (k : Nat) (O : List Int), k ≤ a.length ∧ i = .int .i64 (k : Nat) ∧ O.length = k ∧ Hid (Nt.Ws O) ∧ Hid (Mine .u32 36 w wr v O) ∧ Hid (Nt.val O = Nt.val a / 2 % Nt.pw k)) (fun _ i _ => a.length - (intOf i).toNat)
  case atStart => exact ⟨0, [], Nat.zero_le _, rfl, rfl, Nt.Ws.nil, Mine.nil _ _ _, by show _ = _; rw [Nt.pw_zero]; simp [Nt.val, Int.emod_one]⟩
  case round =>
    obtain ⟨k, O, hk, rfl, hO, WO, MO, VO⟩ := hrel
    obtain ⟨a5, c5, rfl⟩ := MO.out.form
    rw [hO]
    have hda : 0 ≤ a.getD k 0 ∧ a.getD k 0 ≤ 4294967295 := hwa.out.getD _
    have hdb : 0 ≤ a.getD (k + 1) 0 ∧ a.getD (k + 1) 0 ≤ 4294967295 := hwa.out.getD _
    have MO2 : Hid (Mine .u32 36 w wr (.slice a5 k c5) O) := by have := MO.out; rw [hO] at this; exact this
    have HOL := Lib.hid hO
    by_cases hla2 : k < a.length
    · have hmore := fun t ht => Nt.down1_more (t := t) hwa.out hO ht VO.out
      unfold Nt.B at hmore
      have HMORE := Lib.hid hmore
      clear hmore hO MO VO
      obtain ⟨da0, da1⟩ := hda
      obtain ⟨db0, db1⟩ := hdb
      by_cases hlb2 : k + 1 < a.length
      · obtain ⟨b1, o1, he, hb1, hc1, hcap1⟩ := num_cell HA.out _ hla2
        obtain ⟨b2, o2, he2, hb2, hc2, hcap2⟩ := num_cell HA.out _ hlb2
        obtain rfl := he
        injection he2 with he3
        injection he3 with he4 he5
        subst he4
        subst he5
        have hc1' := (MO2.out.2.cell (p := ⟨b1, o1 + k, none⟩) hb1).trans hc1
        have hc2' := (MO2.out.2.cell (p := ⟨b1, o1 + (k + 1), none⟩) hb2).trans hc2
        clear hc1 hc2 HA
        have hor := Nt.or_words da0 da1 db0 db1
        generalize a.getD k 0 = xa at *
        generalize a.getD (k + 1) 0 = xb at *
        have hws : Hid (Nt.Ws (O ++ [(xa + xb * 4294967296) / 2 % 4294967296])) := WO.out.snoc (x := (xa + xb * 4294967296) / 2 % 4294967296) (by unfold W32; omega)
        have hol : Hid ((O ++ [(xa + xb * 4294967296) / 2 % 4294967296]).length = k + 1) := by show _ = _; rw [List.length_append, HOL.out]; rfl
        have HV := Lib.hid (HMORE.out _ rfl)
        clear HMORE WO
        go_wp2_with ((with_reducible refine append_word (o := ⟨some 42, _, _, _, _, _⟩) rfl (.tmp 35) (.tmp 41) rfl w (.slice a5 k c5) O rfl ?_ ((xa + xb * 4294967296) / 2 % 4294967296) rfl ?_ ?_); exact MO2.out; exact (by have := HOL.out; omega); intro u6 w5 hp2; have HP3 := Lib.hid hp2; clear hp2)
        go_roundw
        case rel => exact ⟨k + 1, O ++ [(xa + xb * 4294967296) / 2 % 4294967296], by omega, by go_num, hol.out, hws, HP3, HV⟩
        case measure => simp [intOf]; omega
      · obtain ⟨b1, o1, rfl, hb1, hc1, hcap1⟩ := num_cell HA.out _ hla2
        have hc1' := (MO2.out.2.cell (p := ⟨b1, o1 + k, none⟩) hb1).trans hc1
        have hz : a.getD (k + 1) 0 = 0 := by simp [List.getD_eq_getElem?_getD, List.getElem?_eq_none (show a.length ≤ k + 1 by omega)]
        rw [hz, Int.zero_mul, Int.add_zero] at HMORE
        clear hc1 HA hz db0 db1
        generalize a.getD k 0 = xa at *
        have hws : Hid (Nt.Ws (O ++ [xa / 2])) := WO.out.snoc (x := xa / 2) (by unfold W32; omega)
        have hol : Hid ((O ++ [xa / 2]).length = k + 1) := by show _ = _; rw [List.length_append, HOL.out]; rfl
        have HV := Lib.hid (HMORE.out (xa / 2) (by omega))
        clear HMORE WO
        go_wp2_with ((with_reducible refine append_word (o := ⟨some 42, _, _, _, _, _⟩) rfl (.tmp 35) (.tmp 41) rfl w (.slice a5 k c5) O rfl ?_ (xa / 2) rfl ?_ ?_); exact MO2.out; exact (by have := HOL.out; omega); intro u6 w5 hp2; have HP3 := Lib.hid hp2; clear hp2)
        go_roundw
        case rel => exact ⟨k + 1, O ++ [xa / 2], by omega, by go_num, hol.out, hws, HP3, HV⟩
        case measure => simp [intOf]; omega
    · have HVC := Lib.hid (Nt.down1_end hwa.out (show a.length ≤ k by omega) VO.out)
      have HLC : Hid (O.length ≤ 1000000) := by show _ ≤ _; omega
      clear VO hda hdb HA hO
      go_wp2_with (go_at_call 44; refine (trim_any _ _ _ (MO2.out.num WO.out) HLC.out).mono ?_; rintro e w1 ⟨v1, rfl, h2, h3⟩; have H2 := Lib.hid h2; have H3 := Lib.hid h3; clear h2 h3)
      go_ret
      refine ⟨_, _, rfl, H2.out, ?_, Nt.neat_trim _, ?_, MO2.out.2.trans (H3.out.mono MO2.out.2.size)⟩
      · rw [Nt.val_trim]; exact HVC.out
      · rw [Nt.length_trim]
        refine Nat.le_trans (Nt.cut_le _ _) ?_
        rw [HOL.out]
        exact hk

set_option maxRecDepth 100000 in
set_option maxHeartbeats 1000000 in
theorem rsquare_any (w : World) (va : Value) (a : List Int) (ha : Num w va a) (hn : Nt.Neat a) (hla : a.length ≤ 20000) :
    Calls Tryd.prog 36 #[va] w fun e w' => e = .returned (.bool (decide (Nt.val a = 0 ∨ Nt.val a ^ ((Nm.PN - 1) / 2) % Fe.P = 1))) ∧ Below w.heap.size w w' := by
  obtain ⟨aa, ca, rfl⟩ := num_form ha
  have hwa : Nt.Ws a := by obtain ⟨_, _, _, _, h, _⟩ := ha; exact h
  have hlv := len_val hwa hn
  have HA := Lib.hid ha
  clear ha
  by_cases h0 : a.length = 0
  · have hv : Nt.val a = 0 := hlv.1 h0
    have HV : Hid (decide (Nt.val a = 0 ∨ Nt.val a ^ ((Nm.PN - 1) / 2) % Fe.P = 1) = true) := decide_eq_true (Or.inl hv)
    rw [h0] at *
    clear hlv h0 hv
    go_enter Tryd.func36, Tryd.ntmps36
    go_wp2
    go_ret
    exact ⟨congrArg (fun b => Ending.returned (.bool b)) HV.out.symm, Below.refl _ _⟩
  · have hv : Nt.val a ≠ 0 := fun h => h0 (hlv.2 h)
    have HV := Lib.hid hv
    have hne : ((a.length : Int) == 0) = false := by
      have : ¬ ((a.length : Int) = 0) := by omega
      simpa using this
    have hph : (Nt.val Nt.prime / 2).toNat = (Nm.PN - 1) / 2 := by decide
    have HPH := Lib.hid hph
    clear hlv h0 hv hph
    go_enter Tryd.func36, Tryd.ntmps36
    go_wp2_with (first
      | (go_at_call 24; refine (cmp_any _ _ _ l4 [1] (HQ1.out.below ((Below.refl _ _).alloc (Nat.le_refl _) _) (Nat.le_refl _)) (one_num _) (Nat.le_trans HQ4.out (by decide)) (by decide)).mono ?_; rintro e w5 ⟨r, rfl, hr1, hr2, hb⟩; have HR : Hid (r = 0 ↔ Nt.val l4 = 1) := (by have e1 : Nt.val [1] = 1 := (by decide); rw [e1] at hr1 hr2; show _ ↔ _; omega); have HB5 := Lib.hid ((HB4.out.alloc HB4.out.size _).trans (hb.mono (HB4.out.alloc HB4.out.size _).size)); clear hr1 hr2 hb)
      | (go_at_call 32; refine (rpow_any _ _ _ a l3 (HA.out.below HB3.out (Nat.le_refl _)) HR1.out hla (by have := HR4.out; omega)).mono ?_; rintro e w4 ⟨v4, l4, rfl, hq1, hq2, hq3, hq4, hb⟩; have HQ1 := Lib.hid hq1; have HQ2 := Lib.hid hq2; have HQ4 := Lib.hid hq4; have HB4 := Lib.hid (HB3.out.trans (hb.mono HB3.out.size)); clear hq1 hq2 hq3 hq4 hb)
      | (go_at_call 50; refine (down1_any _ _ Nt.prime HP1.out (by decide)).mono ?_; rintro e w3 ⟨v3, l3, rfl, hq1, hq2, hq3, hq4, hb⟩; have HR1 := Lib.hid hq1; have HR2 := Lib.hid hq2; have HR4 : Hid (l3.length ≤ 8) := hq4; have HB3 := Lib.hid (HB1.out.trans (hb.mono HB1.out.size)); clear hq1 hq2 hq3 hq4 hb)
      | (go_at_call 43; refine (p_any _).mono ?_; rintro e w1 ⟨v1, rfl, hq1, hb⟩; have HP1 := Lib.hid hq1; have HB1 := Lib.hid hb; clear hq1 hb))
    go_ret
    refine ⟨congrArg (fun b => Ending.returned (.bool b)) ?_, HB5.out⟩
    have h4 := HQ2.out
    rw [HR2.out, HPH.out] at h4
    show (r == 0) = _
    rw [show (r == 0) = decide (r = 0) from rfl]
    refine decide_eq_decide.2 ?_
    rw [HR.out, h4]
    exact ⟨Or.inr, fun h => h.resolve_left HV.out⟩
end Go.Proofs.YtgebangnhgmmoaaDoor

/- A region that draws its order, all of whose operations only add to the world: what the frame holds behind it is told. -/
namespace Go.Proofs.YtgebangnhgmmoaaDoor
open Go.RowKit
namespace Grow
section
variable {P : Program} {m : Nat} {ops : Array Oper} {Q : Exit → Act → World → Prop} {specs : Nat → Spec} {a0 : Act} {w0 : World}
theorem Inv2.step3 {listed : Array Bool} {a : Act} {w : World} (hm : m = ops.size) (hf : fits ops a0.tmps.size = true) (h : Inv2 m ops specs a0 w0 listed a w) {i : Nat} {o : Oper} (hi : ops[i]? = some o) {v : Value} {w' : World}
    (hv : (specs i).meets v w') (hb : Below w.heap.size w w') : Inv2 m ops specs a0 w0 (listed.setIfInBounds i true) (a.put o.dst v) w' := by
  obtain ⟨d, hd, hdn, hne, -⟩ := fits_dst hf hi
  have hlt : i < ops.size := (Array.getElem?_eq_some_iff.1 hi).1
  have hdi : dstOf ops i = some d := by simp [dstOf, hi, hd]
  rw [hd]
  refine ⟨by simp [h.lsize], h.below.trans (hb.mono h.below.size), by simp [Act.put, h.tsize], ?_, ?_, by simp [Act.put, h.defers], ?_⟩
  · intro j e hjm hj hl
    by_cases hji : j = i
    · subst hji
      obtain rfl : d = e := Option.some.inj (hdi.symm.trans hj)
      rw [eval_put_eq (by rw [h.tsize]; exact hdn)]
      exact hv
    · have hde : d ≠ e := fun hh => hne j (by omega) hji (hh ▸ hj)
      rw [eval_put_ne hde]
      refine ((specs j).keeps (h.known j e hjm hj ?_) hb)
      simpa [Array.getElem?_setIfInBounds_ne (Ne.symm hji)] using hl
  · intro t ht
    have : d ≠ t := by
      intro hh
      subst hh
      unfold free2 at ht
      rw [List.all_eq_true] at ht
      have := ht i (List.mem_range.2 (by omega))
      rw [hdi] at this
      simp at this
    rw [eval_put_ne this]
    exact h.rest t ht
  · simpa [Array.getElem?_setIfInBounds_ne (show i ≠ m by omega)] using h.last

theorem wpAny_all3 (hm : m = ops.size) (hf : fits ops a0.tmps.size = true) (hops : Hops2 P m ops specs Q a0 w0 0 ops.toList)
    (hend : ∀ a w, Below w0.heap.size w0 w → a.tmps.size = a0.tmps.size → (∀ i d, i < m → dstOf ops i = some d → (specs i).meets (a.eval (.tmp d)) w) → a.defers = a0.defers → (∀ t, free2 ops m t = true → a.eval (.tmp t) = a0.eval (.tmp t)) → Q .normal a w) :
    ∀ (fuel : Nat) (listed : Array Bool) (a : Act) (w : World), listed.toList.count false ≤ fuel → Inv2 m ops specs a0 w0 listed a w → wpAny P .any ops Q fuel listed a w := by
  have done : ∀ (listed : Array Bool) (a : Act) (w : World), Inv2 m ops specs a0 w0 listed a w → Region.ready .any ops listed = [] → Q .normal a w := by
    intro listed a w h hr
    have hall : ∀ n i, i < n → i < ops.size → listed.getD i false = true := by
      intro n
      induction n with
      | zero => intro i hi; omega
      | succ n ih =>
        intro i hi hlt
        by_cases hin : i < n
        · exact ih i hin hlt
        · obtain ⟨o, ho⟩ : ∃ o, ops[i]? = some o := ⟨_, Array.getElem?_eq_getElem hlt⟩
          obtain ⟨_, _, _, _, haf⟩ := fits_dst hf ho
          cases hl : listed.getD i false with
          | true => rfl
          | false =>
            have hm : i ∈ Region.ready .any ops listed := by
              refine mem_ready.2 ⟨?_, o, ho, fun e he _ => ih e.on (by have := haf e he; omega) (by have := haf e he; omega)⟩
              have hs : i < listed.size := by rw [h.lsize]; exact hlt
              simpa [Array.getElem?_eq_getElem hs] using hl
            rw [hr] at hm; cases hm
    exact hend a w h.below h.tsize (fun i d hi hd => h.known i d hi hd (hall (i + 1) i (Nat.lt_succ_self _) (by omega))) h.defers h.rest
  intro fuel
  induction fuel with
  | zero =>
    intro listed a w hc h
    have hr : Region.ready .any ops listed = [] := by
      cases hr : Region.ready .any ops listed with
      | nil => rfl
      | cons j r =>
        have hj : j ∈ Region.ready .any ops listed := by rw [hr]; exact List.mem_cons_self
        obtain ⟨h0, o, ho, _⟩ := mem_ready.1 hj
        have hs : j < listed.size := by rw [h.lsize]; exact (Array.getElem?_eq_some_iff.1 ho).1
        have hm : false ∈ listed.toList := by
          rw [Array.mem_toList_iff]
          refine Array.mem_of_getElem? (i := j) ?_
          rw [Array.getElem?_eq_getElem hs]
          simpa [Array.getElem?_eq_getElem hs] using h0
        have := List.count_pos_iff.2 hm
        omega
    exact ⟨hr, done listed a w h hr⟩
  | succ fuel ih =>
    intro listed a w hc h
    refine ⟨done listed a w h, fun i hi => ?_⟩
    obtain ⟨h0, o, ho, hall⟩ := mem_ready.1 hi
    have hlt : i < ops.size := (Array.getElem?_eq_some_iff.1 ho).1
    have hs : i < listed.size := by rw [h.lsize]; exact hlt
    have hl0 : listed[i] = false := by simpa [Array.getElem?_eq_getElem hs] using h0
    have hcount : (listed.setIfInBounds i true).toList.count false ≤ fuel := by
      have hm : false ∈ listed.toList := by
        rw [Array.mem_toList_iff]
        exact Array.mem_of_getElem? (i := i) (by rw [Array.getElem?_eq_getElem hs, hl0])
      have hp := List.count_pos_iff.2 hm
      rw [Array.toList_setIfInBounds, List.count_set (by simpa using hs)]
      rw [if_pos (by simp [hl0]), if_neg (by simp)]
      omega
    have hhop := hops.get i o (by simpa using ho)
    rw [Nat.zero_add] at hhop
    obtain ⟨_, _, _, _, haf⟩ := fits_dst hf ho
    rcases hhop a w h.below h.tsize (fun j d hd => by
      unfold deps at hd
      simp only [Bool.and_eq_true, beq_iff_eq] at hd
      obtain ⟨hd1, hd2⟩ := hd
      rw [Array.any_eq_true'] at hd1
      obtain ⟨e, he, heb⟩ := hd1
      simp only [Bool.and_eq_true, beq_iff_eq] at heb
      obtain ⟨hb, rfl⟩ := heb
      exact h.known _ d (by have := haf e he; omega) hd2 (hall e he hb)) h.rest with ⟨hw, hwp⟩ | ⟨hw, hmt⟩
    · unfold wpOp
      simp only [ho, hw, if_true]
      refine Or.inl (Oper.wp_mono ?_ hwp)
      rintro a' w' ⟨v, rfl, hv, hb⟩
      exact ih _ _ _ hcount (h.step3 hm hf ho hv hb)
    · unfold wpOp
      simp only [ho, hw, Bool.false_eq_true, if_false]
      exact ih _ _ _ hcount (h.step3 hm hf ho hmt (Below.refl _ _))

theorem region_all {id : Nat} (hmo : P.follows .mixedOrders = true) (m : Nat) (specs : Nat → Spec) (hm : m = ops.size) (hf : fits ops a0.tmps.size = true) (hops : Hops2 P m ops specs Q a0 w0 0 ops.toList)
    (hend : ∀ a w, Below w0.heap.size w0 w → a.tmps.size = a0.tmps.size → (∀ i d, i < m → dstOf ops i = some d → (specs i).meets (a.eval (.tmp d)) w) → a.defers = a0.defers → (∀ t, free2 ops m t = true → a.eval (.tmp t) = a0.eval (.tmp t)) → Q .normal a w) :
    (Code.region id ops true).wp P Q a0 w0 := by
  refine wp_region_any hmo (wpAny_all3 hm hf hops hend _ _ _ _ ?_ ?_)
  · simp
  · refine ⟨by simp, ⟨rfl, rfl, rfl, Nat.le_refl _, fun _ _ => rfl⟩, rfl, ?_, fun _ _ => rfl, rfl, ?_⟩
    · intro i d _ _ hl
      simp [Array.getElem?_replicate] at hl
      split at hl <;> simp at hl
    · simp [hm]
end
end Grow
end Go.Proofs.YtgebangnhgmmoaaDoor

/- A root, the walk. -/
namespace Go.Proofs.YtgebangnhgmmoaaDoor
open Go.RowKit

theorem results_row_tmp {fn : Func} {p u : Tmp} (h : fn.results = #[.cell p 30, .tmp u]) (tmps : Array Value) (w : World) (g : Nat) (y : Fe.E) (hp : tmps.getD p undef = .pointer (some ⟨g, 0, none⟩)) (hg : w.heap[g]? = some (.cells (ec y) 30 (0, 0))) :
    (results fn tmps).run Tryd.prog w = .ok (.tuple #[.agg (ec y), tmps.getD u undef]) w := by
  rw [results_cell_tmp h, hp]
  have := run_loadVar_row (P := Tryd.prog) w g 30 30 (ec y) (0, 0) _ hg Tryd.underlying30 rfl i30
  simp [asAddr, this]
/-- What a root is: one whose square it is, or none. -/
def IsRoot (n : Int) (r : Fe.E) (ok : Bool) : Prop := Fe.Ok r ∧ (ok = true → Fe.val (Fe.mul r r) % Fe.P = n % Fe.P) ∧ ok = decide (n % Fe.P = 0 ∨ n ^ ((Nm.PN - 1) / 2) % Fe.P = 1)
theorem val_nonneg {x : Fe.E} (h : Fe.Ok x) : 0 ≤ Fe.val x := h.lt.1
theorem root_iff {n : Int} {b t : Fe.E} (hb : Fe.Re b (n ^ ((Nm.PN + 3) / 8))) (ht : Fe.Re t (2 ^ ((Nm.PN - 1) / 4))) :
    (Fe.val (Fe.mul b b) % Fe.P = n % Fe.P ∨ Fe.val (Fe.mul (Fe.mul b t) (Fe.mul b t)) % Fe.P = n % Fe.P) ↔ (n % Fe.P = 0 ∨ n ^ ((Nm.PN - 1) / 2) % Fe.P = 1) := by
  have h := Nm.roots (a := n) (b := Fe.val b) (t := Fe.val t) (val_nonneg hb.ok) (val_nonneg ht.ok) (by rw [← Fe.P_PN]; exact hb.eq) (by rw [← Fe.P_PN]; exact ht.eq)
  rw [← Fe.P_PN] at h
  have e1 := ((Fe.Re.self hb.ok).mul (Fe.Re.self hb.ok)).eq
  have e2 := (((Fe.Re.self hb.ok).mul (Fe.Re.self ht.ok)).mul ((Fe.Re.self hb.ok).mul (Fe.Re.self ht.ok))).eq
  rw [e1, e2]
  exact h
theorem turn_some : Fe.Re (Fe.rd (Nm.pm Nm.PN 255 2 ((Nm.PN - 1) / 4))) (2 ^ ((Nm.PN - 1) / 4)) := by
  refine ⟨Fe.rd_ok _, ?_⟩
  rw [Fe.rd_val]
  have e : Nm.pm Nm.PN 255 2 ((Nm.PN - 1) / 4) < 2 ^ 255 := by decide +kernel
  rw [Nat.mod_eq_of_lt e, Nm.pm_eq _ _ _ _ (by decide +kernel), Nm.two_cast, Fe.P_PN]
  rw [Int.natCast_emod, Int.emod_emod]
theorem below_of_heaps {B : Nat} {w3 w5 wn a b c d : World} (hB : B ≤ w3.heap.size) (h1 : Below B w3 w5) (h2 : Below w5.heap.size w5 wn) (h3 : Below wn.heap.size wn a) (h4 : Below a.heap.size a b) (h5 : Below b.heap.size b c) (h6 : Below c.heap.size c d) : Below B w3 d := by
  have g1 := h1.trans (h2.mono (Nat.le_trans hB h1.size))
  have g2 := g1.trans (h3.mono (Nat.le_trans hB g1.size))
  have g3 := g2.trans (h4.mono (Nat.le_trans hB g2.size))
  have g4 := g3.trans (h5.mono (Nat.le_trans hB g3.size))
  exact g4.trans (h6.mono (Nat.le_trans hB g4.size))
theorem St.pair {w : World} (hd : Dbl w) (x : Fe.E) : St w [(w.heap.size, x), (w.heap.size + 1, Fe.z)] [] [] ((w.alloc (.cells (ec x) 30)).alloc (.cells (ec Fe.z) 30)) := by
  have h3 : Below w.heap.size w ((w.alloc (.cells (ec x) 30)).alloc (.cells (ec Fe.z) 30)) := ((Below.refl _ _).alloc (Nat.le_refl _) _).alloc (by simp) _
  refine ⟨fun r hr => ?_, fun r hr => (List.not_mem_nil hr).elim, fun r hr => (List.not_mem_nil hr).elim, hd.below h3 hd.1, h3⟩
  simp only [List.mem_cons, List.not_mem_nil, or_false] at hr
  rcases hr with rfl | rfl
  · exact heap_alloc2_old w _ _
  · exact heap_alloc2_new w _ _

set_option maxRecDepth 100000 in
set_option maxHeartbeats 2000000 in
theorem root_any (w : World) (hd : Dbl w) (x : Fe.E) (n : Int) (hx : Fe.Re x n) :
    Calls Tryd.prog 35 #[.agg (ec x)] w fun e w' => ∃ r ok, e = .returned (.tuple #[.agg (ec r), .bool ok]) ∧ IsRoot n r ok ∧ Below w.heap.size w w' := by
  have S0 := Lib.hid (St.pair hd x)
  have HX := Lib.hid hx
  clear hd hx
  go_enter Tryd.func35, Tryd.ntmps35
  go_wp2_with fail
  change Code.wp _ _ _ _ ((w.alloc (.cells (ec x) 30)).alloc (.cells (ec Fe.z) 30))
  generalize (w.alloc (.cells (ec x) 30)).alloc (.cells (ec Fe.z) 30) = w3 at *
  refine Grow.region_tail (by kernel_rfl) 4 (fun i => List.getD (Grow.Spec.is (.agg (ec (x))) :: Grow.Spec.is (bv (ends 254 15)) :: Grow.elem (n ^ ((Nm.PN + 3) / 8)) :: Grow.newRow w3 :: []) i (Grow.Spec.is undef)) (by kernel_rfl) ⟨
    Grow.h2_row (Or.inl rfl) 1 (w.heap.size) 30 (ec (x)) _ rfl Tryd.underlying30 i30 rfl (by kernel_rfl) rfl (S0.out.rows (w.heap.size, x) (by simp)) rfl,
    Grow.h2_call2 (Or.inl rfl) 48 Grow.enter48 _ _ _ rfl (fun a wx hk => by refine (exponent_any wx 254 15).mono ?_; rintro e w5 ⟨rfl, hb⟩; exact ⟨_, rfl, rfl, hb⟩),
    Grow.h2_call2 (Or.inl rfl) 31 Grow.enter31 _ _ _ rfl (fun a wx hk => by have e6 : a.eval (.tmp 6) = .agg (ec (x)) := (hk.deps 0 6 (by kernel_rfl)); have e7 : a.eval (.tmp 7) = bv (ends 254 15) := (hk.deps 1 7 (by kernel_rfl)); rw [e6, e7]; refine (power_any wx x n HX.out (ends 254 15) (ends_length _ _) (ends_W8 (by unfold W8; omega) (by unfold W8; omega))).mono ?_; rintro e w5 ⟨y, rfl, hy, hb⟩; rw [low_ends_root] at hy; exact ⟨_, rfl, ⟨y, rfl, hy⟩, hb⟩),
    Grow.h2_alloc (Or.inl rfl) rfl rfl,
    trivial⟩ ?_
  intro o a w4 ho hb hts hk hdf hfr
  obtain rfl := Option.some.inj ho
  obtain ⟨y, e8, hy⟩ : ∃ y, a.eval (.tmp 8) = .agg (ec y) ∧ Fe.Re y (n ^ ((Nm.PN + 3) / 8)) := hk 2 8 (by decide) rfl
  obtain ⟨g4, e4, hz, hgs⟩ : ∃ g, a.eval (.tmp 4) = .pointer (some ⟨g, 0, none⟩) ∧ w4.heap[g]? = some (.cells (ec Fe.z) 30 (0, 0)) ∧ w3.heap.size ≤ g := hk 3 4 (by decide) rfl
  refine ⟨rfl, wp_store_row 30 (.tmp 4) (.tmp 8) rfl g4 (ec y) e4 e8 30 (ec Fe.z) hz i30 rfl (ec_one _) ?_⟩
  have ha := Grow.act_after hts hdf hfr
  rw [show Grow.dsts _ 4 = [6, 7, 8, 4] from by kernel_rfl] at ha
  simp only [Grow.putAll, e8, e4] at ha
  generalize a.eval (.tmp 6) = u6 at ha
  generalize a.eval (.tmp 7) = u7 at ha
  have S1 := Lib.hid (S0.out.put hb hgs hz y)
  have HY := Lib.hid hy
  have HG : Hid (w3.heap.size ≤ g4) := hgs
  have HB3 : Hid (Below w3.heap.size w3 (w4.setRow g4 (ec y))) := below_setRow hb hgs _
  clear hk hts hdf hfr e8 e4 hb hz hgs hy
  subst ha
  generalize w4.setRow g4 (ec y) = w5 at *
  go_wp2
  by_cases hq : Fe.val (Fe.mul y y) % Fe.P = n % Fe.P
  · have HQ := Lib.hid hq
    have HT : Hid (decide (Fe.val (Fe.mul y y) % Fe.P = Fe.val x % Fe.P) = true) := by
      refine decide_eq_true ?_
      rw [HX.out.eq]; exact hq
    have HTU : Hid (Fe.Re (Fe.rd (Nm.pm Nm.PN 255 2 ((Nm.PN - 1) / 4))) (2 ^ ((Nm.PN - 1) / 4))) := turn_some
    clear hq
    refine Grow.region_all (by kernel_rfl) 4 (fun i => List.getD (Grow.Spec.is (.agg (ec (y))) :: Grow.Spec.is (.agg (ec (Fe.mul (y) (y)))) :: Grow.Spec.is (.agg (ec (x))) :: Grow.Spec.is (.bool true) :: []) i (Grow.Spec.is undef)) rfl (by kernel_rfl) ⟨
      Grow.h2_row (Or.inl rfl) 4 (g4) 30 (ec (y)) _ rfl Tryd.underlying30 i30 rfl (by kernel_rfl) rfl (S1.out.rows (g4, y) (by simp)) rfl,
      Grow.h2_call1 (Or.inl rfl) 27 Grow.enter27 _ _ rfl (fun a wx hk => by have e9 : a.eval (.tmp 9) = .agg (ec (y)) := (hk.deps 0 9 (by kernel_rfl)); rw [e9]; refine (square_any wx (y) (HY.out.ok)).mono ?_; rintro e w5 ⟨rfl, hb⟩; exact ⟨_, rfl, rfl, hb⟩),
      Grow.h2_row (Or.inl rfl) 1 (w.heap.size) 30 (ec (x)) _ rfl Tryd.underlying30 i30 rfl (by kernel_rfl) rfl (S1.out.rows (w.heap.size, x) (by simp)) rfl,
      Grow.h2_call2 (Or.inl rfl) 23 Grow.enter23 _ _ _ rfl (fun a wx hk => by have e10 : a.eval (.tmp 10) = .agg (ec (Fe.mul (y) (y))) := (hk.deps 1 10 (by kernel_rfl)); have e11 : a.eval (.tmp 11) = .agg (ec (x)) := (hk.deps 2 11 (by kernel_rfl)); rw [e10, e11]; refine (same_any wx _ _ (Fe.mul_ok (HY.out.ok) (HY.out.ok)) HX.out.ok).mono ?_; rintro e w5 ⟨rfl, hb⟩; rw [HT.out]; exact ⟨_, rfl, rfl, hb⟩),
      trivial⟩ ?_
    intro a wn hb hts hk hdf hfr
    have e12 : a.eval (.tmp 12) = .bool true := hk 3 12 (by decide) rfl
    have ha := Grow.act_after hts hdf hfr
    rw [show Grow.dsts _ 4 = [9, 10, 11, 12] from by kernel_rfl] at ha
    simp only [Grow.putAll, e12] at ha
    generalize a.eval (.tmp 9) = u9 at ha
    generalize a.eval (.tmp 10) = u10 at ha
    generalize a.eval (.tmp 11) = u11 at ha
    have SN := Lib.hid (S1.out.below hb)
    have HBN := Lib.hid hb
    clear hk hts hdf hfr e12 hb
    simp [Act.put] at ha
    subst ha
    go_wp2_with (first
      | ((with_reducible refine load_rowG (o := ⟨some 13, _, _, _, _, _⟩) (y) 4 g4 rfl rfl (SN.out.rows (g4, y) (by simp)) ?_ ?_); exact rfl)
      | ((with_reducible refine wpList_store_row (o := ⟨none, _, _, _, _, _⟩) rfl 30 (.tmp 2) (.tmp 13) rfl (w.heap.size + 1) (ec (y)) rfl rfl 30 _ (SN.out.rows (w.heap.size + 1, Fe.z) (by simp)) ?_ ?_ ?_ ?_); exact i30; exact rfl; exact ec_one _))
    refine bodyPost_ret (results_row_tmp Tryd.results35 _ _ (w.heap.size + 1) (y) rfl (setRow_heap wn (w.heap.size + 1) _ (ec (y)) 30 _ (SN.out.rows (w.heap.size + 1, Fe.z) (by simp)))) rfl ?_
    exact ⟨y, true, rfl, ⟨HY.out.ok, fun _ => HQ.out, (decide_eq_true ((root_iff HY.out HTU.out).1 (Or.inl HQ.out))).symm⟩, below_setRow SN.out.bb (Nat.le_succ _) _⟩
  · have HNQ := Lib.hid hq
    have HT : Hid (decide (Fe.val (Fe.mul y y) % Fe.P = Fe.val x % Fe.P) = false) := by
      refine decide_eq_false ?_
      rw [HX.out.eq]; exact hq
    clear hq
    refine Grow.region_all (by kernel_rfl) 4 (fun i => List.getD (Grow.Spec.is (.agg (ec (y))) :: Grow.Spec.is (.agg (ec (Fe.mul (y) (y)))) :: Grow.Spec.is (.agg (ec (x))) :: Grow.Spec.is (.bool false) :: []) i (Grow.Spec.is undef)) rfl (by kernel_rfl) ⟨
      Grow.h2_row (Or.inl rfl) 4 (g4) 30 (ec (y)) _ rfl Tryd.underlying30 i30 rfl (by kernel_rfl) rfl (S1.out.rows (g4, y) (by simp)) rfl,
      Grow.h2_call1 (Or.inl rfl) 27 Grow.enter27 _ _ rfl (fun a wx hk => by have e9 : a.eval (.tmp 9) = .agg (ec (y)) := (hk.deps 0 9 (by kernel_rfl)); rw [e9]; refine (square_any wx (y) (HY.out.ok)).mono ?_; rintro e w5 ⟨rfl, hb⟩; exact ⟨_, rfl, rfl, hb⟩),
      Grow.h2_row (Or.inl rfl) 1 (w.heap.size) 30 (ec (x)) _ rfl Tryd.underlying30 i30 rfl (by kernel_rfl) rfl (S1.out.rows (w.heap.size, x) (by simp)) rfl,
      Grow.h2_call2 (Or.inl rfl) 23 Grow.enter23 _ _ _ rfl (fun a wx hk => by have e10 : a.eval (.tmp 10) = .agg (ec (Fe.mul (y) (y))) := (hk.deps 1 10 (by kernel_rfl)); have e11 : a.eval (.tmp 11) = .agg (ec (x)) := (hk.deps 2 11 (by kernel_rfl)); rw [e10, e11]; refine (same_any wx _ _ (Fe.mul_ok (HY.out.ok) (HY.out.ok)) HX.out.ok).mono ?_; rintro e w5 ⟨rfl, hb⟩; rw [HT.out]; exact ⟨_, rfl, rfl, hb⟩),
      trivial⟩ ?_
    intro a wn hb hts hk hdf hfr
    have e12 : a.eval (.tmp 12) = .bool false := hk 3 12 (by decide) rfl
    have ha := Grow.act_after hts hdf hfr
    rw [show Grow.dsts _ 4 = [9, 10, 11, 12] from by kernel_rfl] at ha
    simp only [Grow.putAll, e12] at ha
    generalize a.eval (.tmp 9) = u9 at ha
    generalize a.eval (.tmp 10) = u10 at ha
    generalize a.eval (.tmp 11) = u11 at ha
    have SN := Lib.hid (S1.out.below hb)
    have HBN := Lib.hid hb
    clear hk hts hdf hfr e12 hb
    simp [Act.put] at ha
    subst ha
    have S10 := SN
    clear SN HT
    go_wp2_with (first
      | ((with_reducible refine wpList_store_row (o := ⟨none, _, _, _, _, _⟩) rfl 30 (.tmp 4) (.tmp 19) rfl g4 (ec (Fe.mul y t)) rfl rfl 30 _ (S15.out.rows (g4, y) (by simp)) ?_ ?_ ?_ ?_); exact i30; exact rfl; exact ec_one _)
      | (go_at_call 25; refine (mul_any _ y t HY.out.ok HTT.out.ok).mono ?_; rintro e wq15 ⟨rfl, hb⟩; have HC15 : Hid (Below wq13.heap.size wq13 wq15) := (below_setRow ((Below.refl _ _).alloc (Nat.le_refl _) _) (Nat.le_refl _) _).trans (hb.mono (by simp)); have S15 := Lib.hid (S14.out.below hb); clear hb)
      | ((with_reducible refine load_rowG (o := ⟨some 18, _, _, _, _, _⟩) (t) 5 wq13.heap.size rfl rfl (S14.out.rows (wq13.heap.size, t) (by simp)) ?_ ?_); exact rfl)
      | ((with_reducible refine load_rowG (o := ⟨some 17, _, _, _, _, _⟩) (y) 4 g4 rfl rfl (S14.out.rows (g4, y) (by simp)) ?_ ?_); exact rfl)
      | ((with_reducible refine wpList_store_row (o := ⟨none, _, _, _, _, _⟩) rfl 30 (.tmp 5) (.tmp 16) rfl wq13.heap.size (ec (t)) rfl rfl 30 _ (zero_new wq13) ?_ ?_ ?_ ?_); exact i30; exact rfl; exact ec_one _; have S14 := Lib.hid (S13.out.row (t)))
      | (go_at_call 31; refine (power_any _ (Fe.num 2) 2 (Fe.Re.num (n := 2) (by decide) (by decide)) (ends 251 31) (ends_length _ _) (ends_W8 (by unfold W8; omega) (by unfold W8; omega))).mono ?_; rintro e wq13 ⟨t, rfl, ht, hb⟩; have HC13 := Lib.hid hb; have S13 := Lib.hid (S12.out.below hb); rw [low_ends_turn] at ht; have HTT := Lib.hid ht; clear ht; clear hb)
      | (go_at_call 48; refine (exponent_any _ 251 31).mono ?_; rintro e wq12 ⟨rfl, hb⟩; have HC12 := Lib.hid hb; have S12 := Lib.hid (S11.out.below hb); clear hb)
      | (go_at_call 28; refine (num_any _ 2 (by decide) (by decide)).mono ?_; rintro e wq11 ⟨rfl, hb⟩; have HC11 := Lib.hid hb; have S11 := Lib.hid (S10.out.below hb); clear hb))
    have HBC : Hid (Below w3.heap.size w3 wq15) := below_of_heaps (Nat.le_refl _) HB3.out HBN.out HC11.out HC12.out HC13.out HC15.out
    have S20 := Lib.hid (S0.out.put HBC.out HG.out (S15.out.rows (g4, y) (by simp)) (Fe.mul y t))
    generalize wq15.setRow g4 (ec (Fe.mul y t)) = w8 at *
    by_cases hq : Fe.val (Fe.mul (Fe.mul y t) (Fe.mul y t)) % Fe.P = n % Fe.P
    · have HQ := Lib.hid hq
      have HT : Hid (decide (Fe.val (Fe.mul (Fe.mul y t) (Fe.mul y t)) % Fe.P = Fe.val x % Fe.P) = true) := by
        refine decide_eq_true ?_
        rw [HX.out.eq]; exact hq
      clear hq
      refine Grow.region_all (by kernel_rfl) 4 (fun i => List.getD (Grow.Spec.is (.agg (ec (Fe.mul y t))) :: Grow.Spec.is (.agg (ec (Fe.mul (Fe.mul y t) (Fe.mul y t)))) :: Grow.Spec.is (.agg (ec (x))) :: Grow.Spec.is (.bool true) :: []) i (Grow.Spec.is undef)) rfl (by kernel_rfl) ⟨
        Grow.h2_row (Or.inl rfl) 4 (g4) 30 (ec (Fe.mul y t)) _ rfl Tryd.underlying30 i30 rfl (by kernel_rfl) rfl (S20.out.rows (g4, Fe.mul y t) (by simp)) rfl,
        Grow.h2_call1 (Or.inl rfl) 27 Grow.enter27 _ _ rfl (fun a wx hk => by have e20 : a.eval (.tmp 20) = .agg (ec (Fe.mul y t)) := (hk.deps 0 20 (by kernel_rfl)); rw [e20]; refine (square_any wx (Fe.mul y t) (Fe.mul_ok HY.out.ok HTT.out.ok)).mono ?_; rintro e w5 ⟨rfl, hb⟩; exact ⟨_, rfl, rfl, hb⟩),
        Grow.h2_row (Or.inl rfl) 1 (w.heap.size) 30 (ec (x)) _ rfl Tryd.underlying30 i30 rfl (by kernel_rfl) rfl (S20.out.rows (w.heap.size, x) (by simp)) rfl,
        Grow.h2_call2 (Or.inl rfl) 23 Grow.enter23 _ _ _ rfl (fun a wx hk => by have e21 : a.eval (.tmp 21) = .agg (ec (Fe.mul (Fe.mul y t) (Fe.mul y t))) := (hk.deps 1 21 (by kernel_rfl)); have e22 : a.eval (.tmp 22) = .agg (ec (x)) := (hk.deps 2 22 (by kernel_rfl)); rw [e21, e22]; refine (same_any wx _ _ (Fe.mul_ok (Fe.mul_ok HY.out.ok HTT.out.ok) (Fe.mul_ok HY.out.ok HTT.out.ok)) HX.out.ok).mono ?_; rintro e w5 ⟨rfl, hb⟩; rw [HT.out]; exact ⟨_, rfl, rfl, hb⟩),
        trivial⟩ ?_
      intro a wn hb hts hk hdf hfr
      have e23 : a.eval (.tmp 23) = .bool true := hk 3 23 (by decide) rfl
      have ha := Grow.act_after hts hdf hfr
      rw [show Grow.dsts _ 4 = [20, 21, 22, 23] from by kernel_rfl] at ha
      simp only [Grow.putAll, e23] at ha
      generalize a.eval (.tmp 20) = u20 at ha
      generalize a.eval (.tmp 21) = u21 at ha
      generalize a.eval (.tmp 22) = u22 at ha
      have SN := Lib.hid (S20.out.below hb)
      have HBN2 := Lib.hid hb
      clear hk hts hdf hfr e23 hb
      simp [Act.put] at ha
      subst ha
      go_wp2_with (first
        | ((with_reducible refine load_rowG (o := ⟨some 24, _, _, _, _, _⟩) (Fe.mul y t) 4 g4 rfl rfl (SN.out.rows (g4, Fe.mul y t) (by simp)) ?_ ?_); exact rfl)
        | ((with_reducible refine wpList_store_row (o := ⟨none, _, _, _, _, _⟩) rfl 30 (.tmp 2) (.tmp 24) rfl (w.heap.size + 1) (ec (Fe.mul y t)) rfl rfl 30 _ (SN.out.rows (w.heap.size + 1, Fe.z) (by simp)) ?_ ?_ ?_ ?_); exact i30; exact rfl; exact ec_one _))
      refine bodyPost_ret (results_row_tmp Tryd.results35 _ _ (w.heap.size + 1) (Fe.mul y t) rfl (setRow_heap wn (w.heap.size + 1) _ (ec (Fe.mul y t)) 30 _ (SN.out.rows (w.heap.size + 1, Fe.z) (by simp)))) rfl ?_
      exact ⟨Fe.mul y t, true, rfl, ⟨Fe.mul_ok HY.out.ok HTT.out.ok, fun _ => HQ.out, (decide_eq_true ((root_iff HY.out HTT.out).1 (Or.inr HQ.out))).symm⟩, below_setRow SN.out.bb (Nat.le_succ _) _⟩
    · have HNQ2 := Lib.hid hq
      have HT : Hid (decide (Fe.val (Fe.mul (Fe.mul y t) (Fe.mul y t)) % Fe.P = Fe.val x % Fe.P) = false) := by
        refine decide_eq_false ?_
        rw [HX.out.eq]; exact hq
      clear hq
      refine Grow.region_all (by kernel_rfl) 4 (fun i => List.getD (Grow.Spec.is (.agg (ec (Fe.mul y t))) :: Grow.Spec.is (.agg (ec (Fe.mul (Fe.mul y t) (Fe.mul y t)))) :: Grow.Spec.is (.agg (ec (x))) :: Grow.Spec.is (.bool false) :: []) i (Grow.Spec.is undef)) rfl (by kernel_rfl) ⟨
        Grow.h2_row (Or.inl rfl) 4 (g4) 30 (ec (Fe.mul y t)) _ rfl Tryd.underlying30 i30 rfl (by kernel_rfl) rfl (S20.out.rows (g4, Fe.mul y t) (by simp)) rfl,
        Grow.h2_call1 (Or.inl rfl) 27 Grow.enter27 _ _ rfl (fun a wx hk => by have e20 : a.eval (.tmp 20) = .agg (ec (Fe.mul y t)) := (hk.deps 0 20 (by kernel_rfl)); rw [e20]; refine (square_any wx (Fe.mul y t) (Fe.mul_ok HY.out.ok HTT.out.ok)).mono ?_; rintro e w5 ⟨rfl, hb⟩; exact ⟨_, rfl, rfl, hb⟩),
        Grow.h2_row (Or.inl rfl) 1 (w.heap.size) 30 (ec (x)) _ rfl Tryd.underlying30 i30 rfl (by kernel_rfl) rfl (S20.out.rows (w.heap.size, x) (by simp)) rfl,
        Grow.h2_call2 (Or.inl rfl) 23 Grow.enter23 _ _ _ rfl (fun a wx hk => by have e21 : a.eval (.tmp 21) = .agg (ec (Fe.mul (Fe.mul y t) (Fe.mul y t))) := (hk.deps 1 21 (by kernel_rfl)); have e22 : a.eval (.tmp 22) = .agg (ec (x)) := (hk.deps 2 22 (by kernel_rfl)); rw [e21, e22]; refine (same_any wx _ _ (Fe.mul_ok (Fe.mul_ok HY.out.ok HTT.out.ok) (Fe.mul_ok HY.out.ok HTT.out.ok)) HX.out.ok).mono ?_; rintro e w5 ⟨rfl, hb⟩; rw [HT.out]; exact ⟨_, rfl, rfl, hb⟩),
        trivial⟩ ?_
      intro a wn hb hts hk hdf hfr
      have e23 : a.eval (.tmp 23) = .bool false := hk 3 23 (by decide) rfl
      have ha := Grow.act_after hts hdf hfr
      rw [show Grow.dsts _ 4 = [20, 21, 22, 23] from by kernel_rfl] at ha
      simp only [Grow.putAll, e23] at ha
      generalize a.eval (.tmp 20) = u20 at ha
      generalize a.eval (.tmp 21) = u21 at ha
      generalize a.eval (.tmp 22) = u22 at ha
      have SN := Lib.hid (S20.out.below hb)
      have HBN2 := Lib.hid hb
      clear hk hts hdf hfr e23 hb
      simp [Act.put] at ha
      subst ha
      go_wp2_with (first
        | ((with_reducible refine wpList_store_row (o := ⟨none, _, _, _, _, _⟩) rfl 30 (.tmp 2) (.tmp 25) rfl (w.heap.size + 1) #[.int .u64 0, .int .u64 0, .int .u64 0, .int .u64 0, .int .u64 0] rfl rfl 30 _ (SN.out.rows (w.heap.size + 1, Fe.z) (by simp)) ?_ ?_ ?_ ?_); exact i30; exact rfl; exact ec_one Fe.z))
      refine bodyPost_ret (results_row_tmp Tryd.results35 _ _ (w.heap.size + 1) Fe.z rfl (setRow_heap wn (w.heap.size + 1) _ (ec Fe.z) 30 _ (SN.out.rows (w.heap.size + 1, Fe.z) (by simp)))) rfl ?_
      exact ⟨Fe.z, false, rfl, ⟨Fe.z_ok, fun h => Bool.noConfusion h, (decide_eq_false (fun h => ((root_iff HY.out HTT.out).2 h).elim HNQ.out HNQ2.out)).symm⟩, below_setRow SN.out.bb (Nat.le_succ _) _⟩
end Go.Proofs.YtgebangnhgmmoaaDoor

/- The statement of roots, the walk. -/
namespace Go.Proofs.YtgebangnhgmmoaaDoor
open Go.RowKit
namespace Grow
section
variable {m : Nat} {ops : Array Oper} {Q : Exit → Act → World → Prop} {specs : Nat → Spec} {a0 : Act} {w0 : World} {i : Nat} {o : Oper}
theorem h2_not (hr : Runs2 ops specs a0 o) (j d : Nat) (b c : Bool) (hbc : (!b) = c) (ho : o.op = .unOp .not 4 (.tmp d)) (hj : deps .any ops o j d = true) (hs : specs j = .is (.bool b)) (hi : specs i = .is (.bool c)) : Hop2 Tryd.prog m ops specs Q a0 w0 i o :=
  h2_val hr fun a w hk => by
    have h1 := hk.deps j d hj
    rw [hs] at h1
    have h1 : a.eval (.tmp d) = .bool b := h1
    have hu := Tryd.underlying4
    refine ⟨.bool c, w, ?_, by rw [hi]; rfl, Below.refl _ _⟩
    unfold execOp
    rw [ho]
    simp only [h1]
    subst hbc
    go_simp
theorem h2_pickT (hr : Runs2 ops specs a0 o) (j1 d1 : Nat) (v : Value) (y : Operand) (ho : o.op = .pick (.tmp d1) (.const v) y) (hj1 : deps .any ops o j1 d1 = true) (hs1 : specs j1 = .is (.bool true)) (hs2 : specs i = .is v) : Hop2 Tryd.prog m ops specs Q a0 w0 i o :=
  h2_val hr fun a w hk => by
    have h1 := hk.deps j1 d1 hj1
    rw [hs1] at h1
    have h1 : a.eval (.tmp d1) = .bool true := h1
    refine ⟨v, w, ?_, by rw [hs2]; rfl, Below.refl _ _⟩
    unfold execOp
    rw [ho]
    simp only [h1]
    go_simp
theorem h2_pickF (hr : Runs2 ops specs a0 o) (j1 d1 j2 d2 : Nat) (x : Operand) (ho : o.op = .pick (.tmp d1) x (.tmp d2)) (hj1 : deps .any ops o j1 d1 = true) (hj2 : deps .any ops o j2 d2 = true) (hs1 : specs j1 = .is (.bool false)) (hs2 : specs i = specs j2) : Hop2 Tryd.prog m ops specs Q a0 w0 i o :=
  h2_val hr fun a w hk => by
    have h1 := hk.deps j1 d1 hj1
    have h2 := hk.deps j2 d2 hj2
    rw [hs1] at h1
    rw [← hs2] at h2
    have h1 : a.eval (.tmp d1) = .bool false := h1
    refine ⟨a.eval (.tmp d2), w, ?_, h2, Below.refl _ _⟩
    unfold execOp
    rw [ho]
    simp only [h1]
    go_simp
theorem c_rsquare {w : World} {u : Value} {N : Int} (hu : (nat N).meets u w) : Calls Tryd.prog 36 #[u] w fun e w' => ∃ v, e = .returned v ∧ v = .bool (decide (N = 0 ∨ N ^ ((Nm.PN - 1) / 2) % Fe.P = 1)) ∧ Below w.heap.size w w' := by
  obtain ⟨l, h1, h2, h3, h4⟩ := hu
  refine (rsquare_any w u l h1 h3 h4).mono ?_
  rintro e w' ⟨rfl, hb⟩
  exact ⟨_, rfl, by rw [h2], hb⟩
end
end Grow
theorem second_root {x : Int} (h0 : 0 ≤ x) {r : Fe.E} {ok : Bool} (h : IsRoot (x * x) r ok) : ok = true := by
  rw [h.2.2]
  refine decide_eq_true ?_
  rw [Fe.P_PN]
  exact Nm.roots_square h0

set_option maxRecDepth 100000 in
set_option maxHeartbeats 2000000 in
theorem roots_walk (w : World) (hd : Dbl w) (p : List Int) (hp : p.length = 32) (wp : ∀ x ∈ p, W8 x) :
    Calls Tryd.prog 8 #[bv p] w fun e w' => e = .returned (.bool true) ∧ Below w.heap.size w w' := by
  have S0 := Lib.hid (St.one hd p)
  have WP := Lib.hid wp
  have LP := Lib.hid hp
  have H0 : Hid (0 ≤ nb p) := by show 0 ≤ nb p; unfold nb; omega
  clear hd wp hp
  unfold bv
  go_enter Tryd.func8, Tryd.ntmps8
  go_wp2_with (first
    | ((with_reducible refine wpList_store_row (o := ⟨none, _, _, _, _, _⟩) rfl 30 (.tmp 6) (.tmp 19) rfl wq6.heap.size (ec (s)) rfl rfl 30 _ (zero_new wq6) ?_ ?_ ?_ ?_); exact i30; exact rfl; exact ec_one _; have S7 := Lib.hid (S6.out.row (s)))
    | (go_at_call 35; refine (root_any _ S5.out.dbl (Fe.mul (Fe.rd (Bt.low p)) (Fe.rd (Bt.low p))) (nb p * nb p) ((rd_re p).mul (rd_re p))).mono ?_; rintro e wq6 ⟨s, ok2, rfl, hr, hb⟩; have S6 := Lib.hid (S5.out.below hb); have HR2 := Lib.hid hr; obtain rfl := second_root H0.out hr; clear hr; clear hb)
    | (go_at_call 27; refine (square_any _ (Fe.rd (Bt.low p)) (Fe.rd_ok _)).mono ?_; rintro e wq5 ⟨rfl, hb⟩; have S5 := Lib.hid (S4.out.below hb); clear hb)
    | ((with_reducible refine load_rowG (o := ⟨some 16, _, _, _, _, _⟩) (Fe.rd (Bt.low p)) 3 wq1.heap.size rfl rfl (S4.out.rows (wq1.heap.size, Fe.rd (Bt.low p)) (by simp)) ?_ ?_); exact rfl)
    | ((with_reducible refine wpList_store_row (o := ⟨none, _, _, _, _, _⟩) rfl 30 (.tmp 4) (.tmp 13) rfl wq3.heap.size (ec (r)) rfl rfl 30 _ (zero_new wq3) ?_ ?_ ?_ ?_); exact i30; exact rfl; exact ec_one _; have S4 := Lib.hid (S3.out.row (r)))
    | (go_at_call 35; refine (root_any _ S2.out.dbl (Fe.rd (Bt.low p)) (nb p) (rd_re p)).mono ?_; rintro e wq3 ⟨r, ok, rfl, hr, hb⟩; have S3 := Lib.hid (S2.out.below hb); have HR := Lib.hid hr; clear hr; clear hb)
    | ((with_reducible refine load_rowG (o := ⟨some 11, _, _, _, _, _⟩) (Fe.rd (Bt.low p)) 3 wq1.heap.size rfl rfl (S2.out.rows (wq1.heap.size, Fe.rd (Bt.low p)) (by simp)) ?_ ?_); exact rfl)
    | ((with_reducible refine wpList_store_row (o := ⟨none, _, _, _, _, _⟩) rfl 30 (.tmp 3) (.tmp 9) rfl wq1.heap.size (ec (Fe.rd (Bt.low p))) rfl rfl 30 _ (zero_new wq1) ?_ ?_ ?_ ?_); exact i30; exact rfl; exact ec_one _; have S2 := Lib.hid (S1.out.row (Fe.rd (Bt.low p))))
    | (go_at_call 11; refine (read_32 _ _ _ p LP.out (slc_blk (S0.out.bys (w.heap.size, p) (by simp)) LP.out WP.out)).mono ?_; rintro e wq1 ⟨rfl, hb⟩; have S1 := Lib.hid (S0.out.below hb); clear hb))
  have HSQ : Hid (Fe.val (Fe.mul s s) % Fe.P = (nb p * nb p) % Fe.P) := HR2.out.2.1 rfl
  generalize ((wq6.alloc (.cells #[.int .u64 0, .int .u64 0, .int .u64 0, .int .u64 0, .int .u64 0] 30)).setRow wq6.heap.size (ec s)) = w9 at *
  cases ok
  case false =>
    refine Grow.region_tail (by kernel_rfl) 28 (fun i => List.getD (Grow.Spec.is (.bool true) :: Grow.Spec.is (.bool true) :: Grow.Spec.is (.bool false) :: Grow.Spec.is (.slice (some ⟨w.heap.size, 0, none⟩) 32 32) :: Grow.nat (nb p % Fe.P) :: Grow.Spec.is (.bool false) :: Grow.Spec.is (.bool true) :: Grow.Spec.is (.bool true) :: Grow.Spec.is (.bool true) :: Grow.Spec.is (.bool false) :: Grow.Spec.is (.bool true) :: Grow.Spec.is (.bool true) :: Grow.Spec.is undef :: Grow.Spec.is undef :: Grow.Spec.is undef :: Grow.Spec.is undef :: Grow.Spec.is (.bool true) :: Grow.Spec.is (.bool true) :: Grow.Spec.is (.bool true) :: Grow.Spec.is (.bool true) :: Grow.Spec.is (.bool true) :: Grow.Spec.is (.bool true) :: Grow.Spec.is (.agg (ec (s))) :: Grow.Spec.is (.agg (ec (Fe.mul s s))) :: Grow.Spec.is (.agg (ec (Fe.rd (Bt.low p)))) :: Grow.Spec.is (.agg (ec (Fe.mul (Fe.rd (Bt.low p)) (Fe.rd (Bt.low p))))) :: Grow.Spec.is (.bool true) :: Grow.Spec.is (.bool true) :: []) i (Grow.Spec.is undef)) (by kernel_rfl) ⟨
      Grow.h2_call0 (Or.inl rfl) 9 Grow.enter9 _ rfl (fun a wx hk => by refine (awake_any wx (S7.out.dbl.below hk.below S7.out.dbl.1)).mono ?_; rintro e w5 ⟨rfl, hb⟩; exact ⟨_, rfl, rfl, hb⟩),
      Grow.h2_move (Or.inl rfl) _ (Or.inl rfl) (fun a w hk => (hk.deps 0 21 (by kernel_rfl))),
      Grow.h2_move (Or.inr ⟨1, 22, true, rfl, by kernel_rfl, rfl, Nat.le_of_ble_eq_true rfl⟩) _ (Or.inl rfl) (fun a w hk => by have e : a.eval (.tmp 5) = _ := hk.rest 5 (by kernel_rfl); rw [e]; exact rfl),
      Grow.h2_slice23 (Or.inr ⟨1, 22, true, rfl, by kernel_rfl, rfl, Nat.le_of_ble_eq_true rfl⟩) 1 w.heap.size rfl (by kernel_rfl) rfl rfl,
      Grow.h2_call1 (Or.inr ⟨1, 22, true, rfl, by kernel_rfl, rfl, Nat.le_of_ble_eq_true rfl⟩) 10 Grow.enter10 _ _ rfl (fun a wx hk => by have e24 : a.eval (.tmp 24) = .slice (some ⟨w.heap.size, 0, none⟩) 32 32 := (hk.deps 3 24 (by kernel_rfl)); rw [e24]; refine (of_32 wx _ _ p LP.out (slc_blk ((S7.out.bys (w.heap.size, p) (by simp)).other (hk.below.block _ (S7.out.bys (w.heap.size, p) (by simp)).lt)) LP.out WP.out)).mono ?_; rintro e w5 ⟨v5, l5, rfl, h1, h2, h3, h4, hb⟩; exact ⟨_, rfl, ⟨l5, h1, h2, h3, Nat.le_trans h4 (by decide)⟩, hb⟩),
      Grow.h2_call1 (Or.inr ⟨1, 22, true, rfl, by kernel_rfl, rfl, Nat.le_of_ble_eq_true rfl⟩) 36 Grow.enter36 _ _ rfl (fun a wx hk => by refine (Grow.c_rsquare (hk.deps 4 25 (by kernel_rfl))).mono ?_; rintro e w5 ⟨v5, rfl, rfl, hb⟩; refine ⟨_, rfl, ?_, hb⟩; rw [pow_mod_P, ← HR.out.2.2]; rfl),
      Grow.h2_eql4 (Or.inr ⟨1, 22, true, rfl, by kernel_rfl, rfl, Nat.le_of_ble_eq_true rfl⟩) 2 23 5 26 _ _ rfl rfl (by kernel_rfl) (by kernel_rfl) rfl rfl rfl,
      Grow.h2_pick (Or.inl rfl) 1 22 6 27 _ rfl (by kernel_rfl) (by kernel_rfl) rfl rfl,
      Grow.h2_move (Or.inl rfl) _ (Or.inl rfl) (fun a w hk => (hk.deps 7 28 (by kernel_rfl))),
      Grow.h2_move (Or.inr ⟨8, 29, true, rfl, by kernel_rfl, rfl, Nat.le_of_ble_eq_true rfl⟩) _ (Or.inl rfl) (fun a w hk => by have e : a.eval (.tmp 5) = _ := hk.rest 5 (by kernel_rfl); rw [e]; exact rfl),
      Grow.h2_not (Or.inr ⟨8, 29, true, rfl, by kernel_rfl, rfl, Nat.le_of_ble_eq_true rfl⟩) 9 30 _ _ rfl rfl (by kernel_rfl) rfl rfl,
      Grow.h2_move (Or.inr ⟨8, 29, true, rfl, by kernel_rfl, rfl, Nat.le_of_ble_eq_true rfl⟩) _ (Or.inl rfl) (fun a w hk => (hk.deps 10 31 (by kernel_rfl))),
      Grow.h2_skip ⟨11, 32, false, (.bool true), rfl, by kernel_rfl, rfl, (by simp), Nat.le_of_ble_eq_true rfl⟩ rfl,
      Grow.h2_skip ⟨11, 32, false, (.bool true), rfl, by kernel_rfl, rfl, (by simp), Nat.le_of_ble_eq_true rfl⟩ rfl,
      Grow.h2_skip ⟨11, 32, false, (.bool true), rfl, by kernel_rfl, rfl, (by simp), Nat.le_of_ble_eq_true rfl⟩ rfl,
      Grow.h2_skip ⟨11, 32, false, (.bool true), rfl, by kernel_rfl, rfl, (by simp), Nat.le_of_ble_eq_true rfl⟩ rfl,
      Grow.h2_pickT (Or.inr ⟨8, 29, true, rfl, by kernel_rfl, rfl, Nat.le_of_ble_eq_true rfl⟩) 11 32 _ _ rfl (by kernel_rfl) rfl rfl,
      Grow.h2_pick (Or.inl rfl) 8 29 16 37 _ rfl (by kernel_rfl) (by kernel_rfl) rfl rfl,
      Grow.h2_move (Or.inl rfl) _ (Or.inl rfl) (fun a w hk => (hk.deps 17 38 (by kernel_rfl))),
      Grow.h2_move (Or.inr ⟨18, 39, true, rfl, by kernel_rfl, rfl, Nat.le_of_ble_eq_true rfl⟩) _ (Or.inl rfl) (fun a w hk => by have e : a.eval (.tmp 7) = _ := hk.rest 7 (by kernel_rfl); rw [e]; exact rfl),
      Grow.h2_pick (Or.inl rfl) 18 39 19 40 _ rfl (by kernel_rfl) (by kernel_rfl) rfl rfl,
      Grow.h2_move (Or.inl rfl) _ (Or.inl rfl) (fun a w hk => (hk.deps 20 41 (by kernel_rfl))),
      Grow.h2_row (Or.inr ⟨21, 42, true, rfl, by kernel_rfl, rfl, Nat.le_of_ble_eq_true rfl⟩) 6 (wq6.heap.size) 30 (ec (s)) _ rfl Tryd.underlying30 i30 rfl (by kernel_rfl) rfl (S7.out.rows (wq6.heap.size, s) (by simp)) rfl,
      Grow.h2_call1 (Or.inr ⟨21, 42, true, rfl, by kernel_rfl, rfl, Nat.le_of_ble_eq_true rfl⟩) 27 Grow.enter27 _ _ rfl (fun a wx hk => by have e43 : a.eval (.tmp 43) = .agg (ec (s)) := (hk.deps 22 43 (by kernel_rfl)); rw [e43]; refine (square_any wx s HR2.out.1).mono ?_; rintro e w5 ⟨rfl, hb⟩; exact ⟨_, rfl, rfl, hb⟩),
      Grow.h2_row (Or.inr ⟨21, 42, true, rfl, by kernel_rfl, rfl, Nat.le_of_ble_eq_true rfl⟩) 3 (wq1.heap.size) 30 (ec (Fe.rd (Bt.low p))) _ rfl Tryd.underlying30 i30 rfl (by kernel_rfl) rfl (S7.out.rows (wq1.heap.size, Fe.rd (Bt.low p)) (by simp)) rfl,
      Grow.h2_call1 (Or.inr ⟨21, 42, true, rfl, by kernel_rfl, rfl, Nat.le_of_ble_eq_true rfl⟩) 27 Grow.enter27 _ _ rfl (fun a wx hk => by have e45 : a.eval (.tmp 45) = .agg (ec (Fe.rd (Bt.low p))) := (hk.deps 24 45 (by kernel_rfl)); rw [e45]; refine (square_any wx (Fe.rd (Bt.low p)) (Fe.rd_ok _)).mono ?_; rintro e w5 ⟨rfl, hb⟩; exact ⟨_, rfl, rfl, hb⟩),
      Grow.h2_call2 (Or.inr ⟨21, 42, true, rfl, by kernel_rfl, rfl, Nat.le_of_ble_eq_true rfl⟩) 23 Grow.enter23 _ _ _ rfl (fun a wx hk => by have e44 : a.eval (.tmp 44) = .agg (ec (Fe.mul s s)) := (hk.deps 23 44 (by kernel_rfl)); have e46 : a.eval (.tmp 46) = .agg (ec (Fe.mul (Fe.rd (Bt.low p)) (Fe.rd (Bt.low p)))) := (hk.deps 25 46 (by kernel_rfl)); rw [e44, e46]; refine (same_any wx _ _ (Fe.mul_ok HR2.out.1 HR2.out.1) (Fe.mul_ok (Fe.rd_ok _) (Fe.rd_ok _))).mono ?_; rintro e w5 ⟨rfl, hb⟩; rw [decide_eq_true (HSQ.out.trans ((rd_re p).mul (rd_re p)).eq.symm)]; exact ⟨_, rfl, rfl, hb⟩),
      Grow.h2_pick (Or.inl rfl) 21 42 26 47 _ rfl (by kernel_rfl) (by kernel_rfl) rfl rfl,
      trivial⟩ ?_
    intro o a w8 ho hb hts hk hdf hfr
    obtain rfl := Option.some.inj ho
    have e48 : a.eval (.tmp 48) = .bool true := hk 27 48 (by decide) rfl
    refine ⟨rfl, Grow.wp_assign 2 (.tmp 48) rfl rfl ?_⟩
    have hs4 : 2 < a.tmps.size := by rw [hts]; exact Nat.le_of_ble_eq_true rfl
    have HBF := Lib.hid (S7.out.bb.trans (hb.mono S7.out.bb.size))
    clear hk hfr
    rw [e48]
    go_wp2
    refine bodyPost_ret (results_tmp rfl _ _ _) (by first | exact hdf | rfl) ?_
    exact ⟨congrArg Ending.returned (Grow.eval_put_eq hs4), HBF.out⟩
  case true =>
    refine Grow.region_tail (by kernel_rfl) 28 (fun i => List.getD (Grow.Spec.is (.bool true) :: Grow.Spec.is (.bool true) :: Grow.Spec.is (.bool true) :: Grow.Spec.is (.slice (some ⟨w.heap.size, 0, none⟩) 32 32) :: Grow.nat (nb p % Fe.P) :: Grow.Spec.is (.bool true) :: Grow.Spec.is (.bool true) :: Grow.Spec.is (.bool true) :: Grow.Spec.is (.bool true) :: Grow.Spec.is (.bool true) :: Grow.Spec.is (.bool false) :: Grow.Spec.is (.bool false) :: Grow.Spec.is (.agg (ec (r))) :: Grow.Spec.is (.agg (ec (Fe.mul r r))) :: Grow.Spec.is (.agg (ec (Fe.rd (Bt.low p)))) :: Grow.Spec.is (.bool true) :: Grow.Spec.is (.bool true) :: Grow.Spec.is (.bool true) :: Grow.Spec.is (.bool true) :: Grow.Spec.is (.bool true) :: Grow.Spec.is (.bool true) :: Grow.Spec.is (.bool true) :: Grow.Spec.is (.agg (ec (s))) :: Grow.Spec.is (.agg (ec (Fe.mul s s))) :: Grow.Spec.is (.agg (ec (Fe.rd (Bt.low p)))) :: Grow.Spec.is (.agg (ec (Fe.mul (Fe.rd (Bt.low p)) (Fe.rd (Bt.low p))))) :: Grow.Spec.is (.bool true) :: Grow.Spec.is (.bool true) :: []) i (Grow.Spec.is undef)) (by kernel_rfl) ⟨
      Grow.h2_call0 (Or.inl rfl) 9 Grow.enter9 _ rfl (fun a wx hk => by refine (awake_any wx (S7.out.dbl.below hk.below S7.out.dbl.1)).mono ?_; rintro e w5 ⟨rfl, hb⟩; exact ⟨_, rfl, rfl, hb⟩),
      Grow.h2_move (Or.inl rfl) _ (Or.inl rfl) (fun a w hk => (hk.deps 0 21 (by kernel_rfl))),
      Grow.h2_move (Or.inr ⟨1, 22, true, rfl, by kernel_rfl, rfl, Nat.le_of_ble_eq_true rfl⟩) _ (Or.inl rfl) (fun a w hk => by have e : a.eval (.tmp 5) = _ := hk.rest 5 (by kernel_rfl); rw [e]; exact rfl),
      Grow.h2_slice23 (Or.inr ⟨1, 22, true, rfl, by kernel_rfl, rfl, Nat.le_of_ble_eq_true rfl⟩) 1 w.heap.size rfl (by kernel_rfl) rfl rfl,
      Grow.h2_call1 (Or.inr ⟨1, 22, true, rfl, by kernel_rfl, rfl, Nat.le_of_ble_eq_true rfl⟩) 10 Grow.enter10 _ _ rfl (fun a wx hk => by have e24 : a.eval (.tmp 24) = .slice (some ⟨w.heap.size, 0, none⟩) 32 32 := (hk.deps 3 24 (by kernel_rfl)); rw [e24]; refine (of_32 wx _ _ p LP.out (slc_blk ((S7.out.bys (w.heap.size, p) (by simp)).other (hk.below.block _ (S7.out.bys (w.heap.size, p) (by simp)).lt)) LP.out WP.out)).mono ?_; rintro e w5 ⟨v5, l5, rfl, h1, h2, h3, h4, hb⟩; exact ⟨_, rfl, ⟨l5, h1, h2, h3, Nat.le_trans h4 (by decide)⟩, hb⟩),
      Grow.h2_call1 (Or.inr ⟨1, 22, true, rfl, by kernel_rfl, rfl, Nat.le_of_ble_eq_true rfl⟩) 36 Grow.enter36 _ _ rfl (fun a wx hk => by refine (Grow.c_rsquare (hk.deps 4 25 (by kernel_rfl))).mono ?_; rintro e w5 ⟨v5, rfl, rfl, hb⟩; refine ⟨_, rfl, ?_, hb⟩; rw [pow_mod_P, ← HR.out.2.2]; rfl),
      Grow.h2_eql4 (Or.inr ⟨1, 22, true, rfl, by kernel_rfl, rfl, Nat.le_of_ble_eq_true rfl⟩) 2 23 5 26 _ _ rfl rfl (by kernel_rfl) (by kernel_rfl) rfl rfl rfl,
      Grow.h2_pick (Or.inl rfl) 1 22 6 27 _ rfl (by kernel_rfl) (by kernel_rfl) rfl rfl,
      Grow.h2_move (Or.inl rfl) _ (Or.inl rfl) (fun a w hk => (hk.deps 7 28 (by kernel_rfl))),
      Grow.h2_move (Or.inr ⟨8, 29, true, rfl, by kernel_rfl, rfl, Nat.le_of_ble_eq_true rfl⟩) _ (Or.inl rfl) (fun a w hk => by have e : a.eval (.tmp 5) = _ := hk.rest 5 (by kernel_rfl); rw [e]; exact rfl),
      Grow.h2_not (Or.inr ⟨8, 29, true, rfl, by kernel_rfl, rfl, Nat.le_of_ble_eq_true rfl⟩) 9 30 _ _ rfl rfl (by kernel_rfl) rfl rfl,
      Grow.h2_move (Or.inr ⟨8, 29, true, rfl, by kernel_rfl, rfl, Nat.le_of_ble_eq_true rfl⟩) _ (Or.inl rfl) (fun a w hk => (hk.deps 10 31 (by kernel_rfl))),
      Grow.h2_row (Or.inr ⟨11, 32, false, rfl, by kernel_rfl, rfl, Nat.le_of_ble_eq_true rfl⟩) 4 (wq3.heap.size) 30 (ec (r)) _ rfl Tryd.underlying30 i30 rfl (by kernel_rfl) rfl (S7.out.rows (wq3.heap.size, r) (by simp)) rfl,
      Grow.h2_call1 (Or.inr ⟨11, 32, false, rfl, by kernel_rfl, rfl, Nat.le_of_ble_eq_true rfl⟩) 27 Grow.enter27 _ _ rfl (fun a wx hk => by have e33 : a.eval (.tmp 33) = .agg (ec (r)) := (hk.deps 12 33 (by kernel_rfl)); rw [e33]; refine (square_any wx r HR.out.1).mono ?_; rintro e w5 ⟨rfl, hb⟩; exact ⟨_, rfl, rfl, hb⟩),
      Grow.h2_row (Or.inr ⟨11, 32, false, rfl, by kernel_rfl, rfl, Nat.le_of_ble_eq_true rfl⟩) 3 (wq1.heap.size) 30 (ec (Fe.rd (Bt.low p))) _ rfl Tryd.underlying30 i30 rfl (by kernel_rfl) rfl (S7.out.rows (wq1.heap.size, Fe.rd (Bt.low p)) (by simp)) rfl,
      Grow.h2_call2 (Or.inr ⟨11, 32, false, rfl, by kernel_rfl, rfl, Nat.le_of_ble_eq_true rfl⟩) 23 Grow.enter23 _ _ _ rfl (fun a wx hk => by have e34 : a.eval (.tmp 34) = .agg (ec (Fe.mul r r)) := (hk.deps 13 34 (by kernel_rfl)); have e35 : a.eval (.tmp 35) = .agg (ec (Fe.rd (Bt.low p))) := (hk.deps 14 35 (by kernel_rfl)); rw [e34, e35]; refine (same_any wx _ _ (Fe.mul_ok HR.out.1 HR.out.1) (Fe.rd_ok _)).mono ?_; rintro e w5 ⟨rfl, hb⟩; rw [decide_eq_true ((HR.out.2.1 rfl).trans (rd_re p).eq.symm)]; exact ⟨_, rfl, rfl, hb⟩),
      Grow.h2_pickF (Or.inr ⟨8, 29, true, rfl, by kernel_rfl, rfl, Nat.le_of_ble_eq_true rfl⟩) 11 32 15 36 _ rfl (by kernel_rfl) (by kernel_rfl) rfl rfl,
      Grow.h2_pick (Or.inl rfl) 8 29 16 37 _ rfl (by kernel_rfl) (by kernel_rfl) rfl rfl,
      Grow.h2_move (Or.inl rfl) _ (Or.inl rfl) (fun a w hk => (hk.deps 17 38 (by kernel_rfl))),
      Grow.h2_move (Or.inr ⟨18, 39, true, rfl, by kernel_rfl, rfl, Nat.le_of_ble_eq_true rfl⟩) _ (Or.inl rfl) (fun a w hk => by have e : a.eval (.tmp 7) = _ := hk.rest 7 (by kernel_rfl); rw [e]; exact rfl),
      Grow.h2_pick (Or.inl rfl) 18 39 19 40 _ rfl (by kernel_rfl) (by kernel_rfl) rfl rfl,
      Grow.h2_move (Or.inl rfl) _ (Or.inl rfl) (fun a w hk => (hk.deps 20 41 (by kernel_rfl))),
      Grow.h2_row (Or.inr ⟨21, 42, true, rfl, by kernel_rfl, rfl, Nat.le_of_ble_eq_true rfl⟩) 6 (wq6.heap.size) 30 (ec (s)) _ rfl Tryd.underlying30 i30 rfl (by kernel_rfl) rfl (S7.out.rows (wq6.heap.size, s) (by simp)) rfl,
      Grow.h2_call1 (Or.inr ⟨21, 42, true, rfl, by kernel_rfl, rfl, Nat.le_of_ble_eq_true rfl⟩) 27 Grow.enter27 _ _ rfl (fun a wx hk => by have e43 : a.eval (.tmp 43) = .agg (ec (s)) := (hk.deps 22 43 (by kernel_rfl)); rw [e43]; refine (square_any wx s HR2.out.1).mono ?_; rintro e w5 ⟨rfl, hb⟩; exact ⟨_, rfl, rfl, hb⟩),
      Grow.h2_row (Or.inr ⟨21, 42, true, rfl, by kernel_rfl, rfl, Nat.le_of_ble_eq_true rfl⟩) 3 (wq1.heap.size) 30 (ec (Fe.rd (Bt.low p))) _ rfl Tryd.underlying30 i30 rfl (by kernel_rfl) rfl (S7.out.rows (wq1.heap.size, Fe.rd (Bt.low p)) (by simp)) rfl,
      Grow.h2_call1 (Or.inr ⟨21, 42, true, rfl, by kernel_rfl, rfl, Nat.le_of_ble_eq_true rfl⟩) 27 Grow.enter27 _ _ rfl (fun a wx hk => by have e45 : a.eval (.tmp 45) = .agg (ec (Fe.rd (Bt.low p))) := (hk.deps 24 45 (by kernel_rfl)); rw [e45]; refine (square_any wx (Fe.rd (Bt.low p)) (Fe.rd_ok _)).mono ?_; rintro e w5 ⟨rfl, hb⟩; exact ⟨_, rfl, rfl, hb⟩),
      Grow.h2_call2 (Or.inr ⟨21, 42, true, rfl, by kernel_rfl, rfl, Nat.le_of_ble_eq_true rfl⟩) 23 Grow.enter23 _ _ _ rfl (fun a wx hk => by have e44 : a.eval (.tmp 44) = .agg (ec (Fe.mul s s)) := (hk.deps 23 44 (by kernel_rfl)); have e46 : a.eval (.tmp 46) = .agg (ec (Fe.mul (Fe.rd (Bt.low p)) (Fe.rd (Bt.low p)))) := (hk.deps 25 46 (by kernel_rfl)); rw [e44, e46]; refine (same_any wx _ _ (Fe.mul_ok HR2.out.1 HR2.out.1) (Fe.mul_ok (Fe.rd_ok _) (Fe.rd_ok _))).mono ?_; rintro e w5 ⟨rfl, hb⟩; rw [decide_eq_true (HSQ.out.trans ((rd_re p).mul (rd_re p)).eq.symm)]; exact ⟨_, rfl, rfl, hb⟩),
      Grow.h2_pick (Or.inl rfl) 21 42 26 47 _ rfl (by kernel_rfl) (by kernel_rfl) rfl rfl,
      trivial⟩ ?_
    intro o a w8 ho hb hts hk hdf hfr
    obtain rfl := Option.some.inj ho
    have e48 : a.eval (.tmp 48) = .bool true := hk 27 48 (by decide) rfl
    refine ⟨rfl, Grow.wp_assign 2 (.tmp 48) rfl rfl ?_⟩
    have hs4 : 2 < a.tmps.size := by rw [hts]; exact Nat.le_of_ble_eq_true rfl
    have HBF := Lib.hid (S7.out.bb.trans (hb.mono S7.out.bb.size))
    clear hk hfr
    rw [e48]
    go_wp2
    refine bodyPost_ret (results_tmp rfl _ _ _) (by first | exact hdf | rfl) ?_
    exact ⟨congrArg Ending.returned (Grow.eval_put_eq hs4), HBF.out⟩
end Go.Proofs.YtgebangnhgmmoaaDoor
