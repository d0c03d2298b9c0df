/- The law of expanding, given the reference's sum. -/
import Derived.Test.YtiodmmjjoodmoaaDoorAl
import Derived.Test.YtiodmmjjoodmoaaDoorAm
namespace Go.Proofs.YtiodmmjjoodmoaaDoor
open Go.RowKit

theorem expand_W (K I : List Int) : ∀ i, ∀ x ∈ Sh.expand K I i, Sh.W8 x := by
  intro i
  induction i with
  | zero => intro x hx; simp [Sh.expand] at hx
  | succ i ih =>
    intro x hx
    rcases List.mem_append.1 hx with hx | hx
    · exact ih x hx
    · exact pieces_W K I (i + 1) x hx
/-- The first bytes, as many as are asked. -/
def exp (K I : List Int) (z : Int) : List Int := (Sh.expand K I 255).take z.toNat
theorem exp_W (K I : List Int) (z : Int) : ∀ x ∈ exp K I z, Sh.W8 x := fun x hx => expand_W K I 255 x (List.mem_of_mem_take hx)
theorem length_exp (K I : List Int) (z : Int) : (exp K I z).length = if z.toNat ≤ 8160 then z.toNat else 8160 := by
  unfold exp
  rw [List.length_take, length_expand]
  split <;> omega
theorem slc_of_at {w : World} {g n : Nat} {l : List Int} (h : At w .u8 g 0 l) (hl : l.length = n) (hg : g < w.heap.size) (h8 : ∀ x ∈ l, Sh.W8 x) : Slc w (.slice (some ⟨g, 0, none⟩) n n) l :=
  ⟨_, n, by rw [hl], by omega, h8, Or.inr ⟨g, 0, rfl, hg, h⟩⟩
theorem iexpand_any (w : World) (vk vi : Value) (K I : List Int) (z : Int) (hK : Slc w vk K) (hI : Slc w vi I) (hlk : K.length ≤ 1000) (hli : I.length ≤ 1000) (ht : Tab w) :
    Calls Tryd.prog 15 #[vk, vi, .int .i64 z] w fun e w' => ∃ v, e = .returned v ∧ Slc w' v (exp K I z) ∧ Below w.heap.size w w' := by
  by_cases h1 : z < 1
  · refine (expand_none w vk vi z h1).mono ?_
    rintro e w' ⟨rfl, rfl⟩
    have e0 : exp K I z = [] := by unfold exp; rw [show z.toNat = 0 by omega]; rfl
    rw [e0]
    exact ⟨_, rfl, Slc.nil _, Below.refl _ _⟩
  · by_cases h2 : z ≤ 8160
    · obtain ⟨n, rfl⟩ := Int.eq_ofNat_of_zero_le (show 0 ≤ z by omega)
      refine (expand_probe w vk vi K I n hK hI (by omega) (by omega) ht (by omega) (by omega)).mono ?_
      rintro e w' ⟨go, rfl, h3, h4, h5⟩
      refine ⟨_, rfl, slc_of_at h3 ?_ h4 (exp_W K I (n : Int)), h5⟩
      rw [length_exp, if_pos (by omega)]; omega
    · refine (expand_top w vk vi K I z 8160 (by omega) (by omega) (by omega) hK hI (by omega) (by omega) ht).mono ?_
      rintro e w' ⟨go, rfl, h3, h4, h5⟩
      have e8 : (Sh.expand K I 255).take 8160 = exp K I z := by
        unfold exp
        rw [List.take_of_length_le (by rw [length_expand]; omega), List.take_of_length_le (by rw [length_expand]; omega)]
      rw [e8] at h3
      refine ⟨_, rfl, slc_of_at h3 ?_ h4 (exp_W K I z), h5⟩
      rw [length_exp, if_neg (by omega)]

theorem c_rexpand (hS : RSum) (K I : List Int) (x : Int) (hK : K.length ≤ 1000) (hI : I.length ≤ 1000) (h0 : -100 < x) (h1 : x < 100) (uk ui : Value) (w : World) (hk : Slc w uk K) (hi : Slc w ui I) : Calls Tryd.prog 16 #[uk, ui, .int .i64 x] w fun e w' => ∃ v, e = .returned v ∧ (Grow.Spec.slc (exp K I x)).meets v w' ∧ Below w.heap.size w w' := by
  refine (rexpand_any hS w uk ui K I x hk hi (by omega) hI (by omega) (by omega)).mono ?_
  rintro e w1 ⟨v, rfl, h1, h2⟩
  exact ⟨_, rfl, h1, h2⟩
theorem exp_take (K I : List Int) (z : Int) (k : Nat) (h : k ≤ (exp K I z).length) : (exp K I z).take k = (Sh.expand K I 255).take k := by
  have hl := length_exp K I z
  have h2 : k ≤ z.toNat := by split at hl <;> omega
  unfold exp
  rw [List.take_take, Nat.min_eq_left h2]

namespace Grow
section
variable {ops : Array Oper} {Q : Exit → Act → World → Prop} {specs : Nat → Spec} {a0 : Act} {w0 : World} {i : Nat} {o : Oper}
theorem hop_rem (hr : Runs ops specs a0 o) (j d : Nat) (n : Int) (ho : o.op = .binOp .rem 3 (.tmp d) (.const (.int .i64 100)) 3) (hj : deps .any ops o j d = true) (hs : specs j = .is (.int .i64 n)) (hi : specs i = .is (.int .i64 (n.tmod 100))) : Hop Tryd.prog .any ops specs Q a0 w0 i o := by
  intro a w _ ht hk _
  refine ⟨wanted_of hr ht hk, ?_⟩
  have h := hk j d hj
  rw [hs] at h
  have h : a.eval (.tmp d) = .int .i64 n := h
  refine wp_value (v := .int .i64 (n.tmod 100)) (w' := w) ?_ ⟨_, rfl, by rw [hi]; rfl, Below.refl _ _⟩
  unfold execOp
  rw [ho]
  simp only [h]
  rw [show a.eval (.const (.int .i64 100)) = .int .i64 100 from rfl]
  go_simp
theorem hop_len (hr : Runs ops specs a0 o) (j d : Nat) (b : Option Addr) (n c : Nat) (ho : o.op = .call { callee := .builtin .len, args := #[.tmp d], argTypes := #[22] }) (hj : deps .any ops o j d = true) (hs : specs j = .is (.slice b n c)) (hi : specs i = .is (.int .i64 (n : Int))) : Hop Tryd.prog .any ops specs Q a0 w0 i o := by
  intro a w _ ht hk _
  refine ⟨wanted_of hr ht hk, ?_⟩
  have h := hk j d hj
  rw [hs] at h
  have h : a.eval (.tmp d) = .slice b n c := h
  refine wp_value (v := .int .i64 (n : Int)) (w' := w) ?_ ⟨_, rfl, by rw [hi]; rfl, Below.refl _ _⟩
  unfold execOp
  rw [ho]
  simp [resolve, invoke, builtin, h, Builtin.len_, Result.andThen]
  rfl
theorem hop_eqli (hr : Runs ops specs a0 o) (j1 d1 j2 d2 : Nat) (x : Int) (ho : o.op = .binOp .eql 3 (.tmp d1) (.tmp d2) 3) (hj1 : deps .any ops o j1 d1 = true) (hj2 : deps .any ops o j2 d2 = true) (hs1 : specs j1 = .is (.int .i64 x)) (hs2 : specs j2 = .is (.int .i64 x)) (hi : specs i = .is (.bool true)) : Hop Tryd.prog .any ops specs Q a0 w0 i o := by
  intro a w _ ht hk _
  refine ⟨wanted_of hr ht hk, ?_⟩
  have h1 := hk j1 d1 hj1
  have h2 := hk j2 d2 hj2
  rw [hs1] at h1
  rw [hs2] at h2
  have h1 : a.eval (.tmp d1) = .int .i64 x := h1
  have h2 : a.eval (.tmp d2) = .int .i64 x := h2
  refine wp_value (v := .bool true) (w' := w) ?_ ⟨_, rfl, by rw [hi]; rfl, Below.refl _ _⟩
  unfold execOp
  rw [ho]
  simp only [h1, h2]
  go_simp
theorem hop_cut (hr : Runs ops specs a0 o) (j1 d1 j2 d2 : Nat) (b : Option Addr) (n c k : Nat) (l r : List Int) (ho : o.op = .slice 22 (.tmp d1) none (some (.tmp d2)) none) (hj1 : deps .any ops o j1 d1 = true) (hj2 : deps .any ops o j2 d2 = true) (hs1 : specs j1 = .is (.slice b n c)) (hs2 : specs j2 = .is (.int .i64 (k : Int))) (hS : Slc w0 (.slice b n c) l) (hk' : k ≤ n) (hl : l.take k = r) (hi : specs i = .slc r) : Hop Tryd.prog .any ops specs Q a0 w0 i o := by
  intro a w hb ht hk _
  refine ⟨wanted_of hr ht hk, ?_⟩
  have h1 := hk j1 d1 hj1
  have h2 := hk j2 d2 hj2
  rw [hs1] at h1
  rw [hs2] at h2
  have h1 : a.eval (.tmp d1) = .slice b n c := h1
  have h2 : a.eval (.tmp d2) = .int .i64 (k : Int) := h2
  have hS' := hS.below hb (Nat.le_refl _)
  have hc : n ≤ c := by
    obtain ⟨_, _, hv, hcc, _⟩ := id hS'
    simp only [Value.slice.injEq] at hv
    omega
  have hrun := run_cut22h b n c k (by omega) (k : Int) rfl w
  have hsl := slc_sliced hS' 0 k (Nat.zero_le _) hk'
  rw [List.drop_zero, Nat.sub_zero, hl] at hsl
  generalize sliced b 0 k c 1 = sv at *
  refine wp_value (v := sv) (w' := w) ?_ ⟨_, rfl, by rw [hi]; exact hsl, Below.refl _ _⟩
  clear hk hi hs1 hs2 hj1 hj2 hS hS' hl hsl
  have hu := Tryd.underlying22
  unfold execOp
  rw [ho]
  simp only [h1, h2, Option.map_some, Option.map_none]
  go_simp
theorem hop_call3 (hr : Runs ops specs a0 o) (f : FuncId) (he : ∀ args w, (callFunc f args).run Tryd.prog w = .ok (.enter f args) w) (ts : Array TypeId) (j1 d1 j2 d2 j3 d3 : Nat) (ho : o.op = .call { callee := .value (.func f), args := #[.tmp d1, .tmp d2, .tmp d3], argTypes := ts }) (hj1 : deps .any ops o j1 d1 = true) (hj2 : deps .any ops o j2 d2 = true) (hj3 : deps .any ops o j3 d3 = true)
    (hc : ∀ u1 u2 u3 w, Below w0.heap.size w0 w → (specs j1).meets u1 w → (specs j2).meets u2 w → (specs j3).meets u3 w → Calls Tryd.prog f #[u1, u2, u3] w fun e w' => ∃ v, e = .returned v ∧ (specs i).meets v w' ∧ Below w.heap.size w w') : Hop Tryd.prog .any ops specs Q a0 w0 i o := by
  intro a w hb ht hk _
  refine ⟨wanted_of hr ht hk, ?_⟩
  have h := hc _ _ _ w hb (hk j1 d1 hj1) (hk j2 d2 hj2) (hk j3 d3 hj3)
  refine wp_enter (f := f) (args := #[a.eval (.tmp d1), a.eval (.tmp d2), a.eval (.tmp d3)]) ?_ (h.mono ?_)
  · unfold execOp
    rw [ho]
    go_simp
  · rintro e w' ⟨v, rfl, h1, h2⟩
    exact ⟨v, rfl, v, rfl, h1, h2⟩
end
end Grow

set_option maxRecDepth 100000 in
set_option maxHeartbeats 1000000 in
theorem expands_probe (hS : RSum) (w : World) (ht : Tab w) (ak ai : Option Addr) (ck ci : Nat) (K I : List Int) (n m : Int) (hK : Slc w (.slice ak K.length ck) K) (hI : Slc w (.slice ai I.length ci) I) (h1 : K.length ≤ 100) (h2 : I.length ≤ 100) :
    Calls Tryd.prog 6 #[.slice ak K.length ck, .slice ai I.length ci, .int .i64 n, .int .i64 m] w fun e w' => e = .returned (.bool true) ∧ Below w.heap.size w w' := by
  have HSS := Lib.hid (awake_any w ht)
  have HT := Lib.hid ht
  have HK := Lib.hid hK
  have HI := Lib.hid hI
  have hx0 : -100 < n.tmod 100 := Int.lt_tmod_of_pos n (by decide)
  have hx1 : n.tmod 100 < 100 := Int.tmod_lt_of_pos n (by decide)
  have hlb := length_exp K I (m.tmod 9000)
  have HE := Lib.hid (fun wx (hb : Below w.heap.size w wx) z => iexpand_any wx _ _ K I z (hK.below hb (Nat.le_refl _)) (hI.below hb (Nat.le_refl _)) (by omega) (by omega) (ht.below hb ht.1))
  have hlb' : ((m.tmod 9000).toNat ≤ 8160 → (exp K I (m.tmod 9000)).length = (m.tmod 9000).toNat) ∧ (8160 < (m.tmod 9000).toNat → (exp K I (m.tmod 9000)).length = 8160) := by
    split at hlb
    · exact ⟨fun _ => hlb, fun h => by omega⟩
    · exact ⟨fun h => by omega, fun _ => hlb⟩
  have htA' := exp_take K I (n.tmod 100)
  have htB' := exp_take K I (m.tmod 9000)
  obtain ⟨la, hla⟩ : ∃ la, la = (exp K I (n.tmod 100)).length := ⟨_, rfl⟩
  obtain ⟨lb, hlbb⟩ : ∃ lb, lb = (exp K I (m.tmod 9000)).length := ⟨_, rfl⟩
  rw [← hla] at htA'
  rw [← hlbb] at htB' hlb'
  obtain ⟨k, hk0, hk1, hk2⟩ : ∃ k : Nat, k ≤ la ∧ k ≤ lb ∧ (k = la ∨ k = lb) := by
    rcases Nat.le_total la lb with h | h
    · exact ⟨la, Nat.le_refl _, h, Or.inl rfl⟩
    · exact ⟨lb, h, Nat.le_refl _, Or.inr rfl⟩
  have htA := htA' k hk0
  have htB := htB' k hk1
  have HLA := Lib.hid hla
  have HLB := Lib.hid hlbb
  obtain ⟨hlb0, hlb1⟩ := hlb'
  clear ht hK hI hlb htA' htB' hla hlbb
  go_enter Tryd.func6, Tryd.ntmps6
  go_wp2_with (first
    | (go_at_call 15; refine (HE.out w2 HB2.out _).mono ?_; rintro e w3 ⟨vb, rfl, h1, h2⟩; obtain ⟨ab, cb, rfl, -⟩ := id h1; rw [← HLB.out] at h1 ⊢; have HV3 := Lib.hid h1; have HA3 := Lib.hid (HA.out.below h2 (Nat.le_refl _)); have HB3 := Lib.hid (HB2.out.trans (h2.mono HB2.out.size)); clear h1 h2)
    | (go_at_call 15; refine (HE.out w1 HB1.out _).mono ?_; rintro e w2 ⟨va, rfl, h1, h2⟩; obtain ⟨aa, ca, rfl, -⟩ := id h1; rw [← HLA.out] at h1 ⊢; have HA := Lib.hid h1; have HB2 := Lib.hid (HB1.out.trans (h2.mono HB1.out.size)); clear h1 h2)
    | (go_at_call 8; refine HSS.out.mono ?_; rintro e w1 ⟨rfl, hb1⟩; have HB1 := Lib.hid hb1; clear hb1))
  all_goals
    have HK3 := Lib.hid (HK.out.below HB3.out (Nat.le_refl _))
    have HI3 := Lib.hid (HI.out.below HB3.out (Nat.le_refl _))
    refine Grow.region_grow (by kernel_rfl) (fun i => ([.is (.slice aa la ca), .is (.string (strOfNums (exp K I (n.tmod 100)))), .is (.slice ak K.length ck), .is (.slice ai I.length ci), .is (.int .i64 n), .is (.int .i64 (n.tmod 100)), .slc (exp K I (n.tmod 100)), .is (.string (strOfNums (exp K I (n.tmod 100)))), .is (.bool true), .is (.bool true), .is (.slice aa la ca), .is (.int .i64 (k : Int)), .slc ((Sh.expand K I 255).take k), .is (.string (strOfNums ((Sh.expand K I 255).take k))), .is (.slice ab lb cb), .is (.int .i64 (k : Int)), .slc ((Sh.expand K I 255).take k), .is (.string (strOfNums ((Sh.expand K I 255).take k))), .is (.bool true), .is (.bool true), .is (.bool true), .is (.slice ab lb cb), .is (.int .i64 (lb : Int)), .is (.int .i64 (lb : Int)), .is (.bool true), .is (.bool true), .is (.bool true)] : List Grow.Spec).getD i (.is undef)) (by kernel_rfl) ⟨
    Grow.hop_free (Or.inl rfl) 9 _ rfl (by kernel_rfl) rfl rfl,
    Grow.hop_conv_is (Or.inl rfl) 0 50 _ _ rfl (by kernel_rfl) rfl HA3.out rfl,
    Grow.hop_free (Or.inl rfl) 0 _ rfl (by kernel_rfl) rfl rfl,
    Grow.hop_free (Or.inl rfl) 1 _ rfl (by kernel_rfl) rfl rfl,
    Grow.hop_free (Or.inl rfl) 2 _ rfl (by kernel_rfl) rfl rfl,
    Grow.hop_rem (Or.inl rfl) 4 54 n rfl (by kernel_rfl) rfl rfl,
    Grow.hop_call3 (Or.inl rfl) 16 Grow.enter16 #[22, 22, 3] 2 52 3 53 5 55 rfl (by kernel_rfl) (by kernel_rfl) (by kernel_rfl) (fun u1 u2 u3 wx hb h1 h2 h3 => by obtain rfl : u1 = .slice ak K.length ck := h1; obtain rfl : u2 = .slice ai I.length ci := h2; obtain rfl : u3 = .int .i64 (n.tmod 100) := h3; exact c_rexpand hS K I (n.tmod 100) (by omega) (by omega) hx0 hx1 _ _ wx (HK3.out.below hb (Nat.le_refl _)) (HI3.out.below hb (Nat.le_refl _))),
    Grow.hop_conv_slc (Or.inl rfl) 6 56 _ rfl (by kernel_rfl) rfl rfl,
    Grow.hop_eql (Or.inl rfl) 1 51 7 57 _ rfl (by kernel_rfl) (by kernel_rfl) rfl rfl rfl,
    Grow.hop_move (Or.inl rfl) 8 58 (Or.inl rfl) (by kernel_rfl) rfl,
    Grow.hop_free (Or.inr ⟨9, 59, rfl, by kernel_rfl, rfl, by show 59 < 76; decide⟩) 9 _ rfl (by kernel_rfl) rfl rfl,
    Grow.hop_free (Or.inr ⟨9, 59, rfl, by kernel_rfl, rfl, by show 59 < 76; decide⟩) 11 _ rfl (by kernel_rfl) (congrArg (Value.int .i64) (by omega)) rfl,
    Grow.hop_cut (Or.inr ⟨9, 59, rfl, by kernel_rfl, rfl, by show 59 < 76; decide⟩) 10 60 11 61 aa la ca k _ _ rfl (by kernel_rfl) (by kernel_rfl) rfl rfl HA3.out (by omega) htA rfl,
    Grow.hop_conv_slc (Or.inr ⟨9, 59, rfl, by kernel_rfl, rfl, by show 59 < 76; decide⟩) 12 62 _ rfl (by kernel_rfl) rfl rfl,
    Grow.hop_free (Or.inr ⟨9, 59, rfl, by kernel_rfl, rfl, by show 59 < 76; decide⟩) 10 _ rfl (by kernel_rfl) rfl rfl,
    Grow.hop_free (Or.inr ⟨9, 59, rfl, by kernel_rfl, rfl, by show 59 < 76; decide⟩) 11 _ rfl (by kernel_rfl) (congrArg (Value.int .i64) (by omega)) rfl,
    Grow.hop_cut (Or.inr ⟨9, 59, rfl, by kernel_rfl, rfl, by show 59 < 76; decide⟩) 14 64 15 65 ab lb cb k _ _ rfl (by kernel_rfl) (by kernel_rfl) rfl rfl HV3.out (by omega) htB rfl,
    Grow.hop_conv_slc (Or.inr ⟨9, 59, rfl, by kernel_rfl, rfl, by show 59 < 76; decide⟩) 16 66 _ rfl (by kernel_rfl) rfl rfl,
    Grow.hop_eql (Or.inr ⟨9, 59, rfl, by kernel_rfl, rfl, by show 59 < 76; decide⟩) 13 63 17 67 _ rfl (by kernel_rfl) (by kernel_rfl) rfl rfl rfl,
    Grow.hop_pick (Or.inl rfl) 9 59 18 68 _ rfl (by kernel_rfl) (by kernel_rfl) rfl rfl,
    Grow.hop_move (Or.inl rfl) 19 69 (Or.inl rfl) (by kernel_rfl) rfl,
    Grow.hop_free (Or.inr ⟨20, 70, rfl, by kernel_rfl, rfl, by show 70 < 76; decide⟩) 10 _ rfl (by kernel_rfl) rfl rfl,
    Grow.hop_len (Or.inr ⟨20, 70, rfl, by kernel_rfl, rfl, by show 70 < 76; decide⟩) 21 71 ab lb cb rfl (by kernel_rfl) rfl rfl,
    Grow.hop_free (Or.inr ⟨20, 70, rfl, by kernel_rfl, rfl, by show 70 < 76; decide⟩) 12 _ rfl (by kernel_rfl) (congrArg (Value.int .i64) (by omega)) rfl,
    Grow.hop_eqli (Or.inr ⟨20, 70, rfl, by kernel_rfl, rfl, by show 70 < 76; decide⟩) 22 72 23 73 _ rfl (by kernel_rfl) (by kernel_rfl) rfl rfl rfl,
    Grow.hop_pick (Or.inl rfl) 20 70 24 74 _ rfl (by kernel_rfl) (by kernel_rfl) rfl rfl,
    Grow.hop_move (Or.inl rfl) 25 75 (Or.inr rfl) (by kernel_rfl) rfl, trivial⟩ ?_
    intro a w5 hb5 hk5 hd5 _
    have h6 := hk5 26 8 rfl
    clear hk5
    have h6 : a.eval (.tmp 8) = .bool true := h6
    go_wp2
    refine bodyPost_ret (results_tmp rfl _ _ _) hd5 ?_
    exact ⟨congrArg Ending.returned h6, HB3.out.trans (hb5.mono HB3.out.size)⟩

set_option maxRecDepth 100000 in
set_option maxHeartbeats 400000 in
theorem expands_long (w : World) (ht : Tab w) (ak ai : Option Addr) (nk ni ck ci : Nat) (n m : Int) (h : 100 < nk ∨ 100 < ni) :
    Calls Tryd.prog 6 #[.slice ak nk ck, .slice ai ni ci, .int .i64 n, .int .i64 m] w fun e w' => e = .returned (.bool true) ∧ Below w.heap.size w w' := by
  have HS := Lib.hid (awake_any w ht)
  have HT := Lib.hid ht
  clear ht
  have h' : (100 < nk) ∨ (nk ≤ 100 ∧ 100 < ni) := by omega
  clear h
  rcases h' with h | ⟨h0, h⟩
  all_goals
    go_enter Tryd.func6, Tryd.ntmps6
    go_wp2_with (first
      | (go_at_call 8; refine HS2.out.mono ?_; rintro e w2 ⟨rfl, hb2⟩; have HB2 := Lib.hid hb2; clear hb2)
      | (go_at_call 8; refine HS.out.mono ?_; rintro e w1 ⟨rfl, hb1⟩; have HB1 := Lib.hid hb1; have HS2 := Lib.hid (awake_any w1 (HT.out.below hb1 HT.out.1)); clear hb1))
    go_ret
    exact ⟨rfl, HB1.out.trans (HB2.out.mono HB1.out.size)⟩
theorem expands_any (hS : RSum) (w : World) (ht : Tab w) (ak ai : Option Addr) (ck ci : Nat) (K I : List Int) (n m : Int) (hK : Slc w (.slice ak K.length ck) K) (hI : Slc w (.slice ai I.length ci) I) :
    Calls Tryd.prog 6 #[.slice ak K.length ck, .slice ai I.length ci, .int .i64 n, .int .i64 m] w fun e w' => e = .returned (.bool true) ∧ Below w.heap.size w w' := by
  by_cases h : K.length ≤ 100 ∧ I.length ≤ 100
  · exact expands_probe hS w ht ak ai ck ci K I n m hK hI h.1 h.2
  · exact expands_long w ht ak ai _ _ ck ci n m (by omega)
end Go.Proofs.YtiodmmjjoodmoaaDoor
