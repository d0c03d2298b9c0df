/- Layer 2's laws of sums: what the reference answers, as one look at each operation wants it. -/
import Derived.Test.YtiodmmjjoodmoaaDoorAk
namespace Go.Proofs.YtiodmmjjoodmoaaDoor
open Go.RowKit

theorem c_rsum (hS : RSum) (P : List Int) (hP : P.length ≤ 1000000) (u : Value) (w : World) (hp : Slc w u P) : Calls Tryd.prog 10 #[u] w fun e w' => ∃ v, e = .returned v ∧ (Grow.Spec.slc (Sh.sha P)).meets v w' ∧ Below w.heap.size w w' := by
  refine (hS w u P hp hP).mono ?_
  rintro e w1 ⟨a, n, c, rfl, h1, h2, -⟩
  exact ⟨_, rfl, h1, h2⟩
theorem c_rmac (hS : RSum) (K P : List Int) (hK : K.length ≤ 1000000) (hP : P.length ≤ 100000) (uk u : Value) (w : World) (hk : Slc w uk K) (hp : Slc w u P) : Calls Tryd.prog 13 #[uk, u] w fun e w' => ∃ v, e = .returned v ∧ (Grow.Spec.slc (Sh.mac K P)).meets v w' ∧ Below w.heap.size w w' := by
  obtain ⟨a, c, rfl, -⟩ := id hp
  refine (rmac_any hS w uk a _ c K P hk hp hK hP).mono ?_
  rintro e w1 ⟨a, n, c, rfl, h1, h2, -⟩
  exact ⟨_, rfl, h1, h2⟩
theorem c_extract (K P : List Int) (hK : K.length ≤ 1000) (hP : P.length ≤ 1000) (uk u : Value) (w : World) (hk : Slc w uk K) (hp : Slc w u P) (ht : Tab w) : Calls Tryd.prog 14 #[uk, u] w fun e w' => ∃ v, e = .returned v ∧ (Grow.Spec.row 32 (Sh.mac K P)).meets v w' ∧ Below w.heap.size w w' := by
  refine (extract_any w uk u K P hk hp (by omega) (by omega) ht).mono ?_
  rintro e w1 ⟨go, rfl, h1, -, h2⟩
  exact ⟨_, rfl, row_blk h1, h2⟩
set_option maxRecDepth 100000 in
set_option maxHeartbeats 400000 in
theorem sums_probe (hS : RSum) (w : World) (ht : Tab w) (ap : Option Addr) (cp : Nat) (P : List Int) (hP : Slc w (.slice ap P.length cp) P) (h1 : P.length ≤ 300) :
    Calls Tryd.prog 3 #[.slice ap P.length cp] w fun e w' => e = .returned (.bool true) ∧ Below w.heap.size w w' := by
  have HSS := Lib.hid (awake_any w ht)
  have HT := Lib.hid ht
  have HP := Lib.hid hP
  clear ht hP
  go_enter Tryd.func3, Tryd.ntmps3
  go_wp2_with (go_at_call 8; refine HSS.out.mono ?_; rintro e w1 ⟨rfl, hb1⟩; have HB1 := Lib.hid hb1; clear hb1)
  have HP1 := Lib.hid (HP.out.below HB1.out (Nat.le_refl _))
  have HT1 := Lib.hid (HT.out.below HB1.out HT.out.1)
  refine Grow.region_grow (by kernel_rfl) (fun i => ([.is (.slice ap P.length cp), .parts [P], .row 32 (Sh.sha P), .is (.string (strOfNums (Sh.sha P))), .is (.slice ap P.length cp), .slc (Sh.sha P), .is (.string (strOfNums (Sh.sha P))), .is (.bool true), .is (.bool true)] : List Grow.Spec).getD i (.is undef)) (by kernel_rfl) ⟨
    Grow.hop_free (Or.inl rfl) 0 _ rfl (by kernel_rfl) rfl rfl,
    Grow.hop_build (Or.inl rfl) 0 11 _ P rfl (by kernel_rfl) rfl HP1.out rfl,
    Grow.hop_call1 (Or.inl rfl) 9 Grow.enter9 #[28] 1 12 rfl (by kernel_rfl) (fun u wx hb hu => c_sum P (by omega) u wx [P] hu (List.flatten_singleton) (HT1.out.below hb HT1.out.1)),
    Grow.hop_conv (Or.inl rfl) 2 13 32 _ rfl (by kernel_rfl) rfl (Sh.length_sha _) rfl,
    Grow.hop_free (Or.inl rfl) 0 _ rfl (by kernel_rfl) rfl rfl,
    Grow.hop_call1 (Or.inl rfl) 10 Grow.enter10 #[22] 4 15 rfl (by kernel_rfl) (fun u wx hb hu => by obtain rfl : u = .slice ap P.length cp := hu; exact c_rsum hS P (by omega) _ wx (HP1.out.below hb (Nat.le_refl _))),
    Grow.hop_conv_slc (Or.inl rfl) 5 16 _ rfl (by kernel_rfl) rfl rfl,
    Grow.hop_eql (Or.inl rfl) 3 14 6 17 _ rfl (by kernel_rfl) (by kernel_rfl) rfl rfl rfl,
    Grow.hop_move (Or.inl rfl) 7 18 (Or.inr rfl) (by kernel_rfl) rfl, trivial⟩ ?_
  intro a w5 hb5 hk5 hd5 _
  have h6 := hk5 8 2 rfl
  clear hk5
  have h6 : a.eval (.tmp 2) = .bool true := h6
  go_wp2
  refine bodyPost_ret (results_tmp rfl _ _ _) hd5 ?_
  exact ⟨congrArg Ending.returned h6, HB1.out.trans (hb5.mono HB1.out.size)⟩
set_option maxRecDepth 100000 in
set_option maxHeartbeats 400000 in
theorem sums_long (w : World) (ht : Tab w) (ap : Option Addr) (np cp : Nat) (h : 300 < np) :
    Calls Tryd.prog 3 #[.slice ap np cp] w fun e w' => e = .returned (.bool true) ∧ Below w.heap.size w w' := by
  have HS := Lib.hid (awake_any w ht)
  have HT := Lib.hid ht
  clear ht
  all_goals
    go_enter Tryd.func3, Tryd.ntmps3
    go_wp2_with (first
      | (go_at_call 8; refine HS2.out.mono ?_; rintro e w2 ⟨rfl, hb2⟩; have HB2 := Lib.hid hb2; clear hb2)
      | (go_at_call 8; refine HS.out.mono ?_; rintro e w1 ⟨rfl, hb1⟩; have HB1 := Lib.hid hb1; have HS2 := Lib.hid (awake_any w1 (HT.out.below hb1 HT.out.1)); clear hb1))
    go_ret
    exact ⟨rfl, HB1.out.trans (HB2.out.mono HB1.out.size)⟩
theorem sums_any (hS : RSum) (w : World) (ht : Tab w) (ap : Option Addr) (cp : Nat) (P : List Int) (hP : Slc w (.slice ap P.length cp) P) :
    Calls Tryd.prog 3 #[.slice ap P.length cp] w fun e w' => e = .returned (.bool true) ∧ Below w.heap.size w w' := by
  by_cases h : P.length ≤ 300
  · exact sums_probe hS w ht ap cp P hP h
  · exact sums_long w ht ap _ cp (by omega)
set_option maxRecDepth 100000 in
set_option maxHeartbeats 400000 in
theorem wides_probe (hS : RSum) (w : World) (ht : Tab w) (ap : Option Addr) (cp : Nat) (P : List Int) (hP : Slc w (.slice ap P.length cp) P) (h1 : P.length ≤ 150) :
    Calls Tryd.prog 7 #[.slice ap P.length cp] w fun e w' => e = .returned (.bool true) ∧ Below w.heap.size w w' := by
  have HSS := Lib.hid (awake_any w ht)
  have HT := Lib.hid ht
  have HP := Lib.hid hP
  clear ht hP
  go_enter Tryd.func7, Tryd.ntmps7
  go_wp2_with (go_at_call 8; refine HSS.out.mono ?_; rintro e w1 ⟨rfl, hb1⟩; have HB1 := Lib.hid hb1; clear hb1)
  have HP1 := Lib.hid (HP.out.below HB1.out (Nat.le_refl _))
  have HT1 := Lib.hid (HT.out.below HB1.out HT.out.1)
  refine Grow.region_grow (by kernel_rfl) (fun i => ([.is (.slice ap P.length cp), .parts [P], .row 64 (Sh.wide P), .is (.string (strOfNums (Sh.wide P))), .one 0, .is (.slice ap P.length cp), .slc (0 :: P), .slc (Sh.sha (0 :: P)), .is (.string (strOfNums (Sh.sha (0 :: P)))), .one 1, .is (.slice ap P.length cp), .slc (1 :: P), .slc (Sh.sha (1 :: P)), .is (.string (strOfNums (Sh.sha (1 :: P)))), .is (.string (strOfNums (Sh.wide P))), .is (.bool true), .is (.bool true)] : List Grow.Spec).getD i (.is undef)) (by kernel_rfl) ⟨
    Grow.hop_free (Or.inl rfl) 0 _ rfl (by kernel_rfl) rfl rfl,
    Grow.hop_build (Or.inl rfl) 0 11 _ P rfl (by kernel_rfl) rfl HP1.out rfl,
    Grow.hop_call1 (Or.inl rfl) 12 Grow.enter12 #[28] 1 12 rfl (by kernel_rfl) (fun u wx hb hu => c_wide P (by omega) u wx [P] hu (List.flatten_singleton) (HT1.out.below hb HT1.out.1)),
    Grow.hop_conv (Or.inl rfl) 2 13 64 _ rfl (by kernel_rfl) rfl (length_wide _) rfl,
    Grow.hop_byte (Or.inl rfl) 0 (by unfold Sh.W8; omega) rfl rfl,
    Grow.hop_free (Or.inl rfl) 0 _ rfl (by kernel_rfl) rfl rfl,
    Grow.hop_append (Or.inl rfl) 4 15 5 16 0 _ P rfl (by kernel_rfl) (by kernel_rfl) rfl rfl HP1.out (by omega) rfl,
    Grow.hop_call1 (Or.inl rfl) 10 Grow.enter10 #[22] 6 17 rfl (by kernel_rfl) (fun u wx hb hu => c_rsum hS _ (by rw [List.length_cons]; omega) u wx hu),
    Grow.hop_conv_slc (Or.inl rfl) 7 18 _ rfl (by kernel_rfl) rfl rfl,
    Grow.hop_byte (Or.inl rfl) 1 (by unfold Sh.W8; omega) rfl rfl,
    Grow.hop_free (Or.inl rfl) 0 _ rfl (by kernel_rfl) rfl rfl,
    Grow.hop_append (Or.inl rfl) 9 20 10 21 1 _ P rfl (by kernel_rfl) (by kernel_rfl) rfl rfl HP1.out (by omega) rfl,
    Grow.hop_call1 (Or.inl rfl) 10 Grow.enter10 #[22] 11 22 rfl (by kernel_rfl) (fun u wx hb hu => c_rsum hS _ (by rw [List.length_cons]; omega) u wx hu),
    Grow.hop_conv_slc (Or.inl rfl) 12 23 _ rfl (by kernel_rfl) rfl rfl,
    Grow.hop_add (Or.inl rfl) 8 19 13 24 _ _ rfl (by kernel_rfl) (by kernel_rfl) rfl rfl (by rw [strOfNums_size, strOfNums_size, Sh.length_sha, Sh.length_sha]; decide) (congrArg (fun s => Grow.Spec.is (.string s)) (strOfNums_append _ _)),
    Grow.hop_eql (Or.inl rfl) 3 14 14 25 _ rfl (by kernel_rfl) (by kernel_rfl) rfl rfl rfl,
    Grow.hop_move (Or.inl rfl) 15 26 (Or.inr rfl) (by kernel_rfl) rfl, trivial⟩ ?_
  intro a w5 hb5 hk5 hd5 _
  have h6 := hk5 16 2 rfl
  clear hk5
  have h6 : a.eval (.tmp 2) = .bool true := h6
  go_wp2
  refine bodyPost_ret (results_tmp rfl _ _ _) hd5 ?_
  exact ⟨congrArg Ending.returned h6, HB1.out.trans (hb5.mono HB1.out.size)⟩
set_option maxRecDepth 100000 in
set_option maxHeartbeats 400000 in
theorem wides_long (w : World) (ht : Tab w) (ap : Option Addr) (np cp : Nat) (h : 150 < np) :
    Calls Tryd.prog 7 #[.slice ap np cp] w fun e w' => e = .returned (.bool true) ∧ Below w.heap.size w w' := by
  have HS := Lib.hid (awake_any w ht)
  have HT := Lib.hid ht
  clear ht
  all_goals
    go_enter Tryd.func7, Tryd.ntmps7
    go_wp2_with (first
      | (go_at_call 8; refine HS2.out.mono ?_; rintro e w2 ⟨rfl, hb2⟩; have HB2 := Lib.hid hb2; clear hb2)
      | (go_at_call 8; refine HS.out.mono ?_; rintro e w1 ⟨rfl, hb1⟩; have HB1 := Lib.hid hb1; have HS2 := Lib.hid (awake_any w1 (HT.out.below hb1 HT.out.1)); clear hb1))
    go_ret
    exact ⟨rfl, HB1.out.trans (HB2.out.mono HB1.out.size)⟩
theorem wides_any (hS : RSum) (w : World) (ht : Tab w) (ap : Option Addr) (cp : Nat) (P : List Int) (hP : Slc w (.slice ap P.length cp) P) :
    Calls Tryd.prog 7 #[.slice ap P.length cp] w fun e w' => e = .returned (.bool true) ∧ Below w.heap.size w w' := by
  by_cases h : P.length ≤ 150
  · exact wides_probe hS w ht ap cp P hP h
  · exact wides_long w ht ap _ cp (by omega)
set_option maxRecDepth 100000 in
set_option maxHeartbeats 400000 in
theorem macs_probe (hS : RSum) (w : World) (ht : Tab w) (ak ap : Option Addr) (ck cp : Nat) (K P : List Int) (hK : Slc w (.slice ak K.length ck) K) (hP : Slc w (.slice ap P.length cp) P) (h1 : P.length ≤ 200) (h2 : K.length ≤ 200) :
    Calls Tryd.prog 5 #[.slice ak K.length ck, .slice ap P.length cp] w fun e w' => e = .returned (.bool true) ∧ Below w.heap.size w w' := by
  have HSS := Lib.hid (awake_any w ht)
  have HT := Lib.hid ht
  have HP := Lib.hid hP
  have HK := Lib.hid hK
  clear ht hP hK
  go_enter Tryd.func5, Tryd.ntmps5
  go_wp2_with (go_at_call 8; refine HSS.out.mono ?_; rintro e w1 ⟨rfl, hb1⟩; have HB1 := Lib.hid hb1; clear hb1)
  have HP1 := Lib.hid (HP.out.below HB1.out (Nat.le_refl _))
  have HK1 := Lib.hid (HK.out.below HB1.out (Nat.le_refl _))
  have HT1 := Lib.hid (HT.out.below HB1.out HT.out.1)
  refine Grow.region_grow (by kernel_rfl) (fun i => ([.is (.slice ak K.length ck), .is (.slice ap P.length cp), .parts [P], .row 32 (Sh.mac K P), .is (.string (strOfNums (Sh.mac K P))), .is (.slice ak K.length ck), .is (.slice ap P.length cp), .slc (Sh.mac K P), .is (.string (strOfNums (Sh.mac K P))), .is (.bool true), .is (.bool true), .is (.slice ak K.length ck), .is (.slice ap P.length cp), .row 32 (Sh.mac K P), .is (.string (strOfNums (Sh.mac K P))), .is (.slice ak K.length ck), .is (.slice ap P.length cp), .slc (Sh.mac K P), .is (.string (strOfNums (Sh.mac K P))), .is (.bool true), .is (.bool true), .is (.bool true)] : List Grow.Spec).getD i (.is undef)) (by kernel_rfl) ⟨
    Grow.hop_free (Or.inl rfl) 0 _ rfl (by kernel_rfl) rfl rfl,
    Grow.hop_free (Or.inl rfl) 1 _ rfl (by kernel_rfl) rfl rfl,
    Grow.hop_build (Or.inl rfl) 1 19 _ P rfl (by kernel_rfl) rfl HP1.out rfl,
    Grow.hop_call2 (Or.inl rfl) 11 Grow.enter11 #[22, 28] 0 18 2 20 rfl (by kernel_rfl) (by kernel_rfl) (fun uk u wx hb huk hu => by obtain rfl : uk = .slice ak K.length ck := huk; exact c_mac P K (by omega) (by omega) _ u wx [P] (HK1.out.below hb (Nat.le_refl _)) hu (List.flatten_singleton) (HT1.out.below hb HT1.out.1)),
    Grow.hop_conv (Or.inl rfl) 3 21 32 _ rfl (by kernel_rfl) rfl (length_mac _ _) rfl,
    Grow.hop_free (Or.inl rfl) 0 _ rfl (by kernel_rfl) rfl rfl,
    Grow.hop_free (Or.inl rfl) 1 _ rfl (by kernel_rfl) rfl rfl,
    Grow.hop_call2 (Or.inl rfl) 13 Grow.enter13 #[22, 22] 5 23 6 24 rfl (by kernel_rfl) (by kernel_rfl) (fun uk u wx hb huk hu => by obtain rfl : uk = .slice ak K.length ck := huk; obtain rfl : u = .slice ap P.length cp := hu; exact c_rmac hS K P (by omega) (by omega) _ _ wx (HK1.out.below hb (Nat.le_refl _)) (HP1.out.below hb (Nat.le_refl _))),
    Grow.hop_conv_slc (Or.inl rfl) 7 25 _ rfl (by kernel_rfl) rfl rfl,
    Grow.hop_eql (Or.inl rfl) 4 22 8 26 _ rfl (by kernel_rfl) (by kernel_rfl) rfl rfl rfl,
    Grow.hop_move (Or.inl rfl) 9 27 (Or.inl rfl) (by kernel_rfl) rfl,
    Grow.hop_free (Or.inr ⟨10, 28, rfl, by kernel_rfl, rfl, by show 28 < 39; decide⟩) 0 _ rfl (by kernel_rfl) rfl rfl,
    Grow.hop_free (Or.inr ⟨10, 28, rfl, by kernel_rfl, rfl, by show 28 < 39; decide⟩) 1 _ rfl (by kernel_rfl) rfl rfl,
    Grow.hop_call2 (Or.inr ⟨10, 28, rfl, by kernel_rfl, rfl, by show 28 < 39; decide⟩) 14 Grow.enter14 #[22, 22] 11 29 12 30 rfl (by kernel_rfl) (by kernel_rfl) (fun uk u wx hb huk hu => by obtain rfl : uk = .slice ak K.length ck := huk; obtain rfl : u = .slice ap P.length cp := hu; exact c_extract K P (by omega) (by omega) _ _ wx (HK1.out.below hb (Nat.le_refl _)) (HP1.out.below hb (Nat.le_refl _)) (HT1.out.below hb HT1.out.1)),
    Grow.hop_conv (Or.inr ⟨10, 28, rfl, by kernel_rfl, rfl, by show 28 < 39; decide⟩) 13 31 32 _ rfl (by kernel_rfl) rfl (length_mac _ _) rfl,
    Grow.hop_free (Or.inr ⟨10, 28, rfl, by kernel_rfl, rfl, by show 28 < 39; decide⟩) 0 _ rfl (by kernel_rfl) rfl rfl,
    Grow.hop_free (Or.inr ⟨10, 28, rfl, by kernel_rfl, rfl, by show 28 < 39; decide⟩) 1 _ rfl (by kernel_rfl) rfl rfl,
    Grow.hop_call2 (Or.inr ⟨10, 28, rfl, by kernel_rfl, rfl, by show 28 < 39; decide⟩) 13 Grow.enter13 #[22, 22] 15 33 16 34 rfl (by kernel_rfl) (by kernel_rfl) (fun uk u wx hb huk hu => by obtain rfl : uk = .slice ak K.length ck := huk; obtain rfl : u = .slice ap P.length cp := hu; exact c_rmac hS K P (by omega) (by omega) _ _ wx (HK1.out.below hb (Nat.le_refl _)) (HP1.out.below hb (Nat.le_refl _))),
    Grow.hop_conv_slc (Or.inr ⟨10, 28, rfl, by kernel_rfl, rfl, by show 28 < 39; decide⟩) 17 35 _ rfl (by kernel_rfl) rfl rfl,
    Grow.hop_eql (Or.inr ⟨10, 28, rfl, by kernel_rfl, rfl, by show 28 < 39; decide⟩) 14 32 18 36 _ rfl (by kernel_rfl) (by kernel_rfl) rfl rfl rfl,
    Grow.hop_pick (Or.inl rfl) 10 28 19 37 _ rfl (by kernel_rfl) (by kernel_rfl) rfl rfl,
    Grow.hop_move (Or.inl rfl) 20 38 (Or.inr rfl) (by kernel_rfl) rfl, trivial⟩ ?_
  intro a w5 hb5 hk5 hd5 _
  have h6 := hk5 21 4 rfl
  clear hk5
  have h6 : a.eval (.tmp 4) = .bool true := h6
  go_wp2
  refine bodyPost_ret (results_tmp rfl _ _ _) hd5 ?_
  exact ⟨congrArg Ending.returned h6, HB1.out.trans (hb5.mono HB1.out.size)⟩
set_option maxRecDepth 100000 in
set_option maxHeartbeats 400000 in
theorem macs_long (w : World) (ht : Tab w) (ak ap : Option Addr) (nk np ck cp : Nat) (h : 200 < np ∨ 200 < nk) :
    Calls Tryd.prog 5 #[.slice ak nk ck, .slice ap np cp] w fun e w' => e = .returned (.bool true) ∧ Below w.heap.size w w' := by
  have HS := Lib.hid (awake_any w ht)
  have HT := Lib.hid ht
  clear ht
  have h' : (200 < np) ∨ (np ≤ 200 ∧ 200 < nk) := by omega
  clear h
  rcases h' with h | ⟨h0, h⟩
  all_goals
    go_enter Tryd.func5, Tryd.ntmps5
    go_wp2_with (first
      | (go_at_call 8; refine HS2.out.mono ?_; rintro e w2 ⟨rfl, hb2⟩; have HB2 := Lib.hid hb2; clear hb2)
      | (go_at_call 8; refine HS.out.mono ?_; rintro e w1 ⟨rfl, hb1⟩; have HB1 := Lib.hid hb1; have HS2 := Lib.hid (awake_any w1 (HT.out.below hb1 HT.out.1)); clear hb1))
    go_ret
    exact ⟨rfl, HB1.out.trans (HB2.out.mono HB1.out.size)⟩
theorem macs_any (hS : RSum) (w : World) (ht : Tab w) (ak ap : Option Addr) (ck cp : Nat) (K P : List Int) (hK : Slc w (.slice ak K.length ck) K) (hP : Slc w (.slice ap P.length cp) P) :
    Calls Tryd.prog 5 #[.slice ak K.length ck, .slice ap P.length cp] w fun e w' => e = .returned (.bool true) ∧ Below w.heap.size w w' := by
  by_cases h : P.length ≤ 200 ∧ K.length ≤ 200
  · exact macs_probe hS w ht ak ap ck cp K P hK hP h.1 h.2
  · exact macs_long w ht ak ap _ _ ck cp (by omega)
end Go.Proofs.YtiodmmjjoodmoaaDoor
