/- The law of parts: the parts are cut. -/
import Derived.Test.YtiodmmjjoodmoaaDoorQ
namespace Go.Proofs.YtiodmmjjoodmoaaDoor
open Go.RowKit

theorem slc_sliced {w : World} {a : Option Addr} {n cap : Nat} {P : List Int} (hS : Slc w (.slice a n cap) P) (l h : Nat) (hl : l ≤ h) (hh : h ≤ n) :
    Slc w (sliced a l h cap 1) ((P.drop l).take (h - l)) := by
  obtain ⟨a', cap', hv, hc, h8, hm⟩ := hS
  simp only [Value.slice.injEq] at hv
  obtain ⟨rfl, rfl, rfl⟩ := hv
  have hlen : ((P.drop l).take (h - l)).length = h - l := by simp; omega
  refine ⟨_, cap - l, by rw [hlen]; rfl, by rw [hlen]; omega, sub_bytes h8 l (h - l), ?_⟩
  by_cases he : h = l
  · exact Or.inl (List.eq_nil_of_length_eq_zero (by omega))
  · rcases hm with hm | ⟨b, off, rfl, h2, h3⟩
    · rw [hm] at hh; simp at hh; omega
    · refine Or.inr ⟨b, off + l, ?_, h2, h3.sub l (h - l) (by omega)⟩
      rw [if_neg (by omega)]
      simp [Addr.add_mid]
theorem sliced_one (a : Option Addr) (l h c : Nat) : (sliced a l h c 1).oneCell' = true := rfl
theorem run_cut (a : Option Addr) (n cap l h : Nat) (hl : l ≤ h) (hh : h ≤ cap) (i j : Int) (hi : i = l) (hj : j = h) (w : World) : (Instr.slice 22 (.slice a n cap) (some (.int .i64 i)) (some (.int .i64 j)) none).run Tryd.prog w = .ok (sliced a l h cap 1) w := by
  subst hi hj
  have he : Tryd.prog.elem 22 = 5 := by kernel_rfl
  have hu : Tryd.prog.underlying 22 = some (.slice (Tryd.prog.elem 22)) := by rw [he]; exact Tryd.underlying22
  rw [run_slice_lh w 22 a n cap hu .i64 .i64 l h (by omega) (by omega) (by omega), he, Tryd.sizeOf5]
  rfl
theorem run_tail (a : Option Addr) (n cap l : Nat) (hl : l ≤ n) (i : Int) (hi : i = l) (w : World) : (Instr.slice 22 (.slice a n cap) (some (.int .i64 i)) none none).run Tryd.prog w = .ok (sliced a l n cap 1) w := by
  subst hi
  have he : Tryd.prog.elem 22 = 5 := by kernel_rfl
  have hu : Tryd.prog.underlying 22 = some (.slice (Tryd.prog.elem 22)) := by rw [he]; exact Tryd.underlying22
  rw [run_slice_l w 22 a n cap hu .i64 l (by omega) (by omega), he, Tryd.sizeOf5]
  rfl

/-- A slice of numbers of two bytes, by its value. -/
def Slc2 (w : World) (v : Value) (C : List Int) : Prop := ∃ a cap, v = .slice a C.length cap ∧ (∀ x ∈ C, 0 ≤ x ∧ x ≤ 65535) ∧ (C = [] ∨ ∃ b off, a = some ⟨b, off, none⟩ ∧ b < w.heap.size ∧ At w .u16 b off C)
/-- Values that are slices of these bytes. -/
def Cuts (w : World) (vs : List Value) (ls : List (List Int)) : Prop := vs.length = ls.length ∧ ∀ j, j < ls.length → Slc w (vs.getD j undef) (ls.getD j [])
theorem Cuts.nil (w : World) : Cuts w [] [] := ⟨rfl, fun j hj => by simp at hj⟩
theorem Cuts.snoc {w : World} {vs : List Value} {ls : List (List Int)} {u : Value} {p : List Int} (h : Cuts w vs ls) (hu : Slc w u p) : Cuts w (vs ++ [u]) (ls ++ [p]) := by
  obtain ⟨h1, h2⟩ := h
  refine ⟨by simp [h1], fun j hj => ?_⟩
  by_cases hlt : j < ls.length
  · have := h2 j hlt
    rw [List.getD_eq_getElem?_getD, List.getD_eq_getElem?_getD] at this ⊢
    rw [List.getElem?_append_left (by omega), List.getElem?_append_left hlt]
    exact this
  · have : j = ls.length := by simp at hj; omega
    subst this
    rw [List.getD_eq_getElem?_getD, List.getD_eq_getElem?_getD, List.getElem?_append_right (by omega), List.getElem?_append_right (by omega), h1]
    simpa using hu
theorem parts_of_own {w wr : World} {base k : Nat} {v : Value} {vs : List Value} {ls : List (List Int)} (h : wr.ownsRow base 22 1 v k vs) (hc : Cuts w vs ls) (hb : Below w.heap.size w wr) (hk : k ≤ 1152921504606846976) : Parts wr v ls := by
  obtain ⟨hl, h2⟩ := h
  have hlen : ls.length = k := by rw [← hc.1, hl]; omega
  rcases h2 with ⟨rfl, h0⟩ | ⟨g, cap, cur, rfl, hg, hat, _, _, hs, ht⟩
  · exact ⟨none, 0, by rw [hlen, h0], by omega, Or.inl (List.eq_nil_of_length_eq_zero (by omega))⟩
  · refine ⟨_, cap, by rw [hlen], by omega, Or.inr ⟨g, 0, rfl, lt_of_block hat, fun j hj => ?_⟩⟩
    refine ⟨vs.getD j undef, ?_, (hc.2 j hj).below hb (Nat.le_refl _)⟩
    rw [Nat.zero_add, cell_of_row wr g j _ 22 (0, 0) hat]
    have hjv : j < vs.length := by rw [hc.1]; exact hj
    have e : (cur.toList.take (k * 1))[j]? = some (vs.getD j undef) := by rw [ht]; simp [hjv]
    rw [List.getElem?_take_of_lt (by omega)] at e
    simpa using e
theorem below_of_own {w wr w' : World} {k : Nat} {v : Value} {vs : List Value} (hb : Below w.heap.size w wr) (h : wr.ownsRow w.heap.size 22 1 v k vs) (hg : wr.grownBy w' v.ownBlock) : Below w.heap.size w w' := by
  refine hb.trans ⟨hg.os, hg.tape, hg.output, hg.size, fun i hi => hg.block i (Nat.lt_of_lt_of_le hi hb.size) ?_⟩
  rcases h.2 with ⟨rfl, _⟩ | ⟨g, cap, cur, rfl, hg', _⟩
  · simp [Value.ownBlock]
  · intro hh
    simp only [Value.ownBlock, Option.some.injEq] at hh
    omega
theorem info22 : (Tryd.prog.info? 22).map (fun i => (i.zero, i.size, i.bytes)) = some (some (.slice none 0 0), 1, 24) := by kernel_rfl

theorem row_blk {w : World} {go n : Nat} {l : List Int} (h : Blk w go .u8 5 l) : (Grow.Spec.row n l).meets (.slice (some ⟨go, 0, none⟩) n n) w := ⟨go, rfl, h.at, h.lt⟩
theorem c_sum (P : List Int) (hP : P.length ≤ 2000) (u : Value) (w : World) (ls : List (List Int)) (hp : Parts w u ls) (hf : ls.flatten = P) (ht : Tab w) : Calls Tryd.prog 9 #[u] w fun e w' => ∃ v, e = .returned v ∧ (Grow.Spec.row 32 (Sh.sha P)).meets v w' ∧ Below w.heap.size w w' := by
  refine (sum_any w u ls hp (by rw [hf]; omega) ht).mono ?_
  rintro e w1 ⟨go, rfl, h1, -, h2⟩
  rw [hf] at h1
  exact ⟨_, rfl, row_blk h1, h2⟩
theorem c_mac (P K : List Int) (hP : P.length ≤ 2000) (hK : K.length ≤ 300) (uk u : Value) (w : World) (ls : List (List Int)) (hk : Slc w uk K) (hp : Parts w u ls) (hf : ls.flatten = P) (ht : Tab w) : Calls Tryd.prog 11 #[uk, u] w fun e w' => ∃ v, e = .returned v ∧ (Grow.Spec.row 32 (Sh.mac K P)).meets v w' ∧ Below w.heap.size w w' := by
  refine (mac_any w uk u K ls hk hp (by omega) (by rw [hf]; omega) ht).mono ?_
  rintro e w1 ⟨go, rfl, h1, -, h2⟩
  rw [hf] at h1
  exact ⟨_, rfl, row_blk h1, h2⟩
theorem c_wide (P : List Int) (hP : P.length ≤ 2000) (u : Value) (w : World) (ls : List (List Int)) (hp : Parts w u ls) (hf : ls.flatten = P) (ht : Tab w) : Calls Tryd.prog 12 #[u] w fun e w' => ∃ v, e = .returned v ∧ (Grow.Spec.row 64 (Sh.wide P)).meets v w' ∧ Below w.heap.size w w' := by
  refine (wide_any w u ls hp (by rw [hf]; omega) ht).mono ?_
  rintro e w1 ⟨go, rfl, h1, h3, h2⟩
  rw [hf] at h1
  exact ⟨_, rfl, ⟨go, rfl, h1, h3⟩, h2⟩
theorem length_mac (K L : List Int) : (Sh.mac K L).length = 32 := Sh.length_sha _

set_option maxRecDepth 100000 in
set_option maxHeartbeats 400000 in
theorem parts_probe (w : World) (ht : Tab w) (ap ak ac : Option Addr) (cp ck cc : Nat) (P K C : List Int) (hP : Slc w (.slice ap P.length cp) P) (hK : Slc w (.slice ak K.length ck) K) (hC : Slc2 w (.slice ac C.length cc) C)
    (h1 : P.length ≤ 2000) (h2 : K.length ≤ 300) (h3 : C.length ≤ 20) :
    Calls Tryd.prog 4 #[.slice ap P.length cp, .slice ak K.length ck, .slice ac C.length cc] w fun e w' => e = .returned (.bool true) ∧ Below w.heap.size w w' := by
  have HS := Lib.hid (awake_any w ht)
  have HT := Lib.hid ht
  have HP := Lib.hid hP
  have HK := Lib.hid hK
  have HC := Lib.hid hC
  clear ht hP hK hC
  go_enter Tryd.func4, Tryd.ntmps4
  go_wp2_with (go_at_call 8; refine HS.out.mono ?_; rintro e w1 ⟨rfl, hb1⟩; have HB1 := Lib.hid hb1; clear hb1)
  go_loopw [7, 8, 9] (fun v at_ i wr => ∃ (k A : Nat) (vs : List Value) (ls : List (List Int)), k ≤ C.length ∧ A ≤ P.length ∧ at_ = .int .i64 A ∧ i = .int .i64 k ∧ Hid (wr.ownsRow w.heap.size 22 1 v k vs) ∧ Hid (Below w.heap.size w wr) ∧ Hid (Cuts w vs ls) ∧ Hid (ls.flatten = P.take A)) (fun _ _ i _ => C.length - (intOf i).toNat)
  case atStart => exact ⟨0, 0, [], [], by omega, by omega, rfl, rfl, ⟨rfl, Or.inl ⟨rfl, rfl⟩⟩, HB1, Cuts.nil w, rfl⟩
  case round =>
    clear HB1
    obtain ⟨k, A, vs, ls, hk, hA, rfl, rfl, OW, B, CU, FL⟩ := hrel
    by_cases hlt : k < C.length ∧ A < P.length
    · obtain ⟨hk1, hA1⟩ := hlt
      obtain ⟨b, off, rfl, hbw, hx0, hx1, hcell⟩ : ∃ b off, ac = some ⟨b, off, none⟩ ∧ b < w.heap.size ∧ 0 ≤ C.getD k 0 ∧ C.getD k 0 ≤ 65535 ∧ w.cell? ⟨b, off + k, none⟩ = some (.int .u16 (C.getD k 0)) := by
        obtain ⟨a', cap', hv, hr, hm⟩ := HC.out
        simp only [Value.slice.injEq] at hv
        obtain ⟨rfl, -, rfl⟩ := hv
        rcases hm with hm | ⟨b, off, rfl, h2, h3⟩
        · rw [hm] at hk1; simp at hk1
        · have hr' := hr (C.getD k 0) (by simp [hk1])
          exact ⟨b, off, rfl, h2, hr'.1, hr'.2, h3 k hk1⟩
      have hcell' : wr.cell? ⟨b, off + k, none⟩ = some (.int .u16 (C.getD k 0)) := (B.out.cell (p := ⟨b, off + k, none⟩) hbw).trans hcell
      clear hcell HC
      generalize C.getD k 0 = x at *
      obtain ⟨r, hr⟩ : ∃ r : Nat, x % ((P.length : Int) - (A : Int) + 1) = (r : Int) := ⟨(x % ((P.length : Int) - (A : Int) + 1)).toNat, (Int.toNat_of_nonneg (Int.emod_nonneg _ (by omega))).symm⟩
      have hr1 : A + r ≤ P.length := by
        have := Int.emod_lt_of_pos x (show (0 : Int) < (P.length : Int) - (A : Int) + 1 by omega)
        omega
      have hcp : P.length ≤ cp := by
        obtain ⟨a', cap', hv, hc, -⟩ := HP.out
        simp only [Value.slice.injEq] at hv
        omega
      have hcut := run_cut ap P.length cp A (A + r) (by omega) (by omega) (A : Int) ((A : Int) + (r : Int)) rfl (by omega)
      have hsl := slc_sliced HP.out A (A + r) (by omega) hr1
      obtain ⟨a', c', hv, -⟩ := id hsl
      rw [hv] at hcut hsl
      have hfl : (ls ++ [(P.drop A).take (A + r - A)]).flatten = P.take (A + r) := by
        rw [List.flatten_append, List.flatten_singleton, FL.out, show A + r - A = r by omega, ← List.take_add]
      have CU2 := Lib.hid (CU.out.snoc hsl)
      have FL2 := Lib.hid hfl
      clear hfl hsl hv CU FL HP HK HS HT
      generalize ((P.drop A).take (A + r - A)).length = n' at *
      generalize (P.drop A).take (A + r - A) = p' at *
      obtain ⟨i0, hi, hz0, hz1, hz2⟩ := info_parts info22
      have hsz := B.out.size
      go_wp2_with ((with_reducible refine wpList_append_own _ (o := ⟨some 60, _, _, _, _, _⟩) rfl (.tmp 54) (.tmp 59) 28 rfl w.heap.size 22 i0 (.slice none 0 0) 1 24 Tryd.underlying28 hi hz0 hz1 hz2 rfl ?_ u7 k vs rfl ?_ ⟨wr.heap.size, 0, none⟩ 1 1 [.slice a' n' c'] rfl rfl ?_ ?_ ?_ ?_ ?_ ?_); exact (by decide); exact OW.out.alloc _; exact (fun j u hu => by rw [Addr.add_mid, Nat.zero_add, cell_of_row _ _ _ _ 22 (0, 0) (heap_alloc_new wr _)]; simpa using hu); exact (fun u hu => by simp at hu; subst hu; rfl); exact (by unfold maxLen; omega); exact (by omega); exact (by simp; omega); intro v3 w3 hown hgr _; have HB3 := Lib.hid (below_of_own (B.out.alloc B.out.size _) (OW.out.alloc _) hgr); have HOW := Lib.hid hown; clear hown hgr)
      go_roundw
      case rel => exact ⟨k + 1, A + r, vs ++ [.slice a' n' c'], ls ++ [p'], by omega, hr1, by go_num, by go_num, HOW, HB3, CU2, FL2⟩
      case measure => simp [intOf]; omega
    · have hcp : P.length ≤ cp := by
        obtain ⟨a', cap', hv, hc, -⟩ := HP.out
        simp only [Value.slice.injEq] at hv
        omega
      have hcut := run_tail ap P.length cp A hA (A : Int) rfl
      have hsl := slc_sliced HP.out A P.length hA (Nat.le_refl _)
      obtain ⟨a', c', hv, -⟩ := id hsl
      rw [hv] at hcut hsl
      have hfl : (ls ++ [(P.drop A).take (P.length - A)]).flatten = P := by
        have e : (P.drop A).take (P.length - A) = P.drop A := List.take_of_length_le (by simp)
        rw [List.flatten_append, List.flatten_singleton, FL.out, e, List.take_append_drop]
      have CU2 := Lib.hid (CU.out.snoc hsl)
      have FL2 := Lib.hid hfl
      clear hfl hsl hv CU FL
      generalize ((P.drop A).take (P.length - A)).length = n' at *
      generalize (P.drop A).take (P.length - A) = p' at *
      obtain ⟨i0, hi, hz0, hz1, hz2⟩ := info_parts info22
      have hsz := B.out.size
      have hk1 : ¬ (k < C.length) ∨ (k < C.length ∧ ¬ (A < P.length)) := by omega
      rcases hk1 with hk1 | ⟨hk1, hA1⟩
      all_goals
        go_wp2_with ((with_reducible refine wpList_append_own _ (o := ⟨some 67, _, _, _, _, _⟩) rfl (.tmp 62) (.tmp 66) 28 rfl w.heap.size 22 i0 (.slice none 0 0) 1 24 Tryd.underlying28 hi hz0 hz1 hz2 rfl ?_ u7 k vs rfl ?_ ⟨wr.heap.size, 0, none⟩ 1 1 [.slice a' n' c'] rfl rfl ?_ ?_ ?_ ?_ ?_ ?_); exact (by decide); exact OW.out.alloc _; exact (fun j u hu => by rw [Addr.add_mid, Nat.zero_add, cell_of_row _ _ _ _ 22 (0, 0) (heap_alloc_new wr _)]; simpa using hu); exact (fun u hu => by simp at hu; subst hu; rfl); exact (by unfold maxLen; omega); exact (by omega); exact (by simp; omega); intro v3 w3 hown hgr _; have HB3 := Lib.hid (below_of_own (B.out.alloc B.out.size _) (OW.out.alloc _) hgr); have HOW := Lib.hid hown; clear hown hgr)
        have HPA := Lib.hid (parts_of_own HOW.out CU2.out HB3.out (by omega))
        have HSP := Lib.hid (HP.out.below HB3.out (Nat.le_refl _))
        have HSK := Lib.hid (HK.out.below HB3.out (Nat.le_refl _))
        have HT3 := Lib.hid (HT.out.below HB3.out HT.out.1)
        refine Grow.region_grow (by kernel_rfl) (fun i => ([.is v3, .row 32 (Sh.sha P), .is (.string (strOfNums (Sh.sha P))), .is (.slice ap P.length cp), .parts [P], .row 32 (Sh.sha P), .is (.string (strOfNums (Sh.sha P))), .is (.bool true), .is (.bool true), .is (.slice ak K.length ck), .is v3, .row 32 (Sh.mac K P), .is (.string (strOfNums (Sh.mac K P))), .is (.slice ak K.length ck), .is (.slice ap P.length cp), .parts [P], .row 32 (Sh.mac K P), .is (.string (strOfNums (Sh.mac K P))), .is (.bool true), .is (.bool true), .is (.bool true), .is v3, .row 64 (Sh.wide P), .is (.string (strOfNums (Sh.wide P))), .is (.slice ap P.length cp), .parts [P], .row 64 (Sh.wide P), .is (.string (strOfNums (Sh.wide P))), .is (.bool true), .is (.bool true), .is (.bool true)] : List Grow.Spec).getD i (.is undef)) (by kernel_rfl) ⟨Grow.hop_free (Or.inl rfl) 7 v3 rfl (by kernel_rfl) rfl rfl,
          Grow.hop_call1 (Or.inl rfl) 9 Grow.enter9 #[28] 0 68 rfl (by kernel_rfl) (fun u wx hb hu => by obtain rfl : u = v3 := hu; exact c_sum P h1 u wx _ (HPA.out.below hb (Nat.le_refl _)) FL2.out (HT3.out.below hb HT3.out.1)),
          Grow.hop_conv (Or.inl rfl) 1 69 32 _ rfl (by kernel_rfl) rfl (Sh.length_sha _) rfl,
          Grow.hop_free (Or.inl rfl) 0 _ rfl (by kernel_rfl) rfl rfl,
          Grow.hop_build (Or.inl rfl) 3 71 _ P rfl (by kernel_rfl) rfl HSP.out rfl,
          Grow.hop_call1 (Or.inl rfl) 9 Grow.enter9 #[28] 4 72 rfl (by kernel_rfl) (fun u wx hb hu => c_sum P h1 u wx [P] hu (List.flatten_singleton) (HT3.out.below hb HT3.out.1)),
          Grow.hop_conv (Or.inl rfl) 5 73 32 _ rfl (by kernel_rfl) rfl (Sh.length_sha _) rfl,
          Grow.hop_eql (Or.inl rfl) 2 70 6 74 _ rfl (by kernel_rfl) (by kernel_rfl) rfl rfl rfl,
          Grow.hop_move (Or.inl rfl) 7 75 (Or.inl rfl) (by kernel_rfl) rfl,
          Grow.hop_free (Or.inr ⟨8, 76, rfl, by kernel_rfl, rfl, by show 76 < 98; decide⟩) 1 _ rfl (by kernel_rfl) rfl rfl,
          Grow.hop_free (Or.inr ⟨8, 76, rfl, by kernel_rfl, rfl, by show 76 < 98; decide⟩) 7 v3 rfl (by kernel_rfl) rfl rfl,
          Grow.hop_call2 (Or.inr ⟨8, 76, rfl, by kernel_rfl, rfl, by show 76 < 98; decide⟩) 11 Grow.enter11 #[22, 28] 9 77 10 78 rfl (by kernel_rfl) (by kernel_rfl) (fun uk u wx hb huk hu => by obtain rfl : u = v3 := hu; obtain rfl : uk = .slice ak K.length ck := huk; exact c_mac P K h1 h2 _ u wx _ (HSK.out.below hb (Nat.le_refl _)) (HPA.out.below hb (Nat.le_refl _)) FL2.out (HT3.out.below hb HT3.out.1)),
          Grow.hop_conv (Or.inr ⟨8, 76, rfl, by kernel_rfl, rfl, by show 76 < 98; decide⟩) 11 79 32 _ rfl (by kernel_rfl) rfl (length_mac _ _) rfl,
          Grow.hop_free (Or.inr ⟨8, 76, rfl, by kernel_rfl, rfl, by show 76 < 98; decide⟩) 1 _ rfl (by kernel_rfl) rfl rfl,
          Grow.hop_free (Or.inr ⟨8, 76, rfl, by kernel_rfl, rfl, by show 76 < 98; decide⟩) 0 _ rfl (by kernel_rfl) rfl rfl,
          Grow.hop_build (Or.inr ⟨8, 76, rfl, by kernel_rfl, rfl, by show 76 < 98; decide⟩) 14 82 _ P rfl (by kernel_rfl) rfl HSP.out rfl,
          Grow.hop_call2 (Or.inr ⟨8, 76, rfl, by kernel_rfl, rfl, by show 76 < 98; decide⟩) 11 Grow.enter11 #[22, 28] 13 81 15 83 rfl (by kernel_rfl) (by kernel_rfl) (fun uk u wx hb huk hu => by obtain rfl : uk = .slice ak K.length ck := huk; exact c_mac P K h1 h2 _ u wx [P] (HSK.out.below hb (Nat.le_refl _)) hu (List.flatten_singleton) (HT3.out.below hb HT3.out.1)),
          Grow.hop_conv (Or.inr ⟨8, 76, rfl, by kernel_rfl, rfl, by show 76 < 98; decide⟩) 16 84 32 _ rfl (by kernel_rfl) rfl (length_mac _ _) rfl,
          Grow.hop_eql (Or.inr ⟨8, 76, rfl, by kernel_rfl, rfl, by show 76 < 98; decide⟩) 12 80 17 85 _ rfl (by kernel_rfl) (by kernel_rfl) rfl rfl rfl,
          Grow.hop_pick (Or.inl rfl) 8 76 18 86 _ rfl (by kernel_rfl) (by kernel_rfl) rfl rfl,
          Grow.hop_move (Or.inl rfl) 19 87 (Or.inl rfl) (by kernel_rfl) rfl,
          Grow.hop_free (Or.inr ⟨20, 88, rfl, by kernel_rfl, rfl, by show 88 < 98; decide⟩) 7 v3 rfl (by kernel_rfl) rfl rfl,
          Grow.hop_call1 (Or.inr ⟨20, 88, rfl, by kernel_rfl, rfl, by show 88 < 98; decide⟩) 12 Grow.enter12 #[28] 21 89 rfl (by kernel_rfl) (fun u wx hb hu => by obtain rfl : u = v3 := hu; exact c_wide P h1 u wx _ (HPA.out.below hb (Nat.le_refl _)) FL2.out (HT3.out.below hb HT3.out.1)),
          Grow.hop_conv (Or.inr ⟨20, 88, rfl, by kernel_rfl, rfl, by show 88 < 98; decide⟩) 22 90 64 _ rfl (by kernel_rfl) rfl (length_wide _) rfl,
          Grow.hop_free (Or.inr ⟨20, 88, rfl, by kernel_rfl, rfl, by show 88 < 98; decide⟩) 0 _ rfl (by kernel_rfl) rfl rfl,
          Grow.hop_build (Or.inr ⟨20, 88, rfl, by kernel_rfl, rfl, by show 88 < 98; decide⟩) 24 92 _ P rfl (by kernel_rfl) rfl HSP.out rfl,
          Grow.hop_call1 (Or.inr ⟨20, 88, rfl, by kernel_rfl, rfl, by show 88 < 98; decide⟩) 12 Grow.enter12 #[28] 25 93 rfl (by kernel_rfl) (fun u wx hb hu => c_wide P h1 u wx [P] hu (List.flatten_singleton) (HT3.out.below hb HT3.out.1)),
          Grow.hop_conv (Or.inr ⟨20, 88, rfl, by kernel_rfl, rfl, by show 88 < 98; decide⟩) 26 94 64 _ rfl (by kernel_rfl) rfl (length_wide _) rfl,
          Grow.hop_eql (Or.inr ⟨20, 88, rfl, by kernel_rfl, rfl, by show 88 < 98; decide⟩) 23 91 27 95 _ rfl (by kernel_rfl) (by kernel_rfl) rfl rfl rfl,
          Grow.hop_pick (Or.inl rfl) 20 88 28 96 _ rfl (by kernel_rfl) (by kernel_rfl) rfl rfl,
          Grow.hop_move (Or.inl rfl) 29 97 (Or.inr rfl) (by kernel_rfl) rfl, trivial⟩ ?_
        intro a w5 hb5 hk5 hd5 _
        have h6 := hk5 30 6 rfl
        clear hk5
        have h6 : a.eval (.tmp 6) = .bool true := h6
        go_wp2
        refine bodyPost_ret (results_tmp rfl _ _ _) hd5 ?_
        exact ⟨congrArg Ending.returned h6, HB3.out.trans (hb5.mono HB3.out.size)⟩
end Go.Proofs.YtiodmmjjoodmoaaDoor
