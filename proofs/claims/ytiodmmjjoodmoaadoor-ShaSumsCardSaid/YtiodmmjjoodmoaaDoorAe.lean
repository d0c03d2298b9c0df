/- Layer 2's reference, the walks: its code of bytes by a key, given its sum. -/
import Derived.Test.YtiodmmjjoodmoaaDoorAd
namespace Go.Proofs.YtiodmmjjoodmoaaDoor
open Go.RowKit

theorem slc_own {w : World} {base n : Nat} {v : Value} {l : List Int} (h : w.ownsRow base 5 1 v n (l.map (Value.int .u8))) (h8 : ∀ x ∈ l, Sh.W8 x) : ∃ a c, v = .slice a n c ∧ Slc w (.slice a n c) l := by
  have hl : l.length = n := by have := h.1; simpa using this
  rcases h.2 with ⟨rfl, h0⟩ | ⟨g, cap, cur, rfl, _, _, hc, _⟩
  · exact ⟨none, 0, by rw [h0], none, 0, by rw [hl], by omega, h8, Or.inl (List.eq_nil_of_length_eq_zero (by omega))⟩
  · refine ⟨_, _, rfl, some ⟨g, 0, none⟩, cap, by rw [hl], by omega, h8, ?_⟩
    by_cases h0 : n = 0
    · exact Or.inl (List.eq_nil_of_length_eq_zero (by omega))
    · obtain ⟨g2, cap2, hv, _, hat, _, hlt⟩ := own_lies h hl (by omega)
      cases hv
      exact Or.inr ⟨g, 0, rfl, hlt, hat⟩
theorem slc_src {w : World} {ad : Addr} {n c : Nat} {P : List Int} (h : Slc w (.slice (some ad) n c) P) : ∀ (j : Nat) (u : Value), (P.map (Value.int .u8))[j]? = some u → w.cell? (ad.add j) = some u := by
  obtain ⟨a', cap', hv, _, _, hm⟩ := h
  simp only [Value.slice.injEq] at hv
  obtain ⟨rfl, rfl, rfl⟩ := hv
  rcases hm with hm | ⟨b, off, hb, h2, h3⟩
  · intro j u hu; rw [hm] at hu; simp at hu
  · cases hb; exact src_of_at h3

set_option maxRecDepth 100000 in
set_option maxHeartbeats 400000 in
theorem rmac_any (hS : RSum) (w : World) (vk : Value) (am : Option Addr) (nm cm : Nat) (K M : List Int) (hK : Slc w vk K) (hM : Slc w (.slice am nm cm) M) (hlk : K.length ≤ 1000000) (hlm : M.length ≤ 100000) :
    Calls Tryd.prog 13 #[vk, .slice am nm cm] w fun e w' => ∃ a n c, e = .returned (.slice a n c) ∧ Slc w' (.slice a n c) (Sh.mac K M) ∧ Below w.heap.size w w' ∧ Fresh w a := by
  obtain ⟨a0, c0, rfl, -⟩ := id hK
  obtain rfl := slc_len hM
  have HM := Lib.hid hM
  have HSU := Lib.hid hS
  have HKK := Lib.hid hK
  have HS1 := Lib.hid (hS w _ K hK hlk)
  have hkey : Hid (Sh.key K = if 64 < K.length then Sh.sha K else K) := rfl
  have hlkey := Sh.length_key K
  clear hS hK hM
  by_cases hlt : 64 < K.length
  · go_enter Tryd.func13, Tryd.ntmps13
    go_wp2_with (go_at_call 10; refine HS1.out.mono ?_; rintro e w1 ⟨a1, n1, c1, rfl, h1, h2, -⟩; have HQ := Lib.hid h1; have HB := Lib.hid h2; clear h1 h2)
    have hkk : Sh.key K = Sh.sha K := by rw [hkey.out, if_pos hlt]
    rw [← hkk] at HQ
    have hn1 := Lib.hid (slc_len HQ.out)
    obtain ⟨i0, hi, hz0, hz1, hz2⟩ := info_parts info5
    have hn1 := Lib.hid (slc_len HQ.out)
    obtain ⟨i0, hi, hz0, hz1, hz2⟩ := info_parts info5
    have hn1 := Lib.hid (slc_len HQ.out)
    obtain ⟨i0, hi, hz0, hz1, hz2⟩ := info_parts info5
    go_loopw [5, 6, 7] (fun v u i wr => ∃ k : Nat, k ≤ 64 ∧ i = .int .i64 k ∧ Hid (Two wr w1.heap.size v u k k ((Sh.mask (Sh.key K) 54).take k) ((Sh.mask (Sh.key K) 92).take k)) ∧ Hid (Below w1.heap.size w1 wr)) (fun _ _ i _ => 64 - (intOf i).toNat)
    case atStart => exact ⟨0, Nat.zero_le _, rfl, ⟨⟨rfl, Or.inl ⟨rfl, rfl⟩⟩, ⟨rfl, Or.inl ⟨rfl, rfl⟩⟩, by simp [Value.ownBlock]⟩, Below.refl _ _⟩
    case round =>
      obtain ⟨k, hk, rfl, TW, BW⟩ := hrel
      by_cases hk64 : k < 64
      · have e54 := mask_take (Sh.key K) 54 k hk64 hlkey
        have e92 := mask_take (Sh.key K) 92 k hk64 hlkey
        by_cases hkn : k < n1
        · obtain ⟨b1, o1, rfl, hb1, hcl⟩ := slc_at HQ.out k hkn
          have hcl' := (BW.out.cell (p := ⟨b1, o1 + k, none⟩) hb1).trans hcl
          rw [pad_low _ _ (by have := hn1.out; omega)] at e54 e92
          unfold Sh.x8 at e54 e92
          have HE54 := Lib.hid e54
          have HE92 := Lib.hid e92
          clear e54 e92 hcl
          generalize (Sh.key K).getD k 0 = x at *
          go_wp2_with (first
            | ((with_reducible refine wpList_append_own_at _ (o := ⟨some 30, _, _, _, _, _⟩) rfl (.tmp 26) (.tmp 29) 22 rfl w1.heap.size 5 i0 (.int .u8 0) 1 1 Tryd.underlying22 hi hz0 hz1 hz2 rfl ?_ u5 k (((Sh.mask (Sh.key K) 54).take k).map (Value.int .u8)) rfl ?_ ⟨wr.heap.size, 0, none⟩ 1 1 [.int .u8 (bits .xor .u8 x 54)] rfl rfl ?_ ?_ ?_ ?_ ?_ ?_); exact (by decide); exact (TW.out.alloc _).1; exact (fun j u hu => by rw [Addr.add_mid, Nat.zero_add, cell_of_row _ _ _ _ 5 (0, 0) (heap_alloc_new wr _)]; simpa using hu); exact (fun u hu => by simp at hu; subst hu; rfl); exact (by unfold maxLen; omega); exact (by omega); exact (by have := BW.out.size; simp; omega); intro v2 w2 hown2 hgr2 _ hat2; have ht2 := Two.swap ((TW.out.alloc _).grow hown2 hgr2 hat2); have HT2 := Lib.hid ht2; have HB2 := Lib.hid (below_two (BW.out.alloc BW.out.size _) (TW.out.alloc _).1 hgr2); clear hown2 hgr2 hat2 ht2)
            | ((with_reducible refine wpList_append_own_at _ (o := ⟨some 35, _, _, _, _, _⟩) rfl (.tmp 31) (.tmp 34) 22 rfl w1.heap.size 5 i0 (.int .u8 0) 1 1 Tryd.underlying22 hi hz0 hz1 hz2 rfl ?_ u6 k (((Sh.mask (Sh.key K) 92).take k).map (Value.int .u8)) rfl ?_ ⟨w2.heap.size, 0, none⟩ 1 1 [.int .u8 (bits .xor .u8 x 92)] rfl rfl ?_ ?_ ?_ ?_ ?_ ?_); exact (by decide); exact (HT2.out.alloc _).1; exact (fun j u hu => by rw [Addr.add_mid, Nat.zero_add, cell_of_row _ _ _ _ 5 (0, 0) (heap_alloc_new w2 _)]; simpa using hu); exact (fun u hu => by simp at hu; subst hu; rfl); exact (by unfold maxLen; omega); exact (by omega); exact (by have := HB2.out.size; simp; omega); intro v3 w3 hown3 hgr3 _ hat3; have HT3 := Lib.hid ((HT2.out.alloc _).grow hown3 hgr3 hat3); have HB3 := Lib.hid (below_two (HB2.out.alloc HB2.out.size _) (HT2.out.alloc _).1 hgr3); clear hown3 hgr3 hat3))
          go_roundw
          case rel => exact ⟨k + 1, by omega, by go_num, by rw [HE54.out, HE92.out]; exact HT3.out.swap, HB3.out⟩
          case measure => simp [intOf]; omega
        · rw [pad_high _ _ (by have := hn1.out; omega)] at e54 e92
          unfold Sh.x8 at e54 e92
          have HE54 := Lib.hid e54
          have HE92 := Lib.hid e92
          clear e54 e92
          go_wp2_with (first
            | ((with_reducible refine wpList_append_own_at _ (o := ⟨some 30, _, _, _, _, _⟩) rfl (.tmp 26) (.tmp 29) 22 rfl w1.heap.size 5 i0 (.int .u8 0) 1 1 Tryd.underlying22 hi hz0 hz1 hz2 rfl ?_ u5 k (((Sh.mask (Sh.key K) 54).take k).map (Value.int .u8)) rfl ?_ ⟨wr.heap.size, 0, none⟩ 1 1 [.int .u8 (bits .xor .u8 0 54)] rfl rfl ?_ ?_ ?_ ?_ ?_ ?_); exact (by decide); exact (TW.out.alloc _).1; exact (fun j u hu => by rw [Addr.add_mid, Nat.zero_add, cell_of_row _ _ _ _ 5 (0, 0) (heap_alloc_new wr _)]; simpa using hu); exact (fun u hu => by simp at hu; subst hu; rfl); exact (by unfold maxLen; omega); exact (by omega); exact (by have := BW.out.size; simp; omega); intro v2 w2 hown2 hgr2 _ hat2; have ht2 := Two.swap ((TW.out.alloc _).grow hown2 hgr2 hat2); have HT2 := Lib.hid ht2; have HB2 := Lib.hid (below_two (BW.out.alloc BW.out.size _) (TW.out.alloc _).1 hgr2); clear hown2 hgr2 hat2 ht2)
            | ((with_reducible refine wpList_append_own_at _ (o := ⟨some 35, _, _, _, _, _⟩) rfl (.tmp 31) (.tmp 34) 22 rfl w1.heap.size 5 i0 (.int .u8 0) 1 1 Tryd.underlying22 hi hz0 hz1 hz2 rfl ?_ u6 k (((Sh.mask (Sh.key K) 92).take k).map (Value.int .u8)) rfl ?_ ⟨w2.heap.size, 0, none⟩ 1 1 [.int .u8 (bits .xor .u8 0 92)] rfl rfl ?_ ?_ ?_ ?_ ?_ ?_); exact (by decide); exact (HT2.out.alloc _).1; exact (fun j u hu => by rw [Addr.add_mid, Nat.zero_add, cell_of_row _ _ _ _ 5 (0, 0) (heap_alloc_new w2 _)]; simpa using hu); exact (fun u hu => by simp at hu; subst hu; rfl); exact (by unfold maxLen; omega); exact (by omega); exact (by have := HB2.out.size; simp; omega); intro v3 w3 hown3 hgr3 _ hat3; have HT3 := Lib.hid ((HT2.out.alloc _).grow hown3 hgr3 hat3); have HB3 := Lib.hid (below_two (HB2.out.alloc HB2.out.size _) (HT2.out.alloc _).1 hgr3); clear hown3 hgr3 hat3))
          go_roundw
          case rel => exact ⟨k + 1, by omega, by go_num, by rw [HE54.out, HE92.out]; exact HT3.out.swap, HB3.out⟩
          case measure => simp [intOf]; omega
      · obtain rfl : k = 64 := by omega
        have hl54 := Sh.length_mask (Sh.key K) 54 hlkey
        have hl92 := Sh.length_mask (Sh.key K) 92 hlkey
        have TW2 := TW.out
        rw [List.take_of_length_le (by omega), List.take_of_length_le (by omega)] at TW2
        have HTW := Lib.hid TW2
        have HW54 := Lib.hid (Sh.mask_W (Sh.key K) 54)
        have HW92 := Lib.hid (Sh.mask_W (Sh.key K) 92)
        have hmac : Hid (Sh.mac K M = Sh.sha (Sh.mask (Sh.key K) 92 ++ Sh.sha (Sh.mask (Sh.key K) 54 ++ M))) := rfl
        have HMW := Lib.hid ((HM.out.below HB.out (Nat.le_refl _)).below BW.out (by have := HB.out.size; omega))
        clear TW TW2
        cases am with
        | none =>
          obtain rfl : M = [] := by
            obtain ⟨_, _, hv, _, _, hm⟩ := HM.out
            rcases hm with hm | ⟨_, _, hb, _⟩
            · exact hm
            · cases hv; cases hb
          obtain ⟨a2, c2, rfl, hs2⟩ := slc_own HTW.out.1 HW54.out
          have hs2' : Slc wr (.slice a2 64 c2) (Sh.mask (Sh.key K) 54 ++ []) := by rw [List.append_nil]; exact hs2
          have HS2 := Lib.hid hs2'
          have HO2 := Lib.hid HTW.out.2.1
          have HB2 := Lib.hid BW.out
          have HOWN := Lib.hid HTW.out.1
          clear hs2 hs2'
          rw [List.length_nil]
          go_wp2_with (first
            | ((with_reducible refine append_none_cap (o := ⟨some 39, _, _, _, _, _⟩) rfl (.tmp 37) (.tmp 38) 22 rfl w1.heap.size 5 i0 1 Tryd.underlying22 hi (.slice a2 64 c2) 64 cm ((Sh.mask (Sh.key K) 54).map (Value.int .u8)) rfl ?_ rfl ?_); exact HOWN.out)
            | (go_at_call 10; refine (HSU.out _ _ _ HS4.out ?_).mono ?_; exact (by rw [List.length_append, hl92, Sh.length_sha]; omega); rintro e w5 ⟨a5, n5, c5, rfl, hs5, hb5, hf5⟩; have HS5 := Lib.hid hs5; have HF5 := Lib.hid (hf5.mono HB4.out.size); clear hf5; have HB5 := Lib.hid (HB4.out.trans (hb5.mono HB4.out.size)); clear hs5 hb5)
            | ((with_reducible refine wpList_append_own_at _ (o := ⟨some 41, _, _, _, _, _⟩) rfl (.tmp 36) (.tmp 40) 22 rfl w1.heap.size 5 i0 (.int .u8 0) 1 1 Tryd.underlying22 hi hz0 hz1 hz2 rfl ?_ u6 64 ((Sh.mask (Sh.key K) 92).map (Value.int .u8)) rfl ?_ ⟨b3, o3, none⟩ 32 c3 ((Sh.sha (Sh.mask (Sh.key K) 54 ++ [])).map (Value.int .u8)) rfl ?_ ?_ ?_ ?_ ?_ ?_ ?_); exact (by decide); exact HO3.out; exact (by rw [List.length_map, Sh.length_sha]); exact slc_src HS3.out; exact ints_oneCell _ _; exact (by unfold maxLen; omega); exact (by omega); exact HB3.out.size; intro v4 w4 hown4 hgr4 _ _; rw [← List.map_append] at hown4; obtain ⟨a4, c4, rfl, hs4⟩ := slc_own hown4 (by intro x hx; rcases List.mem_append.1 hx with h | h; exact HW92.out x h; exact Sh.sha_W _ x h); have HS4 := Lib.hid hs4; have HB4 := Lib.hid (below_two HB3.out HO3.out hgr4); clear hown4 hgr4 hs4)
            | (go_at_call 10; refine (HSU.out _ _ _ HS2.out ?_).mono ?_; exact (by rw [List.length_append, hl54]; omega); rintro e w3 ⟨a3, n3, c3, rfl, hs3, hb3, -⟩; have hn3 := slc_len hs3; rw [Sh.length_sha] at hn3; subst hn3; obtain ⟨b3, o3, rfl, -, -⟩ := slc_at hs3 0 (by omega); have HS3 := Lib.hid hs3; have HO3 := Lib.hid (own_kept8 HO2.out hb3); have HB3 := Lib.hid (HB2.out.trans (hb3.mono HB2.out.size)); clear hs3 hb3))
          go_ret
          refine ⟨_, _, _, rfl, ?_, HB.out.trans (HB5.out.mono HB.out.size), HF5.out.mono HB.out.size⟩
          rw [hmac.out]
          exact HS5.out
        | some ad =>
          go_wp2_with (first
            | ((with_reducible refine wpList_append_own_at _ (o := ⟨some 39, _, _, _, _, _⟩) rfl (.tmp 37) (.tmp 38) 22 rfl w1.heap.size 5 i0 (.int .u8 0) 1 1 Tryd.underlying22 hi hz0 hz1 hz2 rfl ?_ u5 64 ((Sh.mask (Sh.key K) 54).map (Value.int .u8)) rfl ?_ ad M.length cm (M.map (Value.int .u8)) rfl ?_ ?_ ?_ ?_ ?_ ?_ ?_); exact (by decide); exact HTW.out.1; exact (by rw [List.length_map, Nat.mul_one]); exact slc_src HMW.out; exact ints_oneCell _ _; exact (by unfold maxLen; omega); exact (by omega); exact BW.out.size; intro v2 w2 hown2 hgr2 _ hat2; rw [← List.map_append] at hown2; obtain ⟨a2, c2, rfl, hs2⟩ := slc_own hown2 (by intro x hx; rcases List.mem_append.1 hx with h | h; exact HW54.out x h; obtain ⟨_, _, _, _, h8, _⟩ := HM.out; exact h8 x h); have HO2 := Lib.hid (own_apart HTW.out.2.1 hgr2 (fun g hu hv => HTW.out.2.2 g hv hu)); have HS2 := Lib.hid hs2; have HB2 := Lib.hid (below_two BW.out HTW.out.1 hgr2); clear hown2 hgr2 hat2 hs2)
            | (go_at_call 10; refine (HSU.out _ _ _ HS4.out ?_).mono ?_; exact (by rw [List.length_append, hl92, Sh.length_sha]; omega); rintro e w5 ⟨a5, n5, c5, rfl, hs5, hb5, hf5⟩; have HS5 := Lib.hid hs5; have HF5 := Lib.hid (hf5.mono HB4.out.size); clear hf5; have HB5 := Lib.hid (HB4.out.trans (hb5.mono HB4.out.size)); clear hs5 hb5)
            | ((with_reducible refine wpList_append_own_at _ (o := ⟨some 41, _, _, _, _, _⟩) rfl (.tmp 36) (.tmp 40) 22 rfl w1.heap.size 5 i0 (.int .u8 0) 1 1 Tryd.underlying22 hi hz0 hz1 hz2 rfl ?_ u6 64 ((Sh.mask (Sh.key K) 92).map (Value.int .u8)) rfl ?_ ⟨b3, o3, none⟩ 32 c3 ((Sh.sha (Sh.mask (Sh.key K) 54 ++ M)).map (Value.int .u8)) rfl ?_ ?_ ?_ ?_ ?_ ?_ ?_); exact (by decide); exact HO3.out; exact (by rw [List.length_map, Sh.length_sha]); exact slc_src HS3.out; exact ints_oneCell _ _; exact (by unfold maxLen; omega); exact (by omega); exact HB3.out.size; intro v4 w4 hown4 hgr4 _ _; rw [← List.map_append] at hown4; obtain ⟨a4, c4, rfl, hs4⟩ := slc_own hown4 (by intro x hx; rcases List.mem_append.1 hx with h | h; exact HW92.out x h; exact Sh.sha_W _ x h); have HS4 := Lib.hid hs4; have HB4 := Lib.hid (below_two HB3.out HO3.out hgr4); clear hown4 hgr4 hs4)
            | (go_at_call 10; refine (HSU.out _ _ _ HS2.out ?_).mono ?_; exact (by rw [List.length_append, hl54]; omega); rintro e w3 ⟨a3, n3, c3, rfl, hs3, hb3, -⟩; have hn3 := slc_len hs3; rw [Sh.length_sha] at hn3; subst hn3; obtain ⟨b3, o3, rfl, -, -⟩ := slc_at hs3 0 (by omega); have HS3 := Lib.hid hs3; have HO3 := Lib.hid (own_kept8 HO2.out hb3); have HB3 := Lib.hid (HB2.out.trans (hb3.mono HB2.out.size)); clear hs3 hb3))
          go_ret
          refine ⟨_, _, _, rfl, ?_, HB.out.trans (HB5.out.mono HB.out.size), HF5.out.mono HB.out.size⟩
          rw [hmac.out]
          exact HS5.out
  · go_enter Tryd.func13, Tryd.ntmps13
    go_wp2_with fail
    have hkk : Sh.key K = K := by rw [hkey.out, if_neg hlt]
    have HQ : Hid (Slc w (.slice a0 K.length c0) (Sh.key K)) := by rw [hkk]; exact HKK
    have HB : Hid (Below w.heap.size w w) := Below.refl _ _
    have hn1 := Lib.hid (slc_len HQ.out)
    obtain ⟨i0, hi, hz0, hz1, hz2⟩ := info_parts info5
    have hn1 := Lib.hid (slc_len HQ.out)
    obtain ⟨i0, hi, hz0, hz1, hz2⟩ := info_parts info5
    have hn1 := Lib.hid (slc_len HQ.out)
    obtain ⟨i0, hi, hz0, hz1, hz2⟩ := info_parts info5
    go_loopw [5, 6, 7] (fun v u i wr => ∃ k : Nat, k ≤ 64 ∧ i = .int .i64 k ∧ Hid (Two wr w.heap.size v u k k ((Sh.mask (Sh.key K) 54).take k) ((Sh.mask (Sh.key K) 92).take k)) ∧ Hid (Below w.heap.size w wr)) (fun _ _ i _ => 64 - (intOf i).toNat)
    case atStart => exact ⟨0, Nat.zero_le _, rfl, ⟨⟨rfl, Or.inl ⟨rfl, rfl⟩⟩, ⟨rfl, Or.inl ⟨rfl, rfl⟩⟩, by simp [Value.ownBlock]⟩, Below.refl _ _⟩
    case round =>
      obtain ⟨k, hk, rfl, TW, BW⟩ := hrel
      by_cases hk64 : k < 64
      · have e54 := mask_take (Sh.key K) 54 k hk64 hlkey
        have e92 := mask_take (Sh.key K) 92 k hk64 hlkey
        by_cases hkn : k < K.length
        · obtain ⟨b1, o1, rfl, hb1, hcl⟩ := slc_at HQ.out k hkn
          have hcl' := (BW.out.cell (p := ⟨b1, o1 + k, none⟩) hb1).trans hcl
          rw [pad_low _ _ (by have := hn1.out; omega)] at e54 e92
          unfold Sh.x8 at e54 e92
          have HE54 := Lib.hid e54
          have HE92 := Lib.hid e92
          clear e54 e92 hcl
          generalize (Sh.key K).getD k 0 = x at *
          go_wp2_with (first
            | ((with_reducible refine wpList_append_own_at _ (o := ⟨some 30, _, _, _, _, _⟩) rfl (.tmp 26) (.tmp 29) 22 rfl w.heap.size 5 i0 (.int .u8 0) 1 1 Tryd.underlying22 hi hz0 hz1 hz2 rfl ?_ u5 k (((Sh.mask (Sh.key K) 54).take k).map (Value.int .u8)) rfl ?_ ⟨wr.heap.size, 0, none⟩ 1 1 [.int .u8 (bits .xor .u8 x 54)] rfl rfl ?_ ?_ ?_ ?_ ?_ ?_); exact (by decide); exact (TW.out.alloc _).1; exact (fun j u hu => by rw [Addr.add_mid, Nat.zero_add, cell_of_row _ _ _ _ 5 (0, 0) (heap_alloc_new wr _)]; simpa using hu); exact (fun u hu => by simp at hu; subst hu; rfl); exact (by unfold maxLen; omega); exact (by omega); exact (by have := BW.out.size; simp; omega); intro v2 w2 hown2 hgr2 _ hat2; have ht2 := Two.swap ((TW.out.alloc _).grow hown2 hgr2 hat2); have HT2 := Lib.hid ht2; have HB2 := Lib.hid (below_two (BW.out.alloc BW.out.size _) (TW.out.alloc _).1 hgr2); clear hown2 hgr2 hat2 ht2)
            | ((with_reducible refine wpList_append_own_at _ (o := ⟨some 35, _, _, _, _, _⟩) rfl (.tmp 31) (.tmp 34) 22 rfl w.heap.size 5 i0 (.int .u8 0) 1 1 Tryd.underlying22 hi hz0 hz1 hz2 rfl ?_ u6 k (((Sh.mask (Sh.key K) 92).take k).map (Value.int .u8)) rfl ?_ ⟨w2.heap.size, 0, none⟩ 1 1 [.int .u8 (bits .xor .u8 x 92)] rfl rfl ?_ ?_ ?_ ?_ ?_ ?_); exact (by decide); exact (HT2.out.alloc _).1; exact (fun j u hu => by rw [Addr.add_mid, Nat.zero_add, cell_of_row _ _ _ _ 5 (0, 0) (heap_alloc_new w2 _)]; simpa using hu); exact (fun u hu => by simp at hu; subst hu; rfl); exact (by unfold maxLen; omega); exact (by omega); exact (by have := HB2.out.size; simp; omega); intro v3 w3 hown3 hgr3 _ hat3; have HT3 := Lib.hid ((HT2.out.alloc _).grow hown3 hgr3 hat3); have HB3 := Lib.hid (below_two (HB2.out.alloc HB2.out.size _) (HT2.out.alloc _).1 hgr3); clear hown3 hgr3 hat3))
          go_roundw
          case rel => exact ⟨k + 1, by omega, by go_num, by rw [HE54.out, HE92.out]; exact HT3.out.swap, HB3.out⟩
          case measure => simp [intOf]; omega
        · rw [pad_high _ _ (by have := hn1.out; omega)] at e54 e92
          unfold Sh.x8 at e54 e92
          have HE54 := Lib.hid e54
          have HE92 := Lib.hid e92
          clear e54 e92
          go_wp2_with (first
            | ((with_reducible refine wpList_append_own_at _ (o := ⟨some 30, _, _, _, _, _⟩) rfl (.tmp 26) (.tmp 29) 22 rfl w.heap.size 5 i0 (.int .u8 0) 1 1 Tryd.underlying22 hi hz0 hz1 hz2 rfl ?_ u5 k (((Sh.mask (Sh.key K) 54).take k).map (Value.int .u8)) rfl ?_ ⟨wr.heap.size, 0, none⟩ 1 1 [.int .u8 (bits .xor .u8 0 54)] rfl rfl ?_ ?_ ?_ ?_ ?_ ?_); exact (by decide); exact (TW.out.alloc _).1; exact (fun j u hu => by rw [Addr.add_mid, Nat.zero_add, cell_of_row _ _ _ _ 5 (0, 0) (heap_alloc_new wr _)]; simpa using hu); exact (fun u hu => by simp at hu; subst hu; rfl); exact (by unfold maxLen; omega); exact (by omega); exact (by have := BW.out.size; simp; omega); intro v2 w2 hown2 hgr2 _ hat2; have ht2 := Two.swap ((TW.out.alloc _).grow hown2 hgr2 hat2); have HT2 := Lib.hid ht2; have HB2 := Lib.hid (below_two (BW.out.alloc BW.out.size _) (TW.out.alloc _).1 hgr2); clear hown2 hgr2 hat2 ht2)
            | ((with_reducible refine wpList_append_own_at _ (o := ⟨some 35, _, _, _, _, _⟩) rfl (.tmp 31) (.tmp 34) 22 rfl w.heap.size 5 i0 (.int .u8 0) 1 1 Tryd.underlying22 hi hz0 hz1 hz2 rfl ?_ u6 k (((Sh.mask (Sh.key K) 92).take k).map (Value.int .u8)) rfl ?_ ⟨w2.heap.size, 0, none⟩ 1 1 [.int .u8 (bits .xor .u8 0 92)] rfl rfl ?_ ?_ ?_ ?_ ?_ ?_); exact (by decide); exact (HT2.out.alloc _).1; exact (fun j u hu => by rw [Addr.add_mid, Nat.zero_add, cell_of_row _ _ _ _ 5 (0, 0) (heap_alloc_new w2 _)]; simpa using hu); exact (fun u hu => by simp at hu; subst hu; rfl); exact (by unfold maxLen; omega); exact (by omega); exact (by have := HB2.out.size; simp; omega); intro v3 w3 hown3 hgr3 _ hat3; have HT3 := Lib.hid ((HT2.out.alloc _).grow hown3 hgr3 hat3); have HB3 := Lib.hid (below_two (HB2.out.alloc HB2.out.size _) (HT2.out.alloc _).1 hgr3); clear hown3 hgr3 hat3))
          go_roundw
          case rel => exact ⟨k + 1, by omega, by go_num, by rw [HE54.out, HE92.out]; exact HT3.out.swap, HB3.out⟩
          case measure => simp [intOf]; omega
      · obtain rfl : k = 64 := by omega
        have hl54 := Sh.length_mask (Sh.key K) 54 hlkey
        have hl92 := Sh.length_mask (Sh.key K) 92 hlkey
        have TW2 := TW.out
        rw [List.take_of_length_le (by omega), List.take_of_length_le (by omega)] at TW2
        have HTW := Lib.hid TW2
        have HW54 := Lib.hid (Sh.mask_W (Sh.key K) 54)
        have HW92 := Lib.hid (Sh.mask_W (Sh.key K) 92)
        have hmac : Hid (Sh.mac K M = Sh.sha (Sh.mask (Sh.key K) 92 ++ Sh.sha (Sh.mask (Sh.key K) 54 ++ M))) := rfl
        have HMW := Lib.hid ((HM.out.below HB.out (Nat.le_refl _)).below BW.out (by have := HB.out.size; omega))
        clear TW TW2
        cases am with
        | none =>
          obtain rfl : M = [] := by
            obtain ⟨_, _, hv, _, _, hm⟩ := HM.out
            rcases hm with hm | ⟨_, _, hb, _⟩
            · exact hm
            · cases hv; cases hb
          obtain ⟨a2, c2, rfl, hs2⟩ := slc_own HTW.out.1 HW54.out
          have hs2' : Slc wr (.slice a2 64 c2) (Sh.mask (Sh.key K) 54 ++ []) := by rw [List.append_nil]; exact hs2
          have HS2 := Lib.hid hs2'
          have HO2 := Lib.hid HTW.out.2.1
          have HB2 := Lib.hid BW.out
          have HOWN := Lib.hid HTW.out.1
          clear hs2 hs2'
          rw [List.length_nil]
          go_wp2_with (first
            | ((with_reducible refine append_none_cap (o := ⟨some 39, _, _, _, _, _⟩) rfl (.tmp 37) (.tmp 38) 22 rfl w.heap.size 5 i0 1 Tryd.underlying22 hi (.slice a2 64 c2) 64 cm ((Sh.mask (Sh.key K) 54).map (Value.int .u8)) rfl ?_ rfl ?_); exact HOWN.out)
            | (go_at_call 10; refine (HSU.out _ _ _ HS4.out ?_).mono ?_; exact (by rw [List.length_append, hl92, Sh.length_sha]; omega); rintro e w5 ⟨a5, n5, c5, rfl, hs5, hb5, hf5⟩; have HS5 := Lib.hid hs5; have HF5 := Lib.hid (hf5.mono HB4.out.size); clear hf5; have HB5 := Lib.hid (HB4.out.trans (hb5.mono HB4.out.size)); clear hs5 hb5)
            | ((with_reducible refine wpList_append_own_at _ (o := ⟨some 41, _, _, _, _, _⟩) rfl (.tmp 36) (.tmp 40) 22 rfl w.heap.size 5 i0 (.int .u8 0) 1 1 Tryd.underlying22 hi hz0 hz1 hz2 rfl ?_ u6 64 ((Sh.mask (Sh.key K) 92).map (Value.int .u8)) rfl ?_ ⟨b3, o3, none⟩ 32 c3 ((Sh.sha (Sh.mask (Sh.key K) 54 ++ [])).map (Value.int .u8)) rfl ?_ ?_ ?_ ?_ ?_ ?_ ?_); exact (by decide); exact HO3.out; exact (by rw [List.length_map, Sh.length_sha]); exact slc_src HS3.out; exact ints_oneCell _ _; exact (by unfold maxLen; omega); exact (by omega); exact HB3.out.size; intro v4 w4 hown4 hgr4 _ _; rw [← List.map_append] at hown4; obtain ⟨a4, c4, rfl, hs4⟩ := slc_own hown4 (by intro x hx; rcases List.mem_append.1 hx with h | h; exact HW92.out x h; exact Sh.sha_W _ x h); have HS4 := Lib.hid hs4; have HB4 := Lib.hid (below_two HB3.out HO3.out hgr4); clear hown4 hgr4 hs4)
            | (go_at_call 10; refine (HSU.out _ _ _ HS2.out ?_).mono ?_; exact (by rw [List.length_append, hl54]; omega); rintro e w3 ⟨a3, n3, c3, rfl, hs3, hb3, -⟩; have hn3 := slc_len hs3; rw [Sh.length_sha] at hn3; subst hn3; obtain ⟨b3, o3, rfl, -, -⟩ := slc_at hs3 0 (by omega); have HS3 := Lib.hid hs3; have HO3 := Lib.hid (own_kept8 HO2.out hb3); have HB3 := Lib.hid (HB2.out.trans (hb3.mono HB2.out.size)); clear hs3 hb3))
          go_ret
          refine ⟨_, _, _, rfl, ?_, HB.out.trans (HB5.out.mono HB.out.size), HF5.out.mono HB.out.size⟩
          rw [hmac.out]
          exact HS5.out
        | some ad =>
          go_wp2_with (first
            | ((with_reducible refine wpList_append_own_at _ (o := ⟨some 39, _, _, _, _, _⟩) rfl (.tmp 37) (.tmp 38) 22 rfl w.heap.size 5 i0 (.int .u8 0) 1 1 Tryd.underlying22 hi hz0 hz1 hz2 rfl ?_ u5 64 ((Sh.mask (Sh.key K) 54).map (Value.int .u8)) rfl ?_ ad M.length cm (M.map (Value.int .u8)) rfl ?_ ?_ ?_ ?_ ?_ ?_ ?_); exact (by decide); exact HTW.out.1; exact (by rw [List.length_map, Nat.mul_one]); exact slc_src HMW.out; exact ints_oneCell _ _; exact (by unfold maxLen; omega); exact (by omega); exact BW.out.size; intro v2 w2 hown2 hgr2 _ hat2; rw [← List.map_append] at hown2; obtain ⟨a2, c2, rfl, hs2⟩ := slc_own hown2 (by intro x hx; rcases List.mem_append.1 hx with h | h; exact HW54.out x h; obtain ⟨_, _, _, _, h8, _⟩ := HM.out; exact h8 x h); have HO2 := Lib.hid (own_apart HTW.out.2.1 hgr2 (fun g hu hv => HTW.out.2.2 g hv hu)); have HS2 := Lib.hid hs2; have HB2 := Lib.hid (below_two BW.out HTW.out.1 hgr2); clear hown2 hgr2 hat2 hs2)
            | (go_at_call 10; refine (HSU.out _ _ _ HS4.out ?_).mono ?_; exact (by rw [List.length_append, hl92, Sh.length_sha]; omega); rintro e w5 ⟨a5, n5, c5, rfl, hs5, hb5, hf5⟩; have HS5 := Lib.hid hs5; have HF5 := Lib.hid (hf5.mono HB4.out.size); clear hf5; have HB5 := Lib.hid (HB4.out.trans (hb5.mono HB4.out.size)); clear hs5 hb5)
            | ((with_reducible refine wpList_append_own_at _ (o := ⟨some 41, _, _, _, _, _⟩) rfl (.tmp 36) (.tmp 40) 22 rfl w.heap.size 5 i0 (.int .u8 0) 1 1 Tryd.underlying22 hi hz0 hz1 hz2 rfl ?_ u6 64 ((Sh.mask (Sh.key K) 92).map (Value.int .u8)) rfl ?_ ⟨b3, o3, none⟩ 32 c3 ((Sh.sha (Sh.mask (Sh.key K) 54 ++ M)).map (Value.int .u8)) rfl ?_ ?_ ?_ ?_ ?_ ?_ ?_); exact (by decide); exact HO3.out; exact (by rw [List.length_map, Sh.length_sha]); exact slc_src HS3.out; exact ints_oneCell _ _; exact (by unfold maxLen; omega); exact (by omega); exact HB3.out.size; intro v4 w4 hown4 hgr4 _ _; rw [← List.map_append] at hown4; obtain ⟨a4, c4, rfl, hs4⟩ := slc_own hown4 (by intro x hx; rcases List.mem_append.1 hx with h | h; exact HW92.out x h; exact Sh.sha_W _ x h); have HS4 := Lib.hid hs4; have HB4 := Lib.hid (below_two HB3.out HO3.out hgr4); clear hown4 hgr4 hs4)
            | (go_at_call 10; refine (HSU.out _ _ _ HS2.out ?_).mono ?_; exact (by rw [List.length_append, hl54]; omega); rintro e w3 ⟨a3, n3, c3, rfl, hs3, hb3, -⟩; have hn3 := slc_len hs3; rw [Sh.length_sha] at hn3; subst hn3; obtain ⟨b3, o3, rfl, -, -⟩ := slc_at hs3 0 (by omega); have HS3 := Lib.hid hs3; have HO3 := Lib.hid (own_kept8 HO2.out hb3); have HB3 := Lib.hid (HB2.out.trans (hb3.mono HB2.out.size)); clear hs3 hb3))
          go_ret
          refine ⟨_, _, _, rfl, ?_, HB.out.trans (HB5.out.mono HB.out.size), HF5.out.mono HB.out.size⟩
          rw [hmac.out]
          exact HS5.out
end Go.Proofs.YtiodmmjjoodmoaaDoor
