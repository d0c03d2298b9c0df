/- Layer 2, the walks: the code of parts by a key. -/
import Derived.Test.YtiodmmjjoodmoaaDoorK
namespace Go.Proofs.YtiodmmjjoodmoaaDoor
open Go.RowKit

theorem slc_of {w : World} {go : Nat} {t : TypeId} {l : List Int} {n c : Nat} (h : Blk w go .u8 t l) (hl : l.length = n) (hc : n ≤ c) (h8 : ∀ x ∈ l, Sh.W8 x) : Slc w (.slice (some ⟨go, 0, none⟩) n c) l :=
  ⟨_, c, by rw [hl], by omega, h8, Or.inr ⟨go, 0, rfl, h.lt, h.at⟩⟩
theorem Blk.below {w w' : World} {B g : Nat} {k : IntKind} {t : TypeId} {l : List Int} (h : Blk w g k t l) (hb : Below B w w') (hg : g < B) : Blk w' g k t l := h.other (hb.block g hg)

namespace Sh
theorem outW_W (x : Int) (h : W32 x) : ∀ y ∈ outW x, W8 y := by
  intro y hy
  obtain ⟨h0, h1⟩ := h
  unfold outW at hy
  simp only [List.mem_cons, List.not_mem_nil, or_false] at hy
  unfold W8
  rcases hy with rfl | rfl | rfl | rfl <;> omega
theorem sha_W (l : List Int) : ∀ y ∈ sha l, W8 y := by
  intro y hy
  unfold sha out at hy
  rw [List.mem_flatMap] at hy
  obtain ⟨x, hx, hy⟩ := hy
  refine outW_W x ?_ y hy
  obtain ⟨ha, hb, hc, hd, he, hf, hg, hh⟩ : (stOf (l ++ pad l.length)).ok := blocks_ok _ _ _ H0_ok
  simp only [S.cells, List.mem_cons, List.not_mem_nil, or_false] at hx
  rcases hx with rfl | rfl | rfl | rfl | rfl | rfl | rfl | rfl <;> assumption
theorem length_sha (l : List Int) : (sha l).length = 32 := by simp [sha, out, S.cells, outW]
/-- The key that is masked. -/
def key (K : List Int) : List Int := if 64 < K.length then sha K else K
/-- HMAC. -/
def mac (K L : List Int) : List Int := sha (mask (key K) 92 ++ sha (mask (key K) 54 ++ L))
theorem length_key (K : List Int) : (key K).length ≤ 64 := by
  unfold key; split
  · rw [length_sha]; omega
  · omega
end Sh

theorem parts_one {w w' : World} {g : Nat} {t : TypeId} {v : Value} {P : List Int} (h : w.heap[g]? = some (.cells #[v] t (0, 0))) (hs : Slc w v P) (hw : w' = w) : Parts w' (.slice (some ⟨g, 0, none⟩) 1 1) [P] := by
  subst hw
  refine ⟨_, 1, rfl, by simp, Or.inr ⟨g, 0, rfl, lt_of_block h, ?_⟩⟩
  intro j hj
  obtain rfl : j = 0 := by simpa using hj
  exact ⟨v, by rw [cell_of_row _ _ _ _ t (0, 0) h]; rfl, hs⟩

theorem slc_mask {w : World} {go : Nat} {K : List Int} {m : Int} (hK : K.length ≤ 64) (h : Blk w go .u8 46 (Sh.mask K m)) : Slc w (.slice (some ⟨go, 0, none⟩) 64 64) (Sh.mask K m) :=
  slc_of h (Sh.length_mask K m hK) (Nat.le_refl _) (Sh.mask_W K m)
theorem slc_sha {w : World} {go : Nat} {L : List Int} (h : Blk w go .u8 5 (Sh.sha L)) : Slc w (.slice (some ⟨go, 0, none⟩) 32 32) (Sh.sha L) :=
  slc_of h (Sh.length_sha L) (Nat.le_refl _) (Sh.sha_W L)

/-- The calls behind the key's one block, one behind the other. -/
theorem mac_steps (w : World) (vk vp : Value) (K : List Int) (ls : List (List Int)) (hK : Slc w vk K) (hk : K.length ≤ 64) (hP : Parts w vp ls) (hlen : ls.flatten.length ≤ 1099511627776) (ht : Tab w) :
    Calls Tryd.prog 20 #[vk, .int .u8 92] w fun e w1 => ∃ g1, e = .returned (.slice (some ⟨g1, 0, none⟩) 64 64) ∧
      Calls Tryd.prog 20 #[vk, .int .u8 54] w1 fun e w2 => ∃ g2, e = .returned (.slice (some ⟨g2, 0, none⟩) 64 64) ∧
        Calls Tryd.prog 17 #[.slice (some ⟨g2, 0, none⟩) 64 64, vp] w2 fun e w3 => ∃ g3, e = .returned (.slice (some ⟨g3, 0, none⟩) 32 32) ∧
          Calls Tryd.prog 17 #[.slice (some ⟨g1, 0, none⟩) 64 64, .slice (some ⟨w3.heap.size, 0, none⟩) 1 1] (w3.alloc (.cells #[.slice (some ⟨g3, 0, none⟩) 32 32] 22)) fun e w5 =>
            ∃ go, e = .returned (.slice (some ⟨go, 0, none⟩) 32 32) ∧ Blk w5 go .u8 5 (Sh.sha (Sh.mask K 92 ++ Sh.sha (Sh.mask K 54 ++ ls.flatten))) ∧ w.heap.size ≤ go ∧ Below w.heap.size w w5 := by
  refine (masked_any w vk K 92 hK hk).mono ?_
  rintro e w1 ⟨g1, rfl, hb1, hg1, ho1⟩
  refine ⟨g1, rfl, ?_⟩
  refine (masked_any w1 vk K 54 (hK.below ho1 (Nat.le_refl _)) hk).mono ?_
  rintro e w2 ⟨g2, rfl, hb2, hg2, ho2⟩
  refine ⟨g2, rfl, ?_⟩
  have ho2' : Below w.heap.size w w2 := ho1.trans (ho2.mono ho1.size)
  have hl54 := Sh.length_mask K 54 hk
  have hl92 := Sh.length_mask K 92 hk
  refine (sumAfter_any w2 _ vp (Sh.mask K 54) ls (slc_mask hk hb2) (hP.below ho2' (Nat.le_refl _)) (by omega) (ht.below ho2' ht.1)).mono ?_
  rintro e w3 ⟨g3, rfl, hb3, hg3, ho3⟩
  refine ⟨g3, rfl, ?_⟩
  have ho3' : Below w.heap.size w w3 := ho2'.trans (ho3.mono ho2'.size)
  have hB1 : Blk w3 g1 .u8 46 (Sh.mask K 92) := (hb1.below ho2 hb1.lt).below ho3 (Nat.lt_of_lt_of_le hb1.lt ho2.size)
  have ho4 : Below w3.heap.size w3 (w3.alloc (.cells #[.slice (some ⟨g3, 0, none⟩) 32 32] 22)) := (Below.refl _ _).alloc (Nat.le_refl _) _
  have ho4' : Below w.heap.size w (w3.alloc (.cells #[.slice (some ⟨g3, 0, none⟩) 32 32] 22)) := ho3'.trans (ho4.mono ho3'.size)
  have hl32 := Sh.length_sha (Sh.mask K 54 ++ ls.flatten)
  have hp := parts_one (w := w3.alloc (.cells #[.slice (some ⟨g3, 0, none⟩) 32 32] 22)) (heap_alloc_new w3 _) ((slc_sha hb3).below ho4 (Nat.le_refl _)) rfl
  refine (sumAfter_any _ _ _ (Sh.mask K 92) [Sh.sha (Sh.mask K 54 ++ ls.flatten)] (slc_mask hk (hB1.below ho4 hB1.lt)) hp (by rw [List.flatten_singleton]; omega) (ht.below ho4' ht.1)).mono ?_
  rintro e w5 ⟨g5, rfl, hb5, hg5, ho5⟩
  refine ⟨g5, rfl, ?_, Nat.le_trans ho4'.size hg5, ho4'.trans (ho5.mono ho4'.size)⟩
  rw [List.flatten_singleton] at hb5
  exact hb5

set_option maxRecDepth 100000 in
set_option maxHeartbeats 400000 in
theorem mac_any (w : World) (vk vp : Value) (K : List Int) (ls : List (List Int)) (hK : Slc w vk K) (hP : Parts w vp ls) (hlk : K.length ≤ 1099511627776) (hlen : ls.flatten.length ≤ 1099511627776) (ht : Tab w) :
    Calls Tryd.prog 11 #[vk, vp] w fun e w' => ∃ go, e = .returned (.slice (some ⟨go, 0, none⟩) 32 32) ∧ Blk w' go .u8 5 (Sh.mac K ls.flatten) ∧ w.heap.size ≤ go ∧ Below w.heap.size w w' := by
  obtain ⟨a, cap, rfl, hc, -⟩ := id hK
  have hmac : Sh.mac K ls.flatten = Sh.sha (Sh.mask (Sh.key K) 92 ++ Sh.sha (Sh.mask (Sh.key K) 54 ++ ls.flatten)) := rfl
  by_cases hlt : 64 < K.length
  · have hkk : Sh.key K = Sh.sha K := if_pos hlt
    have ho4 : Below w.heap.size w (w.alloc (.cells #[.slice a K.length cap] 22)) := (Below.refl _ _).alloc (Nat.le_refl _) _
    have hp := parts_one (w := w.alloc (.cells #[.slice a K.length cap] 22)) (heap_alloc_new w _) (hK.below ho4 (Nat.le_refl _)) rfl
    have hs := sum_any _ _ [K] hp (by rw [List.flatten_singleton]; omega) (ht.below ho4 ht.1)
    have HS := Lib.hid hs
    have HO := Lib.hid ho4
    have HP := Lib.hid hP
    have HT := Lib.hid ht
    have HM := Lib.hid hmac
    have HKK := Lib.hid hkk
    clear hs hp ho4 hP ht hmac hkk hK
    go_enter Tryd.func11, Tryd.ntmps11
    go_wp2_with (first
      | (go_at_call 17; refine H3.out.mono ?_; rintro e w5 ⟨g5, rfl, h5, h6, h7⟩; have H5 := Lib.hid h5; have H6 := Lib.hid h6; have H7 := Lib.hid h7; clear h5 h6 h7)
      | (go_at_call 17; refine H2.out.mono ?_; rintro e w3 ⟨g3, rfl, h3⟩; have H3 := Lib.hid h3; clear h3)
      | (go_at_call 20; refine H1.out.mono ?_; rintro e w2 ⟨g2, rfl, h2⟩; have H2 := Lib.hid h2; clear h2)
      | (go_at_call 20; refine HST.out.mono ?_; rintro e w1 ⟨g1, rfl, h1⟩; have H1 := Lib.hid h1; clear h1)
      | (go_at_call 9; refine HS.out.mono ?_; rintro e w0 ⟨g0, rfl, hb0, hg0, ho0⟩; have HO0 := Lib.hid (HO.out.trans (ho0.mono HO.out.size)); clear ho0 hg0; rw [List.flatten_singleton] at hb0; have HST := Lib.hid (mac_steps w0 _ _ (Sh.sha K) _ (slc_sha hb0) (by rw [Sh.length_sha]; omega) (HP.out.below HO0.out (Nat.le_refl _)) hlen (HT.out.below HO0.out HT.out.1)); clear hb0))
    go_ret
    exact ⟨g5, rfl, by rw [HM.out, HKK.out]; exact H5.out, Nat.le_trans HO0.out.size H6.out, HO0.out.trans (H7.out.mono HO0.out.size)⟩
  · have hkk : Sh.key K = K := if_neg hlt
    have hst := mac_steps w _ _ K _ hK (by omega) hP hlen ht
    have HST := Lib.hid hst
    have HM := Lib.hid hmac
    have HKK := Lib.hid hkk
    clear hst hP ht hmac hkk hK
    go_enter Tryd.func11, Tryd.ntmps11
    go_wp2_with (first
      | (go_at_call 17; refine H3.out.mono ?_; rintro e w5 ⟨g5, rfl, h5, h6, h7⟩; have H5 := Lib.hid h5; have H6 := Lib.hid h6; have H7 := Lib.hid h7; clear h5 h6 h7)
      | (go_at_call 17; refine H2.out.mono ?_; rintro e w3 ⟨g3, rfl, h3⟩; have H3 := Lib.hid h3; clear h3)
      | (go_at_call 20; refine H1.out.mono ?_; rintro e w2 ⟨g2, rfl, h2⟩; have H2 := Lib.hid h2; clear h2)
      | (go_at_call 20; refine HST.out.mono ?_; rintro e w1 ⟨g1, rfl, h1⟩; have H1 := Lib.hid h1; clear h1))
    go_ret
    exact ⟨g5, rfl, by rw [HM.out, HKK.out]; exact H5.out, H6.out, H7.out⟩
end Go.Proofs.YtiodmmjjoodmoaaDoor
