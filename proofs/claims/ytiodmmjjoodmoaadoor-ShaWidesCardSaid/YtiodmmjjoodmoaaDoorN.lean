/- Layer 2, the walks: 64 bytes of parts. -/
import Derived.Test.YtiodmmjjoodmoaaDoorL
namespace Go.Proofs.YtiodmmjjoodmoaaDoor
open Go.RowKit

namespace Sh
def wide (L : List Int) : List Int := sha (0 :: L) ++ sha (1 :: L)
end Sh

theorem slc_byte (w w' : World) (x : Int) (hx : Sh.W8 x) (hw : w' = w.alloc (.cells #[.int .u8 x] 5)) : Slc w' (.slice (some ⟨w.heap.size, 0, none⟩) 1 1) [x] := by
  subst hw
  have hb : Blk (w.alloc (.cells #[.int .u8 x] 5)) w.heap.size .u8 5 [x] := heap_alloc_new w _
  exact slc_of hb rfl (Nat.le_refl _) (by simpa using hx)

/-- The two sums, one behind the other. -/
theorem wide_steps (w : World) (vp : Value) (ls : List (List Int)) (hP : Parts w vp ls) (hlen : ls.flatten.length ≤ 1099511627776) (ht : Tab w) :
    Calls Tryd.prog 17 #[.slice (some ⟨w.heap.size, 0, none⟩) 1 1, vp] (w.alloc (.cells #[.int .u8 0] 5)) fun e w1 => ∃ g1, e = .returned (.slice (some ⟨g1, 0, none⟩) 32 32) ∧
      Calls Tryd.prog 17 #[.slice (some ⟨w1.heap.size, 0, none⟩) 1 1, vp] (w1.alloc (.cells #[.int .u8 1] 5)) fun e w2 => ∃ g2, e = .returned (.slice (some ⟨g2, 0, none⟩) 32 32) ∧
        Blk w2 g1 .u8 5 (Sh.sha (0 :: ls.flatten)) ∧ Blk w2 g2 .u8 5 (Sh.sha (1 :: ls.flatten)) ∧ w.heap.size ≤ g1 ∧ Below w.heap.size w w2 := by
  have ho0 : Below w.heap.size w (w.alloc (.cells #[.int .u8 0] 5)) := (Below.refl _ _).alloc (Nat.le_refl _) _
  refine (sumAfter_any _ _ vp [0] ls (slc_byte w _ 0 (by unfold Sh.W8; omega) rfl) (hP.below ho0 (Nat.le_refl _)) (by simp only [List.length_singleton]; omega) (ht.below ho0 ht.1)).mono ?_
  rintro e w1 ⟨g1, rfl, hb1, hg1, ho1⟩
  refine ⟨g1, rfl, ?_⟩
  have ho1' : Below w.heap.size w w1 := ho0.trans (ho1.mono ho0.size)
  have ho2 : Below w1.heap.size w1 (w1.alloc (.cells #[.int .u8 1] 5)) := (Below.refl _ _).alloc (Nat.le_refl _) _
  have ho2' : Below w.heap.size w (w1.alloc (.cells #[.int .u8 1] 5)) := ho1'.trans (ho2.mono ho1'.size)
  refine (sumAfter_any _ _ vp [1] ls (slc_byte w1 _ 1 (by unfold Sh.W8; omega) rfl) (hP.below ho2' (Nat.le_refl _)) (by simp only [List.length_singleton]; omega) (ht.below ho2' ht.1)).mono ?_
  rintro e w2 ⟨g2, rfl, hb2, hg2, ho3⟩
  refine ⟨g2, rfl, ?_, hb2, Nat.le_trans ho0.size hg1, ho2'.trans (ho3.mono ho2'.size)⟩
  have hb1' := hb1.below ho2 hb1.lt
  exact hb1'.below ho3 hb1'.lt

/-- What is owned: where it lies. -/
theorem own_lies {w : World} {base n : Nat} {v : Value} {l : List Int} (h : w.ownsRow base 5 1 v n (l.map (Value.int .u8))) (hn : l.length = n) (h0 : 0 < n) :
    ∃ g cap, v = .slice (some ⟨g, 0, none⟩) n cap ∧ n ≤ cap ∧ At w .u8 g 0 l ∧ base ≤ g ∧ g < w.heap.size := by
  obtain ⟨_, h2⟩ := h
  rcases h2 with ⟨_, h⟩ | ⟨g, cap, cur, hv, hb, hg, hc, _, hs, ht⟩
  · omega
  · refine ⟨g, cap, hv, hc, ?_, hb, lt_of_block hg⟩
    intro j hj
    rw [Nat.zero_add, cell_of_row w g j _ 5 (0, 0) hg]
    have e : (cur.toList.take (n * 1))[j]? = some (.int .u8 (l.getD j 0)) := by rw [ht]; simp [hj]
    rw [List.getElem?_take_of_lt (by omega)] at e
    simpa using e
theorem length_wide (L : List Int) : (Sh.wide L).length = 64 := by simp [Sh.wide, Sh.length_sha]

set_option maxRecDepth 100000 in
set_option maxHeartbeats 400000 in
theorem wide_any (w : World) (vp : Value) (ls : List (List Int)) (hP : Parts w vp ls) (hlen : ls.flatten.length ≤ 1099511627776) (ht : Tab w) :
    Calls Tryd.prog 12 #[vp] w fun e w' => ∃ go, e = .returned (.slice (some ⟨go, 0, none⟩) 64 64) ∧ At w' .u8 go 0 (Sh.wide ls.flatten) ∧ go < w'.heap.size ∧ Below w.heap.size w w' := by
  have hst := wide_steps w vp ls hP hlen ht
  have HST := Lib.hid hst
  obtain ⟨i0, hi, hz0, hz1, hz2⟩ := info_parts info5
  have hw : Hid (Sh.wide ls.flatten = Sh.sha (0 :: ls.flatten) ++ Sh.sha (1 :: ls.flatten)) := rfl
  have hl0 : Hid ((Sh.sha (0 :: ls.flatten)).length = 32) := Sh.length_sha _
  have hl1 : Hid ((Sh.sha (1 :: ls.flatten)).length = 32) := Sh.length_sha _
  clear hst hP ht
  generalize Sh.wide ls.flatten = W at *
  generalize Sh.sha (0 :: ls.flatten) = A at *
  generalize Sh.sha (1 :: ls.flatten) = B at *
  go_enter Tryd.func12, Tryd.ntmps12
  go_wp2_with (first
    | (go_at_call 17; refine H1.out.mono ?_; rintro e w2 ⟨g2, rfl, h2, h3, h4, h5⟩; have H2 := Lib.hid (src_of_at h2.at); have H3 := Lib.hid (src_of_at h3.at); have H5 := Lib.hid h5; clear h2 h3 h4 h5)
    | (go_at_call 17; refine HST.out.mono ?_; rintro e w1 ⟨g1, rfl, h1⟩; have H1 := Lib.hid h1; clear h1)
    | ((with_reducible refine wpList_append_grows _ (o := ⟨some 10, _, _, _, _, _⟩) rfl (.tmp 6) (.tmp 9) 22 rfl 5 i0 (.int .u8 0) 1 1 Tryd.underlying22 hi hz0 hz1 hz2 rfl (by decide) (some ⟨g1, 0, none⟩) 32 32 (A.map (Value.int .u8)) rfl ?_ ?_ ?_ ⟨g2, 0, none⟩ 32 32 (B.map (Value.int .u8)) rfl ?_ ?_ ?_ ?_ ?_ ?_ ?_); exact (fun h => by cases h); exact (by rw [List.length_map, hl0.out]); exact (fun b hb => by cases hb; exact H2.out); exact (by rw [List.length_map, hl1.out]); exact H3.out; exact ints_oneCell _ _; exact (by decide); exact (by unfold maxLen; omega); exact (by omega); rintro v3 w3 hown hgr; rw [← List.map_append] at hown; obtain ⟨g3, cap3, rfl, hc3, hat3, hb3, hlt3⟩ := own_lies hown (by rw [List.length_append, hl0.out, hl1.out]) (by omega); have HAT := Lib.hid hat3; have HGR := Lib.hid hgr; clear hown hat3 hgr hb3))
  go_ret
  exact ⟨g3, rfl, by rw [hw.out]; exact HAT.out, hlt3, H5.out.trans ⟨HGR.out.os, HGR.out.tape, HGR.out.output, HGR.out.size, fun k hk => HGR.out.block k (Nat.lt_of_lt_of_le hk H5.out.size) (by simp)⟩⟩
end Go.Proofs.YtiodmmjjoodmoaaDoor
