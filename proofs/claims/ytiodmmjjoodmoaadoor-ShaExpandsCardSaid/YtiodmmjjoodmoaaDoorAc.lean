/- Layer 2, the walks: expand, whatever is asked. -/
import Derived.Test.YtiodmmjjoodmoaaDoorAa
namespace Go.Proofs.YtiodmmjjoodmoaaDoor
open Go.RowKit

set_option maxRecDepth 100000 in
set_option maxHeartbeats 400000 in
theorem expand_top (w : World) (vk vi : Value) (K I : List Int) (z : Int) (n : Nat) (hz : 8160 < z) (hna : 8160 ≤ n) (hnb : n ≤ 8160) (hK : Slc w vk K) (hI : Slc w vi I) (hlk : K.length ≤ 1099511627776) (hli : I.length ≤ 1000000) (ht : Tab w) :
    Calls Tryd.prog 15 #[vk, vi, .int .i64 z] w fun e w' => ∃ go, e = .returned (.slice (some ⟨go, 0, none⟩) n n) ∧ At w' .u8 go 0 ((Sh.expand K I 255).take n) ∧ go < w'.heap.size ∧ Below w.heap.size w w' := by
  have HK := Lib.hid hK
  have HI := Lib.hid hI
  have HT := Lib.hid ht
  obtain ⟨ak, ck, rfl, -⟩ := id hK
  obtain ⟨ai, ci, rfl, -⟩ := id hI
  clear hK hI ht
  obtain ⟨i0, hi, hz0, hz1, hz2⟩ := info_parts info5
  obtain ⟨w0, hmk0, hown, hgr⟩ := run_make_own (P := Tryd.prog) w w.heap.size 22 5 i0 (.int .u8 0) 1 Tryd.underlying22 hi hz0 hz1 .i64 .i64 (n + 31) (by rw [hz2]; omega) (by unfold maxLen; omega) (Nat.le_refl _)
  have hmk : (Instr.makeSlice 22 (.int .i64 0) (.int .i64 8191)).run Tryd.prog w = .ok (.slice (some ⟨w.heap.size, 0, none⟩) 0 (n + 31)) w0 := by
    rw [show (8191 : Int) = ((n + 31 : Nat) : Int) by omega]; exact hmk0
  have hb0 : Hid (Below w.heap.size w w0) := ⟨hgr.os, hgr.tape, hgr.output, hgr.size, fun i hi => hgr.block i hi (by simp)⟩
  have HOWN := Lib.hid hown
  clear hmk0 hown hgr
  go_enter Tryd.func15, Tryd.ntmps15
  go_wp2_with fail
  clear hmk
  go_loopw [7, 8, 9] (fun v y i wr => ∃ (j : Nat) (ap : Option Addr) (np cp : Nat), j ≤ 255 ∧ 32 * j ≤ n + 31 ∧ v = .slice (some ⟨w.heap.size, 0, none⟩) (32 * j) (n + 31) ∧ y = .slice ap np cp ∧ i = .int .u8 (((j : Int) + 1) % 256) ∧ Hid (Slc wr (.slice ap np cp) (Sh.pieces K I j)) ∧ Hid (wr.ownsRow w.heap.size 5 1 (.slice (some ⟨w.heap.size, 0, none⟩) (32 * j) (n + 31)) (32 * j) ((Sh.expand K I j).map (Value.int .u8))) ∧ Hid (Below w.heap.size w wr)) (fun v _ _ _ => match v with | .slice _ k _ => n + 31 - k | _ => 0)
  case atStart => exact ⟨0, none, 0, 0, by omega, by omega, rfl, rfl, rfl, Slc.nil _, HOWN, hb0⟩
  case round =>
    clear hb0 HOWN
    obtain ⟨j, ap, np, cp, hj, hjn, rfl, rfl, rfl, PC, OW, BW⟩ := hrel
    by_cases hlt : 32 * j < n
    · have hj2 : j < 255 := by omega
      have hm : ((j : Int) + 1) % 256 = (j : Int) + 1 := by omega
      rw [hm]
      clear hm
      have hst := piece_step wr _ _ K I j ap np cp (HK.out.below BW.out (Nat.le_refl _)) (HI.out.below BW.out (Nat.le_refl _)) PC.out hlk hli (HT.out.below BW.out HT.out.1) hj2
      have HST := Lib.hid hst
      have hex : (Sh.expand K I (j + 1)) = Sh.expand K I j ++ Sh.pieces K I (j + 1) := rfl
      have HEX := Lib.hid hex
      have hlp : Hid ((Sh.pieces K I (j + 1)).length = 32) := length_mac _ _
      have hw8 : Hid (∀ x ∈ Sh.pieces K I (j + 1), Sh.W8 x) := pieces_W K I (j + 1)
      clear hst hex PC HK HI HT
      generalize hpq : Sh.pieces K I (j + 1) = Q at *
      have HPQ := Lib.hid hpq
      clear hpq
      go_wp2_with (first
        | (go_at_call 11; refine HST.out.mono ?_; rintro e w2 ⟨g2, rfl, h2, hg2, h3⟩; have H2 := Lib.hid h2; have HG2 := Lib.hid hg2; have H3 := Lib.hid h3; have HO2 := Lib.hid (own_kept8 OW.out h3); clear h2 h3 hg2)
        | ((with_reducible refine wpList_append_fits _ (o := ⟨some 33, _, _, _, _, _⟩) rfl (.tmp 31) (.tmp 32) 22 rfl w.heap.size 5 i0 1 Tryd.underlying22 hi hz1 w.heap.size (32 * j) (n + 31) ((Sh.expand K I j).map (Value.int .u8)) rfl HO2.out ⟨g2, 0, none⟩ 32 32 (Q.map (Value.int .u8)) rfl ?_ ?_ ?_ ?_ ?_); exact (by rw [List.length_map, hlp.out]); exact src_of_at H2.out.at; exact ints_oneCell _ _; exact (by omega); intro w3 hown3 hgr3; have HW3 := Lib.hid hown3; have HG3 := Lib.hid hgr3; clear hown3 hgr3))
      go_roundw
      case rel =>
        obtain ⟨g, cap, hv, _, _, _, hlt2⟩ : ∃ g cap, Value.slice (some ⟨w.heap.size, 0, none⟩) (32 * j) (n + 31) = .slice (some ⟨g, 0, none⟩) (32 * j) cap ∧ True ∧ True ∧ True ∧ g < wr.heap.size := by
          rcases OW.out.2 with ⟨h, _⟩ | ⟨g, cap, cur, h, _, hat, _⟩
          · cases h
          · exact ⟨g, cap, h, trivial, trivial, trivial, lt_of_block hat⟩
        cases hv
        have hne : g2 ≠ w.heap.size := by have := HG2.out; omega
        have hb3 : Below w.heap.size w w3 := BW.out.trans ((H3.out.mono BW.out.size).trans ⟨HG3.out.os, HG3.out.tape, HG3.out.output, HG3.out.size, fun i hi => HG3.out.block i (by have h1 := BW.out.size; have h2 := H3.out.size; omega) (by intro hh; cases hh; omega)⟩)
        have hq : Blk w3 g2 .u8 5 Q := H2.out.other (HG3.out.block g2 H2.out.lt (by intro hh; cases hh; exact hne rfl))
        refine ⟨j + 1, some ⟨g2, 0, none⟩, 32, 32, by omega, by omega, by rw [show 32 * (j + 1) = 32 * j + 32 by omega], rfl, by go_num, ?_, ?_, hb3⟩
        · rw [HPQ.out]; exact slc_of hq hlp.out (Nat.le_refl _) hw8.out
        · rw [HEX.out, List.map_append, show 32 * (j + 1) = 32 * j + 32 by omega]; exact HW3.out
      case measure => simp; omega
    · have hl := length_expand K I j
      obtain ⟨g, cap, hv, _, hat, _, hlt2⟩ := own_lies OW.out hl (by omega)
      cases hv
      have hsub := hat.sub 0 n (by omega)
      rw [List.drop_zero, ← expand_take K I j n hj (by omega)] at hsub
      have HSUB := Lib.hid hsub
      have HLT := Lib.hid hlt2
      clear hsub hat hl PC OW hlt2
      go_wp2
      go_ret
      exact ⟨_, by (have h : n = 8160 := by omega); subst h; rfl, HSUB.out, HLT.out, BW.out⟩

set_option maxRecDepth 100000 in
set_option maxHeartbeats 400000 in
theorem expand_none (w : World) (vk vi : Value) (z : Int) (hz : z < 1) :
    Calls Tryd.prog 15 #[vk, vi, .int .i64 z] w fun e w' => e = .returned (.slice none 0 0) ∧ w' = w := by
  go_enter Tryd.func15, Tryd.ntmps15
  go_wp2
  go_ret
  exact ⟨rfl, rfl⟩
end Go.Proofs.YtiodmmjjoodmoaaDoor
