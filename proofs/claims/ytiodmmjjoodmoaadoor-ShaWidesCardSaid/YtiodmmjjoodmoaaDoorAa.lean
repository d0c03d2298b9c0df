/- Layer 2, the walks: extract and expand. -/
import Derived.Test.YtiodmmjjoodmoaaDoorT
namespace Go.Proofs.YtiodmmjjoodmoaaDoor
open Go.RowKit

set_option maxRecDepth 100000 in
set_option maxHeartbeats 400000 in
theorem extract_any (w : World) (vk vp : Value) (K P : List Int) (hK : Slc w vk K) (hP : Slc w vp P) (hlk : K.length ≤ 1099511627776) (hlp : P.length ≤ 1099511627776) (ht : Tab w) :
    Calls Tryd.prog 14 #[vk, vp] w fun e w' => ∃ go, e = .returned (.slice (some ⟨go, 0, none⟩) 32 32) ∧ Blk w' go .u8 5 (Sh.mac K P) ∧ w.heap.size ≤ go ∧ Below w.heap.size w w' := by
  obtain ⟨a, cap, rfl, -⟩ := id hP
  have ho4 : Below w.heap.size w (w.alloc (.cells #[.slice a P.length cap] 22)) := (Below.refl _ _).alloc (Nat.le_refl _) _
  have hp := parts_one (w := w.alloc (.cells #[.slice a P.length cap] 22)) (heap_alloc_new w _) (hP.below ho4 (Nat.le_refl _)) rfl
  have hs := mac_any _ vk _ K [P] (hK.below ho4 (Nat.le_refl _)) hp hlk (by rw [List.flatten_singleton]; omega) (ht.below ho4 ht.1)
  rw [List.flatten_singleton] at hs
  have HS := Lib.hid hs
  have HO := Lib.hid ho4
  clear hs hp ho4 hP hK ht
  go_enter Tryd.func14, Tryd.ntmps14
  go_wp2_with (go_at_call 11; refine HS.out.mono ?_; rintro e w1 ⟨go, rfl, h1, h2, h3⟩; have H1 := Lib.hid h1; have H2 := Lib.hid h2; have H3 := Lib.hid h3; clear h1 h2 h3)
  go_ret
  exact ⟨go, rfl, H1.out, Nat.le_trans HO.out.size H2.out, HO.out.trans (H3.out.mono HO.out.size)⟩

/-- The pieces, one behind the other. -/
def Sh.pieces (K I : List Int) : Nat → List Int
  | 0 => []
  | i + 1 => Sh.mac K (Sh.pieces K I i ++ I ++ [(i : Int) + 1])
def Sh.expand (K I : List Int) : Nat → List Int
  | 0 => []
  | i + 1 => Sh.expand K I i ++ Sh.pieces K I (i + 1)
theorem length_expand (K I : List Int) (i : Nat) : (Sh.expand K I i).length = 32 * i := by
  induction i with
  | zero => rfl
  | succ i ih =>
    unfold Sh.expand
    rw [List.length_append, ih]
    show _ + (Sh.mac K _).length = _
    rw [length_mac]; omega

theorem expand_prefix (K I : List Int) (i d : Nat) : ∃ r, Sh.expand K I (i + d) = Sh.expand K I i ++ r := by
  induction d with
  | zero => exact ⟨[], by simp⟩
  | succ d ih =>
    obtain ⟨r, hr⟩ := ih
    refine ⟨r ++ Sh.pieces K I (i + d + 1), ?_⟩
    rw [← List.append_assoc, ← hr]
    rfl
theorem expand_take (K I : List Int) (j n : Nat) (hj : j ≤ 255) (hn : n ≤ 32 * j) : (Sh.expand K I 255).take n = (Sh.expand K I j).take n := by
  obtain ⟨r, hr⟩ := expand_prefix K I j (255 - j)
  rw [show j + (255 - j) = 255 by omega] at hr
  rw [hr, List.take_append_of_le_length (by rw [length_expand]; omega)]
theorem parts_three {w : World} {g : Nat} {t : TypeId} {v1 v2 v3 : Value} {P1 P2 P3 : List Int} (h : w.heap[g]? = some (.cells #[v1, v2, v3] t (0, 0))) (h1 : Slc w v1 P1) (h2 : Slc w v2 P2) (h3 : Slc w v3 P3) : Parts w (.slice (some ⟨g, 0, none⟩) 3 3) [P1, P2, P3] := by
  refine ⟨_, 3, rfl, by simp, Or.inr ⟨g, 0, rfl, lt_of_block h, ?_⟩⟩
  intro j hj
  match j, hj with
  | 0, _ => exact ⟨v1, by rw [cell_of_row _ _ _ _ t (0, 0) h]; rfl, h1⟩
  | 1, _ => exact ⟨v2, by rw [cell_of_row _ _ _ _ t (0, 0) h]; rfl, h2⟩
  | 2, _ => exact ⟨v3, by rw [cell_of_row _ _ _ _ t (0, 0) h]; rfl, h3⟩
theorem pieces_W (K I : List Int) : ∀ j, ∀ x ∈ Sh.pieces K I j, Sh.W8 x
  | 0, x, h => by simp [Sh.pieces] at h
  | j + 1, x, h => Sh.sha_W _ x h
theorem length_pieces (K I : List Int) (j : Nat) : (Sh.pieces K I j).length ≤ 32 := by
  cases j with
  | zero => simp [Sh.pieces]
  | succ j => exact Nat.le_of_eq (length_mac _ _)

theorem own_kept8 {w w' : World} {base k : Nat} {e : TypeId} {v : Value} {xs : List Value} (h : w.ownsRow base e 1 v k xs) (hb : Below w.heap.size w w') : w'.ownsRow base e 1 v k xs := by
  obtain ⟨h1, h2⟩ := h
  refine ⟨h1, ?_⟩
  rcases h2 with h2 | ⟨g, cap, cur, hv, hg, hat, r⟩
  · exact Or.inl h2
  · exact Or.inr ⟨g, cap, cur, hv, hg, (hb.block g (lt_of_block hat)).trans hat, r⟩

/-- One piece more: the call. -/
theorem piece_step (w : World) (vk vi : Value) (K I : List Int) (j : Nat) (ap : Option Addr) (np cp : Nat) (hK : Slc w vk K) (hI : Slc w vi I) (hp : Slc w (.slice ap np cp) (Sh.pieces K I j)) (hlk : K.length ≤ 1099511627776) (hli : I.length ≤ 1000000) (ht : Tab w) (hj : j < 255) :
    Calls Tryd.prog 11 #[vk, .slice (some ⟨w.heap.size + 1, 0, none⟩) 3 3] ((w.alloc (.cells #[.int .u8 ((j : Int) + 1)] 5)).alloc (.cells #[.slice ap np cp, vi, .slice (some ⟨w.heap.size, 0, none⟩) 1 1] 22)) fun e w' =>
      ∃ go, e = .returned (.slice (some ⟨go, 0, none⟩) 32 32) ∧ Blk w' go .u8 5 (Sh.pieces K I (j + 1)) ∧ w.heap.size ≤ go ∧ Below w.heap.size w w' := by
  have hb1 : Blk (w.alloc (.cells #[.int .u8 ((j : Int) + 1)] 5)) w.heap.size .u8 5 [(j : Int) + 1] := heap_alloc_new w _
  have ho1 : Below w.heap.size w (w.alloc (.cells #[.int .u8 ((j : Int) + 1)] 5)) := (Below.refl _ _).alloc (Nat.le_refl _) _
  have hs1 := slc_of hb1 (n := 1) (c := 1) rfl (Nat.le_refl _) (by intro x hx; simp at hx; unfold Sh.W8; omega)
  have hz1 : (w.alloc (.cells #[.int .u8 ((j : Int) + 1)] 5)).heap.size = w.heap.size + 1 := by simp
  generalize w.alloc (.cells #[.int .u8 ((j : Int) + 1)] 5) = w1 at *
  have hn := heap_alloc_new w1 (.cells #[.slice ap np cp, vi, .slice (some ⟨w.heap.size, 0, none⟩) 1 1] 22)
  have ho2 : Below w1.heap.size w1 (w1.alloc (.cells #[.slice ap np cp, vi, .slice (some ⟨w.heap.size, 0, none⟩) 1 1] 22)) := (Below.refl _ _).alloc (Nat.le_refl _) _
  rw [hz1] at hn
  generalize w1.alloc (.cells #[.slice ap np cp, vi, .slice (some ⟨w.heap.size, 0, none⟩) 1 1] 22) = w2 at *
  have ho : Below w.heap.size w w2 := ho1.trans (ho2.mono ho1.size)
  have hpp := parts_three hn (hp.below ho (Nat.le_refl _)) (hI.below ho (Nat.le_refl _)) (hs1.below ho2 (Nat.le_refl _))
  have hlp := length_pieces K I j
  have hfl : [Sh.pieces K I j, I, [(j : Int) + 1]].flatten = Sh.pieces K I j ++ I ++ [(j : Int) + 1] := by simp
  refine (mac_any w2 vk _ K _ (hK.below ho (Nat.le_refl _)) hpp hlk (by rw [hfl]; simp only [List.length_append, List.length_singleton]; omega) (ht.below ho ht.1)).mono ?_
  rintro e w3 ⟨go, rfl, h1, h2, h3⟩
  rw [hfl] at h1
  exact ⟨go, rfl, h1, Nat.le_trans ho.size h2, ho.trans (h3.mono ho.size)⟩

set_option maxRecDepth 100000 in
set_option maxHeartbeats 400000 in
theorem expand_probe (w : World) (vk vi : Value) (K I : List Int) (n : Nat) (hK : Slc w vk K) (hI : Slc w vi I) (hlk : K.length ≤ 1099511627776) (hli : I.length ≤ 1000000) (ht : Tab w) (h0 : 1 ≤ n) (h1 : n ≤ 8160) :
    Calls Tryd.prog 15 #[vk, vi, .int .i64 n] w fun e w' => ∃ go, e = .returned (.slice (some ⟨go, 0, none⟩) n n) ∧ At w' .u8 go 0 ((Sh.expand K I 255).take n) ∧ go < w'.heap.size ∧ Below w.heap.size w w' := by
  have HK := Lib.hid hK
  have HI := Lib.hid hI
  have HT := Lib.hid ht
  obtain ⟨ak, ck, rfl, -⟩ := id hK
  obtain ⟨ai, ci, rfl, -⟩ := id hI
  clear hK hI ht
  obtain ⟨i0, hi, hz0, hz1, hz2⟩ := info_parts info5
  obtain ⟨w0, hmk0, hown, hgr⟩ := run_make_own (P := Tryd.prog) w w.heap.size 22 5 i0 (.int .u8 0) 1 Tryd.underlying22 hi hz0 hz1 .i64 .i64 (n + 31) (by rw [hz2]; omega) (by unfold maxLen; omega) (Nat.le_refl _)
  have hmk : (Instr.makeSlice 22 (.int .i64 0) (.int .i64 ((n : Int) + 32 - 1))).run Tryd.prog w = .ok (.slice (some ⟨w.heap.size, 0, none⟩) 0 (n + 31)) w0 := by
    rw [show (n : Int) + 32 - 1 = ((n + 31 : Nat) : Int) by omega]; exact hmk0
  have hb0 : Hid (Below w.heap.size w w0) := ⟨hgr.os, hgr.tape, hgr.output, hgr.size, fun i hi => hgr.block i hi (by simp)⟩
  have HOWN := Lib.hid hown
  clear hmk0 hown hgr
  go_enter Tryd.func15, Tryd.ntmps15
  go_wp2_with fail
  clear hmk
  go_loopw [7, 8, 9] (fun v y i wr => ∃ (j : Nat) (ap : Option Addr) (np cp : Nat), j ≤ 255 ∧ 32 * j ≤ n + 31 ∧ v = .slice (some ⟨w.heap.size, 0, none⟩) (32 * j) (n + 31) ∧ y = .slice ap np cp ∧ i = .int .u8 (((j : Int) + 1) % 256) ∧ Hid (Slc wr (.slice ap np cp) (Sh.pieces K I j)) ∧ Hid (wr.ownsRow w.heap.size 5 1 (.slice (some ⟨w.heap.size, 0, none⟩) (32 * j) (n + 31)) (32 * j) ((Sh.expand K I j).map (Value.int .u8))) ∧ Hid (Below w.heap.size w wr)) (fun v _ _ _ => match v with | .slice _ k _ => n + 31 - k | _ => 0)
  case atStart => exact ⟨0, none, 0, 0, by omega, by omega, rfl, rfl, rfl, Slc.nil _, HOWN, hb0⟩
  case round =>
    clear hb0 HOWN
    obtain ⟨j, ap, np, cp, hj, hjn, rfl, rfl, rfl, PC, OW, BW⟩ := hrel
    by_cases hlt : 32 * j < n
    · have hj2 : j < 255 := by omega
      have hm : ((j : Int) + 1) % 256 = (j : Int) + 1 := by omega
      rw [hm]
      clear hm
      have hst := piece_step wr _ _ K I j ap np cp (HK.out.below BW.out (Nat.le_refl _)) (HI.out.below BW.out (Nat.le_refl _)) PC.out hlk hli (HT.out.below BW.out HT.out.1) hj2
      have HST := Lib.hid hst
      have hex : (Sh.expand K I (j + 1)) = Sh.expand K I j ++ Sh.pieces K I (j + 1) := rfl
      have HEX := Lib.hid hex
      have hlp : Hid ((Sh.pieces K I (j + 1)).length = 32) := length_mac _ _
      have hw8 : Hid (∀ x ∈ Sh.pieces K I (j + 1), Sh.W8 x) := pieces_W K I (j + 1)
      clear hst hex PC HK HI HT
      generalize hpq : Sh.pieces K I (j + 1) = Q at *
      have HPQ := Lib.hid hpq
      clear hpq
      go_wp2_with (first
        | (go_at_call 11; refine HST.out.mono ?_; rintro e w2 ⟨g2, rfl, h2, hg2, h3⟩; have H2 := Lib.hid h2; have HG2 := Lib.hid hg2; have H3 := Lib.hid h3; have HO2 := Lib.hid (own_kept8 OW.out h3); clear h2 h3 hg2)
        | ((with_reducible refine wpList_append_fits _ (o := ⟨some 33, _, _, _, _, _⟩) rfl (.tmp 31) (.tmp 32) 22 rfl w.heap.size 5 i0 1 Tryd.underlying22 hi hz1 w.heap.size (32 * j) (n + 31) ((Sh.expand K I j).map (Value.int .u8)) rfl HO2.out ⟨g2, 0, none⟩ 32 32 (Q.map (Value.int .u8)) rfl ?_ ?_ ?_ ?_ ?_); exact (by rw [List.length_map, hlp.out]); exact src_of_at H2.out.at; exact ints_oneCell _ _; exact (by omega); intro w3 hown3 hgr3; have HW3 := Lib.hid hown3; have HG3 := Lib.hid hgr3; clear hown3 hgr3))
      go_roundw
      case rel =>
        obtain ⟨g, cap, hv, _, _, _, hlt2⟩ : ∃ g cap, Value.slice (some ⟨w.heap.size, 0, none⟩) (32 * j) (n + 31) = .slice (some ⟨g, 0, none⟩) (32 * j) cap ∧ True ∧ True ∧ True ∧ g < wr.heap.size := by
          rcases OW.out.2 with ⟨h, _⟩ | ⟨g, cap, cur, h, _, hat, _⟩
          · cases h
          · exact ⟨g, cap, h, trivial, trivial, trivial, lt_of_block hat⟩
        cases hv
        have hne : g2 ≠ w.heap.size := by have := HG2.out; omega
        have hb3 : Below w.heap.size w w3 := BW.out.trans ((H3.out.mono BW.out.size).trans ⟨HG3.out.os, HG3.out.tape, HG3.out.output, HG3.out.size, fun i hi => HG3.out.block i (by have h1 := BW.out.size; have h2 := H3.out.size; omega) (by intro hh; cases hh; omega)⟩)
        have hq : Blk w3 g2 .u8 5 Q := H2.out.other (HG3.out.block g2 H2.out.lt (by intro hh; cases hh; exact hne rfl))
        refine ⟨j + 1, some ⟨g2, 0, none⟩, 32, 32, by omega, by omega, by rw [show 32 * (j + 1) = 32 * j + 32 by omega], rfl, by go_num, ?_, ?_, hb3⟩
        · rw [HPQ.out]; exact slc_of hq hlp.out (Nat.le_refl _) hw8.out
        · rw [HEX.out, List.map_append, show 32 * (j + 1) = 32 * j + 32 by omega]; exact HW3.out
      case measure => simp; omega
    · have hl := length_expand K I j
      obtain ⟨g, cap, hv, _, hat, _, hlt2⟩ := own_lies OW.out hl (by omega)
      cases hv
      have hsub := hat.sub 0 n (by omega)
      rw [List.drop_zero, ← expand_take K I j n hj (by omega)] at hsub
      have HSUB := Lib.hid hsub
      have HLT := Lib.hid hlt2
      clear hsub hat hl PC OW hlt2
      go_wp2
      go_ret
      exact ⟨_, rfl, HSUB.out, HLT.out, BW.out⟩
end Go.Proofs.YtiodmmjjoodmoaaDoor
