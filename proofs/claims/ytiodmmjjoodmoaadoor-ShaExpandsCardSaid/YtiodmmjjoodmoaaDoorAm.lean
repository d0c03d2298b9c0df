/- Layer 2's reference, the walks: so many bytes of a key, given its sum. -/
import Derived.Test.YtiodmmjjoodmoaaDoorAh
namespace Go.Proofs.YtiodmmjjoodmoaaDoor
open Go.RowKit

def Apart (o l : Value) : Prop := ∀ g, o.ownBlock = some g → l.ownBlock ≠ some g
theorem run_cut22h (a : Option Addr) (n cap m : Nat) (hm : m ≤ cap) (i : Int) (hi : i = m) (w : World) : (Instr.slice 22 (.slice a n cap) none (some (.int .i64 i)) none).run Tryd.prog w = .ok (sliced a 0 m cap 1) w := by
  subst hi
  have he : Tryd.prog.elem 22 = 5 := by kernel_rfl
  have hu : Tryd.prog.underlying 22 = some (.slice (Tryd.prog.elem 22)) := by rw [he]; exact Tryd.underlying22
  rw [run_slice_h w 22 a n cap hu .i64 m (by omega) (by omega), he, Tryd.sizeOf5]
  rfl
theorem slc_other {w w' : World} {a : Option Addr} {n c : Nat} {P : List Int} {r : Option Nat} (h : Slc w (.slice a n c) P) (hg : w.grownBy w' r) (hne : ∀ p, a = some p → r ≠ some p.block) : Slc w' (.slice a n c) P := by
  obtain ⟨a', cap', hv, h1, h2, hm⟩ := h
  simp only [Value.slice.injEq] at hv
  obtain ⟨rfl, rfl, rfl⟩ := hv
  refine ⟨_, _, rfl, h1, h2, ?_⟩
  rcases hm with hm | ⟨b, off, rfl, h3, h4⟩
  · exact Or.inl hm
  · have hb : w'.heap[b]? = w.heap[b]? := hg.block b h3 (fun e => hne _ rfl e.symm)
    exact Or.inr ⟨b, off, rfl, Nat.lt_of_lt_of_le h3 hg.size, fun j hj => (World.cell?_of_block (a := ⟨b, off + j, none⟩) hb).trans (h4 j hj)⟩
theorem slc_lt {w : World} {a : Option Addr} {n c : Nat} {P : List Int} (h : Slc w (.slice a n c) P) (hP : 0 < P.length) : ∀ p, a = some p → p.block < w.heap.size := by
  obtain ⟨a', cap', hv, h1, h2, hm⟩ := h
  simp only [Value.slice.injEq] at hv
  obtain ⟨rfl, rfl, rfl⟩ := hv
  rcases hm with hm | ⟨b, off, rfl, h3, h4⟩
  · rw [hm] at hP; simp at hP
  · intro p hp; cases hp; exact h3

set_option maxRecDepth 100000 in
set_option maxHeartbeats 400000 in
theorem rexpand_any (hS : RSum) (w : World) (vk vi : Value) (K I : List Int) (n : Int) (hK : Slc w vk K) (hI : Slc w vi I) (hlk : K.length ≤ 1000000) (hli : I.length ≤ 1000) (hn0 : -1000000 ≤ n) (hn1 : n ≤ 1000000) :
    Calls Tryd.prog 16 #[vk, vi, .int .i64 n] w fun e w' => ∃ v', e = .returned v' ∧ Slc w' v' ((Sh.expand K I 255).take n.toNat) ∧ Below w.heap.size w w' := by
  obtain ⟨ak, ck, rfl, -⟩ := id hK
  obtain ⟨ai, ci, rfl, -⟩ := id hI
  have HK := Lib.hid hK
  have HI := Lib.hid hI
  have HSU := Lib.hid hS
  clear hK hI hS
  generalize hkn : K.length = nk at *
  generalize hin : I.length = ni at *
  have HKN := Lib.hid hkn
  have HIN := Lib.hid hin
  clear hkn hin
  go_enter Tryd.func16, Tryd.ntmps16
  go_wp2_with fail
  go_loopw [7, 8, 9] (fun o l i wr => ∃ j : Nat, j ≤ 255 ∧ i = .int .i64 ((j : Int) + 1) ∧ Hid (Mine .u8 5 w wr o (Sh.expand K I j)) ∧ Hid (Slc wr l (Sh.pieces K I j)) ∧ Hid (Apart o l)) (fun _ _ i _ => 256 - (intOf i).toNat)
  case atStart => exact ⟨0, by omega, rfl, Mine.nil _ _ _, Slc.nil _, fun g hg => by simp [Value.ownBlock] at hg⟩
  case round =>
    obtain ⟨j, hj, rfl, OM, SL, AP⟩ := hrel
    obtain ⟨a7, c7, rfl⟩ := OM.out.form
    obtain ⟨a8, c8, rfl, -⟩ := id SL.out
    rw [length_expand] at OM AP ⊢
    generalize hn8 : (Sh.pieces K I j).length = n8 at *
    by_cases hlt : j < 255 ∧ 32 * (j : Int) < n
    · obtain ⟨hj5, hjn⟩ := hlt
      have hp32 := length_pieces K I j
      have hpw := pieces_W K I j
      have hiw : ∀ x ∈ I, Sh.W8 x := by obtain ⟨_, _, _, _, h, _⟩ := HI.out; exact h
      have hall : ∀ x ∈ Sh.pieces K I j ++ I ++ [(j : Int) + 1], Sh.W8 x := by
        intro x hx
        simp only [List.mem_append, List.mem_singleton] at hx
        rcases hx with (hx | hx) | hx
        · exact hpw x hx
        · exact hiw x hx
        · rw [hx]; unfold Sh.W8; omega
      have hlen : (Sh.pieces K I j ++ I ++ [(j : Int) + 1]).length ≤ 2000 := by
        have := HIN.out
        simp only [List.length_append, List.length_singleton]; omega
      have hlen2 : (Sh.pieces K I j ++ I).length ≤ 2000 := by
        have := HIN.out
        simp only [List.length_append]; omega
      have HALL := Lib.hid hall
      have HLEN := Lib.hid hlen
      have HLEN2 := Lib.hid hlen2
      have HPE := Lib.hid (show Sh.pieces K I (j + 1) = Sh.mac K (Sh.pieces K I j ++ I ++ [(j : Int) + 1]) from rfl)
      have HEX := Lib.hid (show Sh.expand K I (j + 1) = Sh.expand K I j ++ Sh.pieces K I (j + 1) from rfl)
      have HP32 := Lib.hid hp32
      have HN8 := Lib.hid hn8
      clear hp32 hpw hiw hall hlen hlen2 hn8
      generalize Sh.pieces K I j = pj at *
      go_wp2_with (first
        | ((with_reducible refine append_slc (o := ⟨some 37, _, _, _, _, _⟩) rfl (.tmp 35) (.tmp 36) rfl w.heap.size (.slice a7 (32 * j) c7) (32 * j) (Sh.expand K I j) rfl ?_ a11 32 c11 (Sh.pieces K I (j + 1)) rfl ?_ ?_ ?_ ?_); exact HO6.out; exact H6.out; exact (by have := length_pieces K I (j + 1); omega); exact HB6.out.size; intro u7 w7 ho hg hb; have HO7 := Lib.hid ho; have HG7 := Lib.hid hg; have HB7 := Lib.hid hb; clear ho hg hb)
        | (go_at_call 13; refine (rmac_any HSU.out w5 (.slice ak nk ck) a10 _ c10 K _ (HK.out.below (OM.out.2.trans (HP3.out.mono OM.out.2.size)) (Nat.le_refl _)) HM.out (by rw [HKN.out]; exact hlk) (Nat.le_trans HLEN.out (by decide))).mono ?_; rintro e w6 ⟨a11, n11, c11, rfl, h1, h2, h3⟩; have hn := slc_len h1; rw [length_mac] at hn; subst hn; rw [← HPE.out] at h1; have H6 := Lib.hid h1; have HF6 := Lib.hid h3; have HW6 := Lib.hid (HP3.out.trans (h2.mono HP3.out.size)); have HB6 := Lib.hid (OM.out.2.trans (HW6.out.mono OM.out.2.size)); have HO6 := Lib.hid (show w6.ownsRow w.heap.size 5 1 (.slice a7 (32 * j) c7) (32 * j) ((Sh.expand K I j).map (Value.int .u8)) from (by have h := own_kept8 OM.out.1 HW6.out; rw [length_expand] at h; exact h)); clear h1 h2 h3)
        | ((with_reducible refine append_byte (o := ⟨some 31, _, _, _, _, _⟩) rfl (.tmp 27) (.tmp 30) rfl wr u21 (pj ++ I) rfl ?_ ((j : Int) + 1) rfl ?_ ?_ ?_); exact HP2.out; exact (by unfold Sh.W8; omega); exact (Nat.le_trans HLEN2.out (by decide)); intro u22 w5 hp3; obtain ⟨a10, c10, rfl, hs10⟩ := slc_own hp3.1 HALL.out; have HP3 := Lib.hid hp3.2; clear hp3; generalize (pj ++ I ++ [(j : Int) + 1]).length = n10 at hs10 ⊢; have HM := Lib.hid hs10; clear hs10)
        | ((with_reducible refine append_mine (o := ⟨some 26, _, _, _, _, _⟩) rfl (.tmp 24) (.tmp 25) rfl wr u20 pj rfl ?_ ai ni ci I rfl ?_ ?_ ?_); exact HP1.out; exact (HI.out.below (OM.out.2.trans (HP1.out.2.mono OM.out.2.size)) (Nat.le_refl _)); exact (by have := HLEN2.out; rw [List.length_append] at this; omega); intro u21 w4 hp2; have HP2 := Lib.hid hp2; clear hp2)
        | ((with_reducible refine append_mine (o := ⟨some 23, _, _, _, _, _⟩) rfl (.tmp 21) (.tmp 22) rfl wr (.slice none 0 0) [] rfl ?_ a8 n8 c8 pj rfl ?_ ?_ ?_); exact Mine.nil _ _ _; exact SL.out; exact (by have := HP32.out; rw [List.length_nil]; omega); rw [List.nil_append]; intro u20 w3 hp1; have HP1 := Lib.hid hp1; clear hp1))
      go_roundw
      case rel =>
        have hpl : (Sh.pieces K I (j + 1)).length = 32 := by rw [HPE.out]; exact length_mac _ _
        have h32 := slc_lt H6.out (by rw [hpl]; decide)
        have hol := own_lt OM.out.1
        have hs5 := HP3.out.size
        refine ⟨j + 1, by omega, by go_num, ?_, slc_other H6.out HG7.out ?_, ?_⟩
        · refine ⟨?_, own_below HB6.out HO6.out HG7.out⟩
          have h := HO7.out
          rw [HEX.out, List.length_append, length_expand]
          exact h
        · intro p hp hq
          have h1 := hol p.block (by simpa [Value.ownBlock] using hq)
          have h2 := HF6.out p hp
          omega
        · intro g hg hq
          obtain ⟨p, rfl⟩ : ∃ p, a11 = some p := by
            cases a11 with
            | none => simp [Value.ownBlock] at hq
            | some p => exact ⟨p, rfl⟩
          simp only [Value.ownBlock, Option.some.injEq] at hq
          have h2 := HF6.out p rfl
          have h3 := h32 p rfl
          rcases HB7.out with h | h
          · have h1 := hol g (h.symm.trans hg)
            omega
          · rw [h] at hg
            simp only [Option.some.injEq] at hg
            omega
      case measure => simp [intOf]; omega
    · obtain ⟨a9, c9, h9, hs9⟩ := slc_own OM.out.1 (by
        intro x hx
        have h : ∀ i, ∀ x ∈ Sh.expand K I i, Sh.W8 x := by
          intro i
          induction i with
          | zero => intro x hx; simp [Sh.expand] at hx
          | succ i ih =>
            intro x hx
            rcases List.mem_append.1 hx with hx | hx
            · exact ih x hx
            · exact pieces_W K I (i + 1) x hx
        exact h j x hx)
      rw [length_expand] at h9 hs9
      simp only [Value.slice.injEq, true_and] at h9
      obtain ⟨rfl, rfl⟩ := h9
      have hcap : 32 * j ≤ c7 := by
        obtain ⟨_, _, hv, hc, _⟩ := id hs9
        simp only [Value.slice.injEq] at hv
        have := length_expand K I j
        omega
      have HS9 := Lib.hid hs9
      have HB := Lib.hid OM.out.2
      clear OM SL AP hs9 hn8
      have htk : ∀ m : Nat, m ≤ 32 * j → (Sh.expand K I 255).take m = (Sh.expand K I j).take m := fun m hm => expand_take K I j m hj hm
      have hcases : (n < 0 ∧ 0 < j) ∨ (n < 0 ∧ j = 0) ∨ (0 ≤ n ∧ n < 32 * (j : Int)) ∨ (0 ≤ n ∧ 32 * (j : Int) ≤ n) := by omega
      rcases hcases with ⟨h1, h2⟩ | ⟨h1, h2⟩ | ⟨h1, h2⟩ | ⟨h1, h2⟩
      · have hcut := run_cut22h a7 (32 * j) c7 0 (by omega) 0 rfl
        have hsl := slc_sliced HS9.out 0 0 (Nat.le_refl _) (by omega)
        rw [show (((Sh.expand K I j).drop 0).take (0 - 0)) = (Sh.expand K I 255).take n.toNat by rw [show n.toNat = 0 by omega]; simp] at hsl
        generalize sliced a7 0 0 c7 1 = sv at *
        have HSL := Lib.hid hsl
        clear hsl htk HS9
        rcases Nat.lt_or_ge j 255 with h5 | h5
        all_goals
          go_wp2
          go_ret
          exact ⟨_, rfl, HSL.out, HB.out⟩
      · have hsl : Slc wr (.slice a7 (32 * j) c7) ((Sh.expand K I 255).take n.toNat) := by
          rw [show n.toNat = 32 * j by omega, htk _ (Nat.le_refl _), List.take_of_length_le (by rw [length_expand]; omega)]
          exact HS9.out
        have HSL := Lib.hid hsl
        clear hsl htk HS9
        have h5 : j < 255 := by omega
        go_wp2
        go_ret
        exact ⟨_, rfl, HSL.out, HB.out⟩
      · have hcut := run_cut22h a7 (32 * j) c7 n.toNat (by omega) n (by omega)
        have hsl := slc_sliced HS9.out 0 n.toNat (Nat.zero_le _) (by omega)
        rw [show (((Sh.expand K I j).drop 0).take (n.toNat - 0)) = (Sh.expand K I 255).take n.toNat by rw [List.drop_zero, Nat.sub_zero, htk _ (by omega)]] at hsl
        generalize sliced a7 0 n.toNat c7 1 = sv at *
        have HSL := Lib.hid hsl
        clear hsl htk HS9
        rcases Nat.lt_or_ge j 255 with h5 | h5
        all_goals
          go_wp2
          go_ret
          exact ⟨_, rfl, HSL.out, HB.out⟩
      · have hsl : Slc wr (.slice a7 (32 * j) c7) ((Sh.expand K I 255).take n.toNat) := by
          have e : (Sh.expand K I 255).take n.toNat = Sh.expand K I j := by
            by_cases h5 : j = 255
            · rw [h5, List.take_of_length_le (by rw [length_expand]; omega)]
            · rw [show n.toNat = 32 * j by omega, htk _ (Nat.le_refl _), List.take_of_length_le (by rw [length_expand]; omega)]
          rw [e]
          exact HS9.out
        have HSL := Lib.hid hsl
        clear hsl htk HS9
        rcases Nat.lt_or_ge j 255 with h5 | h5
        all_goals
          go_wp2
          go_ret
          exact ⟨_, rfl, HSL.out, HB.out⟩
end Go.Proofs.YtiodmmjjoodmoaaDoor
