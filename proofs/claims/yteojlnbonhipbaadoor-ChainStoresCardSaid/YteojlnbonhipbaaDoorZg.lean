/- A nil store has no keys: the law's walk. -/
import Derived.Test.YteojlnbonhipbaaDoorZf
namespace Go.Proofs.YteojlnbonhipbaaDoor
open Go.RowKit Go.Maps
set_option maxRecDepth 20000 in
set_option maxHeartbeats 8000000 in
theorem nil_walk (w : World) (P : List UInt8) (ao : Option Addr) (cap n : Nat) (h : Byt w ao P) :
    Calls Tryd.prog 6 #[.slice ao P.length cap, .int .u32 n] w fun e w' => e = .returned (.bool true) ∧ Below w.heap.size w w' := by
  have HA := Lib.hid (fun w => awake_any w)
  by_cases hl : 100 < P.length
  · have hl1 : (100 : Int) < P.length := by omega
    generalize P.length = p at *
    clear h
    go_enter Tryd.func6, Tryd.ntmps6
    go_wp2_with (first
      | (go_at_call 7; refine (HA.out w).mono ?_; rintro e w1 ⟨rfl, hb1⟩; have HB1 := Lib.hid hb1; have HA1 := Lib.hid (HA.out w1); clear hb1 HA)
      | (go_at_call 7; refine HA1.out.mono ?_; rintro e w2 ⟨rfl, hb2⟩))
    go_ret
    exact ⟨rfl, HB1.out.trans (hb2.mono HB1.out.size)⟩
  · have hl1 : ¬ (100 : Int) < P.length := by omega
    have hlK : P.length ≤ 1048576 := by omega
    have HP := Lib.hid (And.intro h hlK)
    have hah := fun w' (hb : Below w.heap.size w w') => ahead_noprim w' 3 4 P ao cap (.slice ao P.length cap) (.pointer none) (h.on hb (Nat.le_refl _)) hlK (by decide) (by decide) (by decide)
    obtain ⟨p, hp⟩ : ∃ p, p = P.length := ⟨_, rfl⟩
    rw [← hp] at hl1 hah ⊢
    have HAH := Lib.hid hah
    clear hah h hlK hl hp
    go_enter Tryd.func6, Tryd.ntmps6
    go_wp2_with (first
      | (go_at_call 7; refine (HA.out w).mono ?_; rintro e w1 ⟨rfl, hb1⟩; have HB1 := Lib.hid hb1; clear hb1)
      | (go_at_call 15; refine (put_nil w1 _ w1.heap.size (Nat.le_refl _)).mono ?_; rintro e w2 ⟨rfl, hb2⟩; have HB2 := Lib.hid (HB1.out.trans (hb2.mono HB1.out.size)); clear hb2)
      | (go_at_call 13; refine (get_nil w2 n ao p cap).mono ?_; rintro e w3 ⟨rfl, hb3⟩; have HB3 := Lib.hid (HB2.out.trans (hb3.mono HB2.out.size)); clear hb3; refine Hid.out ?_))
    refine Lib.hid ?_
    have b4 := Joins.below_alloc1 w3 (.cells #[.slice ao p cap, .int .u32 3] 27)
    have r4 := heap_alloc_new w3 (.cells #[.slice ao p cap, .int .u32 3] 27)
    have c0 : (w3.alloc (.cells #[.slice ao p cap, .int .u32 3] 27)).cell? ⟨w3.heap.size, 0, none⟩ = some (.slice ao p cap) := by rw [cell_of_row _ _ _ _ _ _ r4]; rfl
    have c1 : (w3.alloc (.cells #[.slice ao p cap, .int .u32 3] 27)).cell? ⟨w3.heap.size, 1, none⟩ = some (.int .u32 3) := by rw [cell_of_row _ _ _ _ _ _ r4]; rfl
    have hb4 := HB3.out.trans (b4.mono HB3.out.size)
    have HA4 := Lib.hid (HAH.out _ hb4)
    have HB4 := Lib.hid hb4
    clear b4 r4 hb4 HAH
    go_wp2_with (go_at_call 11; refine HA4.out.mono ?_; rintro e w5 ⟨fo, fc, rfl, hy5, hb5⟩; refine Hid.out ?_)
    refine Lib.hid ?_
    have b6 := Joins.below_alloc1 w5 (.cells #[.slice fo p fc, .int .u32 3] 27)
    have r6 := heap_alloc_new w5 (.cells #[.slice fo p fc, .int .u32 3] 27)
    have hb6 := (HB4.out.trans (hb5.mono HB4.out.size)).trans (b6.mono (Nat.le_trans HB4.out.size hb5.size))
    have hl6 : w5.heap.size < (w5.alloc (.cells #[.slice fo p fc, .int .u32 3] 27)).heap.size := by simp
    have e6 : (w5.alloc (.cells #[.slice fo p fc, .int .u32 3] 27)).cell? ⟨w5.heap.size, 1, none⟩ = some (.int .u32 3) := by rw [cell_of_row _ _ _ _ _ _ r6]; rfl
    have HB6 := Lib.hid hb6
    have HDR := Lib.hid (drop_nil (w5.alloc (.cells #[.slice fo p fc, .int .u32 3] 27)) n ao p cap)
    clear b6 r6 hb6 hb5 hy5 HA4
    go_wp2_with (first
      | (go_at_call 14; refine HDR.out.mono ?_; rintro e w7 ⟨rfl, hb7⟩; have e7 := (hb7.cell (p := ⟨w5.heap.size, 1, none⟩) hl6).trans e6; have hl7 := Nat.lt_of_lt_of_le hl6 hb7.size; have e8 := ((Joins.below_alloc1 w7 (.cells #[.slice none 0 0] 38)).cell (p := ⟨w5.heap.size, 1, none⟩) hl7).trans e7; have HB7 := Lib.hid (HB6.out.trans (hb7.mono HB6.out.size)); have HLN := Lib.hid (len_st (w7.alloc (.cells #[.slice none 0 0] 38)) 0 w7.heap.size [] (st_new w7 0 (Nat.zero_le _))); clear hb7)
      | (go_at_call 12; refine (slen_nil w7).mono ?_; rintro e w8 ⟨rfl, hw⟩; obtain rfl := hw.symm)
      | (go_at_call 18; refine (sall_nil w7).mono ?_; rintro e w8 ⟨rfl, hw⟩; obtain rfl := hw.symm)
      | (go_at_call 17; refine (copy_nil w7).mono ?_; rintro e w8 ⟨rfl, hw⟩; obtain rfl := hw.symm)
      | (go_at_call 12; refine HLN.out.mono ?_; rintro e w8 ⟨rfl, hw⟩; obtain rfl := hw.symm))
    go_ret
    exact ⟨rfl, HB7.out.trans ((Joins.below_alloc1 w7 _).mono HB7.out.size)⟩
end Go.Proofs.YteojlnbonhipbaaDoor
