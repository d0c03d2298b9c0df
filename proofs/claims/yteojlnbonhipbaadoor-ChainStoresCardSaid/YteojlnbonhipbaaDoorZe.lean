/- A nil store, and no primitives. -/
import Derived.Test.YteojlnbonhipbaaDoorZd
namespace Go.Proofs.YteojlnbonhipbaaDoor
open Go.RowKit Go.Maps
set_option maxHeartbeats 2000000 in
theorem none_nil (w : World) : Calls Tryd.prog 21 #[.pointer none] w fun e w' => e = .returned (.bool true) ∧ w' = w := by
  go_enter Tryd.func21, Tryd.ntmps21
  go_wp2
  go_ret
  exact ⟨rfl, rfl⟩
set_option maxHeartbeats 2000000 in
theorem pderive_nil (w : World) (ko : Option Addr) (p kc : Nat) (s : ByteArray) (n : Int) : Calls Tryd.prog 9 #[.pointer none, .slice ko p kc, .slice none 0 0, .string s, .int .i64 n] w fun e w' => e = .returned (.slice none 0 0) ∧ w' = w := by
  have hn := none_nil w
  go_enter Tryd.func9, Tryd.ntmps9
  go_wp2_with (go_at_call 21; refine hn.mono ?_; rintro e w1 ⟨rfl, hw⟩; obtain rfl := hw.symm)
  go_ret
  exact ⟨rfl, rfl⟩
set_option maxHeartbeats 2000000 in
theorem sall_nil (w : World) : Calls Tryd.prog 18 #[.pointer none] w fun e w' => e = .returned (.slice none 0 0) ∧ w' = w := by
  go_enter Tryd.func18, Tryd.ntmps18
  go_wp2
  go_ret
  exact ⟨rfl, rfl⟩
set_option maxHeartbeats 2000000 in
theorem copy_nil (w : World) : Calls Tryd.prog 17 #[.pointer none] w fun e w' => e = .returned (.pointer (some ⟨w.heap.size, 0, none⟩)) ∧ w' = w.alloc (.cells #[.slice none 0 0] 38) := by
  have hn := sall_nil w
  go_enter Tryd.func17, Tryd.ntmps17
  go_wp2_with (go_at_call 18; refine hn.mono ?_; rintro e w1 ⟨rfl, hw⟩; obtain rfl := hw.symm)
  go_ret
  exact ⟨rfl, rfl⟩
set_option maxRecDepth 20000 in
set_option maxHeartbeats 4000000 in
theorem step_noprim (w : World) (n : Nat) (K : List UInt8) (ko : Option Addr) (kc : Nat) (hby : Byt w ko K) (hK : K.length ≤ 1048576) :
    Calls Tryd.prog 10 #[.pointer none, .agg #[.slice ko K.length kc, .int .u32 n]] w fun e w' => ∃ ao cap, e = .returned (.tuple #[.slice none 0 0, .agg #[.slice ao K.length cap, .int .u32 n]]) ∧ By w' ao K ∧ Below w.heap.size w w' := by
  have hb0 := Joins.below_alloc2 w (.cells #[.slice ko K.length kc, .int .u32 n] 27) (.cells #[.slice none 0 0, .int .u32 0] 27)
  have hr0 := (Below.heap_alloc (w.alloc (.cells #[.slice ko K.length kc, .int .u32 n] 27)) (.cells #[.slice none 0 0, .int .u32 0] 27) w.heap.size (by simp)).trans (heap_alloc_new w (.cells #[.slice ko K.length kc, .int .u32 n] 27))
  have hr1 := heap_alloc_new (w.alloc (.cells #[.slice ko K.length kc, .int .u32 n] 27)) (.cells #[.slice none 0 0, .int .u32 0] 27)
  rw [show (w.alloc (.cells #[.slice ko K.length kc, .int .u32 n] 27)).heap.size = w.heap.size + 1 by simp] at hr1
  have hcl := cclone_any ((w.alloc (.cells #[.slice ko K.length kc, .int .u32 n] 27)).alloc (.cells #[.slice none 0 0, .int .u32 0] 27)) ko kc K n (hby.on hb0 (Nat.le_refl _)) hK
  have hd := pderive_nil ((w.alloc (.cells #[.slice ko K.length kc, .int .u32 n] 27)).alloc (.cells #[.slice none 0 0, .int .u32 0] 27)) ko K.length kc ⟨#[115, 116, 101, 112]⟩ 2
  obtain ⟨p, hp⟩ : ∃ p, p = K.length := ⟨_, rfl⟩
  rw [← hp] at hb0 hr0 hr1 hcl hd ⊢
  have c0 : ((w.alloc (.cells #[.slice ko p kc, .int .u32 n] 27)).alloc (.cells #[.slice none 0 0, .int .u32 0] 27)).cell? ⟨w.heap.size, 0, none⟩ = some (.slice ko p kc) := by rw [cell_of_row _ _ _ _ _ _ hr0]; rfl
  have c1 : ((w.alloc (.cells #[.slice ko p kc, .int .u32 n] 27)).alloc (.cells #[.slice none 0 0, .int .u32 0] 27)).cell? ⟨w.heap.size, 1, none⟩ = some (.int .u32 n) := by rw [cell_of_row _ _ _ _ _ _ hr0]; rfl
  have hend : ∀ (w1 : World) (ao : Option Addr) (cap : Nat), By w1 ao K → Below ((w.alloc (.cells #[.slice ko p kc, .int .u32 n] 27)).alloc (.cells #[.slice none 0 0, .int .u32 0] 27)).heap.size ((w.alloc (.cells #[.slice ko p kc, .int .u32 n] 27)).alloc (.cells #[.slice none 0 0, .int .u32 0] 27)) w1 → (w1.cell? ⟨w.heap.size + 1, 0, none⟩ = some (.slice none 0 0) ∧ w1.frozen? ⟨w.heap.size + 1, 0, none⟩ = false ∧ (w1.setCell ⟨w.heap.size + 1, 0, none⟩ (.slice ao p cap)).cell? ⟨w.heap.size + 1, 1, none⟩ = some (.int .u32 0) ∧ (w1.setCell ⟨w.heap.size + 1, 0, none⟩ (.slice ao p cap)).frozen? ⟨w.heap.size + 1, 1, none⟩ = false) ∧
      Hid (((w1.setCell ⟨w.heap.size + 1, 0, none⟩ (.slice ao p cap)).setCell ⟨w.heap.size + 1, 1, none⟩ (.int .u32 n)).heap[w.heap.size + 1]? = some (.cells #[.slice ao p cap, .int .u32 n] 27 (0, 0)) ∧ By ((w1.setCell ⟨w.heap.size + 1, 0, none⟩ (.slice ao p cap)).setCell ⟨w.heap.size + 1, 1, none⟩ (.int .u32 n)) ao K ∧ Below w.heap.size w ((w1.setCell ⟨w.heap.size + 1, 0, none⟩ (.slice ao p cap)).setCell ⟨w.heap.size + 1, 1, none⟩ (.int .u32 n))) := by
    intro w1 ao cap hy hb1
    have hq := (hb1.block _ (Array.getElem?_eq_some_iff.1 hr1).1).trans hr1
    have hq1 := heap_setCell_same w1 (w.heap.size + 1) 0 _ 27 (.slice ao p cap) hq
    have hq2 := heap_setCell_same _ (w.heap.size + 1) 1 _ 27 (.int .u32 n) hq1
    refine ⟨⟨by rw [cell_of_row _ _ _ _ _ _ hq]; rfl, by simp [World.frozen?, hq], by rw [cell_of_row _ _ _ _ _ _ hq1]; rfl, by simp [World.frozen?, hq1]⟩, hq2, (hy.kp (Kp.set (i := 0) hq _) (by decide)).kp (Kp.set (i := 1) hq1 (.int .u32 n)) (by decide), ?_⟩
    exact ((hb0.trans (hb1.mono hb0.size)).setCell (p := ⟨w.heap.size + 1, 0, none⟩) (Nat.le_succ _) _).setCell (p := ⟨w.heap.size + 1, 1, none⟩) (Nat.le_succ _) _
  have HCL := Lib.hid hcl
  have HD := Lib.hid hd
  have HEND := Lib.hid hend
  clear hcl hb0 hr0 hr1 hK hby hp hd hend
  go_enter Tryd.func10, Tryd.ntmps10
  go_wp2_with (first
    | (go_at_call 9; refine HD.out.mono ?_; rintro e w1 ⟨rfl, hw⟩; obtain rfl := hw.symm)
    | (go_at_call 22; refine HCL.out.mono ?_; rintro e w1 ⟨ao, cap, rfl, hy, hcap, hb1⟩; obtain ⟨⟨x0, x1, x2, x3⟩, HE⟩ := HEND.out w1 ao cap hy hb1; clear hy hb1 hcap))
  exact bodyPost_ret (results_tmp_cell_row Tryd.results10 _ _ (w.heap.size + 1) 27 _ (0, 0) _ rfl HE.out.1 Tryd.underlying27 rfl info27) rfl ⟨ao, cap, rfl, HE.out.2.1, HE.out.2.2⟩
end Go.Proofs.YteojlnbonhipbaaDoor
