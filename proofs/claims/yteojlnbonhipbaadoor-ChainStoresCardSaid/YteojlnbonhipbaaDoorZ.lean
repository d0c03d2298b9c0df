/- A chain up to a message: too far, or back. -/
import Derived.Test.YteojlnbonhipbaaDoorYe
namespace Go.Proofs.YteojlnbonhipbaaDoor
open Go.RowKit Go.Maps
theorem results_cell_tmp_row {P : Program} {fn : Func} {p u : Tmp} {ty : TypeId} (h : fn.results = #[.cell p ty, .tmp u]) (tmps : Array Value) (w : World) (g : Nat) (t : TypeId) (cs : Array Value) (fr : Nat × Nat) (d : TypeDesc)
    (hp : tmps.getD p undef = .pointer (some ⟨g, 0, none⟩)) (hg : w.heap[g]? = some (.cells cs t fr))
    (hu : P.underlying ty = some d) (hd : (match d with | .struct _ | .array _ _ => true | _ => false) = true) (hi : (P.info? ty).map (·.size) = some cs.size) :
    (results fn tmps).run P w = .ok (.tuple #[.agg cs, tmps.getD u undef]) w := by
  rw [results_cell_tmp h, hp]
  simp [asAddr, run_loadVar_row w g t ty cs fr d hg hu hd hi]
set_option maxRecDepth 20000 in
set_option maxHeartbeats 8000000 in
theorem ahead_err (w : World) (n to : Nat) (K : List UInt8) (ko : Option Addr) (kc : Nat) (pv sv ov : Value) (hby : Byt w ko K) (hK : K.length ≤ 1048576) (hn : n < 4294967296) (ht : to < 4294967296) (c : Int) (hc : (to < n ∧ c = 8) ∨ (n ≤ to ∧ 16 < to - n ∧ c = 7)) :
    Calls Tryd.prog 11 #[pv, .agg #[.slice ko K.length kc, .int .u32 n], ov, .int .u32 to, sv] w fun e w' => ∃ ao cap, e = .returned (.tuple #[.agg #[.slice ao K.length cap, .int .u32 n], .int .i64 c]) ∧ By w' ao K ∧ K.length ≤ cap ∧ Below w.heap.size w w' := by
  have hb0 := Joins.below_alloc2 w (.cells #[.slice ko K.length kc, .int .u32 n] 27) (.cells #[.slice none 0 0, .int .u32 0] 27)
  have hr0 := (Below.heap_alloc (w.alloc (.cells #[.slice ko K.length kc, .int .u32 n] 27)) (.cells #[.slice none 0 0, .int .u32 0] 27) w.heap.size (by simp)).trans (heap_alloc_new w (.cells #[.slice ko K.length kc, .int .u32 n] 27))
  have hr1 := heap_alloc_new (w.alloc (.cells #[.slice ko K.length kc, .int .u32 n] 27)) (.cells #[.slice none 0 0, .int .u32 0] 27)
  rw [show (w.alloc (.cells #[.slice ko K.length kc, .int .u32 n] 27)).heap.size = w.heap.size + 1 by simp] at hr1
  have hcl := cclone_any ((w.alloc (.cells #[.slice ko K.length kc, .int .u32 n] 27)).alloc (.cells #[.slice none 0 0, .int .u32 0] 27)) ko kc K n (hby.on hb0 (Nat.le_refl _)) hK
  obtain ⟨p, hp⟩ : ∃ p, p = K.length := ⟨_, rfl⟩
  rw [← hp] at hb0 hr0 hr1 hcl ⊢
  have c0 : ((w.alloc (.cells #[.slice ko p kc, .int .u32 n] 27)).alloc (.cells #[.slice none 0 0, .int .u32 0] 27)).cell? ⟨w.heap.size, 0, none⟩ = some (.slice ko p kc) := by rw [cell_of_row _ _ _ _ _ _ hr0]; rfl
  have c1 : ((w.alloc (.cells #[.slice ko p kc, .int .u32 n] 27)).alloc (.cells #[.slice none 0 0, .int .u32 0] 27)).cell? ⟨w.heap.size, 1, none⟩ = some (.int .u32 n) := by rw [cell_of_row _ _ _ _ _ _ hr0]; rfl
  have HCL := Lib.hid hcl
  have HX := Lib.hid (And.intro hb0 hr1)
  clear hcl hb0 hr0 hr1 hK hby hp
  have hend : ∀ (w1 : World) (ao : Option Addr) (cap : Nat), By w1 ao K → Below ((w.alloc (.cells #[.slice ko p kc, .int .u32 n] 27)).alloc (.cells #[.slice none 0 0, .int .u32 0] 27)).heap.size ((w.alloc (.cells #[.slice ko p kc, .int .u32 n] 27)).alloc (.cells #[.slice none 0 0, .int .u32 0] 27)) w1 → (w1.cell? ⟨w.heap.size + 1, 0, none⟩ = some (.slice none 0 0) ∧ w1.frozen? ⟨w.heap.size + 1, 0, none⟩ = false ∧ (w1.setCell ⟨w.heap.size + 1, 0, none⟩ (.slice ao p cap)).cell? ⟨w.heap.size + 1, 1, none⟩ = some (.int .u32 0) ∧ (w1.setCell ⟨w.heap.size + 1, 0, none⟩ (.slice ao p cap)).frozen? ⟨w.heap.size + 1, 1, none⟩ = false) ∧
      Hid (((w1.setCell ⟨w.heap.size + 1, 0, none⟩ (.slice ao p cap)).setCell ⟨w.heap.size + 1, 1, none⟩ (.int .u32 n)).heap[w.heap.size + 1]? = some (.cells #[.slice ao p cap, .int .u32 n] 27 (0, 0)) ∧ By ((w1.setCell ⟨w.heap.size + 1, 0, none⟩ (.slice ao p cap)).setCell ⟨w.heap.size + 1, 1, none⟩ (.int .u32 n)) ao K ∧ Below w.heap.size w ((w1.setCell ⟨w.heap.size + 1, 0, none⟩ (.slice ao p cap)).setCell ⟨w.heap.size + 1, 1, none⟩ (.int .u32 n))) := by
    intro w1 ao cap hy hb1
    have hq := (hb1.block _ (Array.getElem?_eq_some_iff.1 HX.out.2).1).trans HX.out.2
    have hq1 := heap_setCell_same w1 (w.heap.size + 1) 0 _ 27 (.slice ao p cap) hq
    have hq2 := heap_setCell_same _ (w.heap.size + 1) 1 _ 27 (.int .u32 n) hq1
    refine ⟨⟨by rw [cell_of_row _ _ _ _ _ _ hq]; rfl, by simp [World.frozen?, hq], by rw [cell_of_row _ _ _ _ _ _ hq1]; rfl, by simp [World.frozen?, hq1]⟩, hq2, (hy.kp (Kp.set (i := 0) hq _) (by decide)).kp (Kp.set (i := 1) hq1 (.int .u32 n)) (by decide), ?_⟩
    exact ((HX.out.1.trans (hb1.mono HX.out.1.size)).setCell (p := ⟨w.heap.size + 1, 0, none⟩) (Nat.le_succ _) _).setCell (p := ⟨w.heap.size + 1, 1, none⟩) (Nat.le_succ _) _
  have HEND := Lib.hid hend
  clear hend
  rcases hc with ⟨h1, rfl⟩ | ⟨h1, h2, rfl⟩
  · have h1i : (to : Int) < n := by omega
    go_enter Tryd.func11, Tryd.ntmps11
    go_wp2_with (go_at_call 22; refine HCL.out.mono ?_; rintro e w1 ⟨ao, cap, rfl, hy, hcap, hb1⟩; obtain ⟨⟨x0, x1, x2, x3⟩, HE⟩ := HEND.out w1 ao cap hy hb1; have HC := Lib.hid hcap; clear hy hb1 hcap)
    exact bodyPost_ret (results_cell_tmp_row Tryd.results11 _ _ (w.heap.size + 1) 27 _ (0, 0) _ rfl HE.out.1 Tryd.underlying27 rfl info27) rfl ⟨ao, cap, rfl, HE.out.2.1, HC.out, HE.out.2.2⟩
  · have h1i : ¬ (to : Int) < n := by omega
    have h2i : IntKind.u32.wrap ((to : Int) - n) = ((to - n : Nat) : Int) := by simp [IntKind.wrap, IntKind.bits, IntKind.signed]; omega
    have h3i : (16 : Int) < ((to - n : Nat) : Int) := by omega
    generalize to - n = d at *
    go_enter Tryd.func11, Tryd.ntmps11
    go_wp2_with (go_at_call 22; refine HCL.out.mono ?_; rintro e w1 ⟨ao, cap, rfl, hy, hcap, hb1⟩; obtain ⟨⟨x0, x1, x2, x3⟩, HE⟩ := HEND.out w1 ao cap hy hb1; have HC := Lib.hid hcap; clear hy hb1 hcap)
    exact bodyPost_ret (results_cell_tmp_row Tryd.results11 _ _ (w.heap.size + 1) 27 _ (0, 0) _ rfl HE.out.1 Tryd.underlying27 rfl info27) rfl ⟨ao, cap, rfl, HE.out.2.1, HC.out, HE.out.2.2⟩
end Go.Proofs.YteojlnbonhipbaaDoor
