/- A chain up to a message, without primitives. -/
import Derived.Test.YteojlnbonhipbaaDoorZe
namespace Go.Proofs.YteojlnbonhipbaaDoor
open Go.RowKit Go.Maps
set_option maxRecDepth 20000 in
set_option maxHeartbeats 8000000 in
theorem ahead_noprim (w : World) (n to : Nat) (K : List UInt8) (ko : Option Addr) (kc : Nat) (ov sv : Value) (hby : Byt w ko K) (hK : K.length ≤ 1048576) (h1 : n < to) (h2 : to ≤ n + 16) (_ : to < 4294967296) :
    Calls Tryd.prog 11 #[.pointer none, .agg #[.slice ko K.length kc, .int .u32 n], ov, .int .u32 to, sv] w fun e w' => ∃ ao cap, e = .returned (.tuple #[.agg #[.slice ao K.length cap, .int .u32 n], .int .i64 2]) ∧ By w' ao K ∧ Below w.heap.size w w' := by
  have hb0 := Joins.below_alloc2 w (.cells #[.slice ko K.length kc, .int .u32 n] 27) (.cells #[.slice none 0 0, .int .u32 0] 27)
  have hr0 := (Below.heap_alloc (w.alloc (.cells #[.slice ko K.length kc, .int .u32 n] 27)) (.cells #[.slice none 0 0, .int .u32 0] 27) w.heap.size (by simp)).trans (heap_alloc_new w (.cells #[.slice ko K.length kc, .int .u32 n] 27))
  have hr1 := heap_alloc_new (w.alloc (.cells #[.slice ko K.length kc, .int .u32 n] 27)) (.cells #[.slice none 0 0, .int .u32 0] 27)
  rw [show (w.alloc (.cells #[.slice ko K.length kc, .int .u32 n] 27)).heap.size = w.heap.size + 1 by simp] at hr1
  have hcl := fun w' (hb : Below w.heap.size w w') => cclone_any w' ko kc K n (hby.on hb (Nat.le_refl _)) hK
  have hst := fun w' (ao : Option Addr) (cap : Nat) (hy : By w' ao K) => step_noprim w' n K ao cap hy.byt hK
  have hcl0 := hcl _ hb0
  obtain ⟨p, hp⟩ : ∃ p, p = K.length := ⟨_, rfl⟩
  rw [← hp] at hb0 hr0 hr1 hcl hcl0 hst ⊢
  have c0 : ((w.alloc (.cells #[.slice ko p kc, .int .u32 n] 27)).alloc (.cells #[.slice none 0 0, .int .u32 0] 27)).cell? ⟨w.heap.size, 0, none⟩ = some (.slice ko p kc) := by rw [cell_of_row _ _ _ _ _ _ hr0]; rfl
  have c1 : ((w.alloc (.cells #[.slice ko p kc, .int .u32 n] 27)).alloc (.cells #[.slice none 0 0, .int .u32 0] 27)).cell? ⟨w.heap.size, 1, none⟩ = some (.int .u32 n) := by rw [cell_of_row _ _ _ _ _ _ hr0]; rfl
  have h1i : ¬ (to : Int) < n := by omega
  have h2i : IntKind.u32.wrap ((to : Int) - n) = ((to - n : Nat) : Int) := by simp [IntKind.wrap, IntKind.bits, IntKind.signed]; omega
  have h3i : ¬ (16 : Int) < ((to - n : Nat) : Int) := by omega
  have h4i : ¬ ((n : Int) = to) := by omega
  generalize to - n = d at *
  have HCL0 := Lib.hid hcl0
  have HCL := Lib.hid hcl
  have HST := Lib.hid hst
  have HX := Lib.hid (And.intro hb0 (And.intro hr0 hr1))
  clear hcl hcl0 hb0 hr0 hr1 hK hby hp hst h1 h2
  go_enter Tryd.func11, Tryd.ntmps11
  go_wp2_with (go_at_call 22; refine HCL0.out.mono ?_; rintro e w1 ⟨ao, cap, rfl, hy, hcap, hb1⟩; refine Hid.out ?_)
  refine Lib.hid ?_
  obtain ⟨hb0, hr0, hr1⟩ := HX.out
  have h0l := (Array.getElem?_eq_some_iff.1 hr0).1
  have h1l := (Array.getElem?_eq_some_iff.1 hr1).1
  have b2 := Joins.below_alloc1 w1 (.cells #[.slice ao p cap, .int .u32 n] 27)
  have hb02 := hb1.trans (b2.mono hb1.size)
  have r2 := heap_alloc_new w1 (.cells #[.slice ao p cap, .int .u32 n] 27)
  have a0 : (w1.alloc (.cells #[.slice ao p cap, .int .u32 n] 27)).cell? ⟨w1.heap.size, 0, none⟩ = some (.slice ao p cap) := by rw [cell_of_row _ _ _ _ _ _ r2]; rfl
  have a1 : (w1.alloc (.cells #[.slice ao p cap, .int .u32 n] 27)).cell? ⟨w1.heap.size, 1, none⟩ = some (.int .u32 n) := by rw [cell_of_row _ _ _ _ _ _ r2]; rfl
  have HST2 := Lib.hid (HST.out _ ao cap (hy.kp (Kp.of_below [] b2) (List.not_mem_nil)))
  have H2 := Lib.hid (And.intro hb02 (And.intro hr0 hr1))
  clear hy hcap hb1 b2 hb02 r2 hb0 hr0 hr1 HCL0 HST
  go_wp2
  refine wp_loop_rounds 1 ?_
  rw [rounds_succ]
  go_wp2_with (go_at_call 10; refine HST2.out.mono ?_; rintro e w3 ⟨bo, bap, rfl, hy3, hb3⟩; refine Hid.out ?_)
  refine Lib.hid ?_
  obtain ⟨hb02, hr0, hr1⟩ := H2.out
  obtain ⟨hb0, -, -⟩ := HX.out
  have b4 := Joins.below_alloc1 w3 (.cells #[.slice bo p bap, .int .u32 n] 27)
  have hb04 := (hb02.trans (hb3.mono hb02.size)).trans (b4.mono (Nat.le_trans hb02.size hb3.size))
  have r0 := (hb04.block _ h0l).trans hr0
  have r1 := (hb04.block _ h1l).trans hr1
  have x0 : (w3.alloc (.cells #[.slice bo p bap, .int .u32 n] 27)).cell? ⟨w.heap.size, 0, none⟩ = some (.slice ko p kc) := by rw [cell_of_row _ _ _ _ _ _ r0]; rfl
  have x1 : (w3.alloc (.cells #[.slice bo p bap, .int .u32 n] 27)).cell? ⟨w.heap.size, 1, none⟩ = some (.int .u32 n) := by rw [cell_of_row _ _ _ _ _ _ r0]; rfl
  have hbw4 := hb0.trans (hb04.mono hb0.size)
  have HC4 := Lib.hid (HCL.out _ hbw4)
  have hend : ∀ (w5 : World) (fo : Option Addr) (fc : Nat), By w5 fo K → Below (w3.alloc (.cells #[.slice bo p bap, .int .u32 n] 27)).heap.size (w3.alloc (.cells #[.slice bo p bap, .int .u32 n] 27)) w5 → (w5.cell? ⟨w.heap.size + 1, 0, none⟩ = some (.slice none 0 0) ∧ w5.frozen? ⟨w.heap.size + 1, 0, none⟩ = false ∧ (w5.setCell ⟨w.heap.size + 1, 0, none⟩ (.slice fo p fc)).cell? ⟨w.heap.size + 1, 1, none⟩ = some (.int .u32 0) ∧ (w5.setCell ⟨w.heap.size + 1, 0, none⟩ (.slice fo p fc)).frozen? ⟨w.heap.size + 1, 1, none⟩ = false) ∧
      Hid (((w5.setCell ⟨w.heap.size + 1, 0, none⟩ (.slice fo p fc)).setCell ⟨w.heap.size + 1, 1, none⟩ (.int .u32 n)).heap[w.heap.size + 1]? = some (.cells #[.slice fo p fc, .int .u32 n] 27 (0, 0)) ∧ By ((w5.setCell ⟨w.heap.size + 1, 0, none⟩ (.slice fo p fc)).setCell ⟨w.heap.size + 1, 1, none⟩ (.int .u32 n)) fo K ∧ Below w.heap.size w ((w5.setCell ⟨w.heap.size + 1, 0, none⟩ (.slice fo p fc)).setCell ⟨w.heap.size + 1, 1, none⟩ (.int .u32 n))) := by
    intro w5 fo fc hy hb5
    have hq := (hb5.block _ (Array.getElem?_eq_some_iff.1 r1).1).trans r1
    have hq1 := heap_setCell_same w5 (w.heap.size + 1) 0 _ 27 (.slice fo p fc) hq
    have hq2 := heap_setCell_same _ (w.heap.size + 1) 1 _ 27 (.int .u32 n) hq1
    refine ⟨⟨by rw [cell_of_row _ _ _ _ _ _ hq]; rfl, by simp [World.frozen?, hq], by rw [cell_of_row _ _ _ _ _ _ hq1]; rfl, by simp [World.frozen?, hq1]⟩, hq2, (hy.kp (Kp.set (i := 0) hq _) (by decide)).kp (Kp.set (i := 1) hq1 (.int .u32 n)) (by decide), ?_⟩
    exact ((hbw4.trans (hb5.mono hbw4.size)).setCell (p := ⟨w.heap.size + 1, 0, none⟩) (Nat.le_succ _) _).setCell (p := ⟨w.heap.size + 1, 1, none⟩) (Nat.le_succ _) _
  have HEND := Lib.hid hend
  clear hend hbw4 r0 r1 hb04 b4 hb02 hr0 hr1 hb0 hb3 hy3 HST2 HCL
  go_wp2_with (go_at_call 22; refine HC4.out.mono ?_; rintro e w5 ⟨fo, fc, rfl, hy, hcap, hb1⟩; obtain ⟨⟨z0, z1, z2, z3⟩, HE⟩ := HEND.out w5 fo fc hy hb1; clear hy hb1 hcap)
  exact bodyPost_ret (results_cell_tmp_row Tryd.results11 _ _ (w.heap.size + 1) 27 _ (0, 0) _ rfl HE.out.1 Tryd.underlying27 rfl info27) rfl ⟨fo, fc, rfl, HE.out.2.1, HE.out.2.2⟩
end Go.Proofs.YteojlnbonhipbaaDoor
