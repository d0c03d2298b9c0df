/- A key of a store, copied. -/
import Derived.Test.YteojlnbonhipbaaDoorW
namespace Go.Proofs.YteojlnbonhipbaaDoor
open Go.RowKit Go.Maps
theorem info47 : (Tryd.prog.info? 47).map (·.size) = some 3 := by kernel_rfl
set_option maxRecDepth 20000 in
set_option maxHeartbeats 8000000 in
theorem sclone_any (w : World) (x : Sk) (s : Sl) (h1 : Byt w s.oa x.of) (h2 : Byt w s.ka x.key) (l1 : x.of.length ≤ 1048576) (l2 : x.key.length ≤ 1048576) :
    Calls Tryd.prog 26 #[.agg #[.slice s.oa x.of.length s.oc, .int .u32 x.n, .slice s.ka x.key.length s.kc]] w fun e w' => ∃ t : Sl, e = .returned (.agg #[.slice t.oa x.of.length t.oc, .int .u32 x.n, .slice t.ka x.key.length t.kc]) ∧ By w' t.oa x.of ∧ By w' t.ka x.key ∧ Below w.heap.size w w' := by
  obtain ⟨P, n, Q⟩ := x
  obtain ⟨oa, oc, ka, kc⟩ := s
  dsimp only at *
  have hb0 := Joins.below_alloc2 w (.cells #[.slice oa P.length oc, .int .u32 n, .slice ka Q.length kc] 47) (.cells #[.slice none 0 0, .int .u32 0, .slice none 0 0] 47)
  have hc1 := fun w' (hb : Below w.heap.size w w') => clone_any oa oc P w' (h1.on hb (Nat.le_refl _)) l1
  have hc2 := fun w' (hb : Below w.heap.size w w') => clone_any ka kc Q w' (h2.on hb (Nat.le_refl _)) l2
  have hr0 := (Below.heap_alloc (w.alloc (.cells #[.slice oa P.length oc, .int .u32 n, .slice ka Q.length kc] 47)) (.cells #[.slice none 0 0, .int .u32 0, .slice none 0 0] 47) w.heap.size (by simp)).trans (heap_alloc_new w (.cells #[.slice oa P.length oc, .int .u32 n, .slice ka Q.length kc] 47))
  have hr1 := heap_alloc_new (w.alloc (.cells #[.slice oa P.length oc, .int .u32 n, .slice ka Q.length kc] 47)) (.cells #[.slice none 0 0, .int .u32 0, .slice none 0 0] 47)
  rw [show (w.alloc (.cells #[.slice oa P.length oc, .int .u32 n, .slice ka Q.length kc] 47)).heap.size = w.heap.size + 1 by simp] at hr1
  obtain ⟨p, hp⟩ : ∃ p, p = P.length := ⟨_, rfl⟩
  obtain ⟨q, hq⟩ : ∃ q, q = Q.length := ⟨_, rfl⟩
  rw [← hp] at hb0 hc1 hr0 hr1 ⊢
  rw [← hq] at hb0 hc2 hr0 hr1 ⊢
  have HC1 := Lib.hid hc1
  have HC2 := Lib.hid hc2
  have HPQ := Lib.hid (And.intro hp hq)
  have HB := Lib.hid hb0
  clear hc1 hc2 hp hq l1 l2 h1 h2 hb0
  go_enter Tryd.func26, Tryd.ntmps26
  go_wp2
  generalize (w.alloc (.cells #[.slice oa p oc, .int .u32 n, .slice ka q kc] 47)).alloc (.cells #[.slice none 0 0, .int .u32 0, .slice none 0 0] 47) = w0 at *
  have c0 : w0.cell? ⟨w.heap.size, 0, none⟩ = some (.slice oa p oc) := by rw [cell_of_row _ _ _ _ _ _ hr0]; rfl
  have c1 : w0.cell? ⟨w.heap.size, 1, none⟩ = some (.int .u32 n) := by rw [cell_of_row _ _ _ _ _ _ hr0]; rfl
  have c2 : w0.cell? ⟨w.heap.size, 2, none⟩ = some (.slice ka q kc) := by rw [cell_of_row _ _ _ _ _ _ hr0]; rfl
  have h0l := (Array.getElem?_eq_some_iff.1 hr0).1
  have h1l := (Array.getElem?_eq_some_iff.1 hr1).1
  have HR1 := Lib.hid hr1
  have hcd : Calls Tryd.prog 24 #[.slice oa p oc] w0.drew _ := HC1.out w0.drew HB.out.drew
  have HCD := Lib.hid hcd
  clear hcd hr1 hr0
  go_region_with (first
    | (go_at_call 24; refine HCD.out.mono ?_; rintro e w1 ⟨v1, rfl, hown, hb1⟩; have d1 := (hb1.cell (p := ⟨w.heap.size, 1, none⟩) h0l).trans c1; have d2 := (hb1.cell (p := ⟨w.heap.size, 2, none⟩) h0l).trans c2; have g0l := Nat.lt_of_lt_of_le h0l hb1.size; have g1l := Nat.lt_of_lt_of_le h1l hb1.size; have hr2 := (hb1.block _ h1l).trans HR1.out; obtain ⟨ao, cap, rfl, hby, -⟩ := hown.by_; rw [← HPQ.out.1]; have hbb : Below w.heap.size w w1 := (HB.out.drew.trans (hb1.mono HB.out.size)); have HCE := Lib.hid (HC2.out w1 hbb); have HO := Lib.hid (And.intro hby (And.intro hbb hr2)); clear hb1 hby hown hr2 hbb HCD)
    | (go_at_call 24; refine HCE.out.mono ?_; rintro e w2 ⟨v2, rfl, hown, hb2⟩; have e1 := (hb2.cell (p := ⟨w.heap.size, 1, none⟩) g0l).trans d1; have hr4 := (hb2.block _ g1l).trans HO.out.2.2; obtain ⟨bo, bap, rfl, hby2, -⟩ := hown.by_; rw [← HPQ.out.2]; have f0 : w2.frozen? ⟨w.heap.size + 1, 0, none⟩ = false := (by simp [World.frozen?, hr4]); have x0 : w2.cell? ⟨w.heap.size + 1, 0, none⟩ = some (.slice none 0 0) := (by rw [cell_of_row _ _ _ _ _ _ hr4]; rfl); have hr5 := heap_setCell_same w2 (w.heap.size + 1) 0 _ 47 (.slice ao p cap) hr4; have f1 : (w2.setCell ⟨w.heap.size + 1, 0, none⟩ (.slice ao p cap)).frozen? ⟨w.heap.size + 1, 1, none⟩ = false := (by simp [World.frozen?, hr5]); have x1 : (w2.setCell ⟨w.heap.size + 1, 0, none⟩ (.slice ao p cap)).cell? ⟨w.heap.size + 1, 1, none⟩ = some (.int .u32 0) := (by rw [cell_of_row _ _ _ _ _ _ hr5]; rfl); have hr6 := heap_setCell_same _ (w.heap.size + 1) 1 _ 47 (.int .u32 n) hr5; have f2 : ((w2.setCell ⟨w.heap.size + 1, 0, none⟩ (.slice ao p cap)).setCell ⟨w.heap.size + 1, 1, none⟩ (.int .u32 n)).frozen? ⟨w.heap.size + 1, 2, none⟩ = false := (by simp [World.frozen?, hr6]); have x2 : ((w2.setCell ⟨w.heap.size + 1, 0, none⟩ (.slice ao p cap)).setCell ⟨w.heap.size + 1, 1, none⟩ (.int .u32 n)).cell? ⟨w.heap.size + 1, 2, none⟩ = some (.slice none 0 0) := (by rw [cell_of_row _ _ _ _ _ _ hr6]; rfl); have HO2 := Lib.hid (And.intro hby2 (And.intro hb2 (And.intro hr4 (And.intro hr5 hr6)))); clear hb2 hby2 hown hr4 hr5 hr6 HCE))
  all_goals (
    go_wp2
    obtain ⟨hby2, hb2, hr4, hr5, hr6⟩ := HO2.out
    obtain ⟨hby1, hbw1, -⟩ := HO.out
    have hr7 := heap_setCell_same _ (w.heap.size + 1) 2 _ 47 (.slice bo q bap) hr6
    have k0 := Kp.set (i := 0) hr4 (.slice ao p cap)
    have k1 := Kp.set (i := 1) hr5 (.int .u32 n)
    have k2 := Kp.set (i := 2) hr6 (.slice bo q bap)
    have hby1' := hby1.kp (Kp.of_below [] hb2) (List.not_mem_nil)
    have hbw := hbw1.trans (hb2.mono hbw1.size)
    exact bodyPost_ret (results_cell_row Tryd.results26 _ _ (w.heap.size + 1) 47 _ (0, 0) _ rfl hr7 Tryd.underlying47 rfl info47) rfl ⟨⟨ao, cap, bo, bap⟩, rfl, ((hby1'.kp k0 (by decide)).kp k1 (by decide)).kp k2 (by decide), ((hby2.kp k0 (by decide)).kp k1 (by decide)).kp k2 (by decide), ((hbw.setCell (p := ⟨w.heap.size + 1, 0, none⟩) (Nat.le_succ _) _).setCell (p := ⟨w.heap.size + 1, 1, none⟩) (Nat.le_succ _) _).setCell (p := ⟨w.heap.size + 1, 2, none⟩) (Nat.le_succ _) _⟩)
end Go.Proofs.YteojlnbonhipbaaDoor
