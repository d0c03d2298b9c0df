/- A chain's step, over any primitives. -/
import Derived.Test.YteojlnbonhipbaaDoorT
namespace Go.Proofs.YteojlnbonhipbaaDoor
open Go.RowKit Go.Maps
theorem results_tmp_cell_row {P : Program} {fn : Func} {p u : Tmp} {ty : TypeId} (h : fn.results = #[.tmp u, .cell p ty]) (tmps : Array Value) (w : World) (g : Nat) (t : TypeId) (cs : Array Value) (fr : Nat × Nat) (d : TypeDesc)
    (hp : tmps.getD p undef = .pointer (some ⟨g, 0, none⟩)) (hg : w.heap[g]? = some (.cells cs t fr))
    (hu : P.underlying ty = some d) (hd : (match d with | .struct _ | .array _ _ => true | _ => false) = true) (hi : (P.info? ty).map (·.size) = some cs.size) :
    (results fn tmps).run P w = .ok (.tuple #[tmps.getD u undef, .agg cs]) w := by
  have hp' : tmps[p]?.getD undef = .pointer (some ⟨g, 0, none⟩) := by simpa using hp
  simp [results, h, hp', asAddr, run_loadVar_row w g t ty cs fr d hg hu hd hi]
/-- What a step leaves. -/
structure Stp {σ : Type} (I : PI σ) (B pb n : Nat) (s : σ) (K : List UInt8) (w : World) (e : Ending) (w' : World) : Prop where
  ex : ∃ a1 c1 a2 c2, e = .returned (.tuple #[.slice a1 32 c1, .agg #[.slice a2 32 c2, .int .u32 ((n : Int) + 1)]]) ∧ By w' a1 (I.k1 s K) ∧ By w' a2 (I.k2 s K) ∧ 32 ≤ c1 ∧ 32 ≤ c2
  p : I.P w' B pb (I.st s K)
  below : Below B w w'
  kp : Kp TK w w'
set_option maxRecDepth 20000 in
set_option maxHeartbeats 8000000 in
theorem step_any {σ : Type} (I : PI σ) (w : World) (B pb n j : Nat) (s : σ) (K : List UInt8) (ko : Option Addr) (kc : Nat) (hP : I.P w B pb s) (hok : I.ok (j + 1) s K) (hby : By w ko K) (hkc : 32 ≤ kc) (hB : B ≤ w.heap.size) (hn : n < 4294967295) :
    Calls Tryd.prog 10 #[.pointer (some ⟨pb, 0, none⟩), .agg #[.slice ko 32 kc, .int .u32 n]] w (Stp I B pb n s K w) := by
  have hb0 := Joins.below_alloc2 w (.cells #[.slice ko 32 kc, .int .u32 n] 27) (.cells #[.slice none 0 0, .int .u32 0] 27)
  have hr0 := (Below.heap_alloc (w.alloc (.cells #[.slice ko 32 kc, .int .u32 n] 27)) (.cells #[.slice none 0 0, .int .u32 0] 27) w.heap.size (by simp)).trans (heap_alloc_new w (.cells #[.slice ko 32 kc, .int .u32 n] 27))
  have hr1 := heap_alloc_new (w.alloc (.cells #[.slice ko 32 kc, .int .u32 n] 27)) (.cells #[.slice none 0 0, .int .u32 0] 27)
  rw [show (w.alloc (.cells #[.slice ko 32 kc, .int .u32 n] 27)).heap.size = w.heap.size + 1 by simp] at hr1
  have hcall := I.call _ B pb j s K ko kc (I.on hP hb0) hok (hby.kp (Kp.of_below [] hb0) (List.not_mem_nil)) hkc (Nat.le_trans hB hb0.size)
  have hc0 : ((w.alloc (.cells #[.slice ko 32 kc, .int .u32 n] 27)).alloc (.cells #[.slice none 0 0, .int .u32 0] 27)).cell? ⟨w.heap.size, 0, none⟩ = some (.slice ko 32 kc) := by rw [cell_of_row _ _ _ _ _ _ hr0]; rfl
  have HC := Lib.hid hcall
  have HR := Lib.hid (And.intro hr0 (And.intro hr1 hb0))
  clear hcall hr0 hr1 hb0 hP hok hby
  go_enter Tryd.func10, Tryd.ntmps10
  go_wp2_with (go_at_call 9; refine HC.out.mono ?_; rintro e w1 ⟨⟨r, cr, a1, c1, a2, c2, rfl, hrl, d0, d1, hy1, hy2, hc1, hc2⟩, hP1, hb1, hk1⟩; refine Hid.out ?_)
  refine Lib.hid ?_
  obtain ⟨hr0, hr1, hb0⟩ := HR.out
  have q0 := hk1.cells hr0 (show some 27 ∉ TK by decide)
  have q1 := hk1.cells hr1 (show some 27 ∉ TK by decide)
  have e1 : w1.cell? ⟨w.heap.size, 1, none⟩ = some (.int .u32 n) := by rw [cell_of_row _ _ _ _ _ _ q0]; rfl
  have f2 : w1.frozen? ⟨w.heap.size + 1, 0, none⟩ = false := by simp [World.frozen?, q1]
  have d2 : w1.cell? ⟨w.heap.size + 1, 0, none⟩ = some (.slice none 0 0) := by rw [cell_of_row _ _ _ _ _ _ q1]; rfl
  have hr3 := heap_setCell_same w1 (w.heap.size + 1) 0 _ 27 (.slice a2 32 c2) q1
  have f3 : (w1.setCell ⟨w.heap.size + 1, 0, none⟩ (.slice a2 32 c2)).frozen? ⟨w.heap.size + 1, 1, none⟩ = false := by simp [World.frozen?, hr3]
  have d3 : (w1.setCell ⟨w.heap.size + 1, 0, none⟩ (.slice a2 32 c2)).cell? ⟨w.heap.size + 1, 1, none⟩ = some (.int .u32 0) := by rw [cell_of_row _ _ _ _ _ _ hr3]; rfl
  have HQ := Lib.hid (And.intro q1 (And.intro hr3 (And.intro hb0 (And.intro hP1 (And.intro hb1 (And.intro hk1 (And.intro hy1 hy2)))))))
  clear q0 q1 hr3 hr0 hr1 hb0 hP1 hb1 hk1 hy1 hy2 hc0 HC HR
  go_wp2
  have hw : IntKind.u32.wrap ((n : Int) + 1) = (n : Int) + 1 := by simp [IntKind.wrap, IntKind.bits, IntKind.signed]; omega
  go_region
  go_wp2
  obtain ⟨q1, hr3, hb0, hP1, hb1, hk1, hy1, hy2⟩ := HQ.out
  have hr4 := heap_setCell_same _ (w.heap.size + 1) 1 _ 27 (.int .u32 ((n : Int) + 1)) hr3
  have k1 := Kp.set (i := 0) q1 (.slice a2 32 c2)
  have k2 := Kp.set (i := 1) hr3 (.int .u32 ((n : Int) + 1))
  have hbw : Below B w w1 := (hb0.mono hB).trans hb1
  have s1 : Below B w1 (w1.setCell ⟨w.heap.size + 1, 0, none⟩ (.slice a2 32 c2)) := (Below.refl B w1).setCell (p := ⟨w.heap.size + 1, 0, none⟩) (by show B ≤ w.heap.size + 1; omega) _
  have s2 : Below B (w1.setCell ⟨w.heap.size + 1, 0, none⟩ (.slice a2 32 c2)) ((w1.setCell ⟨w.heap.size + 1, 0, none⟩ (.slice a2 32 c2)).setCell ⟨w.heap.size + 1, 1, none⟩ (.int .u32 ((n : Int) + 1))) := (Below.refl B _).setCell (p := ⟨w.heap.size + 1, 1, none⟩) (by show B ≤ w.heap.size + 1; omega) _
  have hP3 := I.kp (I.kp hP1 k1 s1 (by decide)) k2 s2 (by decide)
  have hkw : Kp TK w w1 := (Kp.of_below TK hb0).trans hk1
  have hd := (Below.refl ((w1.setCell ⟨w.heap.size + 1, 0, none⟩ (.slice a2 32 c2)).setCell ⟨w.heap.size + 1, 1, none⟩ (.int .u32 ((n : Int) + 1))).heap.size ((w1.setCell ⟨w.heap.size + 1, 0, none⟩ (.slice a2 32 c2)).setCell ⟨w.heap.size + 1, 1, none⟩ (.int .u32 ((n : Int) + 1)))).drew
  refine bodyPost_ret (results_tmp_cell_row Tryd.results10 _ _ (w.heap.size + 1) 27 _ (0, 0) _ rfl hr4 Tryd.underlying27 rfl info27) rfl ⟨⟨a1, c1, a2, c2, rfl, ((hy1.kp k1 (by decide)).kp k2 (by decide)).kp (Kp.of_below [] hd) (List.not_mem_nil), ((hy2.kp k1 (by decide)).kp k2 (by decide)).kp (Kp.of_below [] hd) (List.not_mem_nil), hc1, hc2⟩, I.on hP3 hd, ((hbw.trans s1).trans s2).drew, ?_⟩
  exact ((hkw.new (p := ⟨w.heap.size + 1, 0, none⟩) (Nat.le_succ _) _).new (p := ⟨w.heap.size + 1, 1, none⟩) (Nat.le_succ _) _).below hd
end Go.Proofs.YteojlnbonhipbaaDoor
