/- The primitives over terms: New, Fresh, Derive. -/
import Derived.Test.YteojlnbonhipbaaDoorR
namespace Go.Proofs.YteojlnbonhipbaaDoor
open Go.RowKit Go.Maps
set_option maxHeartbeats 2000000 in
theorem tnew_any (w : World) : Calls Tryd.prog 28 #[] w fun e w' => e = .returned (.pointer (some ⟨w.heap.size, 0, none⟩)) ∧ w' = w.alloc (.cells #[.slice none 0 0, .map none] 83) := by
  go_enter Tryd.func28, Tryd.ntmps28
  go_wp2
  go_ret
  exact ⟨rfl, rfl⟩
theorem tb_new (w : World) (B : Nat) (hB : B ≤ w.heap.size) : Tb (w.alloc (.cells #[.slice none 0 0, .map none] 83)) B w.heap.size [] :=
  ⟨.slice none 0 0, .map none, [], ⟨hB, heap_alloc_new w _, World.ownsRow_nil _ _ _ _, (fun h => by cases h), (fun e he => absurd he (List.not_mem_nil)), List.Pairwise.nil, .inl ⟨rfl, rfl⟩⟩, rfl⟩
theorem mt_fresh (x : Value) (w : World) : (method 255 73 (.agg #[x]) "pawl/prim.fresh").run Tryd.prog w = .ok (80, .agg #[x]) w := by kernel_rfl
theorem mt_derive (x : Value) (w : World) : (method 255 73 (.agg #[x]) "pawl/prim.derive").run Tryd.prog w = .ok (79, .agg #[x]) w := by kernel_rfl
theorem mn_fresh (x : Value) (w : World) : (method 255 70 (.agg #[x]) "pawl/prim.fresh").run Tryd.prog w = .ok (64, .agg #[x]) w := by kernel_rfl
theorem mn_derive (x : Value) (w : World) : (method 255 70 (.agg #[x]) "pawl/prim.derive").run Tryd.prog w = .ok (63, .agg #[x]) w := by kernel_rfl
/-- A Prim over terms. -/
structure Pt (w : World) (B pb tb m : Nat) (L : List Tm) : Prop where
  pbB : B ≤ pb
  row : w.heap[pb]? = some (.cells #[.iface 73 (.agg #[.pointer (some ⟨tb, 0, none⟩)]), .pointer (some ⟨tb, 0, none⟩), .int .i64 m] 61 (0, 0))
  tab : Tb w B tb L
set_option maxHeartbeats 2000000 in
theorem pnew_terms (w : World) (so : Value) : Calls Tryd.prog 19 #[.int .u8 1, so] w fun e w' => ∃ pb tb, e = .returned (.tuple #[.pointer (some ⟨pb, 0, none⟩), .int .i64 0]) ∧ w.heap.size ≤ pb ∧ Pt w' w.heap.size pb tb 0 [] ∧ Below w.heap.size w w' := by
  go_enter Tryd.func19, Tryd.ntmps19
  go_wp2_with (go_at_call 28; refine (tnew_any _).mono ?_; rintro e w1 ⟨rfl, hw⟩; have HW := Lib.hid hw; clear hw)
  go_ret2
  obtain rfl := HW.out
  have hb := Joins.below_alloc2 w (.cells #[.slice none 0 0, .map none] 83) (.cells #[.iface 73 (.agg #[.pointer (some ⟨w.heap.size, 0, none⟩)]), .pointer (some ⟨w.heap.size, 0, none⟩), .int .i64 0] 61)
  have hr := heap_alloc_new (w.alloc (.cells #[.slice none 0 0, .map none] 83)) (.cells #[.iface 73 (.agg #[.pointer (some ⟨w.heap.size, 0, none⟩)]), .pointer (some ⟨w.heap.size, 0, none⟩), .int .i64 0] 61)
  exact ⟨_, w.heap.size, rfl, by simp, ⟨by simp, hr, (tb_new w w.heap.size (Nat.le_refl _)).on (Joins.below_alloc1 _ _)⟩, hb⟩
theorem Pt.on {w w' : World} {B pb tb m : Nat} {L : List Tm} (h : Pt w B pb tb m L) (hb : Below w.heap.size w w') : Pt w' B pb tb m L :=
  ⟨h.pbB, (hb.block pb (Array.getElem?_eq_some_iff.1 h.row).1).trans h.row, h.tab.on hb⟩
theorem Pt.kp {ts : List (Option TypeId)} {w w' : World} {B pb tb m : Nat} {L : List Tm} (h : Pt w B pb tb m L) (k : Kp ts w w') (h1 : some 83 ∉ ts) (h2 : some 130 ∉ ts) (h3 : none ∉ ts) (h4 : some 61 ∉ ts) : Pt w' B pb tb m L :=
  ⟨h.pbB, k.cells h.row h4, h.tab.kp k h1 h2 h3⟩
set_option maxHeartbeats 2000000 in
theorem none_terms (w : World) (pb : Nat) (x : Value) (hc : w.cell? ⟨pb, 0, none⟩ = some (.iface 73 x)) : Calls Tryd.prog 21 #[.pointer (some ⟨pb, 0, none⟩)] w fun e w' => e = .returned (.bool false) ∧ w' = w := by
  go_enter Tryd.func21, Tryd.ntmps21
  go_wp2
  go_ret
  exact ⟨rfl, rfl⟩
/-- An atom. -/
def atm (m : Nat) : Tm := ⟨1, [], [], m⟩
theorem atm_fit (m : Nat) (hm : m < 100) : Fit (atm m) :=
  ⟨⟨by show (0 : Int) ≤ 1; decide, by show (1 : Int) ≤ 255; decide, ⟨by show (0 : Int) ≤ (m : Int); omega, by show (m : Int) < 100; omega⟩, fun j hj => absurd hj (List.not_mem_nil)⟩, by show (0 : Nat) ≤ _; omega, by show (0 : Nat) ≤ _; omega⟩
set_option maxHeartbeats 2000000 in
theorem tfresh_any (w : World) (B tb m : Nat) (L : List Tm) (hT : Tb w B tb L) (hB : B ≤ w.heap.size) (hL : L.length ≤ 1000000) (hm : m < 100) :
    Calls Tryd.prog 80 #[.agg #[.pointer (some ⟨tb, 0, none⟩)], .int .i64 m] w fun e w' => ∃ g, e = .returned (.slice (some ⟨g, 0, none⟩) 32 32) ∧ w.heap.size ≤ g ∧ By w' (some ⟨g, 0, none⟩) (keyB (L.idxOf (atm m))) ∧ Tb w' B tb (ins L (atm m)) ∧ Below B w w' ∧ Kp TK w w' := by
  have hb0 := Joins.below_alloc1 w (.cells #[.pointer (some ⟨tb, 0, none⟩)] 73)
  have c0 : (w.alloc (.cells #[.pointer (some ⟨tb, 0, none⟩)] 73)).cell? ⟨w.heap.size, 0, none⟩ = some (.pointer (some ⟨tb, 0, none⟩)) := by
    rw [cell_of_row _ _ _ _ _ _ (heap_alloc_new w _)]; rfl
  have hp : Calls Tryd.prog 89 #[.agg #[.pointer (some ⟨tb, 0, none⟩)], .agg #[.int .u8 1, .slice none 0 0, .string ⟨#[]⟩, .int .i64 m]] (w.alloc (.cells #[.pointer (some ⟨tb, 0, none⟩)] 73)) _ := tput_any (atm m) (atm_fit m hm) none 0 _ ⟨fun j hj => absurd hj (Nat.not_lt_zero _)⟩ B tb L (hT.on hb0) (Nat.le_trans hB hb0.size) (by omega)
  have HP := Lib.hid hp
  have HB := Lib.hid hb0
  clear hp hT hb0
  go_enter Tryd.func80, Tryd.ntmps80
  go_wp2_with (go_at_call 89; refine HP.out.mono ?_; rintro e w1 ⟨g, rfl, hg, hby, hT1, hb1, hk1⟩)
  go_ret
  exact ⟨g, rfl, Nat.le_trans HB.out.size hg, hby, hT1, (HB.out.mono hB).trans hb1, (Kp.of_below TK HB.out).trans hk1⟩
set_option maxRecDepth 20000 in
set_option maxHeartbeats 4000000 in
theorem pfresh_terms (w : World) (B pb tb m : Nat) (L : List Tm) (hP : Pt w B pb tb m L) (hB : B ≤ w.heap.size) (hL : L.length ≤ 1000000) (hm : m < 99) :
    Calls Tryd.prog 20 #[.pointer (some ⟨pb, 0, none⟩)] w fun e w' => ∃ g, e = .returned (.slice (some ⟨g, 0, none⟩) 32 32) ∧ By w' (some ⟨g, 0, none⟩) (keyB (L.idxOf (atm (m + 1)))) ∧ Pt w' B pb tb (m + 1) (ins L (atm (m + 1))) ∧ Below B w w' ∧ Kp PK w w' := by
  have c0 : w.cell? ⟨pb, 0, none⟩ = some (.iface 73 (.agg #[.pointer (some ⟨tb, 0, none⟩)])) := by rw [cell_of_row _ _ _ _ _ _ hP.row]; rfl
  have c2 : w.cell? ⟨pb, 2, none⟩ = some (.int .i64 m) := by rw [cell_of_row _ _ _ _ _ _ hP.row]; rfl
  have f2 : w.frozen? ⟨pb, 2, none⟩ = false := by simp [World.frozen?, hP.row]
  have hn := none_terms w pb _ c0
  have hr := heap_setCell_same w pb 2 _ 61 (.int .i64 ((m : Int) + 1)) hP.row
  have hk := Kp.set (i := 2) hP.row (.int .i64 ((m : Int) + 1))
  have hT := hP.tab.kp hk (by decide) (by decide) (by decide)
  have hbs : Below B w (w.setCell ⟨pb, 2, none⟩ (.int .i64 ((m : Int) + 1))) := (Below.refl B w).setCell (p := ⟨pb, 2, none⟩) hP.pbB _
  have hc : Calls Tryd.prog 80 #[.agg #[.pointer (some ⟨tb, 0, none⟩)], .int .i64 ((m : Int) + 1)] (w.setCell ⟨pb, 2, none⟩ (.int .i64 ((m : Int) + 1))).drew _ := tfresh_any _ B tb (m + 1) L (hT.on ((Below.refl _ _).drew)) (Nat.le_trans hB hbs.size) hL (by omega)
  have d0 : (w.setCell ⟨pb, 2, none⟩ (.int .i64 ((m : Int) + 1))).cell? ⟨pb, 0, none⟩ = some (.iface 73 (.agg #[.pointer (some ⟨tb, 0, none⟩)])) := by rw [cell_of_row _ _ _ _ _ _ hr]; rfl
  have d2 : (w.setCell ⟨pb, 2, none⟩ (.int .i64 ((m : Int) + 1))).cell? ⟨pb, 2, none⟩ = some (.int .i64 ((m : Int) + 1)) := by rw [cell_of_row _ _ _ _ _ _ hr]; rfl
  have HX := Lib.hid (And.intro hP (And.intro hr (And.intro hk hbs)))
  have HC := Lib.hid hc
  clear hP hr hk hbs hT hc
  go_enter Tryd.func20, Tryd.ntmps20
  go_wp2_with (go_at_call 21; refine hn.mono ?_; rintro e w1 ⟨rfl, hw⟩; obtain rfl := hw.symm)
  generalize w.setCell ⟨pb, 2, none⟩ (.int .i64 ((m : Int) + 1)) = w1 at *
  have e0 : w1.drew.cell? ⟨pb, 0, none⟩ = some (.iface 73 (.agg #[.pointer (some ⟨tb, 0, none⟩)])) := d0
  have e2 : w1.drew.cell? ⟨pb, 2, none⟩ = some (.int .i64 ((m : Int) + 1)) := d2
  have hmt := fun w => mt_fresh (.pointer (some ⟨tb, 0, none⟩)) w
  go_region_with (go_at_call 80; refine HC.out.mono ?_; rintro e w2 ⟨g, rfl, hg, hby, hT1, hb1, hk1⟩)
  all_goals (
    go_wp2
    go_ret
    obtain ⟨hP, hr, hk, hbs⟩ := HX.out
    exact ⟨g, rfl, hby, ⟨hP.pbB, hk1.cells (w := w1.drew) hr (by decide), hT1⟩, hbs.drew.trans hb1, ((hk.mono (by decide)).trans (Kp.of_below PK ((Below.refl _ w1).drew))).trans hk1.tk⟩)
/-- What a derivation of two keys by a Prim leaves. -/
def PTwo (w : World) (B pb tb m : Nat) (L : List Tm) (u : Nat) (s : List UInt8) (e : Ending) (w' : World) : Prop :=
  ∃ r g1 g2, e = .returned (.slice (some ⟨r, 0, none⟩) 2 2) ∧ w'.heap[r]? = some (.cells #[.slice (some ⟨g1, 0, none⟩) 32 32, .slice (some ⟨g2, 0, none⟩) 32 32] 24 (0, 0)) ∧
    By w' (some ⟨g1, 0, none⟩) (keyB (L.idxOf (dt u s 0))) ∧ By w' (some ⟨g2, 0, none⟩) (keyB ((ins L (dt u s 0)).idxOf (dt u s 1))) ∧
    Pt w' B pb tb m (ins (ins L (dt u s 0)) (dt u s 1)) ∧ Below B w w' ∧ Kp TK w w'
set_option maxHeartbeats 4000000 in
theorem pderive_terms (w : World) (B pb tb m : Nat) (L : List Tm) (u : Nat) (hP : Pt w B pb tb m L) (hB : B ≤ w.heap.size) (hL : L.length ≤ 1000000) (hu : u < L.length) (hu1 : u < 100) (s : List UInt8) (hs : s.length ≤ 1048576) (ko : Option Addr) (kc : Nat) (hby : By w ko (keyB u)) (hkc : 32 ≤ kc) :
    Calls Tryd.prog 9 #[.pointer (some ⟨pb, 0, none⟩), .slice ko 32 kc, .slice none 0 0, .string ⟨s.toArray⟩, .int .i64 2] w (PTwo w B pb tb m L u s) := by
  have c0 : w.cell? ⟨pb, 0, none⟩ = some (.iface 73 (.agg #[.pointer (some ⟨tb, 0, none⟩)])) := by rw [cell_of_row _ _ _ _ _ _ hP.row]; rfl
  have hn := none_terms w pb _ c0
  have hc := tderive_two w B tb L u hP.tab hB hL hu hu1 s hs ko kc hby hkc
  have hmt := fun w => mt_derive (.pointer (some ⟨tb, 0, none⟩)) w
  have HP := Lib.hid hP
  have HC := Lib.hid hc
  clear hP hc hby
  go_enter Tryd.func9, Tryd.ntmps9
  go_wp2_with (first
    | (go_at_call 21; refine hn.mono ?_; rintro e w1 ⟨rfl, hw⟩; obtain rfl := hw.symm)
    | (go_at_call 79; refine HC.out.mono ?_; rintro e w2 ⟨r, g1, g2, rfl, hX⟩))
  go_ret
  obtain ⟨hr, h1, h2, hT, hb, hk⟩ := hX
  exact ⟨r, g1, g2, rfl, hr, h1, h2, ⟨HP.out.pbB, hk.cells HP.out.row (by decide), hT⟩, hb, hk⟩
end Go.Proofs.YteojlnbonhipbaaDoor
