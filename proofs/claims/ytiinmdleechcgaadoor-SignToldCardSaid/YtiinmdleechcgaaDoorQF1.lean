/- Layer 6, a part of the proof: FA FB FC FD FE FF FG FH FI FJ FK FL FM FN FO FP FQ FR FS FT FU FV FW. -/
import Derived.Test.YtiinmdleechcgaaDoorRows
import Derived.WalkKit
import Derived.WalkSpells
import Derived.WalkLawsBesides
import Derived.Lib.Hide
import Derived.Deep.RegionWith
import Derived.Deep.QuietTactic
import Derived.BigQuiet
import Derived.BigRegion
import Derived.WalkSmall
import Derived.Laws.BitsAllLaws
import Derived.Deep.MidRow
import Derived.Below
import Derived.Laws.CopyOwn
import Derived.Shelf.Bits.Mul64
import Derived.Laws.Externs
import Derived.StillTailTactics
import Derived.Orders
import Derived.DeepKeys
namespace Go.Proofs.YtiinmdleechcgaaDoor
namespace Fe
/-- 2^51. -/
def M : Int := 2251799813685248
/-- 2^255 - 19. -/
def P : Int := 57896044618658097711785492504343953926634992332820282019728792003956564819949
theorem M_eq : M = 2251799813685248 := rfl
theorem P_eq : P = M * (M * (M * (M * M))) - 19 := by decide
structure E where
  a : Int
  b : Int
  c : Int
  d : Int
  e : Int
def E.cells (x : E) : List Int := [x.a, x.b, x.c, x.d, x.e]
def val (x : E) : Int := x.a + M * (x.b + M * (x.c + M * (x.d + M * x.e)))
/-- A part of an element. -/
def Pt (x : Int) : Prop := 0 ≤ x ∧ x ≤ 2251799813947391
def Ok (x : E) : Prop := Pt x.a ∧ Pt x.b ∧ Pt x.c ∧ Pt x.d ∧ Pt x.e
def Wd (x : Int) : Prop := 0 ≤ x ∧ x ≤ 18446744073709551615
def Wide (x : E) : Prop := Wd x.a ∧ Wd x.b ∧ Wd x.c ∧ Wd x.d ∧ Wd x.e
theorem Ok.wide {x : E} (h : Ok x) : Wide x := by
  unfold Ok Pt at h; unfold Wide Wd; omega
def carry (x : E) : E := ⟨x.a % M + 19 * (x.e / M), x.b % M + x.a / M, x.c % M + x.b / M, x.d % M + x.c / M, x.e % M + x.d / M⟩
theorem carry_ok {x : E} (h : Wide x) : Ok (carry x) := by
  unfold Wide Wd at h; unfold Ok Pt carry M
  simp only
  omega
theorem carry_val (x : E) : val (carry x) = val x - P * (x.e / M) := by
  unfold val carry P M
  simp only
  omega
/-- Below 2 P. -/
theorem Ok.lt {x : E} (h : Ok x) : 0 ≤ val x ∧ val x < 2 * P := by
  unfold Ok Pt at h; unfold val P M; omega
def add (x y : E) : E := carry ⟨x.a + y.a, x.b + y.b, x.c + y.c, x.d + y.d, x.e + y.e⟩
def sub (x y : E) : E := carry ⟨x.a + (4503599627370458 - y.a), x.b + (4503599627370494 - y.b), x.c + (4503599627370494 - y.c), x.d + (4503599627370494 - y.d), x.e + (4503599627370494 - y.e)⟩
theorem add_ok {x y : E} (h : Ok x) (k : Ok y) : Ok (add x y) := by
  refine carry_ok ?_
  unfold Ok Pt at h k; unfold Wide Wd; simp only; omega
theorem sub_ok {x y : E} (h : Ok x) (k : Ok y) : Ok (sub x y) := by
  refine carry_ok ?_
  unfold Ok Pt at h k; unfold Wide Wd; simp only; omega
theorem add_val (x y : E) : ∃ k, val (add x y) = val x + val y - P * k := by
  refine ⟨(x.e + y.e) / M, ?_⟩
  unfold add
  rw [carry_val]
  unfold val M; simp only; omega
theorem sub_val (x y : E) : ∃ k, val (sub x y) = val x - val y - P * k := by
  refine ⟨(x.e + (4503599627370494 - y.e)) / M - 2, ?_⟩
  unfold sub
  rw [carry_val]
  unfold val P M; simp only; omega
/-- The columns of a product. -/
def col (x y : E) : E := ⟨x.a * y.a + x.b * (19 * y.e) + x.c * (19 * y.d) + x.d * (19 * y.c) + x.e * (19 * y.b), x.a * y.b + x.b * y.a + x.c * (19 * y.e) + x.d * (19 * y.d) + x.e * (19 * y.c),
  x.a * y.c + x.b * y.b + x.c * y.a + x.d * (19 * y.e) + x.e * (19 * y.d), x.a * y.d + x.b * y.c + x.c * y.b + x.d * y.a + x.e * (19 * y.e), x.a * y.e + x.b * y.d + x.c * y.c + x.d * y.b + x.e * y.a⟩
theorem col_val (x y : E) : val (col x y) = val x * val y - P * ((x.b * y.e + x.c * y.d + x.d * y.c + x.e * y.b) + M * ((x.c * y.e + x.d * y.d + x.e * y.c) + M * ((x.d * y.e + x.e * y.d) + M * (x.e * y.e)))) := by
  rw [P_eq]
  unfold val col
  simp only
  generalize M = m
  grind
def mul (x y : E) : E := carry (carry (col x y))
theorem mul_val (x y : E) : ∃ k, val (mul x y) = val x * val y - P * k := by
  unfold mul
  rw [carry_val, carry_val, col_val]
  refine ⟨((x.b * y.e + x.c * y.d + x.d * y.c + x.e * y.b) + M * ((x.c * y.e + x.d * y.d + x.e * y.c) + M * ((x.d * y.e + x.e * y.d) + M * (x.e * y.e)))) + (col x y).e / M + (carry (col x y)).e / M, ?_⟩
  grind
theorem mul_part {x y : Int} (hx : Pt x) (hy : Pt y) : 0 ≤ x * y ∧ x * y ≤ 5070602402093504723173315706881 := by
  obtain ⟨h1, h2⟩ := hx
  obtain ⟨h3, h4⟩ := hy
  refine ⟨Int.mul_nonneg h1 h3, ?_⟩
  have h5 : x * y ≤ 2251799813947391 * 2251799813947391 := Int.mul_le_mul h2 h4 h3 (by decide)
  omega
end Fe
end Go.Proofs.YtiinmdleechcgaaDoor
namespace Go.Proofs.YtiinmdleechcgaaDoor
open Go.RowKit

/-- A block that is known whole: numbers of one kind. -/
def Blk (w : World) (g : Nat) (k : IntKind) (t : TypeId) (l : List Int) : Prop := w.heap[g]? = some (.cells (l.map (Value.int k)).toArray t (0, 0))
theorem Blk.cell {w : World} {g : Nat} {k : IntKind} {t : TypeId} {l : List Int} (h : Blk w g k t l) (j : Nat) (hj : j < l.length) : w.cell? ⟨g, j, none⟩ = some (.int k (l.getD j 0)) := by
  rw [cell_of_row w g j _ t (0, 0) h]
  simp [hj]
theorem Blk.free {w : World} {g : Nat} {k : IntKind} {t : TypeId} {l : List Int} (h : Blk w g k t l) (j : Nat) : w.frozen? ⟨g, j, none⟩ = false := frozen_of_row w g j _ t h
theorem Blk.set {w : World} {g : Nat} {k : IntKind} {t : TypeId} {l : List Int} (h : Blk w g k t l) (j : Nat) (x : Int) : Blk (w.setCell ⟨g, j, none⟩ (.int k x)) g k t (l.set j x) := by
  unfold Blk
  rw [heap_setCell_same w g j _ t _ h]
  simp [List.map_set]
theorem Blk.other {w w' : World} {g : Nat} {k : IntKind} {t : TypeId} {l : List Int} (h : Blk w g k t l) (hb : w'.heap[g]? = w.heap[g]?) : Blk w' g k t l := hb.trans h
theorem Blk.lt {w : World} {g : Nat} {k : IntKind} {t : TypeId} {l : List Int} (h : Blk w g k t l) : g < w.heap.size := lt_of_block h
theorem mask51 (v : Int) (h0 : 0 ≤ v) (h1 : v ≤ 18446744073709551615) : bits BinOp.and IntKind.u64 v 2251799813685247 = v % 2251799813685248 := by
  obtain ⟨n, rfl⟩ := Int.eq_ofNat_of_zero_le h0
  have h := u64_and_nat n 2251799813685247 (by omega) (by decide)
  have h2 : n &&& 2251799813685247 = n % 2251799813685248 := Nat.and_two_pow_sub_one_eq_mod n 51
  rw [h2] at h
  rw [Int.natCast_emod] at h
  exact h
/-- An element as a value. -/
def ev (x : Fe.E) : Value := .agg #[.int .u64 x.a, .int .u64 x.b, .int .u64 x.c, .int .u64 x.d, .int .u64 x.e]
def ec (x : Fe.E) : Array Value := #[.int .u64 x.a, .int .u64 x.b, .int .u64 x.c, .int .u64 x.d, .int .u64 x.e]
theorem ec_cells (x : Fe.E) : ec x = (x.cells.map (Value.int .u64)).toArray := rfl

namespace Fe
/-- As far as it has come. -/
def upto (x : E) (k : Nat) : List Int := [if 0 < k then (carry x).a else x.a, if 1 < k then (carry x).b else x.b, if 2 < k then (carry x).c else x.c, if 3 < k then (carry x).d else x.d, if 4 < k then (carry x).e else x.e]
def hand (x : E) : Nat → Int
  | 0 => 19 * (x.e / M)
  | k + 1 => x.cells.getD k 0 / M
theorem upto_get (x : E) (k : Nat) (h : k < 5) : (upto x k).getD k 0 = x.cells.getD k 0 := by
  match k, h with
  | 0, _ => rfl
  | 1, _ => rfl
  | 2, _ => rfl
  | 3, _ => rfl
  | 4, _ => rfl
theorem upto_set (x : E) (k : Nat) (h : k < 5) : (upto x k).set k (x.cells.getD k 0 % M + hand x k) = upto x (k + 1) := by
  match k, h with
  | 0, _ => rfl
  | 1, _ => rfl
  | 2, _ => rfl
  | 3, _ => rfl
  | 4, _ => rfl
theorem wide_get {x : E} (h : Wide x) (k : Nat) (hk : k < 5) : Wd (x.cells.getD k 0) := by
  obtain ⟨h0, h1, h2, h3, h4⟩ := h
  match k, hk with
  | 0, _ => exact h0
  | 1, _ => exact h1
  | 2, _ => exact h2
  | 3, _ => exact h3
  | 4, _ => exact h4
theorem hand_le {x : E} (h : Wide x) (k : Nat) (hk : k < 5) : 0 ≤ hand x k ∧ hand x k ≤ 155629 := by
  unfold Wide Wd at h
  match k, hk with
  | 0, _ => simp only [hand, M]; omega
  | 1, _ => simp only [hand, M, E.cells, List.getD_cons_zero]; omega
  | 2, _ => simp only [hand, M, E.cells, List.getD_cons_zero, List.getD_cons_succ]; omega
  | 3, _ => simp only [hand, M, E.cells, List.getD_cons_zero, List.getD_cons_succ]; omega
  | 4, _ => simp only [hand, M, E.cells, List.getD_cons_zero, List.getD_cons_succ]; omega
end Fe

set_option maxRecDepth 100000 in
set_option maxHeartbeats 400000 in
theorem carried_any (w : World) (x : Fe.E) (hx : Fe.Wide x) :
    Calls Tryd.prog 79 #[ev x] w fun e w' => e = .returned (ev (Fe.carry x)) ∧ Below w.heap.size w w' := by
  have HX := Lib.hid hx
  obtain ⟨-, -, -, -, h0, h1⟩ := id hx
  unfold ev
  go_enter Tryd.func79, Tryd.ntmps79
  go_wp2_with fail
  go_loopw [3, 9] (fun c i wr => ∃ k : Nat, k ≤ 5 ∧ i = .int .i64 k ∧ c = .int .u64 (Fe.hand x k) ∧ Hid (Blk wr w.heap.size .u64 49 (Fe.upto x k)) ∧ Hid (wr.heap[w.heap.size + 1]? = some (.cells (ec ⟨0, 0, 0, 0, 0⟩) 49 (0, 0))) ∧ Hid (Below w.heap.size w wr)) (fun _ i _ => 5 - (intOf i).toNat)
  case atStart => exact ⟨0, by omega, rfl, rfl, heap_alloc2_old w _ _, heap_alloc2_new w _ _, ((Below.refl _ _).alloc (Nat.le_refl _) _).alloc (by simp) _⟩
  case round =>
    obtain ⟨k, hk, rfl, rfl, BL, ZB, BW⟩ := hrel
    by_cases hlt : k < 5
    · have hl : (Fe.upto x k).length = 5 := rfl
      have c1 := BL.out.cell k (by rw [hl]; exact hlt)
      have f1 := BL.out.free k
      rw [Fe.upto_get x k hlt] at c1
      have hset := BL.out.set k (x.cells.getD k 0 % Fe.M + Fe.hand x k)
      rw [Fe.upto_set x k hlt] at hset
      have hoth := fun v => heap_setCell_other wr ⟨w.heap.size, k, none⟩ (w.heap.size + 1) v (by simp)
      have HSET := Lib.hid hset
      have HOTH := Lib.hid hoth
      obtain ⟨v0, v1⟩ := Fe.wide_get HX.out k hlt
      obtain ⟨d0, d1⟩ := Fe.hand_le HX.out k hlt
      have HH := Lib.hid (show Fe.hand x (k + 1) = x.cells.getD k 0 / 2251799813685248 from rfl)
      rw [Fe.M_eq] at HSET
      clear hset hoth hl
      generalize x.cells.getD k 0 = v at *
      generalize Fe.hand x k = d at *
      have hm := mask51 v v0 v1
      go_wp2
      go_region
      all_goals go_wp2
      all_goals go_roundw
      case rel => exact ⟨k + 1, by omega, by go_num, by rw [HH.out], HSET.out, (HOTH.out _).trans ZB.out, (BW.out.setCell (Nat.le_refl _) _).drew⟩
      case measure => simp [intOf]; omega
    · have hk5 : ((k : Nat) : Int) = 5 := by omega
      rw [hk5]
      clear hk5
      obtain rfl : k = 5 := by omega
      have h1 : wr.heap[w.heap.size]? = some (.cells (ec (Fe.carry x)) 49 (0, 0)) := BL.out
      have h2 := ZB.out
      have h5 : (Tryd.prog.info? 49).map (·.size) = some 5 := by kernel_rfl
      go_wp2_with (first | (refine wpList_load_row rfl 49 _ rfl w.heap.size rfl 49 _ (0, 0) _ h1 Tryd.underlying49 rfl ?_ ?_) | (refine wpList_store_row rfl 49 _ _ rfl (w.heap.size + 1) _ rfl rfl 49 _ h2 ?_ ?_ ?_ ?_))
      · exact h5
      · exact h5
      · rfl
      · simp [ec, Value.oneCell']
      · exact bodyPost_ret (results_cell_row Tryd.results79 _ _ (w.heap.size + 1) 49 _ (0, 0) _ rfl (setRow_heap wr (w.heap.size + 1) _ (ec (Fe.carry x)) 49 _ h2) Tryd.underlying49 rfl h5) rfl ⟨rfl, below_setRow BW.out (by omega) _⟩
end Go.Proofs.YtiinmdleechcgaaDoor
namespace Go.Proofs.YtiinmdleechcgaaDoor
open Go.RowKit

theorem carried_ev (w : World) (x : Fe.E) (hx : Fe.Wide x) :
    Calls Tryd.prog 79 #[.agg (ec x)] w fun e w' => e = .returned (.agg (ec (Fe.carry x))) ∧ Below w.heap.size w w' := carried_any w x hx
theorem heap_alloc3 (w : World) (o1 o2 o3 : Obj) : ((((w.alloc o1).alloc o2).alloc o3).heap[w.heap.size]? = some o1 ∧ (((w.alloc o1).alloc o2).alloc o3).heap[w.heap.size + 1]? = some o2 ∧ (((w.alloc o1).alloc o2).alloc o3).heap[w.heap.size + 1 + 1]? = some o3) ∧ Below w.heap.size w (((w.alloc o1).alloc o2).alloc o3) := by
  refine ⟨⟨?_, ?_, ?_⟩, ?_⟩
  · exact (Below.heap_alloc _ _ _ (by simp; omega)).trans ((Below.heap_alloc _ _ _ (by simp)).trans (heap_alloc_new w o1))
  · exact (Below.heap_alloc _ _ _ (by simp)).trans (by simpa using heap_alloc_new (w.alloc o1) o2)
  · simpa using heap_alloc_new ((w.alloc o1).alloc o2) o3
  · exact ((((Below.refl _ _).alloc (Nat.le_refl _) _).alloc (by simp) _).alloc (by simp; omega) _)
theorem ec_one (x : Fe.E) : (ec x).all (·.oneCell') = true := by simp [ec, Value.oneCell']
theorem i30 : (Tryd.prog.info? 49).map (·.size) = some 5 := by kernel_rfl
namespace Fe
def z : E := ⟨0, 0, 0, 0, 0⟩
def plus (x y : E) : E := ⟨x.a + y.a, x.b + y.b, x.c + y.c, x.d + y.d, x.e + y.e⟩
def minus (x y : E) : E := ⟨x.a + (4503599627370458 - y.a), x.b + (4503599627370494 - y.b), x.c + (4503599627370494 - y.c), x.d + (4503599627370494 - y.d), x.e + (4503599627370494 - y.e)⟩
theorem plus_wide {x y : E} (h : Ok x) (k : Ok y) : Wide (plus x y) := by
  unfold Ok Pt at h k; unfold Wide Wd plus; simp only; omega
theorem minus_wide {x y : E} (h : Ok x) (k : Ok y) : Wide (minus x y) := by
  unfold Ok Pt at h k; unfold Wide Wd minus; simp only; omega
/-- As far as it has come: of two elements, by another one. -/
def part (x s : E) (k : Nat) : List Int := [if 0 < k then s.a else x.a, if 1 < k then s.b else x.b, if 2 < k then s.c else x.c, if 3 < k then s.d else x.d, if 4 < k then s.e else x.e]
theorem part_get (x s : E) (k : Nat) (h : k < 5) : (part x s k).getD k 0 = x.cells.getD k 0 := by
  match k, h with
  | 0, _ => rfl
  | 1, _ => rfl
  | 2, _ => rfl
  | 3, _ => rfl
  | 4, _ => rfl
theorem part_set (x s : E) (k : Nat) (h : k < 5) : (part x s k).set k (s.cells.getD k 0) = part x s (k + 1) := by
  match k, h with
  | 0, _ => rfl
  | 1, _ => rfl
  | 2, _ => rfl
  | 3, _ => rfl
  | 4, _ => rfl
theorem plus_get (x y : E) (k : Nat) (h : k < 5) : (plus x y).cells.getD k 0 = x.cells.getD k 0 + y.cells.getD k 0 := by
  match k, h with
  | 0, _ => rfl
  | 1, _ => rfl
  | 2, _ => rfl
  | 3, _ => rfl
  | 4, _ => rfl
/-- 2 P in parts. -/
def two : E := ⟨4503599627370458, 4503599627370494, 4503599627370494, 4503599627370494, 4503599627370494⟩
theorem minus_get (x y : E) (k : Nat) (h : k < 5) : (minus x y).cells.getD k 0 = x.cells.getD k 0 + (two.cells.getD k 0 - y.cells.getD k 0) := by
  match k, h with
  | 0, _ => rfl
  | 1, _ => rfl
  | 2, _ => rfl
  | 3, _ => rfl
  | 4, _ => rfl
theorem two_get (k : Nat) (h : k < 5) : 4503599627370458 ≤ two.cells.getD k 0 ∧ two.cells.getD k 0 ≤ 4503599627370494 := by
  match k, h with
  | 0, _ => decide
  | 1, _ => decide
  | 2, _ => decide
  | 3, _ => decide
  | 4, _ => decide
theorem ok_get {x : E} (h : Ok x) (k : Nat) (hk : k < 5) : Pt (x.cells.getD k 0) := by
  obtain ⟨h0, h1, h2, h3, h4⟩ := h
  match k, hk with
  | 0, _ => exact h0
  | 1, _ => exact h1
  | 2, _ => exact h2
  | 3, _ => exact h3
  | 4, _ => exact h4
end Fe

set_option maxRecDepth 100000 in
set_option maxHeartbeats 400000 in
theorem add_any (w : World) (x y : Fe.E) (hx : Fe.Ok x) (hy : Fe.Ok y) :
    Calls Tryd.prog 56 #[.agg (ec x), .agg (ec y)] w fun e w' => e = .returned (.agg (ec (Fe.add x y))) ∧ Below w.heap.size w w' := by
  have HX := Lib.hid hx
  have HY := Lib.hid hy
  have HA := Lib.hid (show Fe.add x y = Fe.carry (Fe.plus x y) from rfl)
  obtain ⟨⟨h1, h2, h3⟩, h4⟩ := heap_alloc3 w (.cells (ec x) 49) (.cells (ec y) 49) (.cells (ec Fe.z) 49)
  have H1 := Lib.hid h1
  have H2 := Lib.hid h2
  have H3 := Lib.hid h3
  have H4 := Lib.hid h4
  clear h1 h2 h3 h4 hx hy
  go_enter Tryd.func56, Tryd.ntmps56
  go_wp2_with fail
  change Code.wp _ _ _ _ (((w.alloc (.cells (ec x) 49)).alloc (.cells (ec y) 49)).alloc (.cells (ec Fe.z) 49))
  generalize (((w.alloc (.cells (ec x) 49)).alloc (.cells (ec y) 49)).alloc (.cells (ec Fe.z) 49)) = w3 at *
  go_loopw [6] (fun i wr => ∃ k : Nat, k ≤ 5 ∧ i = .int .i64 k ∧ Hid (Blk wr w.heap.size .u64 49 (Fe.part x (Fe.plus x y) k)) ∧ Hid (wr.heap[w.heap.size + 1]? = some (.cells (ec y) 49 (0, 0))) ∧ Hid (wr.heap[w.heap.size + 1 + 1]? = some (.cells (ec Fe.z) 49 (0, 0))) ∧ Hid (Below w.heap.size w wr)) (fun i _ => 5 - (intOf i).toNat)
  case atStart => exact ⟨0, by omega, rfl, H1, H2, H3, H4⟩
  case round =>
    clear H1 H2 H3 H4
    obtain ⟨k, hk, rfl, BL, YB, ZB, BW⟩ := hrel
    by_cases hlt : k < 5
    · have c1 := BL.out.cell k (by rw [show (Fe.part x (Fe.plus x y) k).length = 5 from rfl]; exact hlt)
      have f1 := BL.out.free k
      rw [Fe.part_get x _ k hlt] at c1
      have hyb : Blk wr (w.heap.size + 1) .u64 49 y.cells := YB.out
      have c2 := hyb.cell k (by rw [show y.cells.length = 5 from rfl]; exact hlt)
      have hset := BL.out.set k ((Fe.plus x y).cells.getD k 0)
      rw [Fe.part_set x _ k hlt, Fe.plus_get x y k hlt] at hset
      have hoth := fun v => heap_setCell_other wr ⟨w.heap.size, k, none⟩ (w.heap.size + 1) v (by simp)
      have hoth2 := fun v => heap_setCell_other wr ⟨w.heap.size, k, none⟩ (w.heap.size + 1 + 1) v (by simp; omega)
      have HSET := Lib.hid hset
      have HOTH := Lib.hid hoth
      have HOTH2 := Lib.hid hoth2
      obtain ⟨v0, v1⟩ := Fe.ok_get HX.out k hlt
      obtain ⟨d0, d1⟩ := Fe.ok_get HY.out k hlt
      clear hset hoth hoth2 hyb
      generalize x.cells.getD k 0 = v at *
      generalize y.cells.getD k 0 = d at *
      go_wp2
      go_region
      all_goals go_wp2
      all_goals go_roundw
      case rel => exact ⟨k + 1, by omega, by go_num, HSET.out, (HOTH.out _).trans YB.out, (HOTH2.out _).trans ZB.out, (BW.out.setCell (Nat.le_refl _) _).drew⟩
      case measure => simp [intOf]; omega
    · have hk5 : ((k : Nat) : Int) = 5 := by omega
      rw [hk5]
      clear hk5
      obtain rfl : k = 5 := by omega
      have h1 : wr.heap[w.heap.size]? = some (.cells (ec (Fe.plus x y)) 49 (0, 0)) := BL.out
      have hc := Lib.hid (fun w1 => carried_ev w1 (Fe.plus x y) (Fe.plus_wide HX.out HY.out))
      have hsz : w.heap.size + 1 + 1 < wr.heap.size := lt_of_block ZB.out
      clear BL YB
      go_wp2_with (first
        | ((with_reducible refine wpList_store_row (o := ⟨none, _, _, _, _, _⟩) rfl 49 (.tmp 4) (.tmp 19) rfl (w.heap.size + 1 + 1) (ec (Fe.carry (Fe.plus x y))) rfl rfl 49 _ HZ.out ?_ ?_ ?_ ?_); exact i30; exact rfl; exact ec_one _)
        | (go_at_call 79; refine (hc.out wr).mono ?_; rintro e w5 ⟨rfl, hb⟩; have HB5 := Lib.hid (BW.out.trans (hb.mono BW.out.size)); have HZ := Lib.hid ((hb.block _ hsz).trans ZB.out); clear hb)
        | ((with_reducible refine wpList_load_row (o := ⟨some 18, _, _, _, _, _⟩) rfl 49 (.tmp 2) rfl w.heap.size rfl 49 _ (0, 0) _ h1 Tryd.underlying49 rfl ?_ ?_); exact i30))
      refine bodyPost_ret (results_cell_row Tryd.results56 _ _ (w.heap.size + 1 + 1) 49 _ (0, 0) _ rfl (setRow_heap w5 (w.heap.size + 1 + 1) _ (ec (Fe.carry (Fe.plus x y))) 49 _ HZ.out) Tryd.underlying49 rfl i30) rfl ⟨?_, below_setRow HB5.out (by omega) _⟩
      rw [HA.out]
end Go.Proofs.YtiinmdleechcgaaDoor
namespace Go.Proofs.YtiinmdleechcgaaDoor
open Go.RowKit

/-- 2 P lies where start-up laid it. -/
def Dbl (w : World) : Prop := 1 < w.heap.size ∧ ∀ j, j < 5 → w.cell? ⟨1, j, none⟩ = some (.int .u64 (Fe.two.cells.getD j 0))
theorem Dbl.below {w w' : World} {B : Nat} (h : Dbl w) (hb : Below B w w') (hB : 1 < B) : Dbl w' := ⟨Nat.lt_of_lt_of_le h.1 hb.size, fun j hj => (hb.cell (p := ⟨1, j, none⟩) hB).trans (h.2 j hj)⟩

set_option maxRecDepth 100000 in
set_option maxHeartbeats 400000 in
theorem sub_any (w : World) (x y : Fe.E) (hx : Fe.Ok x) (hy : Fe.Ok y) (hd : Dbl w) :
    Calls Tryd.prog 57 #[.agg (ec x), .agg (ec y)] w fun e w' => e = .returned (.agg (ec (Fe.sub x y))) ∧ Below w.heap.size w w' := by
  have HX := Lib.hid hx
  have HD := Lib.hid hd
  have HY := Lib.hid hy
  have HA := Lib.hid (show Fe.sub x y = Fe.carry (Fe.minus x y) from rfl)
  obtain ⟨⟨h1, h2, h3⟩, h4⟩ := heap_alloc3 w (.cells (ec x) 49) (.cells (ec y) 49) (.cells (ec Fe.z) 49)
  have H1 := Lib.hid h1
  have H2 := Lib.hid h2
  have H3 := Lib.hid h3
  have H4 := Lib.hid h4
  clear h1 h2 h3 h4 hx hy hd
  go_enter Tryd.func57, Tryd.ntmps57
  go_wp2_with fail
  change Code.wp _ _ _ _ (((w.alloc (.cells (ec x) 49)).alloc (.cells (ec y) 49)).alloc (.cells (ec Fe.z) 49))
  generalize (((w.alloc (.cells (ec x) 49)).alloc (.cells (ec y) 49)).alloc (.cells (ec Fe.z) 49)) = w3 at *
  go_loopw [6] (fun i wr => ∃ k : Nat, k ≤ 5 ∧ i = .int .i64 k ∧ Hid (Blk wr w.heap.size .u64 49 (Fe.part x (Fe.minus x y) k)) ∧ Hid (wr.heap[w.heap.size + 1]? = some (.cells (ec y) 49 (0, 0))) ∧ Hid (wr.heap[w.heap.size + 1 + 1]? = some (.cells (ec Fe.z) 49 (0, 0))) ∧ Hid (Below w.heap.size w wr)) (fun i _ => 5 - (intOf i).toNat)
  case atStart => exact ⟨0, by omega, rfl, H1, H2, H3, H4⟩
  case round =>
    clear H1 H2 H3 H4
    obtain ⟨k, hk, rfl, BL, YB, ZB, BW⟩ := hrel
    by_cases hlt : k < 5
    · have c1 := BL.out.cell k (by rw [show (Fe.part x (Fe.minus x y) k).length = 5 from rfl]; exact hlt)
      have f1 := BL.out.free k
      rw [Fe.part_get x _ k hlt] at c1
      have hyb : Blk wr (w.heap.size + 1) .u64 49 y.cells := YB.out
      have c2 := hyb.cell k (by rw [show y.cells.length = 5 from rfl]; exact hlt)
      have cd := (HD.out.below BW.out HD.out.1).2 k hlt
      have hset := BL.out.set k ((Fe.minus x y).cells.getD k 0)
      rw [Fe.part_set x _ k hlt, Fe.minus_get x y k hlt] at hset
      have hoth := fun v => heap_setCell_other wr ⟨w.heap.size, k, none⟩ (w.heap.size + 1) v (by simp)
      have hoth2 := fun v => heap_setCell_other wr ⟨w.heap.size, k, none⟩ (w.heap.size + 1 + 1) v (by simp; omega)
      have HSET := Lib.hid hset
      have HOTH := Lib.hid hoth
      have HOTH2 := Lib.hid hoth2
      obtain ⟨v0, v1⟩ := Fe.ok_get HX.out k hlt
      obtain ⟨d0, d1⟩ := Fe.ok_get HY.out k hlt
      clear hset hoth hoth2 hyb
      generalize x.cells.getD k 0 = v at *
      generalize y.cells.getD k 0 = d at *
      obtain ⟨t0, t1⟩ := Fe.two_get k hlt
      generalize Fe.two.cells.getD k 0 = tw at *
      go_wp2
      go_region
      all_goals go_wp2
      all_goals go_roundw
      case rel => exact ⟨k + 1, by omega, by go_num, HSET.out, (HOTH.out _).trans YB.out, (HOTH2.out _).trans ZB.out, (BW.out.setCell (Nat.le_refl _) _).drew⟩
      case measure => simp [intOf]; omega
    · have hk5 : ((k : Nat) : Int) = 5 := by omega
      rw [hk5]
      clear hk5
      obtain rfl : k = 5 := by omega
      have h1 : wr.heap[w.heap.size]? = some (.cells (ec (Fe.minus x y)) 49 (0, 0)) := BL.out
      have hc := Lib.hid (fun w1 => carried_ev w1 (Fe.minus x y) (Fe.minus_wide HX.out HY.out))
      have hsz : w.heap.size + 1 + 1 < wr.heap.size := lt_of_block ZB.out
      clear BL YB
      go_wp2_with (first
        | ((with_reducible refine wpList_store_row (o := ⟨none, _, _, _, _, _⟩) rfl 49 (.tmp 4) (.tmp 23) rfl (w.heap.size + 1 + 1) (ec (Fe.carry (Fe.minus x y))) rfl rfl 49 _ HZ.out ?_ ?_ ?_ ?_); exact i30; exact rfl; exact ec_one _)
        | (go_at_call 79; refine (hc.out wr).mono ?_; rintro e w5 ⟨rfl, hb⟩; have HB5 := Lib.hid (BW.out.trans (hb.mono BW.out.size)); have HZ := Lib.hid ((hb.block _ hsz).trans ZB.out); clear hb)
        | ((with_reducible refine wpList_load_row (o := ⟨some 22, _, _, _, _, _⟩) rfl 49 (.tmp 2) rfl w.heap.size rfl 49 _ (0, 0) _ h1 Tryd.underlying49 rfl ?_ ?_); exact i30))
      refine bodyPost_ret (results_cell_row Tryd.results57 _ _ (w.heap.size + 1 + 1) 49 _ (0, 0) _ rfl (setRow_heap w5 (w.heap.size + 1 + 1) _ (ec (Fe.carry (Fe.minus x y))) 49 _ HZ.out) Tryd.underlying49 rfl i30) rfl ⟨?_, below_setRow HB5.out (by omega) _⟩
      rw [HA.out]

def Fe.neg (x : Fe.E) : Fe.E := Fe.sub Fe.z x
theorem Fe.z_ok : Fe.Ok Fe.z := by unfold Fe.Ok Fe.Pt Fe.z; simp only; omega

set_option maxRecDepth 100000 in
set_option maxHeartbeats 400000 in
theorem neg_any (w : World) (x : Fe.E) (hx : Fe.Ok x) (hd : Dbl w) :
    Calls Tryd.prog 74 #[.agg (ec x)] w fun e w' => e = .returned (.agg (ec (Fe.neg x))) ∧ Below w.heap.size w w' := by
  have h1 := heap_alloc2_old w (.cells (ec x) 49) (.cells #[.int .u64 0, .int .u64 0, .int .u64 0, .int .u64 0, .int .u64 0] 49)
  have h2 := heap_alloc2_new w (.cells (ec x) 49) (.cells #[.int .u64 0, .int .u64 0, .int .u64 0, .int .u64 0, .int .u64 0] 49)
  have h3 : Below w.heap.size w ((w.alloc (.cells (ec x) 49)).alloc (.cells #[.int .u64 0, .int .u64 0, .int .u64 0, .int .u64 0, .int .u64 0] 49)) := ((Below.refl _ _).alloc (Nat.le_refl _) _).alloc (by simp) _
  have hsz : w.heap.size + 1 < ((w.alloc (.cells (ec x) 49)).alloc (.cells #[.int .u64 0, .int .u64 0, .int .u64 0, .int .u64 0, .int .u64 0] 49)).heap.size := lt_of_block h2
  have HS : Hid (Calls Tryd.prog 57 #[.agg #[.int .u64 0, .int .u64 0, .int .u64 0, .int .u64 0, .int .u64 0], .agg (ec x)] ((w.alloc (.cells (ec x) 49)).alloc (.cells #[.int .u64 0, .int .u64 0, .int .u64 0, .int .u64 0, .int .u64 0] 49)) fun e w' => e = .returned (.agg (ec (Fe.sub Fe.z x))) ∧ Below ((w.alloc (.cells (ec x) 49)).alloc (.cells #[.int .u64 0, .int .u64 0, .int .u64 0, .int .u64 0, .int .u64 0] 49)).heap.size ((w.alloc (.cells (ec x) 49)).alloc (.cells #[.int .u64 0, .int .u64 0, .int .u64 0, .int .u64 0, .int .u64 0] 49)) w') := sub_any ((w.alloc (.cells (ec x) 49)).alloc (.cells #[.int .u64 0, .int .u64 0, .int .u64 0, .int .u64 0, .int .u64 0] 49)) Fe.z x Fe.z_ok hx (hd.below h3 hd.1)
  have HB := Lib.hid h3
  have H2 := Lib.hid h2
  clear hx hd h3 h2
  go_enter Tryd.func74, Tryd.ntmps74
  go_wp2_with (first
    | ((with_reducible refine wpList_store_row (o := ⟨none, _, _, _, _, _⟩) rfl 49 (.tmp 2) (.tmp 5) rfl (w.heap.size + 1) (ec (Fe.sub Fe.z x)) rfl rfl 49 _ HZ.out ?_ ?_ ?_ ?_); exact i30; exact rfl; exact ec_one _)
    | (go_at_call 57; refine HS.out.mono ?_; rintro e w5 ⟨rfl, hb⟩; have HB5 := Lib.hid (HB.out.trans (hb.mono HB.out.size)); have HZ := Lib.hid ((hb.block _ hsz).trans H2.out); clear hb)
    | ((with_reducible refine wpList_load_row (o := ⟨some 4, _, _, _, _, _⟩) rfl 49 (.tmp 1) rfl w.heap.size rfl 49 _ (0, 0) _ h1 Tryd.underlying49 rfl ?_ ?_); exact i30))
  refine bodyPost_ret (results_cell_row Tryd.results74 _ _ (w.heap.size + 1) 49 _ (0, 0) _ rfl (setRow_heap w5 (w.heap.size + 1) _ (ec (Fe.sub Fe.z x)) 49 _ HZ.out) Tryd.underlying49 rfl i30) rfl ⟨rfl, below_setRow HB5.out (by omega) _⟩

def Fe.num (n : Int) : Fe.E := ⟨n, 0, 0, 0, 0⟩
theorem Fe.num_ok (n : Int) (h0 : 0 ≤ n) (h1 : n ≤ 4294967295) : Fe.Ok (Fe.num n) := by unfold Fe.Ok Fe.Pt Fe.num; simp only; omega
theorem Fe.num_val (n : Int) : Fe.val (Fe.num n) = n := by unfold Fe.val Fe.num Fe.M; simp only; omega
set_option maxRecDepth 100000 in
set_option maxHeartbeats 400000 in
theorem num_any (w : World) (n : Int) (h0 : 0 ≤ n) (h1 : n ≤ 4294967295) :
    Calls Tryd.prog 53 #[.int .u32 n] w fun e w' => e = .returned (.agg (ec (Fe.num n))) ∧ Below w.heap.size w w' := by
  have h2 := heap_alloc_new w (.cells (ec Fe.z) 49)
  go_enter Tryd.func53, Tryd.ntmps53
  go_wp2_with ((with_reducible refine wpList_store_row (o := ⟨none, _, _, _, _, _⟩) rfl 49 (.tmp 2) (.tmp 5) rfl w.heap.size (ec (Fe.num n)) rfl rfl 49 _ h2 ?_ ?_ ?_ ?_); exact i30; exact rfl; exact ec_one _)
  exact bodyPost_ret (results_cell_row Tryd.results53 _ _ w.heap.size 49 (ec (Fe.num n)) (0, 0) _ rfl (heap_alloc_new w (.cells (ec (Fe.num n)) 49)) Tryd.underlying49 rfl i30) rfl ⟨rfl, (Below.refl _ _).alloc (Nat.le_refl _) _⟩
end Go.Proofs.YtiinmdleechcgaaDoor
namespace Go.Proofs.YtiinmdleechcgaaDoor
open Go.RowKit Go.Lib

set_option maxRecDepth 100000 in
set_option maxHeartbeats 1000000 in
theorem mul64_nat (x y : Nat) (hx : x < 18446744073709551616) (hy : y < 18446744073709551616) (w : World) :
    Calls Tryd.prog 87 #[.int .u64 x, .int .u64 y] w fun e w' => e = .returned (.tuple #[.int .u64 ((x * y / 18446744073709551616 : Nat) : Int), .int .u64 ((x * y % 18446744073709551616 : Nat) : Int)]) ∧ w' = w := by
  obtain ⟨bd, bt, bw, hhi⟩ := Lib.mul64_hi x y hx hy
  have ba := Lib.half_mul_le (a := x / 4294967296) (b := y / 4294967296) (by omega) (by omega)
  have bb := Lib.half_mul_le (a := x / 4294967296) (b := y % 4294967296) (by omega) (by omega)
  have bc := Lib.half_mul_le (a := x % 4294967296) (b := y / 4294967296) (by omega) (by omega)
  have ba' : x / 4294967296 * (y / 4294967296) < 18446744073709551616 := by omega
  have bb' : x / 4294967296 * (y % 4294967296) < 18446744073709551616 := by omega
  have bc' : x % 4294967296 * (y / 4294967296) < 18446744073709551616 := by omega
  have bh1 : x / 4294967296 * (y / 4294967296) + (x / 4294967296 * (y % 4294967296) + x % 4294967296 * (y % 4294967296) / 4294967296) / 4294967296 < 18446744073709551616 := by omega
  have bh : x / 4294967296 * (y / 4294967296) + (x / 4294967296 * (y % 4294967296) + x % 4294967296 * (y % 4294967296) / 4294967296) / 4294967296 + ((x / 4294967296 * (y % 4294967296) + x % 4294967296 * (y % 4294967296) / 4294967296) % 4294967296 + x % 4294967296 * (y / 4294967296)) / 4294967296 < 18446744073709551616 := by omega
  go_enter Tryd.func87, Tryd.ntmps87
  go_wp2
  simp only [Mul64.maskN x hx, Mul64.maskN y hy, Mul64.divN, Mul64.mulN, Mul64.addN, Mul64.wrapN _ bd, Mul64.wrapN _ bb', Mul64.wrapN _ bt, Mul64.maskN _ bt, Mul64.wrapN _ bc', Mul64.wrapN _ bw, Mul64.wrapN _ ba', Mul64.wrapN _ bh1, Mul64.wrapN _ bh, Mul64.wrapM (x * y)]
  rw [hhi]
  go_ret2
  exact ⟨rfl, rfl⟩
theorem mul64_any (x y : Int) (hx : Fe.Wd x) (hy : Fe.Wd y) (w : World) :
    Calls Tryd.prog 87 #[.int .u64 x, .int .u64 y] w fun e w' => e = .returned (.tuple #[.int .u64 (x * y / 18446744073709551616), .int .u64 (x * y % 18446744073709551616)]) ∧ w' = w := by
  obtain ⟨h0, h1⟩ := hx
  obtain ⟨h2, h3⟩ := hy
  obtain ⟨X, rfl⟩ := Int.eq_ofNat_of_zero_le h0
  obtain ⟨Y, rfl⟩ := Int.eq_ofNat_of_zero_le h2
  have h := mul64_nat X Y (by omega) (by omega) w
  rw [Int.natCast_ediv, Int.natCast_emod, Int.natCast_mul] at h
  exact h
theorem add64_any (x y c : Int) (hx : Fe.Wd x) (hy : Fe.Wd y) (hc0 : 0 ≤ c) (hc1 : c ≤ 1) (w : World) :
    (callFunc 44 #[.int .u64 x, .int .u64 y, .int .u64 c]).run Tryd.prog w = .ok (.value (.tuple #[.int .u64 ((x + y + c) % 18446744073709551616), .int .u64 ((x + y + c) / 18446744073709551616)])) w := by
  rw [run_callFunc_extern Tryd.func44 (by kernel_rfl) (by kernel_rfl) (by kernel_rfl) (e := add64Entry) (by kernel_rfl), run_add64 x y c hx.1 hy.1 hc0 hc1]
  rfl

/-- A number of 128 bits as a value. -/
def wv (W : Int) : Array Value := #[.int .u64 (W / 18446744073709551616), .int .u64 (W % 18446744073709551616)]
theorem i61 : (Tryd.prog.info? 93).map (·.size) = some 2 := by kernel_rfl
end Go.Proofs.YtiinmdleechcgaaDoor
namespace Go.Proofs.YtiinmdleechcgaaDoor
open Go.RowKit Go.Lib

theorem ret_agg2 {a b c d : Int} (h1 : a = c) (h2 : b = d) : Ending.returned (.agg #[.int .u64 a, .int .u64 b]) = .returned (.agg #[.int .u64 c, .int .u64 d]) := by rw [h1, h2]
set_option maxRecDepth 100000 in
set_option maxHeartbeats 1000000 in
theorem plus_any (w : World) (W a b : Int) (hW : 0 ≤ W) (ha : Fe.Wd a) (hb : Fe.Wd b) (hs : W + a * b < 340282366920938463463374607431768211456) :
    Calls Tryd.prog 77 #[.agg (wv W), .int .u64 a, .int .u64 b] w fun e w' => e = .returned (.agg (wv (W + a * b))) ∧ Below w.heap.size w w' := by
  have hp : 0 ≤ a * b := Int.mul_nonneg ha.1 hb.1
  have HM := Lib.hid (mul64_any a b ha hb)
  unfold wv
  obtain ⟨p, hpe⟩ : ∃ p, p = a * b := ⟨_, rfl⟩
  rw [← hpe] at hs hp HM ⊢
  obtain ⟨H, hH⟩ : ∃ H, H = W / 18446744073709551616 := ⟨_, rfl⟩
  obtain ⟨L, hL⟩ : ∃ L, L = W % 18446744073709551616 := ⟨_, rfl⟩
  obtain ⟨ph, hph⟩ : ∃ ph, ph = p / 18446744073709551616 := ⟨_, rfl⟩
  obtain ⟨pl, hpl⟩ : ∃ pl, pl = p % 18446744073709551616 := ⟨_, rfl⟩
  rw [← hH, ← hL]
  rw [← hph, ← hpl] at HM
  have e1 := add64_any L pl 0 (by unfold Fe.Wd; omega) (by unfold Fe.Wd; omega) (by omega) (by omega)
  obtain ⟨s, hse⟩ : ∃ s, s = (L + pl + 0) % 18446744073709551616 := ⟨_, rfl⟩
  obtain ⟨c, hce⟩ : ∃ c, c = (L + pl + 0) / 18446744073709551616 := ⟨_, rfl⟩
  rw [← hse, ← hce] at e1
  have e2 := add64_any H ph c (by unfold Fe.Wd; omega) (by unfold Fe.Wd; omega) (by omega) (by omega)
  have r1 : (H + ph + c) % 18446744073709551616 = (W + p) / 18446744073709551616 := by omega
  have r2 : s = (W + p) % 18446744073709551616 := by omega
  rw [r1] at e2
  rw [← r2]
  generalize (W + p) / 18446744073709551616 = T at *
  have hc0 : 0 ≤ c := by omega
  clear hs hp hH hL hph hpl hse hce r1 r2 hpe ha hb hW
  generalize (H + ph + c) / 18446744073709551616 = T2 at *
  have h3 := heap_alloc2_new w (.cells #[.int .u64 H, .int .u64 L] 93) (.cells #[.int .u64 0, .int .u64 0] 93)
  have h4 : Below w.heap.size w ((w.alloc (.cells #[.int .u64 H, .int .u64 L] 93)).alloc (.cells #[.int .u64 0, .int .u64 0] 93)) := ((Below.refl _ _).alloc (Nat.le_refl _) _).alloc (by simp) _
  have HB := Lib.hid h4
  clear h4
  go_enter Tryd.func77, Tryd.ntmps77
  go_wp2_with (go_at_call 87; refine (HM.out _).mono ?_; rintro e w5 ⟨rfl, rfl⟩)
  exact bodyPost_ret (results_cell_row Tryd.results77 _ _ (w.heap.size + 1) 93 #[.int .u64 T, .int .u64 s] (0, 0) _ rfl (heap_alloc2_new w _ (.cells #[.int .u64 T, .int .u64 s] 93)) Tryd.underlying93 rfl i61) rfl ⟨rfl, ((Below.refl _ _).alloc (Nat.le_refl _) _).alloc (by simp) _⟩

theorem or13 (H L : Int) (h0 : 0 ≤ H) (h1 : H < 2251799813685248) (h2 : 0 ≤ L) (h3 : L < 18446744073709551616) : bits BinOp.or IntKind.u64 (H * 8192) (L / 2251799813685248) = H * 8192 + L / 2251799813685248 := by
  obtain ⟨X, rfl⟩ := Int.eq_ofNat_of_zero_le h0
  obtain ⟨Y, rfl⟩ := Int.eq_ofNat_of_zero_le h2
  rw [show ((X : Nat) : Int) * 8192 = ((X * 8192 : Nat) : Int) by omega, show ((Y : Nat) : Int) / 2251799813685248 = ((Y / 2251799813685248 : Nat) : Int) by omega]
  rw [u64_or_nat _ _ (by omega) (by omega), nat_join 13 _ _ (by omega) (by omega)]
  omega
set_option maxRecDepth 100000 in
set_option maxHeartbeats 1000000 in
theorem beyond_any (w : World) (W : Int) (hW : 0 ≤ W) (hs : W < 41538374868278621028243970633760768) :
    Calls Tryd.prog 78 #[.agg (wv W)] w fun e w' => e = .returned (.int .u64 (W / 2251799813685248)) ∧ Below w.heap.size w w' := by
  unfold wv
  obtain ⟨H, hH⟩ : ∃ H, H = W / 18446744073709551616 := ⟨_, rfl⟩
  obtain ⟨L, hL⟩ : ∃ L, L = W % 18446744073709551616 := ⟨_, rfl⟩
  rw [← hH, ← hL]
  have h0 : 0 ≤ H := by omega
  have h1 : H < 2251799813685248 := by omega
  have h2 : 0 ≤ L := by omega
  have h3 : L < 18446744073709551616 := by omega
  have ho := or13 H L h0 h1 h2 h3
  have hr : H * 8192 + L / 2251799813685248 = W / 2251799813685248 := by omega
  rw [hr] at ho
  generalize W / 2251799813685248 = T at *
  clear hH hL hW hs hr
  go_enter Tryd.func78, Tryd.ntmps78
  go_wp2
  go_ret
  exact ⟨rfl, (Below.refl _ _).alloc (Nat.le_refl _) _⟩
end Go.Proofs.YtiinmdleechcgaaDoor
namespace Go.Proofs.YtiinmdleechcgaaDoor
open Go.RowKit

namespace Fe
def places (y : E) (k : Nat) : List Int := [if 0 < k then 19 * y.a else 0, if 1 < k then 19 * y.b else 0, if 2 < k then 19 * y.c else 0, if 3 < k then 19 * y.d else 0, if 4 < k then 19 * y.e else 0, if 0 < k then y.a else 0, if 1 < k then y.b else 0, if 2 < k then y.c else 0, if 3 < k then y.d else 0, if 4 < k then y.e else 0]
theorem places_set (y : E) (k : Nat) (h : k < 5) : ((places y k).set k (19 * y.cells.getD k 0)).set (5 + k) (y.cells.getD k 0) = places y (k + 1) := by
  match k, h with
  | 0, _ => rfl
  | 1, _ => rfl
  | 2, _ => rfl
  | 3, _ => rfl
  | 4, _ => rfl
def term (x y : E) (i k : Nat) : Int := x.cells.getD k 0 * (places y 5).getD (5 + i - k) 0
def sums (x y : E) (i : Nat) : Nat → Int
  | 0 => 0
  | k + 1 => sums x y i k + term x y i k
theorem sums_five (x y : E) (i : Nat) (h : i < 5) : sums x y i 5 = (col x y).cells.getD i 0 := by
  match i, h with
  | 0, _ => simp [sums, term, places, col, E.cells]
  | 1, _ => simp [sums, term, places, col, E.cells]
  | 2, _ => simp [sums, term, places, col, E.cells]
  | 3, _ => simp [sums, term, places, col, E.cells]
  | 4, _ => simp [sums, term, places, col, E.cells]
theorem place_le {y : E} (h : Ok y) (j : Nat) (hj : j < 10) : 0 ≤ (places y 5).getD j 0 ∧ (places y 5).getD j 0 ≤ 42784196465000429 := by
  unfold Ok Pt at h
  match j, hj with
  | 0, _ => simp [places]; omega
  | 1, _ => simp [places]; omega
  | 2, _ => simp [places]; omega
  | 3, _ => simp [places]; omega
  | 4, _ => simp [places]; omega
  | 5, _ => simp [places]; omega
  | 6, _ => simp [places]; omega
  | 7, _ => simp [places]; omega
  | 8, _ => simp [places]; omega
  | 9, _ => simp [places]; omega
theorem term_le {x y : E} (hx : Ok x) (hy : Ok y) (i k : Nat) (hi : i < 5) (hk : k < 5) : 0 ≤ term x y i k ∧ term x y i k ≤ 96341445639776589740292998430739 := by
  obtain ⟨h1, h2⟩ := ok_get hx k hk
  obtain ⟨h3, h4⟩ := place_le hy (5 + i - k) (by omega)
  refine ⟨Int.mul_nonneg h1 h3, ?_⟩
  have h5 : term x y i k ≤ 2251799813947391 * 42784196465000429 := Int.mul_le_mul h2 h4 h3 (by decide)
  omega
theorem sums_le {x y : E} (hx : Ok x) (hy : Ok y) (i : Nat) (hi : i < 5) : ∀ k, k ≤ 5 → 0 ≤ sums x y i k ∧ sums x y i k ≤ 96341445639776589740292998430739 * k
  | 0, _ => by simp [sums]
  | k + 1, h => by
    have h1 := sums_le hx hy i hi k (by omega)
    have h2 := term_le hx hy i k hi (by omega)
    simp only [sums]
    omega
/-- What is handed on. -/
def cc (x y : E) : Nat → Int
  | 0 => 0
  | i + 1 => (col x y).cells.getD i 0 / M
def outE (x y : E) : E := ⟨(col x y).a % M + 0, (col x y).b % M + (col x y).a / M, (col x y).c % M + (col x y).b / M, (col x y).d % M + (col x y).c / M, (col x y).e % M + (col x y).d / M⟩
theorem outE_get (x y : E) (i : Nat) (h : i < 5) : (outE x y).cells.getD i 0 = (col x y).cells.getD i 0 % M + cc x y i := by
  match i, h with
  | 0, _ => rfl
  | 1, _ => rfl
  | 2, _ => rfl
  | 3, _ => rfl
  | 4, _ => rfl
theorem col_le {x y : E} (hx : Ok x) (hy : Ok y) (i : Nat) (hi : i < 5) : 0 ≤ (col x y).cells.getD i 0 ∧ (col x y).cells.getD i 0 ≤ 481707228198882948701464992153695 := by
  have h := sums_le hx hy i hi 5 (Nat.le_refl _)
  rw [sums_five x y i hi] at h
  omega
theorem cc_le {x y : E} (hx : Ok x) (hy : Ok y) (i : Nat) (hi : i ≤ 5) : 0 ≤ cc x y i ∧ cc x y i ≤ 300000000000000000 := by
  cases i with
  | zero => simp [cc]
  | succ i =>
    have h := col_le hx hy i (by omega)
    show 0 ≤ (col x y).cells.getD i 0 / 2251799813685248 ∧ (col x y).cells.getD i 0 / 2251799813685248 ≤ 300000000000000000
    generalize (col x y).cells.getD i 0 = v at *
    omega
theorem outE_last (x y : E) : (outE x y).cells.set 0 ((outE x y).a + 19 * cc x y 5) = (carry (col x y)).cells := by
  unfold outE carry cc
  simp [E.cells]
theorem col_wide {x y : E} (hx : Ok x) (hy : Ok y) : Wide (carry (col x y)) := by
  have h0 := col_le hx hy 0 (by omega)
  have h1 := col_le hx hy 1 (by omega)
  have h2 := col_le hx hy 2 (by omega)
  have h3 := col_le hx hy 3 (by omega)
  have h4 := col_le hx hy 4 (by omega)
  simp only [E.cells, List.getD_cons_zero, List.getD_cons_succ] at h0 h1 h2 h3 h4
  have hm : M = 2251799813685248 := rfl
  unfold Wide Wd carry
  simp only
  rw [hm]
  generalize (col x y).a = a at *
  generalize (col x y).b = b at *
  generalize (col x y).c = c at *
  generalize (col x y).d = d at *
  generalize (col x y).e = e at *
  omega
theorem mul_ok {x y : E} (hx : Ok x) (hy : Ok y) : Ok (mul x y) := carry_ok (col_wide hx hy)
end Fe
end Go.Proofs.YtiinmdleechcgaaDoor
namespace Go.Proofs.YtiinmdleechcgaaDoor
open Go.RowKit

/-- What lies where: the factors, the result, the places. -/
structure Lay (w : World) (x y : Fe.E) (pl : List Int) (wq : World) : Prop where
  xx : Blk wq w.heap.size .u64 49 x.cells
  yy : Blk wq (w.heap.size + 1) .u64 49 y.cells
  zz : wq.heap[w.heap.size + 1 + 1]? = some (.cells (ec Fe.z) 49 (0, 0))
  pp : Blk wq (w.heap.size + 1 + 1 + 1) .u64 91 pl
  bb : Below w.heap.size w wq
theorem Lay.below {w wq w' : World} {x y : Fe.E} {pl : List Int} (h : Lay w x y pl wq) (hb : Below wq.heap.size wq w') : Lay w x y pl w' :=
  ⟨h.xx.other (hb.block _ h.xx.lt), h.yy.other (hb.block _ h.yy.lt), (hb.block _ (lt_of_block h.zz)).trans h.zz, h.pp.other (hb.block _ h.pp.lt), h.bb.trans (hb.mono h.bb.size)⟩
theorem Lay.put {w wq : World} {x y : Fe.E} {pl : List Int} (h : Lay w x y pl wq) (j : Nat) (v : Int) : Lay w x y (pl.set j v) (wq.setCell ⟨w.heap.size + 1 + 1 + 1, j, none⟩ (.int .u64 v)) := by
  refine ⟨h.xx.other (heap_setCell_other _ _ _ _ (by simp; omega)), h.yy.other (heap_setCell_other _ _ _ _ (by simp)), (heap_setCell_other _ _ _ _ (by simp)).trans h.zz, h.pp.set j v, h.bb.setCell (by simp; omega) _⟩
theorem Lay.aside {w wq : World} {x y : Fe.E} {pl : List Int} (h : Lay w x y pl wq) (g j : Nat) (hg : w.heap.size + 1 + 1 + 1 < g) (v : Value) : Lay w x y pl (wq.setCell ⟨g, j, none⟩ v) :=
  ⟨h.xx.other (heap_setCell_other _ _ _ _ (by simp; omega)), h.yy.other (heap_setCell_other _ _ _ _ (by simp; omega)), (heap_setCell_other _ _ _ _ (by simp; omega)).trans h.zz, h.pp.other (heap_setCell_other _ _ _ _ (by simp; omega)), h.bb.setCell (by simp; omega) _⟩
theorem heap_alloc4 (w : World) (o1 o2 o3 o4 : Obj) : (((((w.alloc o1).alloc o2).alloc o3).alloc o4).heap[w.heap.size]? = some o1 ∧ ((((w.alloc o1).alloc o2).alloc o3).alloc o4).heap[w.heap.size + 1]? = some o2 ∧ ((((w.alloc o1).alloc o2).alloc o3).alloc o4).heap[w.heap.size + 1 + 1]? = some o3 ∧ ((((w.alloc o1).alloc o2).alloc o3).alloc o4).heap[w.heap.size + 1 + 1 + 1]? = some o4) ∧ Below w.heap.size w ((((w.alloc o1).alloc o2).alloc o3).alloc o4) := by
  obtain ⟨⟨h1, h2, h3⟩, h4⟩ := heap_alloc3 w o1 o2 o3
  refine ⟨⟨?_, ?_, ?_, ?_⟩, h4.alloc (by simp; omega) _⟩
  · exact (Below.heap_alloc _ _ _ (by simp; omega)).trans h1
  · exact (Below.heap_alloc _ _ _ (by simp)).trans h2
  · exact (Below.heap_alloc _ _ _ (by simp)).trans h3
  · simpa using heap_alloc_new (((w.alloc o1).alloc o2).alloc o3) o4

set_option maxRecDepth 100000 in
set_option maxHeartbeats 1000000 in
theorem mul_any (w : World) (x y : Fe.E) (hx : Fe.Ok x) (hy : Fe.Ok y) :
    Calls Tryd.prog 50 #[.agg (ec x), .agg (ec y)] w fun e w' => e = .returned (.agg (ec (Fe.mul x y))) ∧ Below w.heap.size w w' := by
  have HX := Lib.hid hx
  have HY := Lib.hid hy
  obtain ⟨⟨h1, h2, h3, h4⟩, h5⟩ := heap_alloc4 w (.cells (ec x) 49) (.cells (ec y) 49) (.cells (ec Fe.z) 49) (.cells ((Fe.places y 0).map (Value.int .u64)).toArray 91)
  have HL := Lib.hid (Lay.mk (w := w) (x := x) (y := y) (pl := Fe.places y 0) h1 h2 h3 h4 h5)
  clear h1 h2 h3 h4 h5 hx hy
  go_enter Tryd.func50, Tryd.ntmps50
  go_wp2_with fail
  change Code.wp _ _ _ _ ((((w.alloc (.cells (ec x) 49)).alloc (.cells (ec y) 49)).alloc (.cells (ec Fe.z) 49)).alloc (.cells ((Fe.places y 0).map (Value.int .u64)).toArray 91))
  generalize ((((w.alloc (.cells (ec x) 49)).alloc (.cells (ec y) 49)).alloc (.cells (ec Fe.z) 49)).alloc (.cells ((Fe.places y 0).map (Value.int .u64)).toArray 91)) = w3 at *
  go_loopw [12] (fun i wr => ∃ k : Nat, k ≤ 5 ∧ i = .int .i64 k ∧ Hid (Lay w x y (Fe.places y k) wr)) (fun i _ => 5 - (intOf i).toNat)
  case atStart => exact ⟨0, by omega, rfl, HL⟩
  case round =>
    clear HL
    obtain ⟨k, hk, rfl, LA⟩ := hrel
    by_cases hlt : k < 5
    · have c2 := LA.out.yy.cell k (by rw [show y.cells.length = 5 from rfl]; exact hlt)
      have c3 := LA.out.pp.cell k (by rw [show (Fe.places y k).length = 10 from rfl]; omega)
      have c4 := LA.out.pp.cell (5 + k) (by rw [show (Fe.places y k).length = 10 from rfl]; omega)
      have f3 := LA.out.pp.free k
      have f4 := LA.out.pp.free (5 + k)
      have hset := (LA.out.put k (19 * y.cells.getD k 0)).put (5 + k) (y.cells.getD k 0)
      rw [Fe.places_set y k hlt] at hset
      have HSET := Lib.hid hset
      obtain ⟨d0, d1⟩ := Fe.ok_get HY.out k hlt
      clear hset
      generalize y.cells.getD k 0 = d at *
      generalize (Fe.places y k).getD k 0 = p1 at *
      generalize (Fe.places y k).getD (5 + k) 0 = p2 at *
      go_wp2
      go_roundw
      case rel => exact ⟨k + 1, by omega, by go_num, HSET⟩
      case measure => simp [intOf]; omega
    · have hk5 : ((k : Nat) : Int) = 5 := by omega
      rw [hk5]
      clear hk5
      obtain rfl : k = 5 := by omega
      go_wp2
      have LB : Hid (Lay w x y (Fe.places y 5) (wr.alloc (.cells (ec Fe.z) 49))) := LA.out.below ((Below.refl _ _).alloc (Nat.le_refl _) _)
      have OB : Hid (Blk (wr.alloc (.cells (ec Fe.z) 49)) wr.heap.size .u64 49 (Fe.part Fe.z (Fe.outE x y) 0)) := heap_alloc_new wr _
      have hgo : w.heap.size + 1 + 1 + 1 < wr.heap.size := LA.out.pp.lt
      clear LA
      change Code.wp _ _ _ _ (wr.alloc (.cells (ec Fe.z) 49))
      generalize (wr.alloc (.cells (ec Fe.z) 49)) = w4 at *
      generalize wr.heap.size = go at *
      go_loopw [8, 28] (fun c i wq => ∃ k : Nat, k ≤ 5 ∧ i = .int .i64 k ∧ c = .int .u64 (Fe.cc x y k) ∧ Hid (Lay w x y (Fe.places y 5) wq) ∧ Hid (Blk wq go .u64 49 (Fe.part Fe.z (Fe.outE x y) k))) (fun _ i _ => 5 - (intOf i).toNat)
      case atStart => exact ⟨0, by omega, rfl, rfl, LB, OB⟩
      case round =>
        clear LB OB
        obtain ⟨k, hk, rfl, rfl, LA, OB⟩ := hrel
        by_cases hlt : k < 5
        · obtain ⟨b0, b1⟩ := Fe.cc_le HX.out HY.out k (by omega)
          have HOG := Lib.hid (Fe.outE_get x y k hlt)
          have HC1 := Lib.hid (show Fe.cc x y (k + 1) = (Fe.col x y).cells.getD k 0 / Fe.M from rfl)
          have HS5 := Lib.hid (Fe.sums_five x y k hlt)
          obtain ⟨q0, q1⟩ := Fe.col_le HX.out HY.out k hlt
          generalize Fe.cc x y k = c at *
          generalize (Fe.col x y).cells.getD k 0 = cq at *
          go_wp2
          rw [show decide ((k : Int) < 5) = true from decide_eq_true (by omega)]
          obtain ⟨wo, hwo⟩ : ∃ wo, wo = wr := ⟨_, rfl⟩
          rw [← hwo] at LA OB
          rw [← hwo]
          clear hwo
          go_loopw [31] (fun i wq => ∃ j : Nat, j ≤ 5 ∧ i = .int .i64 j ∧ Hid (wq.heap[wo.heap.size]? = some (.cells (wv (Fe.sums x y k j)) 93 (0, 0))) ∧ Hid (Below wo.heap.size wo wq)) (fun i _ => 5 - (intOf i).toNat)
          case atStart => exact ⟨0, by omega, rfl, heap_alloc_new wo _, (Below.refl _ _).alloc (Nat.le_refl _) _⟩
          case round =>
            obtain ⟨j, hj, rfl, SB, BQ⟩ := hrel
            by_cases hj5 : j < 5
            · have LQ := LA.out.below BQ.out
              have c1 := LQ.xx.cell j (by rw [show x.cells.length = 5 from rfl]; exact hj5)
              have c2 := LQ.pp.cell (5 + k - j) (by rw [show (Fe.places y 5).length = 10 from rfl]; omega)
              have s0 : wr.cell? ⟨wo.heap.size, 0, none⟩ = some (.int .u64 (Fe.sums x y k j / 18446744073709551616)) := by
                rw [cell_of_row wr wo.heap.size 0 _ 93 (0, 0) SB.out]; rfl
              have s1 : wr.cell? ⟨wo.heap.size, 1, none⟩ = some (.int .u64 (Fe.sums x y k j % 18446744073709551616)) := by
                rw [cell_of_row wr wo.heap.size 1 _ 93 (0, 0) SB.out]; rfl
              have hsl := Fe.sums_le HX.out HY.out k hlt j hj
              have htl := Fe.term_le HX.out HY.out k j hlt hj5
              have HT := Lib.hid (show Fe.sums x y k (j + 1) = Fe.sums x y k j + x.cells.getD j 0 * (Fe.places y 5).getD (5 + k - j) 0 from rfl)
              have htm : Fe.term x y k j = x.cells.getD j 0 * (Fe.places y 5).getD (5 + k - j) 0 := rfl
              obtain ⟨v0, v1⟩ := Fe.ok_get HX.out j hj5
              obtain ⟨p0, p1⟩ := Fe.place_le HY.out (5 + k - j) (by omega)
              rw [htm] at htl
              generalize Fe.sums x y k j = S at *
              generalize x.cells.getD j 0 = v at *
              generalize (Fe.places y 5).getD (5 + k - j) 0 = p at *
              have HP : Hid (∀ w1, Calls Tryd.prog 77 #[.agg #[.int .u64 (S / 18446744073709551616), .int .u64 (S % 18446744073709551616)], .int .u64 v, .int .u64 p] w1 fun e w' => e = .returned (.agg #[.int .u64 ((S + v * p) / 18446744073709551616), .int .u64 ((S + v * p) % 18446744073709551616)]) ∧ Below w1.heap.size w1 w') := fun w1 => plus_any w1 S v p hsl.1 (by unfold Fe.Wd; omega) (by unfold Fe.Wd; omega) (by omega)
              have HSB := Lib.hid SB.out
              rw [← HT.out] at HP
              generalize hS2 : Fe.sums x y k (j + 1) = S2 at *
              have hq2 : S2 / 18446744073709551616 = S2 / 18446744073709551616 := rfl
              clear htm hsl htl LQ SB HT hq2
              generalize S / 18446744073709551616 = sh at *
              generalize S % 18446744073709551616 = sl at *
              obtain ⟨th, hth⟩ : ∃ th, th = S2 / 18446744073709551616 := ⟨_, rfl⟩
              obtain ⟨tl, htl⟩ : ∃ tl, tl = S2 % 18446744073709551616 := ⟨_, rfl⟩
              rw [← hth, ← htl] at HP
              have HV := Lib.hid (show wv S2 = #[.int .u64 th, .int .u64 tl] by rw [hth, htl]; rfl)
              have HS2 := Lib.hid hS2
              clear hth htl hS2
              obtain ⟨d1, hd1⟩ : ∃ d1 : Nat, d1 = 5 + k := ⟨_, rfl⟩
              obtain ⟨d2, hd2⟩ : ∃ d2 : Nat, d2 = 5 + k - j := ⟨_, rfl⟩
              have e5 : IntKind.i64.wrap (5 + (k : Int)) = (d1 : Int) := by rw [IntKind.wrap_i64]; omega
              have e6 : IntKind.i64.wrap ((d1 : Int) - (j : Int)) = (d2 : Int) := by rw [IntKind.wrap_i64]; omega
              have e7 : (d2 : Int) < 10 := by omega
              rw [← hd2] at c2
              clear hd1 hd2
              go_wp2
              refine wp_region_still_tail 10 (by kernel_rfl) (by kernel_rfl) ?_
              simp only [List.take_succ_cons, List.take_zero, List.drop_succ_cons, List.drop_zero]
              change wpStill _ _ wr.drew (fun a' => wpList _ _ _ _ a' wr.drew) _ _
              obtain ⟨w2, hw2⟩ : ∃ w2, w2 = wr.drew := ⟨_, rfl⟩
              have c1' : w2.cell? ⟨w.heap.size, j, none⟩ = some (.int .u64 v) := by rw [hw2]; exact c1
              have c2' : w2.cell? ⟨w.heap.size + 1 + 1 + 1, d2, none⟩ = some (.int .u64 p) := by rw [hw2]; exact c2
              have s0' : w2.cell? ⟨wo.heap.size, 0, none⟩ = some (.int .u64 sh) := by rw [hw2]; exact s0
              have s1' : w2.cell? ⟨wo.heap.size, 1, none⟩ = some (.int .u64 sl) := by rw [hw2]; exact s1
              have hsb2 : w2.heap[wo.heap.size]? = some (.cells (wv S) 93 (0, 0)) := by rw [hw2]; exact HSB.out
              have HB2 : Hid (Below wo.heap.size wo w2) := by rw [hw2]; exact BQ.out.drew
              have HSB2 := Lib.hid hsb2
              rw [← hw2]
              clear hw2 c1 c2 s0 s1 HSB BQ hsb2
              repeat still_step
              refine wpStill_nil ?_
              go_wp2_with (first
                | ((with_reducible refine wpList_store_row (o := ⟨none, _, _, _, _, _⟩) rfl 93 (.tmp 10) (.tmp 44) rfl wo.heap.size #[.int .u64 th, .int .u64 tl] rfl rfl 93 _ HZ.out ?_ ?_ ?_ ?_); exact i61; exact rfl; exact (by simp [Value.oneCell']))
                | (go_at_call 77; refine (HP.out _).mono ?_; rintro e w5 ⟨rfl, hb⟩; have HB5 := Lib.hid (HB2.out.trans (hb.mono HB2.out.size)); have HZ := Lib.hid ((hb.block wo.heap.size (lt_of_block HSB2.out)).trans HSB2.out); clear hb))
              have hfin : (w5.setRow wo.heap.size #[.int .u64 th, .int .u64 tl]).heap[wo.heap.size]? = some (.cells (wv S2) 93 (0, 0)) := by
                rw [HV.out]; exact setRow_heap w5 wo.heap.size _ _ 93 _ HZ.out
              have HF := Lib.hid hfin
              have HBF := Lib.hid (below_setRow HB5.out (Nat.le_refl _) #[.int .u64 th, .int .u64 tl])
              clear hfin
              go_roundw
              case rel => exact ⟨j + 1, by omega, by go_num, by rw [HS2.out]; exact HF, HBF⟩
              case measure => simp [intOf]; omega
            · have hj5' : ((j : Nat) : Int) = 5 := by omega
              rw [hj5']
              clear hj5'
              obtain rfl : j = 5 := by omega
              have hsb := SB.out
              rw [HS5.out] at hsb
              have LQ := LA.out.below BQ.out
              have hob := OB.out.other (BQ.out.block go OB.out.lt)
              have c1 := hob.cell k (by rw [show (Fe.part Fe.z (Fe.outE x y) k).length = 5 from rfl]; exact hlt)
              have f1 := hob.free k
              have s1 : wr.cell? ⟨wo.heap.size, 1, none⟩ = some (.int .u64 (cq % 18446744073709551616)) := by
                rw [cell_of_row wr wo.heap.size 1 _ 93 (0, 0) hsb]; rfl
              have hm : bits BinOp.and IntKind.u64 (cq % 18446744073709551616) 2251799813685247 = cq % 2251799813685248 := (mask51 (cq % 18446744073709551616) (by omega) (by omega)).trans (by omega)
              have hset := hob.set k (cq % 2251799813685248 + c)
              have hps := Fe.part_set Fe.z (Fe.outE x y) k hlt
              rw [HOG.out] at hps
              rw [show cq % 2251799813685248 + c = cq % Fe.M + c from rfl, hps] at hset
              have hlt2 : go < wo.heap.size := OB.out.lt
              have hsb3 := fun v => (heap_setCell_other wr ⟨go, k, none⟩ wo.heap.size v (by simp; omega)).trans hsb
              have hla := fun v => LQ.aside go k hgo v
              have HSET := Lib.hid hset
              have HSB3 := Lib.hid hsb3
              have HLA := Lib.hid hla
              have HBY := Lib.hid (fun w1 => beyond_any w1 cq q0 (by omega))
              rw [Fe.M_eq] at HSET
              clear hset hsb3 hla LQ hob hps hsb SB OB LA BQ
              generalize (Fe.part Fe.z (Fe.outE x y) k).getD k 0 = old at *
              go_wp2_with (first
                | (go_at_call 78; refine (HBY.out _).mono ?_; rintro e w6 ⟨rfl, hb⟩; have HB6 := Lib.hid hb; clear hb)
                | ((with_reducible refine wpList_load_row (o := ⟨some 53, _, _, _, _, _⟩) rfl 93 (.tmp 10) rfl wo.heap.size rfl 93 _ (0, 0) _ (HSB3.out _) Tryd.underlying93 rfl ?_ ?_); exact i61))
              go_roundw
              case rel => exact ⟨k + 1, by omega, by go_num, by rw [HC1.out]; rfl, (HLA.out _).below HB6.out, HSET.out.other (HB6.out.block go HSET.out.lt)⟩
              case measure => simp [intOf]; omega
        · have hk5 : ((k : Nat) : Int) = 5 := by omega
          rw [hk5]
          clear hk5
          obtain rfl : k = 5 := by omega
          have hob : Blk wr go .u64 49 (Fe.outE x y).cells := OB.out
          have c1 := hob.cell 0 (by rw [show (Fe.outE x y).cells.length = 5 from rfl]; decide)
          have f1 := hob.free 0
          obtain ⟨b0, b1⟩ := Fe.cc_le HX.out HY.out 5 (Nat.le_refl _)
          have hcl := Fe.cc_le HX.out HY.out 0 (by omega)
          have hol : 0 ≤ (Fe.outE x y).a ∧ (Fe.outE x y).a ≤ 2251799813685248 := by
            show 0 ≤ (Fe.col x y).a % 2251799813685248 + 0 ∧ (Fe.col x y).a % 2251799813685248 + 0 ≤ 2251799813685248
            omega
          obtain ⟨o0, o1⟩ := hol
          have hset := hob.set 0 ((Fe.outE x y).a + 19 * Fe.cc x y 5)
          rw [Fe.outE_last] at hset
          rw [show (Fe.outE x y).cells.getD 0 0 = (Fe.outE x y).a from rfl] at c1
          have hla := fun v => LA.out.aside go 0 hgo v
          have HSET := Lib.hid hset
          have HLA := Lib.hid hla
          have hc := Lib.hid (fun w1 => carried_ev w1 (Fe.carry (Fe.col x y)) (Fe.col_wide HX.out HY.out))
          have hsz : w.heap.size + 1 + 1 < wr.heap.size := lt_of_block LA.out.zz
          clear hset hla hob OB LA hcl
          generalize (Fe.outE x y).a = oa at *
          generalize Fe.cc x y 5 = c5 at *
          have hbl := Lib.hid (show (wr.setCell ⟨go, 0, none⟩ (.int .u64 (oa + 19 * c5))).heap[go]? = some (.cells (ec (Fe.carry (Fe.col x y))) 49 (0, 0)) from HSET.out)
          have hsz2 : w.heap.size + 1 + 1 < (wr.setCell ⟨go, 0, none⟩ (.int .u64 (oa + 19 * c5))).heap.size := lt_of_block (HLA.out (.int .u64 (oa + 19 * c5))).zz
          have HLB := Lib.hid (HLA.out (.int .u64 (oa + 19 * c5)))
          clear HSET HLA
          go_wp2_with (first
            | ((with_reducible refine wpList_store_row (o := ⟨none, _, _, _, _, _⟩) rfl 49 (.tmp 4) (.tmp 63) rfl (w.heap.size + 1 + 1) (ec (Fe.carry (Fe.carry (Fe.col x y)))) rfl rfl 49 _ HZ.out ?_ ?_ ?_ ?_); exact i30; exact rfl; exact ec_one _)
            | (go_at_call 79; refine (hc.out _).mono ?_; rintro e w5 ⟨rfl, hb⟩; have HB5 := Lib.hid (HLB.out.bb.trans (hb.mono HLB.out.bb.size)); have HZ := Lib.hid ((hb.block _ hsz2).trans HLB.out.zz); clear hb)
            | ((with_reducible refine wpList_load_row (o := ⟨some 62, _, _, _, _, _⟩) rfl 49 (.tmp 7) rfl go rfl 49 _ (0, 0) _ hbl.out Tryd.underlying49 rfl ?_ ?_); exact i30))
          exact bodyPost_ret (results_cell_row Tryd.results50 _ _ (w.heap.size + 1 + 1) 49 _ (0, 0) _ rfl (setRow_heap w5 (w.heap.size + 1 + 1) _ (ec (Fe.carry (Fe.carry (Fe.col x y)))) 49 _ HZ.out) Tryd.underlying49 rfl i30) rfl ⟨rfl, below_setRow HB5.out (by omega) _⟩
end Go.Proofs.YtiinmdleechcgaaDoor
namespace Go.Proofs.YtiinmdleechcgaaDoor
open Go.RowKit

set_option maxRecDepth 100000 in
set_option maxHeartbeats 400000 in
theorem square_any (w : World) (x : Fe.E) (hx : Fe.Ok x) :
    Calls Tryd.prog 72 #[.agg (ec x)] w fun e w' => e = .returned (.agg (ec (Fe.mul x x))) ∧ Below w.heap.size w w' := by
  have h1 := heap_alloc2_old w (.cells (ec x) 49) (.cells #[.int .u64 0, .int .u64 0, .int .u64 0, .int .u64 0, .int .u64 0] 49)
  have h2 := heap_alloc2_new w (.cells (ec x) 49) (.cells #[.int .u64 0, .int .u64 0, .int .u64 0, .int .u64 0, .int .u64 0] 49)
  have h3 : Below w.heap.size w ((w.alloc (.cells (ec x) 49)).alloc (.cells #[.int .u64 0, .int .u64 0, .int .u64 0, .int .u64 0, .int .u64 0] 49)) := ((Below.refl _ _).alloc (Nat.le_refl _) _).alloc (by simp) _
  have hsz : w.heap.size + 1 < ((w.alloc (.cells (ec x) 49)).alloc (.cells #[.int .u64 0, .int .u64 0, .int .u64 0, .int .u64 0, .int .u64 0] 49)).heap.size := lt_of_block h2
  have HS := Lib.hid (mul_any ((w.alloc (.cells (ec x) 49)).alloc (.cells #[.int .u64 0, .int .u64 0, .int .u64 0, .int .u64 0, .int .u64 0] 49)) x x hx hx)
  have HB := Lib.hid h3
  have H2 := Lib.hid h2
  clear hx h3 h2
  go_enter Tryd.func72, Tryd.ntmps72
  go_wp2_with (first
    | ((with_reducible refine wpList_store_row (o := ⟨none, _, _, _, _, _⟩) rfl 49 (.tmp 2) (.tmp 5) rfl (w.heap.size + 1) (ec (Fe.mul x x)) rfl rfl 49 _ HZ.out ?_ ?_ ?_ ?_); exact i30; exact rfl; exact ec_one _)
    | (go_at_call 50; refine HS.out.mono ?_; rintro e w5 ⟨rfl, hb⟩; have HB5 := Lib.hid (HB.out.trans (hb.mono HB.out.size)); have HZ := Lib.hid ((hb.block _ hsz).trans H2.out); clear hb)
    | ((with_reducible refine wpList_load_row (o := ⟨some 3, _, _, _, _, _⟩) rfl 49 (.tmp 1) rfl w.heap.size rfl 49 _ (0, 0) _ h1 Tryd.underlying49 rfl ?_ ?_); exact i30)
    | ((with_reducible refine wpList_load_row (o := ⟨some 4, _, _, _, _, _⟩) rfl 49 (.tmp 1) rfl w.heap.size rfl 49 _ (0, 0) _ h1 Tryd.underlying49 rfl ?_ ?_); exact i30))
  exact bodyPost_ret (results_cell_row Tryd.results72 _ _ (w.heap.size + 1) 49 _ (0, 0) _ rfl (setRow_heap w5 (w.heap.size + 1) _ (ec (Fe.mul x x)) 49 _ HZ.out) Tryd.underlying49 rfl i30) rfl ⟨rfl, below_setRow HB5.out (by omega) _⟩

namespace Fe
/-- What reaches 2^255 when 19 is added. -/
def reach (x : E) : Nat → Int
  | 0 => 19
  | k + 1 => (x.cells.getD k 0 + reach x k) / M
/-- What is handed on when 19 is added, or nothing. -/
def ride (x : E) : Nat → Int
  | 0 => reach x 5 * 19
  | k + 1 => (x.cells.getD k 0 + ride x k) / M
def least (x : E) : E := ⟨(x.a + ride x 0) % M, (x.b + ride x 1) % M, (x.c + ride x 2) % M, (x.d + ride x 3) % M, (x.e + ride x 4) % M⟩
theorem reach_le {x : E} (h : Ok x) : (∀ k, k ≤ 5 → 0 ≤ reach x k ∧ reach x k ≤ 19) ∧ 0 ≤ reach x 5 ∧ reach x 5 ≤ 1 := by
  unfold Ok Pt at h
  have h0 : reach x 0 = 19 := rfl
  have h1 : reach x 1 = (x.a + reach x 0) / 2251799813685248 := rfl
  have h2 : reach x 2 = (x.b + reach x 1) / 2251799813685248 := rfl
  have h3 : reach x 3 = (x.c + reach x 2) / 2251799813685248 := rfl
  have h4 : reach x 4 = (x.d + reach x 3) / 2251799813685248 := rfl
  have h5 : reach x 5 = (x.e + reach x 4) / 2251799813685248 := rfl
  refine ⟨fun k hk => ?_, by omega, by omega⟩
  match k, hk with
  | 0, _ => omega
  | 1, _ => omega
  | 2, _ => omega
  | 3, _ => omega
  | 4, _ => omega
  | 5, _ => omega
theorem ride_le {x : E} (h : Ok x) : ∀ k, k ≤ 5 → 0 ≤ ride x k ∧ ride x k ≤ 19 := by
  have hr := (reach_le h).2
  unfold Ok Pt at h
  have h0 : ride x 0 = reach x 5 * 19 := rfl
  have h1 : ride x 1 = (x.a + ride x 0) / 2251799813685248 := rfl
  have h2 : ride x 2 = (x.b + ride x 1) / 2251799813685248 := rfl
  have h3 : ride x 3 = (x.c + ride x 2) / 2251799813685248 := rfl
  have h4 : ride x 4 = (x.d + ride x 3) / 2251799813685248 := rfl
  have h5 : ride x 5 = (x.e + ride x 4) / 2251799813685248 := rfl
  intro k hk
  match k, hk with
  | 0, _ => omega
  | 1, _ => omega
  | 2, _ => omega
  | 3, _ => omega
  | 4, _ => omega
  | 5, _ => omega
/-- The least form: from 0 to P - 1, each part in its bits. -/
theorem least_val {x : E} (h : Ok x) : val (least x) = val x % P ∧ 0 ≤ val (least x) ∧ val (least x) < P := by
  have hr := (reach_le h).2
  unfold Ok Pt at h
  have h0 : reach x 0 = 19 := rfl
  have h1 : reach x 1 = (x.a + reach x 0) / 2251799813685248 := rfl
  have h2 : reach x 2 = (x.b + reach x 1) / 2251799813685248 := rfl
  have h3 : reach x 3 = (x.c + reach x 2) / 2251799813685248 := rfl
  have h4 : reach x 4 = (x.d + reach x 3) / 2251799813685248 := rfl
  have h5 : reach x 5 = (x.e + reach x 4) / 2251799813685248 := rfl
  have g0 : ride x 0 = reach x 5 * 19 := rfl
  have g1 : ride x 1 = (x.a + ride x 0) / 2251799813685248 := rfl
  have g2 : ride x 2 = (x.b + ride x 1) / 2251799813685248 := rfl
  have g3 : ride x 3 = (x.c + ride x 2) / 2251799813685248 := rfl
  have g4 : ride x 4 = (x.d + ride x 3) / 2251799813685248 := rfl
  have g5 : ride x 5 = (x.e + ride x 4) / 2251799813685248 := rfl
  have hv : val x = x.a + 2251799813685248 * (x.b + 2251799813685248 * (x.c + 2251799813685248 * (x.d + 2251799813685248 * x.e))) := rfl
  have hl : val (least x) = (x.a + ride x 0) % 2251799813685248 + 2251799813685248 * ((x.b + ride x 1) % 2251799813685248 + 2251799813685248 * ((x.c + ride x 2) % 2251799813685248 + 2251799813685248 * ((x.d + ride x 3) % 2251799813685248 + 2251799813685248 * ((x.e + ride x 4) % 2251799813685248)))) := rfl
  rw [show P = 57896044618658097711785492504343953926634992332820282019728792003956564819949 from rfl]
  have hq : reach x 5 = 0 ∨ reach x 5 = 1 := by omega
  have e : val (least x) = val x - 57896044618658097711785492504343953926634992332820282019728792003956564819949 * reach x 5 ∧ 0 ≤ val (least x) ∧ val (least x) < 57896044618658097711785492504343953926634992332820282019728792003956564819949 := by
    rcases hq with hq | hq <;> omega
  obtain ⟨e1, e2, e3⟩ := e
  refine ⟨?_, e2, e3⟩
  omega
end Fe
end Go.Proofs.YtiinmdleechcgaaDoor
namespace Go.Proofs.YtiinmdleechcgaaDoor
open Go.RowKit

namespace Fe
theorem least_get (x : E) (k : Nat) (h : k < 5) : (least x).cells.getD k 0 = (x.cells.getD k 0 + ride x k) % M := by
  match k, h with
  | 0, _ => rfl
  | 1, _ => rfl
  | 2, _ => rfl
  | 3, _ => rfl
  | 4, _ => rfl
end Fe

set_option maxRecDepth 100000 in
set_option maxHeartbeats 1000000 in
theorem least_any (w : World) (x : Fe.E) (hx : Fe.Ok x) :
    Calls Tryd.prog 76 #[.agg (ec x)] w fun e w' => e = .returned (.agg (ec (Fe.least x))) ∧ Below w.heap.size w w' := by
  have HX := Lib.hid hx
  have h1 := heap_alloc2_old w (.cells (ec x) 49) (.cells (ec Fe.z) 49)
  have h2 := heap_alloc2_new w (.cells (ec x) 49) (.cells (ec Fe.z) 49)
  have h3 : Below w.heap.size w ((w.alloc (.cells (ec x) 49)).alloc (.cells (ec Fe.z) 49)) := ((Below.refl _ _).alloc (Nat.le_refl _) _).alloc (by simp) _
  have H1 := Lib.hid (show Blk ((w.alloc (.cells (ec x) 49)).alloc (.cells (ec Fe.z) 49)) w.heap.size .u64 49 x.cells from h1)
  have H2 := Lib.hid h2
  have H3 := Lib.hid h3
  clear h1 h2 h3 hx
  go_enter Tryd.func76, Tryd.ntmps76
  go_wp2_with fail
  change Code.wp _ _ _ _ ((w.alloc (.cells (ec x) 49)).alloc (.cells (ec Fe.z) 49))
  generalize ((w.alloc (.cells (ec x) 49)).alloc (.cells (ec Fe.z) 49)) = w3 at *
  go_loop [3, 7] (fun c i => ∃ k : Nat, k ≤ 5 ∧ i = .int .i64 k ∧ c = .int .u64 (Fe.reach x k)) (fun _ i => 5 - (intOf i).toNat)
  case atStart => exact ⟨0, by omega, rfl, rfl⟩
  case round =>
    obtain ⟨k, hk, rfl, rfl⟩ := hrel
    by_cases hlt : k < 5
    · have c1 := H1.out.cell k (by rw [show x.cells.length = 5 from rfl]; exact hlt)
      obtain ⟨v0, v1⟩ := Fe.ok_get HX.out k hlt
      obtain ⟨d0, d1⟩ := (Fe.reach_le HX.out).1 k hk
      have HR := Lib.hid (show Fe.reach x (k + 1) = (x.cells.getD k 0 + Fe.reach x k) / 2251799813685248 from rfl)
      generalize x.cells.getD k 0 = v at *
      generalize Fe.reach x k = d at *
      go_wp2
      go_round
      case rel => exact ⟨k + 1, by omega, by go_num, by rw [HR.out]⟩
      case measure => simp [intOf]; omega
    · have hk5 : ((k : Nat) : Int) = 5 := by omega
      rw [hk5]
      clear hk5
      obtain rfl : k = 5 := by omega
      obtain ⟨d0, d1⟩ := (Fe.reach_le HX.out).2
      have HR0 := Lib.hid (show Fe.ride x 0 = Fe.reach x 5 * 19 from rfl)
      generalize Fe.reach x 5 = d at *
      go_wp2
      obtain ⟨wo, hwo⟩ : ∃ wo, wo = w3 := ⟨_, rfl⟩
      rw [← hwo] at H1 H2 H3
      rw [← hwo]
      clear hwo
      go_loopw [3, 19] (fun c i wr => ∃ k : Nat, k ≤ 5 ∧ i = .int .i64 k ∧ c = .int .u64 (Fe.ride x k) ∧ Hid (Blk wr w.heap.size .u64 49 (Fe.part x (Fe.least x) k)) ∧ Hid (wr.heap[w.heap.size + 1]? = some (.cells (ec Fe.z) 49 (0, 0))) ∧ Hid (Below w.heap.size w wr)) (fun _ i _ => 5 - (intOf i).toNat)
      case atStart => exact ⟨0, by omega, rfl, by rw [HR0.out], H1, H2, H3⟩
      case round =>
        clear H1 H2 H3
        obtain ⟨k, hk, rfl, rfl, BL, ZB, BW⟩ := hrel
        by_cases hlt : k < 5
        · have c1 := BL.out.cell k (by rw [show (Fe.part x (Fe.least x) k).length = 5 from rfl]; exact hlt)
          have f1 := BL.out.free k
          rw [Fe.part_get x _ k hlt] at c1
          have hset := BL.out.set k ((Fe.least x).cells.getD k 0)
          rw [Fe.part_set x _ k hlt, Fe.least_get x k hlt, Fe.M_eq] at hset
          have hoth := fun v => heap_setCell_other wr ⟨w.heap.size, k, none⟩ (w.heap.size + 1) v (by simp)
          have HSET := Lib.hid hset
          have HOTH := Lib.hid hoth
          obtain ⟨v0, v1⟩ := Fe.ok_get HX.out k hlt
          obtain ⟨d0, d1⟩ := Fe.ride_le HX.out k hk
          have HR := Lib.hid (show Fe.ride x (k + 1) = (x.cells.getD k 0 + Fe.ride x k) / 2251799813685248 from rfl)
          clear hset hoth
          generalize x.cells.getD k 0 = v at *
          generalize Fe.ride x k = d at *
          have hm := mask51 (v + d) (by omega) (by omega)
          go_wp2
          go_roundw
          case rel => exact ⟨k + 1, by omega, by go_num, by rw [HR.out], HSET.out, (HOTH.out _).trans ZB.out, (BW.out.setCell (Nat.le_refl _) _)⟩
          case measure => simp [intOf]; omega
        · have hk5 : ((k : Nat) : Int) = 5 := by omega
          rw [hk5]
          clear hk5
          obtain rfl : k = 5 := by omega
          have h1 : wr.heap[w.heap.size]? = some (.cells (ec (Fe.least x)) 49 (0, 0)) := BL.out
          have h2 := ZB.out
          go_wp2_with (first
            | ((with_reducible refine wpList_load_row (o := ⟨some 34, _, _, _, _, _⟩) rfl 49 (.tmp 1) rfl w.heap.size rfl 49 _ (0, 0) _ h1 Tryd.underlying49 rfl ?_ ?_); exact i30)
            | ((with_reducible refine wpList_store_row (o := ⟨none, _, _, _, _, _⟩) rfl 49 (.tmp 2) (.tmp 34) rfl (w.heap.size + 1) (ec (Fe.least x)) rfl rfl 49 _ h2 ?_ ?_ ?_ ?_); exact i30; exact rfl; exact ec_one _))
          exact bodyPost_ret (results_cell_row Tryd.results76 _ _ (w.heap.size + 1) 49 _ (0, 0) _ rfl (setRow_heap wr (w.heap.size + 1) _ (ec (Fe.least x)) 49 _ h2) Tryd.underlying49 rfl i30) rfl ⟨rfl, below_setRow BW.out (by omega) _⟩
end Go.Proofs.YtiinmdleechcgaaDoor
namespace Go.Proofs.YtiinmdleechcgaaDoor
open Go.RowKit

theorem and1 (v : Int) (h0 : 0 ≤ v) (h1 : v ≤ 18446744073709551615) : bits BinOp.and IntKind.u64 v 1 = v % 2 := by
  obtain ⟨n, rfl⟩ := Int.eq_ofNat_of_zero_le h0
  have h := u64_and_nat n 1 (by omega) (by decide)
  rw [nat_mask1, Int.natCast_emod] at h
  exact h
theorem Fe.least_part {x : Fe.E} : 0 ≤ (Fe.least x).a ∧ (Fe.least x).a ≤ 2251799813685247 := by
  show 0 ≤ (x.a + Fe.ride x 0) % 2251799813685248 ∧ (x.a + Fe.ride x 0) % 2251799813685248 ≤ 2251799813685247
  omega
theorem index30 (x : Fe.E) (w : World) : (Instr.index 49 (.agg (ec x)) (.int .i64 0)).run Tryd.prog w = .ok (.int .u64 x.a) w := by kernel_rfl

set_option maxRecDepth 100000 in
set_option maxHeartbeats 400000 in
theorem odd_any (w : World) (x : Fe.E) (hx : Fe.Ok x) :
    Calls Tryd.prog 70 #[.agg (ec x)] w fun e w' => e = .returned (.bool (decide ((Fe.least x).a % 2 = 1))) ∧ Below w.heap.size w w' := by
  have h1 := heap_alloc_new w (.cells (ec x) 49)
  have h3 : Below w.heap.size w (w.alloc (.cells (ec x) 49)) := (Below.refl _ _).alloc (Nat.le_refl _) _
  have HS := Lib.hid (least_any (w.alloc (.cells (ec x) 49)) x hx)
  have HB := Lib.hid h3
  have hix := index30 (Fe.least x)
  obtain ⟨v0, v1⟩ := Fe.least_part (x := x)
  have hm := and1 (Fe.least x).a v0 (by omega)
  clear hx h3
  generalize (Fe.least x).a = v at *
  generalize ec (Fe.least x) = lx at *
  go_enter Tryd.func70, Tryd.ntmps70
  go_wp2_with (first
    | (go_at_call 76; refine HS.out.mono ?_; rintro e w5 ⟨rfl, hb⟩; have HB5 := Lib.hid (HB.out.trans (hb.mono HB.out.size)); clear hb)
    | ((with_reducible refine wpList_load_row (o := ⟨some 3, _, _, _, _, _⟩) rfl 49 (.tmp 1) rfl w.heap.size rfl 49 _ (0, 0) _ h1 Tryd.underlying49 rfl ?_ ?_); exact i30))
  go_ret
  exact ⟨rfl, HB5.out⟩
end Go.Proofs.YtiinmdleechcgaaDoor
namespace Go.Proofs.YtiinmdleechcgaaDoor
open Go.RowKit

/-- So many numbers of a kind lie in a block from a place on. -/
def At (w : World) (k : IntKind) (b off : Nat) (l : List Int) : Prop := ∀ j, j < l.length → w.cell? ⟨b, off + j, none⟩ = some (.int k (l.getD j 0))
theorem At.below {w w' : World} {B : Nat} {k : IntKind} {b off : Nat} {l : List Int} (h : At w k b off l) (hb : Below B w w') (hB : b < B) : At w' k b off l :=
  fun j hj => (hb.cell (p := ⟨b, off + j, none⟩) hB).trans (h j hj)
/-- A slice of numbers of a kind, by its value; all are in bounds. -/
def Sl (k : IntKind) (bd : Int → Prop) (w : World) (v : Value) (l : List Int) : Prop := ∃ a cap, v = .slice a l.length cap ∧ l.length ≤ cap ∧ (∀ x ∈ l, bd x) ∧ (l = [] ∨ ∃ b off, a = some ⟨b, off, none⟩ ∧ b < w.heap.size ∧ At w k b off l)
theorem Sl.below {k : IntKind} {bd : Int → Prop} {w w' : World} {v : Value} {l : List Int} {B : Nat} (h : Sl k bd w v l) (hb : Below B w w') (hB : w.heap.size ≤ B) : Sl k bd w' v l := by
  obtain ⟨a, cap, h1, h2, h3, h4⟩ := h
  refine ⟨a, cap, h1, h2, h3, ?_⟩
  rcases h4 with h4 | ⟨b, off, h5, h6, h7⟩
  · exact Or.inl h4
  · exact Or.inr ⟨b, off, h5, Nat.lt_of_lt_of_le h6 hb.size, h7.below hb (by omega)⟩
def W8 (x : Int) : Prop := 0 ≤ x ∧ x ≤ 255
def W32 (x : Int) : Prop := 0 ≤ x ∧ x ≤ 4294967295
/-- Bytes. -/
abbrev Slc (w : World) (v : Value) (l : List Int) : Prop := Sl .u8 W8 w v l
/-- A number, by the value of the slice of its words. -/
abbrev Num (w : World) (v : Value) (l : List Int) : Prop := Sl .u32 W32 w v l

namespace Grow
/-- What is known of a value. -/
inductive Spec
  | is (v : Value)
  | slc (l : List Int)
  | num (l : List Int)
  | held (p : Value → World → Prop) (k : ∀ u w w', p u w → Below w.heap.size w w' → p u w')
def Spec.meets : Spec → Value → World → Prop
  | .is v, u, _ => u = v
  | .slc l, u, w => Slc w u l
  | .num l, u, w => Num w u l
  | .held p _, u, w => p u w
theorem Spec.keeps (s : Spec) {u : Value} {w w' : World} (h : s.meets u w) (hb : Below w.heap.size w w') : s.meets u w' := by
  cases s with
  | is v => exact h
  | slc l => exact Sl.below h hb (Nat.le_refl _)
  | num l => exact Sl.below h hb (Nat.le_refl _)
  | held p k => exact k u w w' h hb

def dstOf (ops : Array Oper) (j : Nat) : Option Tmp := (ops[j]?).bind (·.dst)
def deps (md : Region.Mode) (ops : Array Oper) (o : Oper) (j d : Nat) : Bool := o.after.any (fun e => Region.binds md e && e.on == j) && dstOf ops j == some d
/-- No two write one temporary; all are written in the frame; each waits for earlier ones alone. -/
def fits (ops : Array Oper) (n : Nat) : Bool :=
  (List.range ops.size).all fun i => (match dstOf ops i with
    | some d => decide (d < n) && (List.range ops.size).all fun j => j == i || dstOf ops j != some d
    | none => false) && (match ops[i]? with | some o => o.after.all fun e => decide (e.on < i) | none => false)
def free (ops : Array Oper) (t : Nat) : Bool := (List.range ops.size).all fun j => dstOf ops j != some t

def Hop (P : Program) (md : Region.Mode) (ops : Array Oper) (specs : Nat → Spec) (Q : Exit → Act → World → Prop) (a0 : Act) (w0 : World) (i : Nat) (o : Oper) : Prop :=
  ∀ a w, Below w0.heap.size w0 w → a.tmps.size = a0.tmps.size → (∀ j d, deps md ops o j d = true → (specs j).meets (a.eval (.tmp d)) w) → (∀ t, free ops t = true → a.eval (.tmp t) = a0.eval (.tmp t)) →
    Region.wanted o (yielded ops a.tmps) = true ∧ o.wp P a w (fun a' w' => ∃ v, a' = a.put o.dst v ∧ (specs i).meets v w' ∧ Below w.heap.size w w') Q
/-- All of them. -/
def Hops (P : Program) (md : Region.Mode) (ops : Array Oper) (specs : Nat → Spec) (Q : Exit → Act → World → Prop) (a0 : Act) (w0 : World) : Nat → List Oper → Prop
  | _, [] => True
  | i, o :: r => Hop P md ops specs Q a0 w0 i o ∧ Hops P md ops specs Q a0 w0 (i + 1) r

section
variable {P : Program} {ops : Array Oper} {Q : Exit → Act → World → Prop} {md : Region.Mode} {specs : Nat → Spec} {a0 : Act} {w0 : World}
theorem Hops.get : ∀ {i : Nat} {l : List Oper}, Hops P md ops specs Q a0 w0 i l → ∀ (j : Nat) (o : Oper), l[j]? = some o → Hop P md ops specs Q a0 w0 (i + j) o
  | i, [], _, j, o, hj => by simp at hj
  | i, x :: r, h, 0, o, hj => by
    simp only [List.getElem?_cons_zero, Option.some.injEq] at hj
    subst hj; exact h.1
  | i, x :: r, h, j + 1, o, hj => by
    have := Hops.get h.2 j o (by simpa using hj)
    rwa [show i + 1 + j = i + (j + 1) by omega] at this

theorem fits_dst {n : Nat} (h : fits ops n = true) {i : Nat} {o : Oper} (hi : ops[i]? = some o) : ∃ d, o.dst = some d ∧ d < n ∧ (∀ j, j < ops.size → j ≠ i → dstOf ops j ≠ some d) ∧ ∀ e ∈ o.after, e.on < i := by
  have hlt : i < ops.size := (Array.getElem?_eq_some_iff.1 hi).1
  unfold fits at h
  rw [List.all_eq_true] at h
  have h1 := h i (List.mem_range.2 hlt)
  simp only [Bool.and_eq_true, hi] at h1
  obtain ⟨h2, h3⟩ := h1
  have hd : dstOf ops i = o.dst := by simp [dstOf, hi]
  rw [hd] at h2
  cases hod : o.dst with
  | none => rw [hod] at h2; cases h2
  | some d =>
    rw [hod] at h2
    simp only [Bool.and_eq_true, decide_eq_true_eq, List.all_eq_true, List.mem_range] at h2
    refine ⟨d, rfl, h2.1, fun j hj hne => ?_, fun e he => ?_⟩
    · have := h2.2 j hj
      simp only [Bool.or_eq_true, beq_iff_eq, bne_iff_ne, ne_eq] at this
      rcases this with h | h
      · exact absurd h hne
      · exact h
    · rw [Array.all_eq_true_iff_forall_mem] at h3
      simpa using h3 e he

structure Inv (md : Region.Mode) (ops : Array Oper) (specs : Nat → Spec) (a0 : Act) (w0 : World) (listed : Array Bool) (a : Act) (w : World) : Prop where
  lsize : listed.size = ops.size
  below : Below w0.heap.size w0 w
  tsize : a.tmps.size = a0.tmps.size
  known : ∀ i d, dstOf ops i = some d → listed.getD i false = true → (specs i).meets (a.eval (.tmp d)) w
  rest : ∀ t, free ops t = true → a.eval (.tmp t) = a0.eval (.tmp t)
  defers : a.defers = a0.defers

theorem eval_put_ne {a : Act} {d t : Nat} {v : Value} (h : d ≠ t) : (a.put (some d) v).eval (.tmp t) = a.eval (.tmp t) := by
  simp [Act.eval, Act.put, Array.getElem?_setIfInBounds_ne h]
theorem eval_put_eq {a : Act} {d : Nat} {v : Value} (h : d < a.tmps.size) : (a.put (some d) v).eval (.tmp d) = v := by
  simp [Act.eval, Act.put, h]

theorem Inv.step {listed : Array Bool} {a : Act} {w : World} (hf : fits ops a0.tmps.size = true) (h : Inv md ops specs a0 w0 listed a w) {i : Nat} {o : Oper} (hi : ops[i]? = some o) {v : Value} {w' : World}
    (hv : (specs i).meets v w') (hb : Below w.heap.size w w') : Inv md ops specs a0 w0 (listed.setIfInBounds i true) (a.put o.dst v) w' := by
  obtain ⟨d, hd, hdn, hne, -⟩ := fits_dst hf hi
  have hlt : i < ops.size := (Array.getElem?_eq_some_iff.1 hi).1
  have hdi : dstOf ops i = some d := by simp [dstOf, hi, hd]
  rw [hd]
  refine ⟨by simp [h.lsize], h.below.trans (hb.mono h.below.size), by simp [Act.put, h.tsize], ?_, ?_, by simp [Act.put, h.defers]⟩
  · intro j e hj hl
    by_cases hji : j = i
    · subst hji
      obtain rfl : d = e := Option.some.inj (hdi.symm.trans hj)
      rw [eval_put_eq (by rw [h.tsize]; exact hdn)]
      exact hv
    · have hjlt : j < ops.size := by
        rcases Nat.lt_or_ge j ops.size with h | h
        · exact h
        · simp [dstOf, Array.getElem?_eq_none h] at hj
      have hde : d ≠ e := fun hh => hne j hjlt hji (hh ▸ hj)
      rw [eval_put_ne hde]
      refine ((specs j).keeps (h.known j e hj ?_) hb)
      simpa [Array.getElem?_setIfInBounds_ne (Ne.symm hji)] using hl
  · intro t ht
    have : d ≠ t := by
      intro hh
      subst hh
      unfold free at ht
      rw [List.all_eq_true] at ht
      have := ht i (List.mem_range.2 hlt)
      rw [hdi] at this
      simp at this
    rw [eval_put_ne this]
    exact h.rest t ht

theorem wpAny_grow (hf : fits ops a0.tmps.size = true) (hops : Hops P md ops specs Q a0 w0 0 ops.toList)
    (hend : ∀ a w, Below w0.heap.size w0 w → (∀ i d, dstOf ops i = some d → (specs i).meets (a.eval (.tmp d)) w) → a.defers = a0.defers → (∀ t, free ops t = true → a.eval (.tmp t) = a0.eval (.tmp t)) → Q .normal a w) :
    ∀ (fuel : Nat) (listed : Array Bool) (a : Act) (w : World), listed.toList.count false ≤ fuel → Inv md ops specs a0 w0 listed a w → wpAny P md ops Q fuel listed a w := by
  have done : ∀ (listed : Array Bool) (a : Act) (w : World), Inv md ops specs a0 w0 listed a w → Region.ready md ops listed = [] → Q .normal a w := by
    intro listed a w h hr
    have hall : ∀ n i, i < n → i < ops.size → listed.getD i false = true := by
      intro n
      induction n with
      | zero => intro i hi; omega
      | succ n ih =>
        intro i hi hlt
        by_cases hin : i < n
        · exact ih i hin hlt
        · obtain ⟨o, ho⟩ : ∃ o, ops[i]? = some o := ⟨_, Array.getElem?_eq_getElem hlt⟩
          obtain ⟨_, _, _, _, haf⟩ := fits_dst hf ho
          cases hl : listed.getD i false with
          | true => rfl
          | false =>
            have hm : i ∈ Region.ready md ops listed := by
              refine mem_ready.2 ⟨?_, o, ho, fun e he _ => ih e.on (by have := haf e he; omega) (by have := haf e he; omega)⟩
              have hs : i < listed.size := by rw [h.lsize]; exact hlt
              simpa [Array.getElem?_eq_getElem hs] using hl
            rw [hr] at hm; cases hm
    exact hend a w h.below (fun i d hd => h.known i d hd (hall (i + 1) i (Nat.lt_succ_self _) (by
      rcases Nat.lt_or_ge i ops.size with h | h
      · exact h
      · simp [dstOf, Array.getElem?_eq_none h] at hd))) h.defers h.rest
  intro fuel
  induction fuel with
  | zero =>
    intro listed a w hc h
    have hr : Region.ready md ops listed = [] := by
      cases hr : Region.ready md ops listed with
      | nil => rfl
      | cons j r =>
        have hj : j ∈ Region.ready md ops listed := by rw [hr]; exact List.mem_cons_self
        obtain ⟨h0, o, ho, _⟩ := mem_ready.1 hj
        have hs : j < listed.size := by rw [h.lsize]; exact (Array.getElem?_eq_some_iff.1 ho).1
        have hm : false ∈ listed.toList := by
          rw [Array.mem_toList_iff]
          refine Array.mem_of_getElem? (i := j) ?_
          rw [Array.getElem?_eq_getElem hs]
          simpa [Array.getElem?_eq_getElem hs] using h0
        have := List.count_pos_iff.2 hm
        omega
    exact ⟨hr, done listed a w h hr⟩
  | succ fuel ih =>
    intro listed a w hc h
    refine ⟨done listed a w h, fun i hi => ?_⟩
    obtain ⟨h0, o, ho, hall⟩ := mem_ready.1 hi
    have hs : i < listed.size := by rw [h.lsize]; exact (Array.getElem?_eq_some_iff.1 ho).1
    have hl0 : listed[i] = false := by simpa [Array.getElem?_eq_getElem hs] using h0
    have hcount : (listed.setIfInBounds i true).toList.count false ≤ fuel := by
      have hm : false ∈ listed.toList := by
        rw [Array.mem_toList_iff]
        exact Array.mem_of_getElem? (i := i) (by rw [Array.getElem?_eq_getElem hs, hl0])
      have hp := List.count_pos_iff.2 hm
      rw [Array.toList_setIfInBounds, List.count_set (by simpa using hs)]
      rw [if_pos (by simp [hl0]), if_neg (by simp)]
      omega
    have hhop := hops.get i o (by simpa using ho)
    rw [Nat.zero_add] at hhop
    obtain ⟨hw, hwp⟩ := hhop a w h.below h.tsize (fun j d hd => by
      unfold deps at hd
      simp only [Bool.and_eq_true, beq_iff_eq] at hd
      obtain ⟨hd1, hd2⟩ := hd
      rw [Array.any_eq_true'] at hd1
      obtain ⟨e, he, heb⟩ := hd1
      simp only [Bool.and_eq_true, beq_iff_eq] at heb
      obtain ⟨hb, rfl⟩ := heb
      exact h.known _ d hd2 (hall e he hb)) h.rest
    unfold wpOp
    simp only [ho, hw, if_true]
    refine Or.inl (Oper.wp_mono ?_ hwp)
    rintro a' w' ⟨v, rfl, hv, hb⟩
    exact ih _ _ _ hcount (h.step hf ho hv hb)

theorem region_grow {id : Nat} (hm : P.follows .mixedOrders = true) (specs : Nat → Spec) (hf : fits ops a0.tmps.size = true) (hops : Hops P .any ops specs Q a0 w0 0 ops.toList)
    (hend : ∀ a w, Below w0.heap.size w0 w → (∀ i d, dstOf ops i = some d → (specs i).meets (a.eval (.tmp d)) w) → a.defers = a0.defers → (∀ t, free ops t = true → a.eval (.tmp t) = a0.eval (.tmp t)) → Q .normal a w) :
    (Code.region id ops true).wp P Q a0 w0 := by
  refine wp_region_any hm (wpAny_grow hf hops hend _ _ _ _ ?_ ?_)
  · simp
  · refine ⟨by simp, ⟨rfl, rfl, rfl, Nat.le_refl _, fun _ _ => rfl⟩, rfl, ?_, fun _ _ => rfl, rfl⟩
    intro i d _ hl
    simp [Array.getElem?_replicate] at hl
    split at hl <;> simp at hl
end
end Grow
end Go.Proofs.YtiinmdleechcgaaDoor
namespace Go.Proofs.YtiinmdleechcgaaDoor
open Go.RowKit

namespace Grow
/-- The operation is carried out. -/
def Runs (ops : Array Oper) (specs : Nat → Spec) (a0 : Act) (o : Oper) : Prop :=
  o.guard = none ∨ ∃ g d, o.guard = some (g, true) ∧ deps .any ops o g d = true ∧ specs g = .is (.bool true) ∧ d < a0.tmps.size

section
variable {ops : Array Oper} {Q : Exit → Act → World → Prop} {specs : Nat → Spec} {a0 : Act} {w0 : World} {i : Nat} {o : Oper}

theorem wanted_of (hr : Runs ops specs a0 o) {a : Act} {w : World} (ht : a.tmps.size = a0.tmps.size) (hk : ∀ j d, deps .any ops o j d = true → (specs j).meets (a.eval (.tmp d)) w) : Region.wanted o (yielded ops a.tmps) = true := by
  rcases hr with h | ⟨g, d, h1, h2, h3, h4⟩
  · simp [Region.wanted, h]
  · have h5 := hk g d h2
    rw [h3] at h5
    have h5 : a.eval (.tmp d) = .bool true := h5
    unfold deps at h2
    simp only [Bool.and_eq_true, beq_iff_eq] at h2
    have h6 : ((ops[g]?).bind (·.dst)) = some d := h2.2
    have h7 : a.tmps[d]? = some (.bool true) := by
      have hlt : d < a.tmps.size := by rw [ht]; exact h4
      rw [Array.getElem?_eq_getElem hlt]
      simpa [Act.eval, Array.getElem?_eq_getElem hlt] using h5
    simp [Region.wanted, h1, yielded, h6, h7]

theorem wp_move {a : Act} {w : World} {K : Act → World → Prop} (x : Operand) (h : o.op = .move x ∨ o.op = .assign x) (hk : K (a.put o.dst (a.eval x)) w) : o.wp Tryd.prog a w K Q := by
  unfold Oper.wp execOp
  rcases h with h | h
  · rw [h]; exact hk
  · rw [h]; exact hk
theorem wp_value {a : Act} {w w' : World} {v : Value} {K : Act → World → Prop} (h : (execOp a.eval o).run Tryd.prog w = .ok (.value v) w') (hk : K (a.put o.dst v) w') : o.wp Tryd.prog a w K Q := by
  unfold Oper.wp
  rw [h]; exact hk
theorem wp_enter {a : Act} {w : World} {f : FuncId} {args : Array Value} {K : Act → World → Prop} (h : (execOp a.eval o).run Tryd.prog w = .ok (.enter f args) w) (hk : Calls Tryd.prog f args w fun e w' => ∃ v, e = .returned v ∧ K (a.put o.dst v) w') : o.wp Tryd.prog a w K Q := by
  unfold Oper.wp
  rw [h]
  refine hk.mono ?_
  rintro e w' ⟨v, rfl, h1⟩
  exact h1

theorem hop_move (hr : Runs ops specs a0 o) (j d : Nat) (ho : o.op = .move (.tmp d) ∨ o.op = .assign (.tmp d)) (hj : deps .any ops o j d = true) (hs : specs i = specs j) : Hop Tryd.prog .any ops specs Q a0 w0 i o := by
  intro a w _ ht hk _
  refine ⟨wanted_of hr ht hk, ?_⟩
  have h := hk j d hj
  rw [← hs] at h
  exact wp_move _ ho ⟨_, rfl, h, Below.refl _ _⟩
theorem hop_free (hr : Runs ops specs a0 o) (t : Nat) (v : Value) (ho : o.op = .move (.tmp t)) (hf : free ops t = true) (hv : a0.eval (.tmp t) = v) (hs : specs i = .is v) : Hop Tryd.prog .any ops specs Q a0 w0 i o := by
  intro a w _ ht hk hfr
  refine ⟨wanted_of hr ht hk, ?_⟩
  refine wp_move _ (Or.inl ho) ⟨_, rfl, ?_, Below.refl _ _⟩
  rw [hs]
  exact (hfr t hf).trans hv
theorem hop_eql (hr : Runs ops specs a0 o) (j1 d1 j2 d2 : Nat) (s : ByteArray) (ho : o.op = .binOp .eql 9 (.tmp d1) (.tmp d2) 9) (hj1 : deps .any ops o j1 d1 = true) (hj2 : deps .any ops o j2 d2 = true) (hs1 : specs j1 = .is (.string s)) (hs2 : specs j2 = .is (.string s)) (hi : specs i = .is (.bool true)) : Hop Tryd.prog .any ops specs Q a0 w0 i o := by
  intro a w _ ht hk _
  refine ⟨wanted_of hr ht hk, ?_⟩
  have h1 := hk j1 d1 hj1
  have h2 := hk j2 d2 hj2
  rw [hs1] at h1
  rw [hs2] at h2
  have h1 : a.eval (.tmp d1) = .string s := h1
  have h2 : a.eval (.tmp d2) = .string s := h2
  have hu := Tryd.underlying9
  refine wp_value (v := .bool true) (w' := w) ?_ ⟨_, rfl, by rw [hi]; rfl, Below.refl _ _⟩
  unfold execOp
  rw [ho]
  simp only [h1, h2]
  go_simp
theorem hop_pick (hr : Runs ops specs a0 o) (j1 d1 j2 d2 : Nat) (y : Operand) (ho : o.op = .pick (.tmp d1) (.tmp d2) y) (hj1 : deps .any ops o j1 d1 = true) (hj2 : deps .any ops o j2 d2 = true) (hs1 : specs j1 = .is (.bool true)) (hs2 : specs i = specs j2) : Hop Tryd.prog .any ops specs Q a0 w0 i o := by
  intro a w _ ht hk _
  refine ⟨wanted_of hr ht hk, ?_⟩
  have h1 := hk j1 d1 hj1
  have h2 := hk j2 d2 hj2
  rw [hs1] at h1
  rw [← hs2] at h2
  have h1 : a.eval (.tmp d1) = .bool true := h1
  refine wp_value (v := a.eval (.tmp d2)) (w' := w) ?_ ⟨_, rfl, h2, Below.refl _ _⟩
  unfold execOp
  rw [ho]
  simp only [h1]
  go_simp
theorem hop_call1 (hr : Runs ops specs a0 o) (f : FuncId) (he : ∀ args w, (callFunc f args).run Tryd.prog w = .ok (.enter f args) w) (ts : Array TypeId) (j d : Nat) (ho : o.op = .call { callee := .value (.func f), args := #[.tmp d], argTypes := ts }) (hj : deps .any ops o j d = true)
    (hc : ∀ u w, Below w0.heap.size w0 w → (specs j).meets u w → Calls Tryd.prog f #[u] w fun e w' => ∃ v, e = .returned v ∧ (specs i).meets v w' ∧ Below w.heap.size w w') : Hop Tryd.prog .any ops specs Q a0 w0 i o := by
  intro a w hb ht hk _
  refine ⟨wanted_of hr ht hk, ?_⟩
  have h := hc _ w hb (hk j d hj)
  refine wp_enter (f := f) (args := #[a.eval (.tmp d)]) ?_ (h.mono ?_)
  · unfold execOp
    rw [ho]
    go_simp
  · rintro e w' ⟨v, rfl, h1, h2⟩
    exact ⟨v, rfl, v, rfl, h1, h2⟩
theorem hop_call2 (hr : Runs ops specs a0 o) (f : FuncId) (he : ∀ args w, (callFunc f args).run Tryd.prog w = .ok (.enter f args) w) (ts : Array TypeId) (j1 d1 j2 d2 : Nat) (ho : o.op = .call { callee := .value (.func f), args := #[.tmp d1, .tmp d2], argTypes := ts }) (hj1 : deps .any ops o j1 d1 = true) (hj2 : deps .any ops o j2 d2 = true)
    (hc : ∀ u1 u2 w, Below w0.heap.size w0 w → (specs j1).meets u1 w → (specs j2).meets u2 w → Calls Tryd.prog f #[u1, u2] w fun e w' => ∃ v, e = .returned v ∧ (specs i).meets v w' ∧ Below w.heap.size w w') : Hop Tryd.prog .any ops specs Q a0 w0 i o := by
  intro a w hb ht hk _
  refine ⟨wanted_of hr ht hk, ?_⟩
  have h := hc _ _ w hb (hk j1 d1 hj1) (hk j2 d2 hj2)
  refine wp_enter (f := f) (args := #[a.eval (.tmp d1), a.eval (.tmp d2)]) ?_ (h.mono ?_)
  · unfold execOp
    rw [ho]
    go_simp
  · rintro e w' ⟨v, rfl, h1, h2⟩
    exact ⟨v, rfl, v, rfl, h1, h2⟩
/-- A row is read whole: it lay there from the start. -/
theorem hop_row (hr : Runs ops specs a0 o) (t g : Nat) (x : Fe.E) (ho : o.op = .load 49 (.tmp t)) (hf : free ops t = true) (hv : a0.eval (.tmp t) = .pointer (some ⟨g, 0, none⟩)) (hg : w0.heap[g]? = some (.cells (ec x) 49 (0, 0))) (hs : specs i = .is (.agg (ec x))) : Hop Tryd.prog .any ops specs Q a0 w0 i o := by
  intro a w hb ht hk hfr
  refine ⟨wanted_of hr ht hk, ?_⟩
  have hp : a.eval (.tmp t) = .pointer (some ⟨g, 0, none⟩) := (hfr t hf).trans hv
  have hg' : w.heap[g]? = some (.cells (ec x) 49 (0, 0)) := (hb.block g (lt_of_block hg)).trans hg
  have c0 : w.cell? ⟨g, 0, none⟩ = some (.int .u64 x.a) := by rw [cell_of_row w g 0 _ 49 (0, 0) hg']; rfl
  have c1 : w.cell? ⟨g, 1, none⟩ = some (.int .u64 x.b) := by rw [cell_of_row w g 1 _ 49 (0, 0) hg']; rfl
  have c2 : w.cell? ⟨g, 2, none⟩ = some (.int .u64 x.c) := by rw [cell_of_row w g 2 _ 49 (0, 0) hg']; rfl
  have c3 : w.cell? ⟨g, 3, none⟩ = some (.int .u64 x.d) := by rw [cell_of_row w g 3 _ 49 (0, 0) hg']; rfl
  have c4 : w.cell? ⟨g, 4, none⟩ = some (.int .u64 x.e) := by rw [cell_of_row w g 4 _ 49 (0, 0) hg']; rfl
  refine wp_value (v := .agg (ec x)) (w' := w) ?_ ⟨_, rfl, by rw [hs]; rfl, Below.refl _ _⟩
  clear hk hfr hf hv hg hg' hs hb
  unfold execOp ec
  rw [ho]
  simp only [hp]
  go_simp
end
end Grow
end Go.Proofs.YtiinmdleechcgaaDoor
namespace Go.Proofs.YtiinmdleechcgaaDoor
open Go.RowKit

def eqE (x y : Fe.E) : Bool := x.a == y.a && (x.b == y.b && (x.c == y.c && (x.d == y.d && x.e == y.e)))
theorem info28 : ∃ i, Tryd.prog.info? 40 = some i ∧ i.size = 1 := by
  have h : (Tryd.prog.info? 40).map (·.size) = some 1 := by kernel_rfl
  cases hi : Tryd.prog.info? 40 with
  | none => rw [hi] at h; cases h
  | some i => rw [hi] at h; exact ⟨i, rfl, by simpa using h⟩
theorem cells28 : Tryd.prog.cellsOf 40 = 1 := by kernel_rfl
theorem part28 (x : Fe.E) (w : World) (j : Nat) (hj : j < 5) : (part 40 (ec x) (j * 1)).run Tryd.prog w = .ok (.int .u64 (x.cells.getD j 0)) w := by
  have h2 := Tryd.sizeOf40
  have h3 := Tryd.isAgg40
  match j, hj with
  | 0, _ => simp [part, h2, h3, ec, Fe.E.cells]
  | 1, _ => simp [part, h2, h3, ec, Fe.E.cells]
  | 2, _ => simp [part, h2, h3, ec, Fe.E.cells]
  | 3, _ => simp [part, h2, h3, ec, Fe.E.cells]
  | 4, _ => simp [part, h2, h3, ec, Fe.E.cells]
theorem items28 (x y : Fe.E) (w : World) (d : Nat) : ∀ is : List Nat, (∀ j ∈ is, j < 5) → (Op.eqItems (d + 1) 40 1 (ec x) (ec y) is).run Tryd.prog w = .ok (is.all fun j => x.cells.getD j 0 == y.cells.getD j 0) w
  | [], _ => by simp [Op.eqItems]
  | j :: is, h => by
    have hj := h j List.mem_cons_self
    have ih := items28 x y w d is (fun k hk => h k (List.mem_cons_of_mem _ hk))
    have he := run_equalIn_int (P := Tryd.prog) w d 40 .u64 .u64 (x.cells.getD j 0) (y.cells.getD j 0) Tryd.underlying40
    unfold Op.eqItems
    simp only [Sem.run_bind, part28 x w j hj, part28 y w j hj, he, Result.andThen_ok, List.all_cons]
    cases hb : (x.cells.getD j 0 == y.cells.getD j 0)
    · simp
    · simpa using ih
theorem eq30 (x y : Fe.E) (w : World) : (Op.equalIn 10000 49 (.agg (ec x)) (.agg (ec y))).run Tryd.prog w = .ok (eqE x y) w := by
  obtain ⟨i, hi, hs⟩ := info28
  rw [show (10000 : Nat) = 9999 + 1 from rfl, run_equalIn_array w 9999 (ec x) (ec y) Tryd.underlying49 hi, cells28]
  rw [show (9999 : Nat) = 9998 + 1 from rfl, items28 x y w 9998 (List.range 5) (fun j hj => List.mem_range.1 hj)]
  simp [List.range, List.range.loop, Fe.E.cells, eqE]
theorem run30 (x y : Fe.E) (w : World) : (binOp .eql 49 (.agg (ec x)) (.agg (ec y))).run Tryd.prog w = .ok (.bool (eqE x y)) w := by
  have h := eq30 x y w
  have hu := Tryd.underlying49
  go_simp
end Go.Proofs.YtiinmdleechcgaaDoor
namespace Go.Proofs.YtiinmdleechcgaaDoor
open Go.RowKit

namespace Fe
/-- Each part in its bits. -/
def Canon (x : E) : Prop := (0 ≤ x.a ∧ x.a < 2251799813685248) ∧ (0 ≤ x.b ∧ x.b < 2251799813685248) ∧ (0 ≤ x.c ∧ x.c < 2251799813685248) ∧ (0 ≤ x.d ∧ x.d < 2251799813685248) ∧ (0 ≤ x.e ∧ x.e < 2251799813685248)
theorem least_canon (x : E) : Canon (least x) := by
  have h : ∀ v : Int, 0 ≤ v % 2251799813685248 ∧ v % 2251799813685248 < 2251799813685248 := fun v => by omega
  exact ⟨h _, h _, h _, h _, h _⟩
end Fe
theorem eqE_val {x y : Fe.E} (hx : Fe.Canon x) (hy : Fe.Canon y) : eqE x y = decide (Fe.val x = Fe.val y) := by
  unfold Fe.Canon at hx hy
  have e : (x.a = y.a ∧ x.b = y.b ∧ x.c = y.c ∧ x.d = y.d ∧ x.e = y.e) ↔ Fe.val x = Fe.val y := by
    unfold Fe.val Fe.M
    omega
  have h : eqE x y = true ↔ Fe.val x = Fe.val y := by
    rw [← e]
    unfold eqE
    simp only [Bool.and_eq_true, beq_iff_eq]
  by_cases hv : Fe.val x = Fe.val y
  · rw [h.2 hv, decide_eq_true hv]
  · rw [decide_eq_false hv]
    cases hb : eqE x y
    · rfl
    · exact absurd (h.1 hb) hv
theorem same_val (x y : Fe.E) (hx : Fe.Ok x) (hy : Fe.Ok y) : eqE (Fe.least x) (Fe.least y) = decide (Fe.val x % Fe.P = Fe.val y % Fe.P) := by
  rw [eqE_val (Fe.least_canon x) (Fe.least_canon y), (Fe.least_val hx).1, (Fe.least_val hy).1]

namespace Grow
section
variable {ops : Array Oper} {Q : Exit → Act → World → Prop} {specs : Nat → Spec} {a0 : Act} {w0 : World} {i : Nat} {o : Oper}
theorem hop_eqE (hr : Runs ops specs a0 o) (j1 d1 j2 d2 : Nat) (x y : Fe.E) (r : Bool) (ho : o.op = .binOp .eql 49 (.tmp d1) (.tmp d2) 49) (hj1 : deps .any ops o j1 d1 = true) (hj2 : deps .any ops o j2 d2 = true) (hs1 : specs j1 = .is (.agg (ec x))) (hs2 : specs j2 = .is (.agg (ec y))) (he : eqE x y = r) (hi : specs i = .is (.bool r)) : Hop Tryd.prog .any ops specs Q a0 w0 i o := by
  intro a w _ ht hk _
  refine ⟨wanted_of hr ht hk, ?_⟩
  have h1 := hk j1 d1 hj1
  have h2 := hk j2 d2 hj2
  rw [hs1] at h1
  rw [hs2] at h2
  have h1 : a.eval (.tmp d1) = .agg (ec x) := h1
  have h2 : a.eval (.tmp d2) = .agg (ec y) := h2
  have hrun := eq30 x y w
  rw [he] at hrun
  have hu := Tryd.underlying49
  have hu2 := Tryd.underlying40
  refine wp_value (v := .bool r) (w' := w) ?_ ⟨_, rfl, by rw [hi]; rfl, Below.refl _ _⟩
  clear hk hi hs1 hs2 hj1 hj2 he
  unfold execOp
  rw [ho]
  simp only [h1, h2]
  go_simp
end
theorem enter76 (args : Array Value) (w : World) : (callFunc 76 args).run Tryd.prog w = .ok (.enter 76 args) w := by
  have := Tryd.func76
  go_simp
end Grow

set_option maxRecDepth 100000 in
set_option maxHeartbeats 400000 in
theorem same_any (w : World) (x y : Fe.E) (hx : Fe.Ok x) (hy : Fe.Ok y) :
    Calls Tryd.prog 49 #[.agg (ec x), .agg (ec y)] w fun e w' => e = .returned (.bool (decide (Fe.val x % Fe.P = Fe.val y % Fe.P))) ∧ Below w.heap.size w w' := by
  have h1 := heap_alloc2_old w (.cells (ec x) 49) (.cells (ec y) 49)
  have h2 := heap_alloc2_new w (.cells (ec x) 49) (.cells (ec y) 49)
  have h3 : Below w.heap.size w ((w.alloc (.cells (ec x) 49)).alloc (.cells (ec y) 49)) := ((Below.refl _ _).alloc (Nat.le_refl _) _).alloc (by simp) _
  have HB := Lib.hid h3
  have HV := Lib.hid (same_val x y hx hy)
  clear h3
  go_enter Tryd.func49, Tryd.ntmps49
  go_wp2_with fail
  refine Grow.region_grow (by kernel_rfl) (fun i => ([.is (.agg (ec x)), .is (.agg (ec (Fe.least x))), .is (.agg (ec y)), .is (.agg (ec (Fe.least y))), .is (.bool (decide (Fe.val x % Fe.P = Fe.val y % Fe.P))), .is (.bool (decide (Fe.val x % Fe.P = Fe.val y % Fe.P)))] : List Grow.Spec).getD i (.is undef)) (by kernel_rfl) ⟨
    Grow.hop_row (Or.inl rfl) 2 w.heap.size x rfl (by kernel_rfl) rfl h1 rfl,
    Grow.hop_call1 (Or.inl rfl) 76 Grow.enter76 #[49] 0 5 rfl (by kernel_rfl) (fun u wx _ hu => by obtain rfl : u = .agg (ec x) := hu; refine (least_any wx x hx).mono ?_; rintro e w5 ⟨rfl, hb⟩; exact ⟨_, rfl, rfl, hb⟩),
    Grow.hop_row (Or.inl rfl) 3 (w.heap.size + 1) y rfl (by kernel_rfl) rfl h2 rfl,
    Grow.hop_call1 (Or.inl rfl) 76 Grow.enter76 #[49] 2 7 rfl (by kernel_rfl) (fun u wx _ hu => by obtain rfl : u = .agg (ec y) := hu; refine (least_any wx y hy).mono ?_; rintro e w5 ⟨rfl, hb⟩; exact ⟨_, rfl, rfl, hb⟩),
    Grow.hop_eqE (Or.inl rfl) 1 6 3 8 (Fe.least x) (Fe.least y) _ rfl (by kernel_rfl) (by kernel_rfl) rfl rfl HV.out rfl,
    Grow.hop_move (Or.inl rfl) 4 9 (Or.inr rfl) (by kernel_rfl) rfl, trivial⟩ ?_
  intro a w5 hb5 hk5 hd5 _
  have h6 := hk5 5 4 rfl
  clear hk5
  have h6 : a.eval (.tmp 4) = .bool (decide (Fe.val x % Fe.P = Fe.val y % Fe.P)) := h6
  go_wp2
  refine bodyPost_ret (results_tmp rfl _ _ _) hd5 ?_
  exact ⟨congrArg Ending.returned h6, HB.out.trans (hb5.mono HB.out.size)⟩
end Go.Proofs.YtiinmdleechcgaaDoor
namespace Go.Proofs.YtiinmdleechcgaaDoor
namespace Bt
/-- A bit. -/
def bit (N i : Nat) : Nat := N / 2 ^ i % 2
theorem bit_le (N i : Nat) : bit N i ≤ 1 := by unfold bit; omega
/-- Of the lowest bits the place of k bits, number j. -/
def place (k N i j : Nat) : Nat := N % 2 ^ i / 2 ^ (k * j) % 2 ^ k
theorem place_lt (k N i j : Nat) : place k N i j < 2 ^ k := Nat.mod_lt _ (Nat.two_pow_pos k)
theorem mod_more (N i : Nat) : N % 2 ^ (i + 1) = N % 2 ^ i + 2 ^ i * bit N i := by
  unfold bit
  rw [Nat.mod_pow_succ]
theorem place_zero (k N j : Nat) : place k N 0 j = 0 := by
  unfold place
  rw [Nat.pow_zero, Nat.mod_one, Nat.zero_div, Nat.zero_mod]
/-- Where the bit falls it is added; elsewhere nothing changes. -/
theorem place_more (k N i j : Nat) (hk : 0 < k) : place k N (i + 1) j = place k N i j + (if j = i / k then bit N i * 2 ^ (i % k) else 0) := by
  have hr : N % 2 ^ i < 2 ^ i := Nat.mod_lt _ (Nat.two_pow_pos i)
  have hb := bit_le N i
  have hdm := Nat.div_add_mod i k
  have hmk := Nat.mod_lt i hk
  unfold place
  rw [mod_more]
  generalize N % 2 ^ i = r at *
  generalize bit N i = b at *
  by_cases h1 : i < k * j
  · have hne : ¬ j = i / k := by
      intro h
      rw [h] at h1
      omega
    rw [if_neg hne, Nat.add_zero]
    have h2 : 2 ^ (i + 1) ≤ 2 ^ (k * j) := Nat.pow_le_pow_right (by decide) h1
    have h3 : 2 ^ (i + 1) = 2 ^ i * 2 := Nat.pow_succ 2 i
    have h4 : 2 ^ i * b ≤ 2 ^ i * 1 := Nat.mul_le_mul_left _ hb
    rw [Nat.div_eq_of_lt (by omega), Nat.div_eq_of_lt (by omega)]
  · obtain ⟨d, hd⟩ : ∃ d, i = k * j + d := ⟨i - k * j, by omega⟩
    have h2 : 2 ^ i = 2 ^ (k * j) * 2 ^ d := by rw [hd, Nat.pow_add]
    have h3 : (r + 2 ^ i * b) / 2 ^ (k * j) = r / 2 ^ (k * j) + 2 ^ d * b := by
      rw [h2, Nat.mul_assoc, Nat.add_mul_div_left _ _ (Nat.two_pow_pos _)]
    rw [h3]
    have h4 : r / 2 ^ (k * j) < 2 ^ d := by
      rw [Nat.div_lt_iff_lt_mul (Nat.two_pow_pos _), Nat.mul_comm, ← h2]
      exact hr
    by_cases h5 : d < k
    · have hj : j = i / k := by
        rw [hd, Nat.mul_add_div hk, Nat.div_eq_of_lt h5, Nat.add_zero]
      have hm : i % k = d := by
        rw [hd, Nat.mul_add_mod, Nat.mod_eq_of_lt h5]
      rw [if_pos hj, hm]
      have h6 : 2 ^ (d + 1) ≤ 2 ^ k := Nat.pow_le_pow_right (by decide) h5
      have h7 : 2 ^ (d + 1) = 2 ^ d * 2 := Nat.pow_succ 2 d
      have h8 : 2 ^ d * b ≤ 2 ^ d * 1 := Nat.mul_le_mul_left _ hb
      rw [Nat.mod_eq_of_lt (by omega), Nat.mod_eq_of_lt (by omega), Nat.mul_comm b]
    · have hne : ¬ j = i / k := by
        intro h
        have : d = i % k := by
          have e := hdm
          rw [← h] at e
          omega
        omega
      rw [if_neg hne, Nat.add_zero]
      have h6 : 2 ^ d = 2 ^ k * 2 ^ (d - k) := by rw [← Nat.pow_add]; congr 1; omega
      rw [h6, Nat.mul_assoc, Nat.add_mul_mod_self_left]
/-- All places. -/
def row (k n N i : Nat) : List Int := (List.range n).map fun j => ((place k N i j : Nat) : Int)
theorem row_length (k n N i : Nat) : (row k n N i).length = n := by simp [row]
theorem row_get (k n N i j : Nat) (hj : j < n) : (row k n N i).getD j 0 = ((place k N i j : Nat) : Int) := by simp [row, hj]
theorem row_zero (k n N : Nat) : row k n N 0 = List.replicate n 0 := by
  unfold row
  apply List.ext_getElem
  · simp
  · intro j h1 h2
    simp [place_zero]
theorem row_more (k n N i : Nat) (hk : 0 < k) : (row k n N i).set (i / k) (((place k N i (i / k) + bit N i * 2 ^ (i % k) : Nat)) : Int) = row k n N (i + 1) := by
  unfold row
  apply List.ext_getElem
  · simp
  · intro j h1 h2
    have hj : j < n := by simpa using h2
    rw [List.getElem_set]
    by_cases h : i / k = j
    · rw [if_pos h]
      simp only [List.getElem_map, List.getElem_range]
      rw [place_more k N i j hk, if_pos h.symm, h]
    · rw [if_neg h]
      simp only [List.getElem_map, List.getElem_range]
      rw [place_more k N i j hk, if_neg (Ne.symm h), Nat.add_zero]
/-- The bit out of the places: place i/k has it at i%k. -/
theorem bit_place (k n N i : Nat) (hk : 0 < k) (hN : N < 2 ^ (k * n)) : place k N (k * n) (i / k) / 2 ^ (i % k) % 2 = bit N i := by
  unfold place bit
  rw [Nat.mod_eq_of_lt hN]
  have hdm := Nat.div_add_mod i k
  have hmk := Nat.mod_lt i hk
  have h1 : 2 ^ k = 2 ^ (i % k) * 2 ^ (k - i % k) := by rw [← Nat.pow_add]; congr 1; omega
  rw [h1, Nat.mod_mul_right_div_self, Nat.div_div_eq_div_mul, ← Nat.pow_add, hdm]
  have h2 : 2 ^ (k - i % k) = 2 * 2 ^ (k - i % k - 1) := by rw [← Nat.pow_succ']; congr 1; omega
  rw [h2, Nat.mod_mul_right_mod]
/-- What lies in a place already is below the bit that comes. -/
theorem place_small (k N i : Nat) : place k N i (i / k) < 2 ^ (i % k) := by
  have hdm := Nat.div_add_mod i k
  have hr : N % 2 ^ i < 2 ^ i := Nat.mod_lt _ (Nat.two_pow_pos i)
  unfold place
  refine Nat.lt_of_le_of_lt (Nat.mod_le _ _) ?_
  rw [Nat.div_lt_iff_lt_mul (Nat.two_pow_pos _), ← Nat.pow_add, Nat.add_comm, hdm]
  exact hr
end Bt
/-- The parts of a number in the least form. -/
theorem limb {x : Fe.E} (h : Fe.Canon x) (N : Nat) (hN : Fe.val x = (N : Int)) (q : Nat) (hq : q < 5) : x.cells.getD q 0 = ((Bt.place 51 N 255 q : Nat) : Int) := by
  unfold Fe.Canon at h
  unfold Fe.val Fe.M at hN
  unfold Bt.place
  match q, hq with
  | 0, _ => simp only [Fe.E.cells, List.getD_cons_zero, Nat.reduceMul, Nat.reducePow]; omega
  | 1, _ => simp only [Fe.E.cells, List.getD_cons_zero, List.getD_cons_succ, Nat.reduceMul, Nat.reducePow]; omega
  | 2, _ => simp only [Fe.E.cells, List.getD_cons_zero, List.getD_cons_succ, Nat.reduceMul, Nat.reducePow]; omega
  | 3, _ => simp only [Fe.E.cells, List.getD_cons_zero, List.getD_cons_succ, Nat.reduceMul, Nat.reducePow]; omega
  | 4, _ => simp only [Fe.E.cells, List.getD_cons_zero, List.getD_cons_succ, Nat.reduceMul, Nat.reducePow]; omega
end Go.Proofs.YtiinmdleechcgaaDoor
namespace Go.Proofs.YtiinmdleechcgaaDoor
open Go.RowKit

theorem run_mk32 (w : World) : (Instr.makeSlice 22 (.int .i64 32) (.int .i64 32)).run Tryd.prog w = .ok (.slice (some ⟨w.heap.size, 0, none⟩) 32 32) (w.alloc (.cells ((List.replicate 32 (0 : Int)).map (Value.int .u8)).toArray 5)) := by kernel_rfl
theorem or8 (o s b : Nat) (hs : s < 8) (hb : b ≤ 1) (ho : o < 2 ^ s) : bits BinOp.or IntKind.u8 (o : Int) ((b * 2 ^ s : Nat) : Int) = ((o + b * 2 ^ s : Nat) : Int) := by
  have h1 : 2 ^ s * 2 ≤ 256 := by
    have : 2 ^ (s + 1) ≤ 2 ^ 8 := Nat.pow_le_pow_right (by decide) hs
    rw [Nat.pow_succ] at this; exact this
  have h2 : b * 2 ^ s ≤ 1 * 2 ^ s := Nat.mul_le_mul_right _ hb
  rw [u8_or_nat _ _ (by omega) (by omega), Nat.or_comm, nat_join s _ _ (Nat.mul_mod_left _ _) ho, Nat.add_comm]

set_option maxRecDepth 100000 in
set_option maxHeartbeats 1000000 in
theorem bytes_any (w : World) (x : Fe.E) (hx : Fe.Ok x) (N : Nat) (hN : Fe.val x % Fe.P = (N : Int)) :
    Calls Tryd.prog 69 #[.agg (ec x)] w fun e w' => ∃ g, e = .returned (.slice (some ⟨g, 0, none⟩) 32 32) ∧ Blk w' g .u8 5 (Bt.row 8 32 N 255) ∧ Below w.heap.size w w' := by
  have h1 := heap_alloc_new w (.cells (ec x) 49)
  have h3 : Below w.heap.size w (w.alloc (.cells (ec x) 49)) := (Below.refl _ _).alloc (Nat.le_refl _) _
  have HS := Lib.hid (least_any (w.alloc (.cells (ec x) 49)) x hx)
  have HB := Lib.hid h3
  have H1 := Lib.hid h1
  have hlt := (Fe.least_val hx).2.2
  have hv := (Fe.least_val hx).1
  rw [hN] at hv
  have hNP : N < 2 ^ (51 * 5) := by
    rw [hv] at hlt
    unfold Fe.P at hlt
    simp only [Nat.reduceMul, Nat.reducePow]
    omega
  have HLI := Lib.hid (fun q hq => limb (Fe.least_canon x) N hv q hq)
  have HNP := Lib.hid hNP
  have hmk := run_mk32
  have hsz : w.heap.size < (w.alloc (.cells (ec x) 49)).heap.size := lt_of_block h1
  clear hx h3 hlt hv hNP hN
  generalize Fe.least x = l at *
  go_enter Tryd.func69, Tryd.ntmps69
  go_wp2_with (first
    | ((with_reducible refine wpList_store_row (o := ⟨none, _, _, _, _, _⟩) rfl 49 (.tmp 1) (.tmp 6) rfl w.heap.size (ec l) rfl rfl 49 _ HZ.out ?_ ?_ ?_ ?_); exact i30; exact rfl; exact ec_one _; have HR := Lib.hid (setRow_heap w5 w.heap.size _ (ec l) 49 _ HZ.out); have HB6 := Lib.hid (below_setRow HB5.out (Nat.le_refl _) (ec l)); generalize w5.setRow w.heap.size (ec l) = w6 at *)
    | (go_at_call 76; refine HS.out.mono ?_; rintro e w5 ⟨rfl, hb⟩; have HB5 := Lib.hid (HB.out.trans (hb.mono HB.out.size)); have HZ := Lib.hid ((hb.block _ hsz).trans H1.out); clear hb)
    | ((with_reducible refine wpList_load_row (o := ⟨some 5, _, _, _, _, _⟩) rfl 49 (.tmp 1) rfl w.heap.size rfl 49 _ (0, 0) _ h1 Tryd.underlying49 rfl ?_ ?_); exact i30))
  change Code.wp _ _ _ _ (w6.alloc (.cells ((List.replicate 32 (0 : Int)).map (Value.int .u8)).toArray 5))
  have BB : Hid (Blk (w6.alloc (.cells ((List.replicate 32 (0 : Int)).map (Value.int .u8)).toArray 5)) w6.heap.size .u8 5 (Bt.row 8 32 N 0)) := by
    show Blk _ _ _ _ _
    rw [Bt.row_zero]; exact heap_alloc_new w6 _
  have LB : Hid ((w6.alloc (.cells ((List.replicate 32 (0 : Int)).map (Value.int .u8)).toArray 5)).heap[w.heap.size]? = some (.cells (ec l) 49 (0, 0))) := (Below.heap_alloc _ _ _ (lt_of_block HR.out)).trans HR.out
  have B7 : Hid (Below w.heap.size w (w6.alloc (.cells ((List.replicate 32 (0 : Int)).map (Value.int .u8)).toArray 5))) := HB6.out.alloc HB6.out.size _
  have hgb : w.heap.size < w6.heap.size := lt_of_block HR.out
  clear HR HB6 HZ HB5 HS H1 HB hmk h1 hsz
  generalize (w6.alloc (.cells ((List.replicate 32 (0 : Int)).map (Value.int .u8)).toArray 5)) = w7 at *
  generalize w6.heap.size = gb at *
  go_loopw [8] (fun i wr => ∃ k : Nat, k ≤ 255 ∧ i = .int .i64 k ∧ Hid (Blk wr gb .u8 5 (Bt.row 8 32 N k)) ∧ Hid (wr.heap[w.heap.size]? = some (.cells (ec l) 49 (0, 0))) ∧ Hid (Below w.heap.size w wr)) (fun i _ => 255 - (intOf i).toNat)
  case atStart => exact ⟨0, by omega, rfl, BB, LB, B7⟩
  case round =>
    clear BB LB B7
    obtain ⟨k, hk, rfl, BB, LB, BW⟩ := hrel
    by_cases hlt : k < 255
    · have c1 := BB.out.cell (k / 8) (by rw [Bt.row_length]; omega)
      have f1 := BB.out.free (k / 8)
      rw [Bt.row_get _ _ _ _ _ (by omega)] at c1
      have hlb : Blk wr w.heap.size .u64 49 l.cells := LB.out
      have c2 := hlb.cell (k / 51) (by rw [show l.cells.length = 5 from rfl]; omega)
      rw [HLI.out (k / 51) (by omega)] at c2
      have hbit := Bt.bit_place 51 5 N k (by decide) HNP.out
      rw [show 51 * 5 = 255 from rfl] at hbit
      have hsm := Bt.place_small 8 N k
      have hpl := Bt.place_lt 51 N 255 (k / 51)
      have hb1 := Bt.bit_le N k
      have hset := BB.out.set (k / 8) ((Bt.place 8 N k (k / 8) + Bt.bit N k * 2 ^ (k % 8) : Nat) : Int)
      rw [Bt.row_more 8 32 N k (by decide)] at hset
      have hoth := fun v => heap_setCell_other wr ⟨gb, k / 8, none⟩ w.heap.size v (by simp; omega)
      have hor := or8 (Bt.place 8 N k (k / 8)) (k % 8) (Bt.bit N k) (by omega) hb1 hsm
      have HSET := Lib.hid hset
      have HOTH := Lib.hid hoth
      clear hset hoth hlb hsm
      generalize Bt.place 8 N k (k / 8) = o at *
      generalize Bt.place 51 N 255 (k / 51) = v at *
      generalize Bt.bit N k = b at *
      have hvb : ((v : Int) / 2 ^ (k % 51)) % 2 = (b : Int) := by
        rw [← hbit]
        simp
      have hm := and1 ((v : Int) / 2 ^ (k % 51)) (Int.ediv_nonneg (by omega) (Int.le_of_lt (Int.pow_pos (by decide)))) (Int.le_trans (Int.ediv_le_self _ (by omega)) (by simp only [Nat.reducePow] at hpl; omega))
      rw [hvb] at hm
      have h2p : 2 ^ (k % 8) ≤ 2 ^ 7 := Nat.pow_le_pow_right (by decide) (by omega)
      have hbp : b * 2 ^ (k % 8) ≤ 1 * 2 ^ (k % 8) := Nat.mul_le_mul_right _ hb1
      have hcast : (b : Int) * 2 ^ (k % 8) % 256 = ((b * 2 ^ (k % 8) : Nat) : Int) := by
        rw [show (b : Int) * 2 ^ (k % 8) = ((b * 2 ^ (k % 8) : Nat) : Int) by simp]
        exact Int.emod_eq_of_lt (by omega) (by omega)
      have hval : bits BinOp.or IntKind.u8 (o : Int) ((b : Int) * 2 ^ (k % 8) % 256) = ((o + b * 2 ^ (k % 8) : Nat) : Int) := by rw [hcast]; exact hor
      have HVAL := Lib.hid hval
      clear hor hval hcast h2p hbp hbit
      go_wp2
      go_region
      all_goals go_wp2
      all_goals go_roundw
      case rel => exact ⟨k + 1, by omega, by go_num, by rw [HVAL.out]; exact HSET.out, (HOTH.out _).trans LB.out, (BW.out.setCell (by simp; omega) _).drew⟩
      case measure => simp [intOf]; omega
    · obtain rfl : k = 255 := by omega
      go_wp2
      go_ret
      exact ⟨gb, rfl, BB.out, BW.out⟩
end Go.Proofs.YtiinmdleechcgaaDoor
namespace Go.Proofs.YtiinmdleechcgaaDoor
open Go.RowKit

namespace Bt
/-- Bytes as a number, the lowest first. -/
def low : List Int → Nat
  | [] => 0
  | x :: r => x.toNat + 256 * low r
theorem low_lt : ∀ l : List Int, (∀ x ∈ l, W8 x) → low l < 2 ^ (8 * l.length)
  | [], _ => by simp [low]
  | x :: r, h => by
    have h1 := low_lt r (fun y hy => h y (List.mem_cons_of_mem _ hy))
    have h2 := (h x List.mem_cons_self).2
    have e : 2 ^ (8 * (x :: r).length) = 256 * 2 ^ (8 * r.length) := by
      rw [List.length_cons, Nat.mul_add, Nat.pow_add, Nat.mul_comm]
    rw [e]
    show x.toNat + 256 * low r < _
    omega
theorem low_digit : ∀ (l : List Int) (j : Nat), (∀ x ∈ l, W8 x) → j < l.length → ((low l / 256 ^ j % 256 : Nat) : Int) = l.getD j 0
  | [], j, _, hj => by simp at hj
  | x :: r, 0, h, _ => by
    obtain ⟨h1, h2⟩ := h x List.mem_cons_self
    show (((x.toNat + 256 * low r) / 256 ^ 0 % 256 : Nat) : Int) = x
    rw [Nat.pow_zero, Nat.div_one]
    omega
  | x :: r, j + 1, h, hj => by
    have ih := low_digit r j (fun y hy => h y (List.mem_cons_of_mem _ hy)) (by simpa using hj)
    obtain ⟨h1, h2⟩ := h x List.mem_cons_self
    have e : (x.toNat + 256 * low r) / 256 ^ (j + 1) = low r / 256 ^ j := by
      rw [Nat.pow_succ', ← Nat.div_div_eq_div_mul]
      congr 1
      omega
    show (((x.toNat + 256 * low r) / 256 ^ (j + 1) % 256 : Nat) : Int) = _
    rw [e, ih]
    simp
theorem place_low (l : List Int) (j : Nat) (h : ∀ x ∈ l, W8 x) (hj : j < l.length) : ((place 8 (low l) (8 * l.length) j : Nat) : Int) = l.getD j 0 := by
  unfold place
  rw [Nat.mod_eq_of_lt (low_lt l h), Nat.pow_mul, show (2 : Nat) ^ 8 = 256 from rfl]
  exact low_digit l j h hj
end Bt
/-- The element of a number's lowest 255 bits. -/
def Fe.rd (N : Nat) : Fe.E := ⟨(Bt.place 51 N 255 0 : Nat), (Bt.place 51 N 255 1 : Nat), (Bt.place 51 N 255 2 : Nat), (Bt.place 51 N 255 3 : Nat), (Bt.place 51 N 255 4 : Nat)⟩
theorem Fe.rd_cells (N : Nat) : (Fe.rd N).cells = Bt.row 51 5 N 255 := rfl
theorem Fe.rd_ok (N : Nat) : Fe.Ok (Fe.rd N) := by
  have h : ∀ j, Fe.Pt ((Bt.place 51 N 255 j : Nat) : Int) := by
    intro j
    have := Bt.place_lt 51 N 255 j
    simp only [Nat.reducePow] at this
    unfold Fe.Pt; omega
  exact ⟨h 0, h 1, h 2, h 3, h 4⟩
theorem Fe.rd_val (N : Nat) : Fe.val (Fe.rd N) = ((N % 2 ^ 255 : Nat) : Int) := by
  unfold Fe.val Fe.rd Fe.M Bt.place
  simp only [Nat.reduceMul, Nat.reducePow]
  omega
theorem and1_8 (v : Int) (h0 : 0 ≤ v) (h1 : v ≤ 255) : bits BinOp.and IntKind.u8 v 1 = v % 2 := by
  obtain ⟨n, rfl⟩ := Int.eq_ofNat_of_zero_le h0
  have h := u8_and_nat n 1 (by omega) (by decide)
  rw [nat_mask1, Int.natCast_emod] at h
  exact h
theorem or51 (o s b : Nat) (hs : s < 51) (hb : b ≤ 1) (ho : o < 2 ^ s) : bits BinOp.or IntKind.u64 (o : Int) ((b * 2 ^ s : Nat) : Int) = ((o + b * 2 ^ s : Nat) : Int) := by
  have h1 : 2 ^ s ≤ 2 ^ 50 := Nat.pow_le_pow_right (by decide) (by omega)
  simp only [Nat.reducePow] at h1
  have h2 : b * 2 ^ s ≤ 1 * 2 ^ s := Nat.mul_le_mul_right _ hb
  rw [u64_or_nat _ _ (by omega) (by omega), Nat.or_comm, nat_join s _ _ (Nat.mul_mod_left _ _) ho, Nat.add_comm]

set_option maxRecDepth 100000 in
set_option maxHeartbeats 1000000 in
theorem read_none (w : World) (a : Option Addr) (n c : Nat) (hn : n ≠ 32) :
    Calls Tryd.prog 47 #[.slice a n c] w fun e w' => e = .returned (.agg (ec Fe.z)) ∧ Below w.heap.size w w' := by
  have hne : ((n : Int) != 32) = true := by simp; omega
  go_enter Tryd.func47, Tryd.ntmps47
  go_wp2
  exact bodyPost_ret (results_cell_row Tryd.results47 _ _ w.heap.size 49 (ec Fe.z) (0, 0) _ rfl (heap_alloc2_old w (.cells (ec Fe.z) 49) (.cells (ec Fe.z) 49)) Tryd.underlying49 rfl i30) rfl ⟨rfl, ((Below.refl _ _).alloc (Nat.le_refl _) _).alloc (by simp) _⟩
end Go.Proofs.YtiinmdleechcgaaDoor
namespace Go.Proofs.YtiinmdleechcgaaDoor
open Go.RowKit

set_option maxRecDepth 100000 in
set_option maxHeartbeats 1000000 in
theorem read_32 (w : World) (a : Option Addr) (c : Nat) (l : List Int) (hl : l.length = 32) (hS : Slc w (.slice a 32 c) l) :
    Calls Tryd.prog 47 #[.slice a 32 c] w fun e w' => e = .returned (.agg (ec (Fe.rd (Bt.low l)))) ∧ Below w.heap.size w w' := by
  obtain ⟨b, off, rfl, hbw, hat, h8⟩ : ∃ b off, a = some ⟨b, off, none⟩ ∧ b < w.heap.size ∧ At w .u8 b off l ∧ ∀ x ∈ l, W8 x := by
    obtain ⟨a', c', hv, _, h8, hm⟩ := hS
    simp only [Value.slice.injEq] at hv
    obtain ⟨rfl, -, -⟩ := hv
    rcases hm with hm | ⟨b, off, rfl, h2, h3⟩
    · rw [hm] at hl; simp at hl
    · exact ⟨b, off, rfl, h2, h3, h8⟩
  have HPL := Lib.hid (fun j hj => Bt.place_low l j h8 hj)
  have HNP := Lib.hid (Bt.low_lt l h8)
  have HAT := Lib.hid hat
  have h1 := heap_alloc2_old w (.cells (ec Fe.z) 49) (.cells ((Bt.row 51 5 (Bt.low l) 0).map (Value.int .u64)).toArray 49)
  have h2 := heap_alloc2_new w (.cells (ec Fe.z) 49) (.cells ((Bt.row 51 5 (Bt.low l) 0).map (Value.int .u64)).toArray 49)
  have h3 : Below w.heap.size w ((w.alloc (.cells (ec Fe.z) 49)).alloc (.cells ((Bt.row 51 5 (Bt.low l) 0).map (Value.int .u64)).toArray 49)) := ((Below.refl _ _).alloc (Nat.le_refl _) _).alloc (by simp) _
  rw [Bt.row_zero] at h1 h2 h3
  have RB : Hid (Blk ((w.alloc (.cells (ec Fe.z) 49)).alloc (.cells ((List.replicate 5 (0 : Int)).map (Value.int .u64)).toArray 49)) (w.heap.size + 1) .u64 49 (Bt.row 51 5 (Bt.low l) 0)) := by
    show Blk _ _ _ _ _
    rw [Bt.row_zero]; exact h2
  have ZB := Lib.hid h1
  have BW := Lib.hid h3
  rw [hl] at HPL HNP
  clear h1 h2 h3 hS hat h8
  generalize Bt.low l = N at *
  go_enter Tryd.func47, Tryd.ntmps47
  go_wp2_with fail
  change Code.wp _ _ _ _ ((w.alloc (.cells (ec Fe.z) 49)).alloc (.cells ((List.replicate 5 (0 : Int)).map (Value.int .u64)).toArray 49))
  generalize ((w.alloc (.cells (ec Fe.z) 49)).alloc (.cells ((List.replicate 5 (0 : Int)).map (Value.int .u64)).toArray 49)) = w7 at *
  go_loopw [9] (fun i wr => ∃ k : Nat, k ≤ 255 ∧ i = .int .i64 k ∧ Hid (Blk wr (w.heap.size + 1) .u64 49 (Bt.row 51 5 N k)) ∧ Hid (wr.heap[w.heap.size]? = some (.cells (ec Fe.z) 49 (0, 0))) ∧ Hid (Below w.heap.size w wr)) (fun i _ => 255 - (intOf i).toNat)
  case atStart => exact ⟨0, by omega, rfl, RB, ZB, BW⟩
  case round =>
    clear RB ZB BW
    obtain ⟨k, hk, rfl, RB, ZB, BW⟩ := hrel
    by_cases hlt : k < 255
    · have c1 := RB.out.cell (k / 51) (by rw [Bt.row_length]; omega)
      have f1 := RB.out.free (k / 51)
      rw [Bt.row_get _ _ _ _ _ (by omega)] at c1
      have c2 := HAT.out.below BW.out hbw (k / 8) (by omega)
      have hpl := HPL.out (k / 8) (by omega)
      rw [← hpl] at c2
      have hbit := Bt.bit_place 8 32 N k (by decide) HNP.out
      have hsm := Bt.place_small 51 N k
      have hp8 := Bt.place_lt 8 N (8 * 32) (k / 8)
      have hb1 := Bt.bit_le N k
      have hset := RB.out.set (k / 51) ((Bt.place 51 N k (k / 51) + Bt.bit N k * 2 ^ (k % 51) : Nat) : Int)
      rw [Bt.row_more 51 5 N k (by decide)] at hset
      have hoth := fun v => heap_setCell_other wr ⟨w.heap.size + 1, k / 51, none⟩ w.heap.size v (by simp)
      have hor := or51 (Bt.place 51 N k (k / 51)) (k % 51) (Bt.bit N k) (by omega) hb1 hsm
      have HSET := Lib.hid hset
      have HOTH := Lib.hid hoth
      clear hset hoth hsm hpl
      generalize Bt.place 51 N k (k / 51) = o at *
      generalize Bt.place 8 N (8 * 32) (k / 8) = v at *
      generalize Bt.bit N k = b at *
      have hvb : ((v : Int) / 2 ^ (k % 8)) % 2 = (b : Int) := by
        rw [← hbit]
        simp
      have hm := and1_8 ((v : Int) / 2 ^ (k % 8)) (Int.ediv_nonneg (by omega) (Int.le_of_lt (Int.pow_pos (by decide)))) (Int.le_trans (Int.ediv_le_self _ (by omega)) (by simp only [Nat.reducePow] at hp8; omega))
      rw [hvb] at hm
      have h2p : 2 ^ (k % 51) ≤ 2 ^ 50 := Nat.pow_le_pow_right (by decide) (by omega)
      simp only [Nat.reducePow] at h2p
      have hbp : b * 2 ^ (k % 51) ≤ 1 * 2 ^ (k % 51) := Nat.mul_le_mul_right _ hb1
      have hcast : (b : Int) * 2 ^ (k % 51) % 18446744073709551616 = ((b * 2 ^ (k % 51) : Nat) : Int) := by
        rw [show (b : Int) * 2 ^ (k % 51) = ((b * 2 ^ (k % 51) : Nat) : Int) by simp]
        exact Int.emod_eq_of_lt (by omega) (by omega)
      have hval : bits BinOp.or IntKind.u64 (o : Int) ((b : Int) * 2 ^ (k % 51) % 18446744073709551616) = ((o + b * 2 ^ (k % 51) : Nat) : Int) := by rw [hcast]; exact hor
      have HVAL := Lib.hid hval
      clear hor hval hcast h2p hbp hbit
      go_wp2
      go_region
      all_goals go_wp2
      all_goals go_roundw
      case rel => exact ⟨k + 1, by omega, by go_num, by rw [IntKind.wrap_u64, HVAL.out]; exact HSET.out, (HOTH.out _).trans ZB.out, (BW.out.setCell (by simp) _).drew⟩
      case measure => simp [intOf]; omega
    · have hk5 : ((k : Nat) : Int) = 255 := by omega
      rw [hk5]
      clear hk5
      obtain rfl : k = 255 := by omega
      have h1 : wr.heap[w.heap.size + 1]? = some (.cells (ec (Fe.rd N)) 49 (0, 0)) := RB.out
      have h2 := ZB.out
      go_wp2_with (first
        | ((with_reducible refine wpList_load_row (o := ⟨some 32, _, _, _, _, _⟩) rfl 49 (.tmp 3) rfl (w.heap.size + 1) rfl 49 _ (0, 0) _ h1 Tryd.underlying49 rfl ?_ ?_); exact i30)
        | ((with_reducible refine wpList_store_row (o := ⟨none, _, _, _, _, _⟩) rfl 49 (.tmp 2) (.tmp 32) rfl w.heap.size (ec (Fe.rd N)) rfl rfl 49 _ h2 ?_ ?_ ?_ ?_); exact i30; exact rfl; exact ec_one _))
      exact bodyPost_ret (results_cell_row Tryd.results47 _ _ w.heap.size 49 _ (0, 0) _ rfl (setRow_heap wr w.heap.size _ (ec (Fe.rd N)) 49 _ h2) Tryd.underlying49 rfl i30) rfl ⟨rfl, below_setRow BW.out (Nat.le_refl _) _⟩
end Go.Proofs.YtiinmdleechcgaaDoor
namespace Go.Proofs.YtiinmdleechcgaaDoor
theorem W32_getD {l : List Int} (h : ∀ x ∈ l, W32 x) (j : Nat) : W32 (l.getD j 0) := by
  by_cases hj : j < l.length
  · have : l.getD j 0 = l[j] := by simp [hj]
    rw [this]; exact h _ (List.getElem_mem hj)
  · have : l.getD j 0 = 0 := by simp; rw [List.getElem?_eq_none (by omega)]; rfl
    rw [this]; unfold W32; omega
namespace Nt
def B : Int := 4294967296
def val : List Int → Int
  | [] => 0
  | x :: r => x + B * val r
def pw (n : Nat) : Int := B ^ n
theorem pw_zero : pw 0 = 1 := rfl
theorem pw_succ (n : Nat) : pw (n + 1) = B * pw n := by unfold pw; rw [Int.pow_succ, Int.mul_comm]
theorem pw_pos (n : Nat) : 0 < pw n := Int.pow_pos (by decide)
theorem pw_add (m n : Nat) : pw (m + n) = pw m * pw n := Int.pow_add _ _ _
theorem pw_le {m n : Nat} (h : m ≤ n) : pw m ≤ pw n := by
  obtain ⟨d, rfl⟩ : ∃ d, n = m + d := ⟨n - m, by omega⟩
  rw [pw_add]
  have h1 := pw_pos m
  have h2 := pw_pos d
  calc pw m = pw m * 1 := (Int.mul_one _).symm
    _ ≤ pw m * pw d := Int.mul_le_mul_of_nonneg_left (by omega) (by omega)

def Ws (l : List Int) : Prop := ∀ x ∈ l, W32 x
theorem Ws.nil : Ws [] := by intro x hx; cases hx
theorem Ws.tail {x : Int} {l : List Int} (h : Ws (x :: l)) : Ws l := fun y hy => h y (List.mem_cons_of_mem _ hy)
theorem Ws.take {l : List Int} (h : Ws l) (n : Nat) : Ws (l.take n) := fun y hy => h y (List.mem_of_mem_take hy)
theorem Ws.drop {l : List Int} (h : Ws l) (n : Nat) : Ws (l.drop n) := fun y hy => h y (List.mem_of_mem_drop hy)
theorem Ws.getD {l : List Int} (h : Ws l) (n : Nat) : W32 (l.getD n 0) := W32_getD h n
theorem Ws.set {l : List Int} (h : Ws l) (n : Nat) {x : Int} (hx : W32 x) : Ws (l.set n x) := by
  intro y hy
  rcases List.mem_or_eq_of_mem_set hy with h1 | h1
  · exact h y h1
  · rw [h1]; exact hx

theorem val_nonneg : ∀ {l : List Int}, Ws l → 0 ≤ val l
  | [], _ => by simp [val]
  | x :: r, h => by
    have h1 := val_nonneg h.tail
    have h2 := (h x List.mem_cons_self).1
    unfold val
    have : 0 ≤ B * val r := Int.mul_nonneg (by decide) h1
    omega
theorem val_lt : ∀ {l : List Int}, Ws l → val l < pw l.length
  | [], _ => by simp [val, pw_zero]
  | x :: r, h => by
    have h1 := val_lt h.tail
    have h2 := (h x List.mem_cons_self).2
    rw [val, List.length_cons, pw_succ]
    have h3 : B * val r ≤ B * (pw r.length - 1) := Int.mul_le_mul_of_nonneg_left (by omega) (by decide)
    rw [Int.mul_sub, Int.mul_one] at h3
    have hB : B = 4294967296 := rfl
    omega
theorem val_append : ∀ (a b : List Int), val (a ++ b) = val a + pw a.length * val b
  | [], b => by simp [val, pw_zero]
  | x :: r, b => by
    rw [List.cons_append, val, val, val_append r b, List.length_cons, pw_succ, Int.mul_add, Int.mul_assoc]; omega
theorem val_split (l : List Int) (n : Nat) (h : n ≤ l.length) : val l = val (l.take n) + pw n * val (l.drop n) := by
  conv => lhs; rw [← List.take_append_drop n l]
  rw [val_append, List.length_take, Nat.min_eq_left h]
theorem val_drop (l : List Int) (n : Nat) (h : n < l.length) : val (l.drop n) = l.getD n 0 + B * val (l.drop (n + 1)) := by
  rw [List.drop_eq_getElem_cons h, val]
  simp [h]
theorem val_take_succ (l : List Int) (n : Nat) (h : n < l.length) : val (l.take (n + 1)) = val (l.take n) + pw n * l.getD n 0 := by
  rw [List.take_succ_eq_append_getElem h, val_append, List.length_take, Nat.min_eq_left (by omega)]
  simp [val, h]
theorem val_set : ∀ (l : List Int) (n : Nat) (x : Int), n < l.length → val (l.set n x) = val l + pw n * (x - l.getD n 0)
  | [], n, _, h => by simp at h
  | y :: r, 0, x, _ => by simp [val, pw_zero]; omega
  | y :: r, n + 1, x, h => by
    rw [List.set_cons_succ, val, val, val_set r n x (by simpa using h), pw_succ, Int.mul_add, Int.mul_assoc]
    simp; omega
theorem val_zeros (n : Nat) : val (List.replicate n 0) = 0 := by
  induction n with
  | zero => rfl
  | succ n ih => rw [List.replicate_succ, val, ih]; rfl

/-- Where the noughts behind begin. -/
def cut (l : List Int) : Nat → Nat
  | 0 => 0
  | n + 1 => if l.getD n 0 = 0 then cut l n else n + 1
def trim (l : List Int) : List Int := l.take (cut l l.length)
theorem cut_le (l : List Int) : ∀ n, cut l n ≤ n
  | 0 => Nat.le_refl _
  | n + 1 => by
    unfold cut; split
    · exact Nat.le_succ_of_le (cut_le l n)
    · exact Nat.le_refl _
theorem cut_zeros (l : List Int) : ∀ n, n ≤ l.length → val (l.take n) = val (l.take (cut l n))
  | 0, _ => rfl
  | n + 1, h => by
    unfold cut; split
    · next h0 => rw [val_take_succ l n (by omega), h0, Int.mul_zero, Int.add_zero]; exact cut_zeros l n (by omega)
    · rfl
theorem val_trim (l : List Int) : val (trim l) = val l := by
  unfold trim
  rw [← cut_zeros l l.length (Nat.le_refl _), List.take_length]
theorem length_trim (l : List Int) : (trim l).length = cut l l.length := by
  unfold trim
  rw [List.length_take, Nat.min_eq_left (cut_le l _)]
theorem Ws.trim {l : List Int} (h : Ws l) : Ws (trim l) := h.take _
theorem cut_last (l : List Int) : ∀ n, 0 < cut l n → l.getD (cut l n - 1) 0 ≠ 0
  | 0, h => by simp [cut] at h
  | n + 1, h => by
    unfold cut at h ⊢
    split
    · next h0 => rw [if_pos h0] at h; exact cut_last l n h
    · next h0 => exact h0
/-- The last one is no nought. -/
def Neat (l : List Int) : Prop := 0 < l.length → l.getD (l.length - 1) 0 ≠ 0
theorem neat_trim (l : List Int) : Neat (trim l) := by
  intro h
  rw [length_trim] at h ⊢
  have := cut_last l l.length h
  unfold trim
  rw [List.getD_eq_getElem?_getD, List.getElem?_take_of_lt (by omega), ← List.getD_eq_getElem?_getD]
  exact this
theorem neat_le {l : List Int} (hn : Neat l) (hw : Ws l) (h : 0 < l.length) : pw (l.length - 1) ≤ val l := by
  have h1 := hn h
  have h2 := (hw.getD (l.length - 1)).1
  have h3 := val_nonneg (hw.take (l.length - 1))
  have h4 := pw_pos (l.length - 1)
  have e := val_take_succ l (l.length - 1) (by omega)
  rw [show l.length - 1 + 1 = l.length by omega, List.take_length] at e
  rw [e]
  have h5 : pw (l.length - 1) * 1 ≤ pw (l.length - 1) * l.getD (l.length - 1) 0 := Int.mul_le_mul_of_nonneg_left (by omega) (by omega)
  omega
theorem val_lt_of_length {a b : List Int} (ha : Ws a) (hb : Ws b) (nb : Neat b) (h : a.length < b.length) : val a < val b := by
  have h1 := val_lt ha
  have h2 := neat_le nb hb (by omega)
  have h3 := pw_le (show a.length ≤ b.length - 1 by omega)
  omega
/-- The first place from above where they differ tells. -/
theorem val_lt_of_word {a b : List Int} (ha : Ws a) (hb : Ws b) (n : Nat) (h1 : n < a.length) (h2 : n < b.length) (hd : a.drop (n + 1) = b.drop (n + 1)) (hlt : a.getD n 0 < b.getD n 0) : val a < val b := by
  rw [val_split a n (by omega), val_split b n (by omega), val_drop a n h1, val_drop b n h2, hd]
  have h3 := val_lt (ha.take n)
  rw [List.length_take, Nat.min_eq_left (by omega)] at h3
  have h4 := val_nonneg (hb.take n)
  have h5 : pw n * (a.getD n 0 + B * val (b.drop (n + 1)) + 1) ≤ pw n * (b.getD n 0 + B * val (b.drop (n + 1))) := Int.mul_le_mul_of_nonneg_left (by omega) (by have := pw_pos n; omega)
  rw [Int.mul_add, Int.mul_one] at h5
  omega
theorem val_small (x : Int) : val [x % B, x / B] = x := by
  have hB : B = 4294967296 := rfl
  simp only [val, Int.mul_zero, Int.add_zero]
  rw [hB]; omega
end Nt
end Go.Proofs.YtiinmdleechcgaaDoor
namespace Go.Proofs.YtiinmdleechcgaaDoor
open Go.RowKit

theorem Blk.at {w : World} {g : Nat} {k : IntKind} {t : TypeId} {l : List Int} (h : Blk w g k t l) : At w k g 0 l := by
  intro j hj
  rw [Nat.zero_add, cell_of_row w g j _ t (0, 0) h]
  simp [hj]
theorem At.sub {w : World} {k : IntKind} {b off : Nat} {P : List Int} (h : At w k b off P) (n m : Nat) (hm : n + m ≤ P.length) : At w k b (off + n) ((P.drop n).take m) := by
  intro j hj
  have hj' : j < m := by simp at hj; omega
  rw [show off + n + j = off + (n + j) by omega, h (n + j) (by omega)]
  simp [hj']
theorem num_sliced {w : World} {a : Option Addr} {n cap : Nat} {l : List Int} (hS : Num w (.slice a n cap) l) (m : Nat) (hm : m ≤ n) : Num w (sliced a 0 m cap 1) (l.take m) := by
  obtain ⟨a', cap', hv, hc, h8, hmm⟩ := hS
  simp only [Value.slice.injEq] at hv
  obtain ⟨rfl, rfl, rfl⟩ := hv
  have hlen : (l.take m).length = m := by simp; omega
  refine ⟨_, cap - 0, by rw [hlen]; rfl, by rw [hlen]; omega, Nt.Ws.take h8 m, ?_⟩
  by_cases h0 : m = 0
  · exact Or.inl (by rw [h0]; rfl)
  · rcases hmm with h | ⟨b, off, rfl, h2, h3⟩
    · rw [h] at hm; simp at hm; omega
    · refine Or.inr ⟨b, off, ?_, h2, ?_⟩
      · rw [if_neg (by omega)]; rfl
      · have := h3.sub 0 m (by omega)
        rwa [List.drop_zero] at this
theorem run_cut26 (a : Option Addr) (n cap m : Nat) (hm : m ≤ cap) (i : Int) (hi : i = m) (w : World) : (Instr.slice 29 (.slice a n cap) none (some (.int .i64 i)) none).run Tryd.prog w = .ok (sliced a 0 m cap 1) w := by
  subst hi
  have he : Tryd.prog.elem 29 = 61 := by kernel_rfl
  have hu : Tryd.prog.underlying 29 = some (.slice (Tryd.prog.elem 29)) := by rw [he]; exact Tryd.underlying29
  rw [run_slice_h w 29 a n cap hu .i64 m (by omega) (by omega), he, Tryd.sizeOf61]
  rfl

set_option maxRecDepth 100000 in
set_option maxHeartbeats 400000 in
theorem trim_any (w : World) (v : Value) (l : List Int) (h : Num w v l) (hl : l.length ≤ 1000000) :
    Calls Tryd.prog 41 #[v] w fun e w' => ∃ v', e = .returned v' ∧ Num w' v' (Nt.trim l) ∧ Below w.heap.size w w' := by
  obtain ⟨a, cap, rfl, hc, hw, hm⟩ := id h
  have H := Lib.hid h
  have HM := Lib.hid hm
  have HC := Lib.hid (show Nt.trim l = l.take (Nt.cut l l.length) from rfl)
  clear h hm hw
  go_enter Tryd.func41, Tryd.ntmps41
  go_wp2_with fail
  go_loopw [3] (fun i wr => ∃ n : Nat, n ≤ l.length ∧ i = .int .i64 n ∧ Hid (Nt.cut l n = Nt.cut l l.length) ∧ Hid (Below w.heap.size w wr)) (fun i _ => (intOf i).toNat)
  case atStart => exact ⟨l.length, Nat.le_refl _, rfl, rfl, Below.refl _ _⟩
  case round =>
    obtain ⟨n, hn, rfl, CU, B⟩ := hrel
    cases n with
    | zero =>
      have h0 : Nt.cut l l.length = 0 := CU.out.symm
      have hnum : Num wr (sliced a 0 0 cap 1) (Nt.trim l) := by rw [HC.out, h0]; exact num_sliced (H.out.below B.out (Nat.le_refl _)) 0 (Nat.zero_le _)
      have hcut := run_cut26 a l.length cap 0 (Nat.zero_le _) 0 rfl
      generalize sliced a 0 0 cap 1 = sv at *
      have HN := Lib.hid hnum
      clear hnum h0
      go_wp2
      go_ret
      exact ⟨_, rfl, HN.out, B.out⟩
    | succ n =>
      obtain ⟨b, off, rfl, hbw, hAt⟩ : ∃ b off, a = some ⟨b, off, none⟩ ∧ b < w.heap.size ∧ At w .u32 b off l := by
        rcases HM.out with h | h
        · rw [h] at hn; simp at hn
        · exact h
      have hcell : wr.cell? ⟨b, off + n, none⟩ = some (.int .u32 (l.getD n 0)) := (hAt.below B.out hbw) n (by omega)
      by_cases hz : l.getD n 0 = 0
      · have hcu : Nt.cut l n = Nt.cut l l.length := by rw [← CU.out]; conv => rhs; unfold Nt.cut; rw [if_pos hz]
        have HCU := Lib.hid hcu
        rw [hz] at hcell
        clear hcu CU hAt HM HC H hz
        go_wp2
        go_roundw
        case rel => exact ⟨n, by omega, by go_num, HCU, B⟩
        case measure => simp [intOf]
      · have h1 : Nt.cut l l.length = n + 1 := by rw [← CU.out]; unfold Nt.cut; rw [if_neg hz]
        have hnum : Num wr (sliced (some ⟨b, off, none⟩) 0 (n + 1) cap 1) (Nt.trim l) := by rw [HC.out, h1]; exact num_sliced (H.out.below B.out (Nat.le_refl _)) (n + 1) hn
        have hcut := run_cut26 (some ⟨b, off, none⟩) l.length cap (n + 1) (by omega) ((n : Int) + 1) (by omega)
        generalize sliced (some ⟨b, off, none⟩) 0 (n + 1) cap 1 = sv at *
        have HN := Lib.hid hnum
        clear hnum h1 CU hAt HM HC H
        generalize l.getD n 0 = x at *
        go_wp2
        go_ret
        exact ⟨_, rfl, HN.out, B.out⟩

theorem num_blk {w : World} {g : Nat} {t : TypeId} {l : List Int} {n : Nat} (h : Blk w g .u32 t l) (hl : l.length = n) (hw : Nt.Ws l) : Num w (.slice (some ⟨g, 0, none⟩) n n) l :=
  ⟨_, n, by rw [hl], by omega, hw, Or.inr ⟨g, 0, rfl, h.lt, h.at⟩⟩

set_option maxRecDepth 100000 in
set_option maxHeartbeats 400000 in
theorem small_any (w : World) (x : Int) (h0 : 0 ≤ x) (h1 : x ≤ 18446744073709551615) :
    Calls Tryd.prog 64 #[.int .u64 x] w fun e w' => ∃ v' l, e = .returned v' ∧ Num w' v' l ∧ Nt.val l = x ∧ Nt.Neat l ∧ l.length ≤ 2 ∧ Below w.heap.size w w' := by
  have hw : Nt.Ws [x % 4294967296, x / 4294967296] := by
    intro y hy
    simp only [List.mem_cons, List.not_mem_nil, or_false] at hy
    unfold W32
    rcases hy with rfl | rfl <;> omega
  have hb : Blk (w.alloc (.cells #[.int .u32 (x % 4294967296), .int .u32 (x / 4294967296)] 61)) w.heap.size .u32 61 [x % 4294967296, x / 4294967296] := heap_alloc_new w _
  have ho : Below w.heap.size w (w.alloc (.cells #[.int .u32 (x % 4294967296), .int .u32 (x / 4294967296)] 61)) := (Below.refl _ _).alloc (Nat.le_refl _) _
  have ht := trim_any _ _ _ (num_blk hb rfl hw) (by simp)
  have HT := Lib.hid ht
  have HO := Lib.hid ho
  clear ht ho hb hw
  go_enter Tryd.func64, Tryd.ntmps64
  go_wp2_with (go_at_call 41; refine HT.out.mono ?_; rintro e w1 ⟨v1, rfl, h2, h3⟩; have H2 := Lib.hid h2; have H3 := Lib.hid h3; clear h2 h3)
  go_ret
  refine ⟨_, _, rfl, H2.out, ?_, Nt.neat_trim _, ?_, HO.out.trans (H3.out.mono HO.out.size)⟩
  · rw [Nt.val_trim]; exact Nt.val_small x
  · rw [Nt.length_trim]; exact Nt.cut_le _ _
end Go.Proofs.YtiinmdleechcgaaDoor
namespace Go.Proofs.YtiinmdleechcgaaDoor
open Go.RowKit

theorem below_drw {B : Nat} {w w' : World} (h : Below B w w') : Below B w w'.drew := ⟨h.os, h.tape, h.output, h.size, h.block⟩
theorem num_form {w : World} {v : Value} {l : List Int} (h : Num w v l) : ∃ a cap, v = .slice a l.length cap := by
  obtain ⟨a, cap, h1, _⟩ := h
  exact ⟨a, cap, h1⟩
theorem num_cell {w : World} {a : Option Addr} {n cap : Nat} {l : List Int} (h : Num w (.slice a n cap) l) (j : Nat) (hj : j < n) : ∃ b off, a = some ⟨b, off, none⟩ ∧ b < w.heap.size ∧ w.cell? ⟨b, off + j, none⟩ = some (.int .u32 (l.getD j 0)) ∧ n ≤ cap := by
  obtain ⟨a', cap', hv, hc, h8, hm⟩ := h
  simp only [Value.slice.injEq] at hv
  obtain ⟨rfl, rfl, rfl⟩ := hv
  rcases hm with hm | ⟨b, off, rfl, h2, h3⟩
  · rw [hm] at hj; simp at hj
  · exact ⟨b, off, rfl, h2, h3 j hj, hc⟩

set_option maxRecDepth 100000 in
set_option maxHeartbeats 400000 in
theorem cmp_any (w : World) (va vb : Value) (a b : List Int) (ha : Num w va a) (hb : Num w vb b) (hla : a.length ≤ 1000000) (hlb : b.length ≤ 1000000) :
    Calls Tryd.prog 39 #[va, vb] w fun e w' => ∃ r : Int, e = .returned (.int .i64 r) ∧ (r ≤ 0 ↔ Nt.val a ≤ Nt.val b) ∧ (r < 0 ↔ Nt.val a < Nt.val b) ∧ Below w.heap.size w w' := by
  obtain ⟨aa, ca, rfl⟩ := num_form ha
  obtain ⟨ab, cb, rfl⟩ := num_form hb
  have HA := Lib.hid (trim_any w _ a ha hla)
  have HNB := Lib.hid hb
  have hwa : Hid (Nt.Ws (Nt.trim a)) := by obtain ⟨_, _, _, _, h, _⟩ := ha; exact Nt.Ws.trim h
  have hwb : Hid (Nt.Ws (Nt.trim b)) := by obtain ⟨_, _, _, _, h, _⟩ := hb; exact Nt.Ws.trim h
  have hva : Hid (Nt.val (Nt.trim a) = Nt.val a) := Nt.val_trim a
  have hvb : Hid (Nt.val (Nt.trim b) = Nt.val b) := Nt.val_trim b
  have hna : Hid (Nt.Neat (Nt.trim a)) := Nt.neat_trim a
  have hnb : Hid (Nt.Neat (Nt.trim b)) := Nt.neat_trim b
  have hl1 : (Nt.trim a).length ≤ 1000000 := by rw [Nt.length_trim]; exact Nat.le_trans (Nt.cut_le _ _) hla
  have hl2 : (Nt.trim b).length ≤ 1000000 := by rw [Nt.length_trim]; exact Nat.le_trans (Nt.cut_le _ _) hlb
  have HB := Lib.hid (fun w1 (h : Below w.heap.size w w1) => trim_any w1 _ b (hb.below h (Nat.le_refl _)) hlb)
  clear ha hb HNB
  generalize Nt.trim a = A at *
  generalize Nt.trim b = C at *
  generalize Nt.val a = xa at *
  generalize Nt.val b = xb at *
  go_enter Tryd.func39, Tryd.ntmps39
  go_wp2_with (first
    | (go_at_call 41; refine HB1.out.mono ?_; rintro e w2 ⟨v2, rfl, h2, h3⟩; obtain ⟨a2, c2, rfl⟩ := num_form h2; have H2 := Lib.hid h2; have H3 := Lib.hid h3; clear h2 h3)
    | (go_at_call 41; refine HA.out.mono ?_; rintro e w1 ⟨v1, rfl, h0, h1⟩; obtain ⟨a1, c1, rfl⟩ := num_form h0; have H0 := Lib.hid h0; have H1 := Lib.hid h1; have HB1 := Lib.hid (HB.out w1 h1); clear h0 h1))
  · rename_i hne
    have hne : A.length ≠ C.length := by
      intro h
      rw [h] at hne
      simp at hne
    go_ret
    have hlt := fun h => Nt.val_lt_of_length hwa.out hwb.out hnb.out h
    have hgt := fun h => Nt.val_lt_of_length hwb.out hwa.out hna.out h
    rw [hva.out, hvb.out] at hlt hgt
    refine ⟨_, rfl, ?_, ?_, H1.out.trans (H3.out.mono H1.out.size)⟩
    · rcases Nat.lt_or_gt_of_ne hne with h | h
      · have := hlt h; omega
      · have := hgt h; omega
    · rcases Nat.lt_or_gt_of_ne hne with h | h
      · have := hlt h; omega
      · have := hgt h; omega
  · rename_i hne _ _
    have hlen : A.length = C.length := by
      have : (A.length : Int) = (C.length : Int) := by simpa using hne
      omega
    clear hne
    have HL := Lib.hid hlen
    clear hlen HA HB HB1
    have H0' := Lib.hid (H0.out.below H3.out (Nat.le_refl _))
    have hb2 : Hid (Below w.heap.size w w2) := H1.out.trans (H3.out.mono H1.out.size)
    clear H0 H1 H3
    go_loopw [5] (fun i wr => ∃ m : Nat, m ≤ A.length ∧ i = .int .i64 ((m : Int) - 1) ∧ Hid (A.drop m = C.drop m) ∧ Hid (Below w2.heap.size w2 wr)) (fun i _ => (intOf i + 1).toNat)
    case atStart => exact ⟨A.length, Nat.le_refl _, by go_num, by rw [List.drop_length, HL.out, List.drop_length]; exact rfl, Below.refl _ _⟩
    case round =>
      obtain ⟨m, hm, rfl, D, BW⟩ := hrel
      have hb3 : Hid (Below w.heap.size w wr) := hb2.out.trans (BW.out.mono hb2.out.size)
      cases m with
      | zero =>
        have he : xa = xb := by
          have h := D.out
          rw [List.drop_zero, List.drop_zero] at h
          rw [← hva.out, ← hvb.out, h]
        clear H0' H2 D HL
        rw [show ((0 : Nat) : Int) - 1 = -1 from rfl]
        go_wp2
        go_ret
        exact ⟨0, rfl, by omega, by omega, hb3.out⟩
      | succ m =>
        obtain ⟨b1, o1, rfl, hb1, hc1, hcap1⟩ := num_cell (H0'.out.below BW.out (Nat.le_refl _)) m (by omega)
        have hm2 : m < C.length := by rw [← HL.out]; omega
        obtain ⟨b2, o2, rfl, hb2', hc2, hcap2⟩ := num_cell (H2.out.below BW.out (Nat.le_refl _)) m hm2
        have hlt := fun h => Nt.val_lt_of_word hwa.out hwb.out m (by omega) hm2 D.out h
        have hgt := fun h => Nt.val_lt_of_word hwb.out hwa.out m hm2 (by omega) D.out.symm h
        rw [hva.out, hvb.out] at hlt hgt
        have HLT := Lib.hid hlt
        have HGT := Lib.hid hgt
        have hdd : Hid (A.getD m 0 = C.getD m 0 → A.drop m = C.drop m) := fun h => by
          have hm1 : m < A.length := by omega
          have e : A[m] = C[m] := by simpa [hm2, hm1] using h
          rw [List.drop_eq_getElem_cons hm1, List.drop_eq_getElem_cons hm2, D.out, e]
        clear hlt hgt H0' H2
        generalize A.getD m 0 = x at *
        generalize C.getD m 0 = y at *
        rw [show ((m + 1 : Nat) : Int) - 1 = (m : Int) by omega]
        rcases Int.lt_trichotomy x y with hxy | hxy | hxy
        · go_wp2
          go_region
          go_wp2
          go_ret
          have := HLT.out hxy
          exact ⟨-1, rfl, by omega, by omega, below_drw hb3.out⟩
        · subst hxy
          go_wp2
          go_region
          go_wp2
          go_region
          go_wp2
          go_roundw
          case rel => exact ⟨m, by omega, by go_num, hdd.out trivial, below_drw (below_drw BW.out)⟩
          case measure => simp [intOf]
        · go_wp2
          go_region
          go_wp2
          go_region
          go_wp2
          go_ret
          have := HGT.out hxy
          exact ⟨1, rfl, by omega, by omega, below_drw (below_drw hb3.out)⟩

end Go.Proofs.YtiinmdleechcgaaDoor
namespace Go.Proofs.YtiinmdleechcgaaDoor
open Go.RowKit

namespace Nt
theorem ring1 (v p r o q m c : Int) (h : m + o + c = B * q + r) : v + p * (r - o) + q * (B * p) = v + c * p + p * m := by
  have e : r = m + o + c - B * q := by omega
  subst e
  grind
theorem ring2 (s x p y z : Int) : s + x * p * y + p * (x * 0) + z * 0 = s + x * p * y := by grind
/-- One word more of the second one. -/
theorem times_inner {O a b : List Int} {i k N : Nat} {c m x : Int} (hN : N = i + k) (hO : N < O.length) (hk : k < b.length) (hm : m = a.getD i 0 * b.getD k 0) (hx : x = m + O.getD N 0 + c) (V : Int)
    (h : val O + c * pw N = V + a.getD i 0 * pw i * val (b.take k)) : val (O.set N (x % B)) + x / B * pw (N + 1) = V + a.getD i 0 * pw i * val (b.take (k + 1)) := by
  rw [val_set O N _ hO, pw_succ, val_take_succ b k hk]
  have hr : m + O.getD N 0 + c = B * (x / B) + x % B := by rw [← hx]; exact (Int.mul_ediv_add_emod x B).symm
  rw [ring1 _ _ _ _ _ _ _ hr, h, hm, hN, pw_add]
  grind
theorem mul_bound {x y : Int} (hx : W32 x) (hy : W32 y) : 0 ≤ x * y ∧ x * y ≤ 18446744065119617025 := by
  obtain ⟨x0, x1⟩ := hx
  obtain ⟨y0, y1⟩ := hy
  refine ⟨Int.mul_nonneg x0 y0, ?_⟩
  calc x * y ≤ 4294967295 * y := Int.mul_le_mul_of_nonneg_right x1 y0
    _ ≤ 4294967295 * 4294967295 := Int.mul_le_mul_of_nonneg_left y1 (by decide)
    _ = 18446744065119617025 := by decide
end Nt

theorem info36 : (Tryd.prog.info? 61).map (fun i => (i.zero, i.size, i.bytes)) = some (some (.int .u32 0), 1, 4) := by kernel_rfl
def zs (n : Nat) : List Int := List.replicate n 0
theorem run_mk (w : World) (n : Nat) (i : Int) (hi : i = n) (hn : n ≤ 1000000) : (Instr.makeSlice 29 (.int .i64 i) (.int .i64 i)).run Tryd.prog w = .ok (.slice (some ⟨w.heap.size, 0, none⟩) n n) (w.alloc (.cells ((zs n).map (Value.int .u32)).toArray 61)) := by
  subst hi
  obtain ⟨i0, hi, hz0, hz1, hz2⟩ := info_parts info36
  have h := run_make w 29 61 i0 (.int .u32 0) Tryd.underlying29 hi hz0 .i64 .i64 n n (by omega) (by omega) (by rw [hz2]; omega) (by omega)
  rw [h]
  have e : madeCells (Value.int .u32 0).cells ((n : Int).toNat * i0.size) = ((zs n).map (Value.int .u32)).toArray := by
    apply Array.toList_inj.1
    rw [hz1, Nat.mul_one]
    show (madeCells #[Value.int .u32 0] _).toList = _
    rw [toList_madeCells_one]
    simp [zs]
  rw [e]
  rfl

set_option maxRecDepth 100000 in
set_option maxHeartbeats 400000 in
theorem times_probe (w : World) (aa ab : Option Addr) (ca cb : Nat) (a b : List Int) (ha : Num w (.slice aa a.length ca) a) (hb : Num w (.slice ab b.length cb) b) (hla : a.length ≤ 100000) (hlb : b.length ≤ 100000) :
    Calls Tryd.prog 15 #[.slice aa a.length ca, .slice ab b.length cb] w fun e w' => ∃ v' l, e = .returned v' ∧ Num w' v' l ∧ Nt.val l = Nt.val a * Nt.val b ∧ Nt.Neat l ∧ l.length ≤ a.length + b.length ∧ Below w.heap.size w w' := by
  have HA := Lib.hid ha
  have HB := Lib.hid hb
  have hwa : Hid (Nt.Ws a) := by obtain ⟨_, _, _, _, h, _⟩ := ha; exact h
  have hwb : Hid (Nt.Ws b) := by obtain ⟨_, _, _, _, h, _⟩ := hb; exact h
  clear ha hb
  have hmk := fun w => run_mk w (a.length + b.length) ((a.length : Int) + (b.length : Int)) (by omega) (by omega)
  have hb0 : Hid (Blk (w.alloc (.cells ((zs (a.length + b.length)).map (Value.int .u32)).toArray 61)) w.heap.size .u32 61 (zs (a.length + b.length))) := heap_alloc_new w _
  have ho0 : Hid (Below w.heap.size w (w.alloc (.cells ((zs (a.length + b.length)).map (Value.int .u32)).toArray 61))) := (Below.refl _ _).alloc (Nat.le_refl _) _
  go_enter Tryd.func15, Tryd.ntmps15
  go_wp2_with fail
  clear hmk
  go_loopw [6] (fun i wr => ∃ (n : Nat) (O : List Int), n ≤ a.length ∧ i = .int .i64 n ∧ Hid (Blk wr w.heap.size .u32 61 O) ∧ O.length = a.length + b.length ∧ Hid (Nt.Ws O) ∧ Hid (∀ j, n + b.length ≤ j → O.getD j 0 = 0) ∧ Hid (Nt.val O = Nt.val (a.take n) * Nt.val b) ∧ Hid (Below w.heap.size w wr)) (fun i _ => a.length - (intOf i).toNat)
  case atStart =>
    refine ⟨0, zs (a.length + b.length), Nat.zero_le _, rfl, hb0, by simp [zs], ?_, ?_, ?_, ho0⟩
    · intro x hx
      simp only [zs, List.mem_replicate] at hx
      rw [hx.2]; unfold W32; omega
    · intro j _
      unfold zs
      rw [List.getD_eq_getElem?_getD, List.getElem?_replicate]
      split <;> rfl
    · show Nt.val (zs _) = Nt.val [] * _
      unfold zs
      rw [Nt.val_zeros]; simp [Nt.val]
  case round =>
    clear hb0 ho0
    obtain ⟨n, O, hn, rfl, BK, hlO, WO, ZO, VO, BW⟩ := hrel
    by_cases hlt : n < a.length
    · obtain ⟨b1, o1, rfl, hb1, hc1, hcap1⟩ := num_cell HA.out n hlt
      have hx1 := hwa.out.getD n
      have hW1 := Lib.hid hx1
      obtain ⟨x10, x11⟩ := hx1
      have hV : Nt.val (a.take (n + 1)) * Nt.val b = Nt.val (a.take n) * Nt.val b + a.getD n 0 * Nt.pw n * Nt.val (b.take b.length) := by
        rw [Nt.val_take_succ a n hlt, List.take_length]; grind
      have HV := Lib.hid hV
      clear hV
      go_wp2_with fail
      go_loopw [7, 8] (fun c i wq => ∃ (k : Nat) (O2 : List Int) (cz : Int), k ≤ b.length ∧ i = .int .i64 k ∧ c = .int .u64 cz ∧ 0 ≤ cz ∧ cz ≤ 4294967295 ∧ Hid (Blk wq w.heap.size .u32 61 O2) ∧ O2.length = a.length + b.length ∧ Hid (Nt.Ws O2) ∧ Hid (∀ j, n + b.length ≤ j → O2.getD j 0 = 0) ∧ Hid (Nt.val O2 + cz * Nt.pw (n + k) = Nt.val (a.take n) * Nt.val b + a.getD n 0 * Nt.pw n * Nt.val (b.take k)) ∧ Hid (Below w.heap.size w wq)) (fun _ i _ => b.length - (intOf i).toNat)
      case atStart =>
        refine ⟨0, O, 0, Nat.zero_le _, rfl, rfl, by omega, by omega, BK, hlO, WO, ZO, ?_, BW⟩
        show _ = _
        rw [VO.out, List.take_zero, Nt.val]; simp
      case round =>
        clear BK WO ZO VO BW
        obtain ⟨k, O2, cz, hk, rfl, rfl, c0, c1, BQ, hl2, W2, Z2, V2, BWQ⟩ := hrel
        have hca := (BWQ.out.cell (p := ⟨b1, o1 + n, none⟩) hb1).trans hc1
        by_cases hlk : k < b.length
        · obtain ⟨b2, o2, rfl, hb2, hc2, hcap2⟩ := num_cell HB.out k hlk
          have hcb := (BWQ.out.cell (p := ⟨b2, o2 + k, none⟩) hb2).trans hc2
          have hco := BQ.out.cell (n + k) (by omega)
          have hfo := BQ.out.free (n + k)
          have hx2 := hwb.out.getD k
          have hx3 := W2.out.getD (n + k)
          obtain ⟨m0, m1⟩ := Nt.mul_bound hW1.out hx2
          obtain ⟨x30, x31⟩ := hx3
          obtain ⟨x20, x21⟩ := hx2
          generalize hm : a.getD n 0 * b.getD k 0 = m at *
          obtain ⟨x, hx⟩ : ∃ x, x = m + O2.getD (n + k) 0 + cz := ⟨_, rfl⟩
          have hvv := Nt.times_inner rfl (by omega) hlk hm.symm hx _ V2.out
          unfold Nt.B at hvv
          have hset := fun q => (show Blk (wr.drewN q) w.heap.size .u32 61 O2 from BQ.out.other rfl).set (n + k) (x % 4294967296)
          have hws := W2.out.set (n + k) (x := x % 4294967296) (by unfold W32; omega)
          have hzz : ∀ j, n + b.length ≤ j → (O2.set (n + k) (x % 4294967296)).getD j 0 = 0 := by
            intro j hj
            rw [List.getD_eq_getElem?_getD, List.getElem?_set_ne (by omega), ← List.getD_eq_getElem?_getD]
            exact Z2.out j hj
          have HVV := Lib.hid hvv
          have HS := Lib.hid hset
          have HWS := Lib.hid hws
          have HZ := Lib.hid hzz
          have hlen' : (O2.set (n + k) (x % 4294967296)).length = a.length + b.length := by rw [List.length_set]; exact hl2
          clear hvv hset hws hzz V2 Z2 W2 BQ
          subst hx
          generalize O2.set (n + k) ((m + O2.getD (n + k) 0 + cz) % 4294967296) = O3 at *
          generalize O2.getD (n + k) 0 = o at *
          generalize a.getD n 0 = x1 at *
          generalize b.getD k 0 = x2 at *
          go_wp2
          go_quiet (fail)
          go_wp2
          go_roundw
          case rel => exact ⟨k + 1, O3, _, by omega, by go_num, rfl, by omega, by omega, HS.out _, hlen', HWS.out, HZ.out, HVV.out, (below_drewN BWQ.out _).setCell (Nat.le_refl _) _⟩
          case measure => simp [intOf]; omega
        · obtain rfl : k = b.length := by omega
          have hco := BQ.out.cell (n + b.length) (by omega)
          have hfo := BQ.out.free (n + b.length)
          have hset := BQ.out.set (n + b.length) cz
          have hws := W2.out.set (n + b.length) (x := cz) (by unfold W32; omega)
          have hzz : ∀ j, n + 1 + b.length ≤ j → (O2.set (n + b.length) cz).getD j 0 = 0 := by
            intro j hj
            rw [List.getD_eq_getElem?_getD, List.getElem?_set_ne (by omega), ← List.getD_eq_getElem?_getD]
            exact Z2.out j (by omega)
          have hvv : Nt.val (O2.set (n + b.length) cz) = Nt.val (a.take (n + 1)) * Nt.val b := by
            rw [Nt.val_set O2 _ _ (by omega), Z2.out _ (Nat.le_refl _), HV.out, ← V2.out]; grind
          have HVV := Lib.hid hvv
          have HS := Lib.hid hset
          have HWS := Lib.hid hws
          have HZ := Lib.hid hzz
          have hlen' : (O2.set (n + b.length) cz).length = a.length + b.length := by rw [List.length_set]; exact hl2
          clear hvv hset hws hzz V2 Z2 W2 BQ HV
          generalize O2.set (n + b.length) cz = O3 at *
          generalize O2.getD (n + b.length) 0 = o at *
          generalize a.getD n 0 = x1 at *
          go_wp2
          go_roundw
          case rel => exact ⟨n + 1, O3, by omega, by go_num, HS.out, hlen', HWS.out, HZ.out, HVV.out, BWQ.out.setCell (Nat.le_refl _) _⟩
          case measure => simp [intOf]; omega
    · obtain rfl : n = a.length := by omega
      have hvv := VO.out
      rw [List.take_length] at hvv
      have HVV := Lib.hid hvv
      have ht := trim_any wr _ O (num_blk BK.out hlO WO.out) (by omega)
      have HT := Lib.hid ht
      clear ht hvv VO ZO WO HA HB
      go_wp2_with (go_at_call 41; refine HT.out.mono ?_; rintro e w1 ⟨v1, rfl, h2, h3⟩; have H2 := Lib.hid h2; have H3 := Lib.hid h3; clear h2 h3)
      go_ret
      refine ⟨_, _, rfl, H2.out, ?_, Nt.neat_trim _, ?_, BW.out.trans (H3.out.mono BW.out.size)⟩
      · rw [Nt.val_trim]; exact HVV.out
      · rw [Nt.length_trim, ← hlO]; exact Nt.cut_le _ _
end Go.Proofs.YtiinmdleechcgaaDoor
