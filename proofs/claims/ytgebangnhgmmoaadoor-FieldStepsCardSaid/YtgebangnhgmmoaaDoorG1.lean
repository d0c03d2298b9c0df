/- Layer 3, part 1 of the proof. -/
import Derived.Test.YtgebangnhgmmoaaDoorRows
import Derived.WalkKit
import Derived.WalkSpells
import Derived.WalkLawsBesides
import Derived.Lib.Hide
import Derived.Deep.RegionWith
import Derived.Deep.QuietTactic
import Derived.BigQuiet
import Derived.BigRegion
import Derived.WalkSmall
import Derived.Laws.BitsAllLaws
import Derived.Deep.MidRow
import Derived.Below
import Derived.Laws.CopyOwn
import Derived.Shelf.Bits.Mul64
import Derived.Laws.Externs
import Derived.StillTailTactics
/- Numbers modulo 2^255 - 19 by five parts of 51 bits: plain functions, and what they are worth. -/
namespace Go.Proofs.YtgebangnhgmmoaaDoor
namespace Fe
/-- 2^51. -/
def M : Int := 2251799813685248
/-- 2^255 - 19. -/
def P : Int := 57896044618658097711785492504343953926634992332820282019728792003956564819949
theorem M_eq : M = 2251799813685248 := rfl
theorem P_eq : P = M * (M * (M * (M * M))) - 19 := by decide
structure E where
  a : Int
  b : Int
  c : Int
  d : Int
  e : Int
def E.cells (x : E) : List Int := [x.a, x.b, x.c, x.d, x.e]
def val (x : E) : Int := x.a + M * (x.b + M * (x.c + M * (x.d + M * x.e)))
/-- A part of an element. -/
def Pt (x : Int) : Prop := 0 ≤ x ∧ x ≤ 2251799813947391
def Ok (x : E) : Prop := Pt x.a ∧ Pt x.b ∧ Pt x.c ∧ Pt x.d ∧ Pt x.e
def Wd (x : Int) : Prop := 0 ≤ x ∧ x ≤ 18446744073709551615
def Wide (x : E) : Prop := Wd x.a ∧ Wd x.b ∧ Wd x.c ∧ Wd x.d ∧ Wd x.e
theorem Ok.wide {x : E} (h : Ok x) : Wide x := by
  unfold Ok Pt at h; unfold Wide Wd; omega
def carry (x : E) : E := ⟨x.a % M + 19 * (x.e / M), x.b % M + x.a / M, x.c % M + x.b / M, x.d % M + x.c / M, x.e % M + x.d / M⟩
theorem carry_ok {x : E} (h : Wide x) : Ok (carry x) := by
  unfold Wide Wd at h; unfold Ok Pt carry M
  simp only
  omega
theorem carry_val (x : E) : val (carry x) = val x - P * (x.e / M) := by
  unfold val carry P M
  simp only
  omega
/-- Below 2 P. -/
theorem Ok.lt {x : E} (h : Ok x) : 0 ≤ val x ∧ val x < 2 * P := by
  unfold Ok Pt at h; unfold val P M; omega
def add (x y : E) : E := carry ⟨x.a + y.a, x.b + y.b, x.c + y.c, x.d + y.d, x.e + y.e⟩
def sub (x y : E) : E := carry ⟨x.a + (4503599627370458 - y.a), x.b + (4503599627370494 - y.b), x.c + (4503599627370494 - y.c), x.d + (4503599627370494 - y.d), x.e + (4503599627370494 - y.e)⟩
theorem add_ok {x y : E} (h : Ok x) (k : Ok y) : Ok (add x y) := by
  refine carry_ok ?_
  unfold Ok Pt at h k; unfold Wide Wd; simp only; omega
theorem sub_ok {x y : E} (h : Ok x) (k : Ok y) : Ok (sub x y) := by
  refine carry_ok ?_
  unfold Ok Pt at h k; unfold Wide Wd; simp only; omega
theorem add_val (x y : E) : ∃ k, val (add x y) = val x + val y - P * k := by
  refine ⟨(x.e + y.e) / M, ?_⟩
  unfold add
  rw [carry_val]
  unfold val M; simp only; omega
theorem sub_val (x y : E) : ∃ k, val (sub x y) = val x - val y - P * k := by
  refine ⟨(x.e + (4503599627370494 - y.e)) / M - 2, ?_⟩
  unfold sub
  rw [carry_val]
  unfold val P M; simp only; omega
/-- The columns of a product. -/
def col (x y : E) : E := ⟨x.a * y.a + x.b * (19 * y.e) + x.c * (19 * y.d) + x.d * (19 * y.c) + x.e * (19 * y.b), x.a * y.b + x.b * y.a + x.c * (19 * y.e) + x.d * (19 * y.d) + x.e * (19 * y.c),
  x.a * y.c + x.b * y.b + x.c * y.a + x.d * (19 * y.e) + x.e * (19 * y.d), x.a * y.d + x.b * y.c + x.c * y.b + x.d * y.a + x.e * (19 * y.e), x.a * y.e + x.b * y.d + x.c * y.c + x.d * y.b + x.e * y.a⟩
theorem col_val (x y : E) : val (col x y) = val x * val y - P * ((x.b * y.e + x.c * y.d + x.d * y.c + x.e * y.b) + M * ((x.c * y.e + x.d * y.d + x.e * y.c) + M * ((x.d * y.e + x.e * y.d) + M * (x.e * y.e)))) := by
  rw [P_eq]
  unfold val col
  simp only
  generalize M = m
  grind
def mul (x y : E) : E := carry (carry (col x y))
theorem mul_val (x y : E) : ∃ k, val (mul x y) = val x * val y - P * k := by
  unfold mul
  rw [carry_val, carry_val, col_val]
  refine ⟨((x.b * y.e + x.c * y.d + x.d * y.c + x.e * y.b) + M * ((x.c * y.e + x.d * y.d + x.e * y.c) + M * ((x.d * y.e + x.e * y.d) + M * (x.e * y.e)))) + (col x y).e / M + (carry (col x y)).e / M, ?_⟩
  grind
theorem mul_part {x y : Int} (hx : Pt x) (hy : Pt y) : 0 ≤ x * y ∧ x * y ≤ 5070602402093504723173315706881 := by
  obtain ⟨h1, h2⟩ := hx
  obtain ⟨h3, h4⟩ := hy
  refine ⟨Int.mul_nonneg h1 h3, ?_⟩
  have h5 : x * y ≤ 2251799813947391 * 2251799813947391 := Int.mul_le_mul h2 h4 h3 (by decide)
  omega
end Fe
end Go.Proofs.YtgebangnhgmmoaaDoor

/- Arithmetic modulo 2^255 - 19, the walks: what each part has above its bits is handed on. -/
namespace Go.Proofs.YtgebangnhgmmoaaDoor
open Go.RowKit

/-- A block that is known whole: numbers of one kind. -/
def Blk (w : World) (g : Nat) (k : IntKind) (t : TypeId) (l : List Int) : Prop := w.heap[g]? = some (.cells (l.map (Value.int k)).toArray t (0, 0))
theorem Blk.cell {w : World} {g : Nat} {k : IntKind} {t : TypeId} {l : List Int} (h : Blk w g k t l) (j : Nat) (hj : j < l.length) : w.cell? ⟨g, j, none⟩ = some (.int k (l.getD j 0)) := by
  rw [cell_of_row w g j _ t (0, 0) h]
  simp [hj]
theorem Blk.free {w : World} {g : Nat} {k : IntKind} {t : TypeId} {l : List Int} (h : Blk w g k t l) (j : Nat) : w.frozen? ⟨g, j, none⟩ = false := frozen_of_row w g j _ t h
theorem Blk.set {w : World} {g : Nat} {k : IntKind} {t : TypeId} {l : List Int} (h : Blk w g k t l) (j : Nat) (x : Int) : Blk (w.setCell ⟨g, j, none⟩ (.int k x)) g k t (l.set j x) := by
  unfold Blk
  rw [heap_setCell_same w g j _ t _ h]
  simp [List.map_set]
theorem Blk.other {w w' : World} {g : Nat} {k : IntKind} {t : TypeId} {l : List Int} (h : Blk w g k t l) (hb : w'.heap[g]? = w.heap[g]?) : Blk w' g k t l := hb.trans h
theorem Blk.lt {w : World} {g : Nat} {k : IntKind} {t : TypeId} {l : List Int} (h : Blk w g k t l) : g < w.heap.size := lt_of_block h
theorem mask51 (v : Int) (h0 : 0 ≤ v) (h1 : v ≤ 18446744073709551615) : bits BinOp.and IntKind.u64 v 2251799813685247 = v % 2251799813685248 := by
  obtain ⟨n, rfl⟩ := Int.eq_ofNat_of_zero_le h0
  have h := u64_and_nat n 2251799813685247 (by omega) (by decide)
  have h2 : n &&& 2251799813685247 = n % 2251799813685248 := Nat.and_two_pow_sub_one_eq_mod n 51
  rw [h2] at h
  rw [Int.natCast_emod] at h
  exact h
/-- An element as a value. -/
def ev (x : Fe.E) : Value := .agg #[.int .u64 x.a, .int .u64 x.b, .int .u64 x.c, .int .u64 x.d, .int .u64 x.e]
def ec (x : Fe.E) : Array Value := #[.int .u64 x.a, .int .u64 x.b, .int .u64 x.c, .int .u64 x.d, .int .u64 x.e]
theorem ec_cells (x : Fe.E) : ec x = (x.cells.map (Value.int .u64)).toArray := rfl

namespace Fe
/-- As far as it has come. -/
def upto (x : E) (k : Nat) : List Int := [if 0 < k then (carry x).a else x.a, if 1 < k then (carry x).b else x.b, if 2 < k then (carry x).c else x.c, if 3 < k then (carry x).d else x.d, if 4 < k then (carry x).e else x.e]
def hand (x : E) : Nat → Int
  | 0 => 19 * (x.e / M)
  | k + 1 => x.cells.getD k 0 / M
theorem upto_get (x : E) (k : Nat) (h : k < 5) : (upto x k).getD k 0 = x.cells.getD k 0 := by
  match k, h with
  | 0, _ => rfl
  | 1, _ => rfl
  | 2, _ => rfl
  | 3, _ => rfl
  | 4, _ => rfl
theorem upto_set (x : E) (k : Nat) (h : k < 5) : (upto x k).set k (x.cells.getD k 0 % M + hand x k) = upto x (k + 1) := by
  match k, h with
  | 0, _ => rfl
  | 1, _ => rfl
  | 2, _ => rfl
  | 3, _ => rfl
  | 4, _ => rfl
theorem wide_get {x : E} (h : Wide x) (k : Nat) (hk : k < 5) : Wd (x.cells.getD k 0) := by
  obtain ⟨h0, h1, h2, h3, h4⟩ := h
  match k, hk with
  | 0, _ => exact h0
  | 1, _ => exact h1
  | 2, _ => exact h2
  | 3, _ => exact h3
  | 4, _ => exact h4
theorem hand_le {x : E} (h : Wide x) (k : Nat) (hk : k < 5) : 0 ≤ hand x k ∧ hand x k ≤ 155629 := by
  unfold Wide Wd at h
  match k, hk with
  | 0, _ => simp only [hand, M]; omega
  | 1, _ => simp only [hand, M, E.cells, List.getD_cons_zero]; omega
  | 2, _ => simp only [hand, M, E.cells, List.getD_cons_zero, List.getD_cons_succ]; omega
  | 3, _ => simp only [hand, M, E.cells, List.getD_cons_zero, List.getD_cons_succ]; omega
  | 4, _ => simp only [hand, M, E.cells, List.getD_cons_zero, List.getD_cons_succ]; omega
end Fe

set_option maxRecDepth 100000 in
set_option maxHeartbeats 400000 in
theorem carried_any (w : World) (x : Fe.E) (hx : Fe.Wide x) :
    Calls Tryd.prog 40 #[ev x] w fun e w' => e = .returned (ev (Fe.carry x)) ∧ Below w.heap.size w w' := by
  have HX := Lib.hid hx
  obtain ⟨-, -, -, -, h0, h1⟩ := id hx
  unfold ev
  go_enter Tryd.func40, Tryd.ntmps40
  go_wp2_with fail
  go_loopw [3, 9] (fun c i wr => ∃ k : Nat, k ≤ 5 ∧ i = .int .i64 k ∧ c = .int .u64 (Fe.hand x k) ∧ Hid (Blk wr w.heap.size .u64 30 (Fe.upto x k)) ∧ Hid (wr.heap[w.heap.size + 1]? = some (.cells (ec ⟨0, 0, 0, 0, 0⟩) 30 (0, 0))) ∧ Hid (Below w.heap.size w wr)) (fun _ i _ => 5 - (intOf i).toNat)
  case atStart => exact ⟨0, by omega, rfl, rfl, heap_alloc2_old w _ _, heap_alloc2_new w _ _, ((Below.refl _ _).alloc (Nat.le_refl _) _).alloc (by simp) _⟩
  case round =>
    obtain ⟨k, hk, rfl, rfl, BL, ZB, BW⟩ := hrel
    by_cases hlt : k < 5
    · have hl : (Fe.upto x k).length = 5 := rfl
      have c1 := BL.out.cell k (by rw [hl]; exact hlt)
      have f1 := BL.out.free k
      rw [Fe.upto_get x k hlt] at c1
      have hset := BL.out.set k (x.cells.getD k 0 % Fe.M + Fe.hand x k)
      rw [Fe.upto_set x k hlt] at hset
      have hoth := fun v => heap_setCell_other wr ⟨w.heap.size, k, none⟩ (w.heap.size + 1) v (by simp)
      have HSET := Lib.hid hset
      have HOTH := Lib.hid hoth
      obtain ⟨v0, v1⟩ := Fe.wide_get HX.out k hlt
      obtain ⟨d0, d1⟩ := Fe.hand_le HX.out k hlt
      have HH := Lib.hid (show Fe.hand x (k + 1) = x.cells.getD k 0 / 2251799813685248 from rfl)
      rw [Fe.M_eq] at HSET
      clear hset hoth hl
      generalize x.cells.getD k 0 = v at *
      generalize Fe.hand x k = d at *
      have hm := mask51 v v0 v1
      go_wp2
      go_region
      all_goals go_wp2
      all_goals go_roundw
      case rel => exact ⟨k + 1, by omega, by go_num, by rw [HH.out], HSET.out, (HOTH.out _).trans ZB.out, (BW.out.setCell (Nat.le_refl _) _).drew⟩
      case measure => simp [intOf]; omega
    · have hk5 : ((k : Nat) : Int) = 5 := by omega
      rw [hk5]
      clear hk5
      obtain rfl : k = 5 := by omega
      have h1 : wr.heap[w.heap.size]? = some (.cells (ec (Fe.carry x)) 30 (0, 0)) := BL.out
      have h2 := ZB.out
      have h5 : (Tryd.prog.info? 30).map (·.size) = some 5 := by kernel_rfl
      go_wp2_with (first | (refine wpList_load_row rfl 30 _ rfl w.heap.size rfl 30 _ (0, 0) _ h1 Tryd.underlying30 rfl ?_ ?_) | (refine wpList_store_row rfl 30 _ _ rfl (w.heap.size + 1) _ rfl rfl 30 _ h2 ?_ ?_ ?_ ?_))
      · exact h5
      · exact h5
      · rfl
      · simp [ec, Value.oneCell']
      · exact bodyPost_ret (results_cell_row Tryd.results40 _ _ (w.heap.size + 1) 30 _ (0, 0) _ rfl (setRow_heap wr (w.heap.size + 1) _ (ec (Fe.carry x)) 30 _ h2) Tryd.underlying30 rfl h5) rfl ⟨rfl, below_setRow BW.out (by omega) _⟩
end Go.Proofs.YtgebangnhgmmoaaDoor

/- Arithmetic modulo 2^255 - 19, the walks: sums and differences. -/
namespace Go.Proofs.YtgebangnhgmmoaaDoor
open Go.RowKit

theorem carried_ev (w : World) (x : Fe.E) (hx : Fe.Wide x) :
    Calls Tryd.prog 40 #[.agg (ec x)] w fun e w' => e = .returned (.agg (ec (Fe.carry x))) ∧ Below w.heap.size w w' := carried_any w x hx
theorem heap_alloc3 (w : World) (o1 o2 o3 : Obj) : ((((w.alloc o1).alloc o2).alloc o3).heap[w.heap.size]? = some o1 ∧ (((w.alloc o1).alloc o2).alloc o3).heap[w.heap.size + 1]? = some o2 ∧ (((w.alloc o1).alloc o2).alloc o3).heap[w.heap.size + 1 + 1]? = some o3) ∧ Below w.heap.size w (((w.alloc o1).alloc o2).alloc o3) := by
  refine ⟨⟨?_, ?_, ?_⟩, ?_⟩
  · exact (Below.heap_alloc _ _ _ (by simp; omega)).trans ((Below.heap_alloc _ _ _ (by simp)).trans (heap_alloc_new w o1))
  · exact (Below.heap_alloc _ _ _ (by simp)).trans (by simpa using heap_alloc_new (w.alloc o1) o2)
  · simpa using heap_alloc_new ((w.alloc o1).alloc o2) o3
  · exact ((((Below.refl _ _).alloc (Nat.le_refl _) _).alloc (by simp) _).alloc (by simp; omega) _)
theorem ec_one (x : Fe.E) : (ec x).all (·.oneCell') = true := by simp [ec, Value.oneCell']
theorem i30 : (Tryd.prog.info? 30).map (·.size) = some 5 := by kernel_rfl
namespace Fe
def z : E := ⟨0, 0, 0, 0, 0⟩
def plus (x y : E) : E := ⟨x.a + y.a, x.b + y.b, x.c + y.c, x.d + y.d, x.e + y.e⟩
def minus (x y : E) : E := ⟨x.a + (4503599627370458 - y.a), x.b + (4503599627370494 - y.b), x.c + (4503599627370494 - y.c), x.d + (4503599627370494 - y.d), x.e + (4503599627370494 - y.e)⟩
theorem plus_wide {x y : E} (h : Ok x) (k : Ok y) : Wide (plus x y) := by
  unfold Ok Pt at h k; unfold Wide Wd plus; simp only; omega
theorem minus_wide {x y : E} (h : Ok x) (k : Ok y) : Wide (minus x y) := by
  unfold Ok Pt at h k; unfold Wide Wd minus; simp only; omega
/-- As far as it has come: of two elements, by another one. -/
def part (x s : E) (k : Nat) : List Int := [if 0 < k then s.a else x.a, if 1 < k then s.b else x.b, if 2 < k then s.c else x.c, if 3 < k then s.d else x.d, if 4 < k then s.e else x.e]
theorem part_get (x s : E) (k : Nat) (h : k < 5) : (part x s k).getD k 0 = x.cells.getD k 0 := by
  match k, h with
  | 0, _ => rfl
  | 1, _ => rfl
  | 2, _ => rfl
  | 3, _ => rfl
  | 4, _ => rfl
theorem part_set (x s : E) (k : Nat) (h : k < 5) : (part x s k).set k (s.cells.getD k 0) = part x s (k + 1) := by
  match k, h with
  | 0, _ => rfl
  | 1, _ => rfl
  | 2, _ => rfl
  | 3, _ => rfl
  | 4, _ => rfl
theorem plus_get (x y : E) (k : Nat) (h : k < 5) : (plus x y).cells.getD k 0 = x.cells.getD k 0 + y.cells.getD k 0 := by
  match k, h with
  | 0, _ => rfl
  | 1, _ => rfl
  | 2, _ => rfl
  | 3, _ => rfl
  | 4, _ => rfl
/-- 2 P in parts. -/
def two : E := ⟨4503599627370458, 4503599627370494, 4503599627370494, 4503599627370494, 4503599627370494⟩
theorem minus_get (x y : E) (k : Nat) (h : k < 5) : (minus x y).cells.getD k 0 = x.cells.getD k 0 + (two.cells.getD k 0 - y.cells.getD k 0) := by
  match k, h with
  | 0, _ => rfl
  | 1, _ => rfl
  | 2, _ => rfl
  | 3, _ => rfl
  | 4, _ => rfl
theorem two_get (k : Nat) (h : k < 5) : 4503599627370458 ≤ two.cells.getD k 0 ∧ two.cells.getD k 0 ≤ 4503599627370494 := by
  match k, h with
  | 0, _ => decide
  | 1, _ => decide
  | 2, _ => decide
  | 3, _ => decide
  | 4, _ => decide
theorem ok_get {x : E} (h : Ok x) (k : Nat) (hk : k < 5) : Pt (x.cells.getD k 0) := by
  obtain ⟨h0, h1, h2, h3, h4⟩ := h
  match k, hk with
  | 0, _ => exact h0
  | 1, _ => exact h1
  | 2, _ => exact h2
  | 3, _ => exact h3
  | 4, _ => exact h4
end Fe

set_option maxRecDepth 100000 in
set_option maxHeartbeats 400000 in
theorem add_any (w : World) (x y : Fe.E) (hx : Fe.Ok x) (hy : Fe.Ok y) :
    Calls Tryd.prog 18 #[.agg (ec x), .agg (ec y)] w fun e w' => e = .returned (.agg (ec (Fe.add x y))) ∧ Below w.heap.size w w' := by
  have HX := Lib.hid hx
  have HY := Lib.hid hy
  have HA := Lib.hid (show Fe.add x y = Fe.carry (Fe.plus x y) from rfl)
  obtain ⟨⟨h1, h2, h3⟩, h4⟩ := heap_alloc3 w (.cells (ec x) 30) (.cells (ec y) 30) (.cells (ec Fe.z) 30)
  have H1 := Lib.hid h1
  have H2 := Lib.hid h2
  have H3 := Lib.hid h3
  have H4 := Lib.hid h4
  clear h1 h2 h3 h4 hx hy
  go_enter Tryd.func18, Tryd.ntmps18
  go_wp2_with fail
  change Code.wp _ _ _ _ (((w.alloc (.cells (ec x) 30)).alloc (.cells (ec y) 30)).alloc (.cells (ec Fe.z) 30))
  generalize (((w.alloc (.cells (ec x) 30)).alloc (.cells (ec y) 30)).alloc (.cells (ec Fe.z) 30)) = w3 at *
  go_loopw [6] (fun i wr => ∃ k : Nat, k ≤ 5 ∧ i = .int .i64 k ∧ Hid (Blk wr w.heap.size .u64 30 (Fe.part x (Fe.plus x y) k)) ∧ Hid (wr.heap[w.heap.size + 1]? = some (.cells (ec y) 30 (0, 0))) ∧ Hid (wr.heap[w.heap.size + 1 + 1]? = some (.cells (ec Fe.z) 30 (0, 0))) ∧ Hid (Below w.heap.size w wr)) (fun i _ => 5 - (intOf i).toNat)
  case atStart => exact ⟨0, by omega, rfl, H1, H2, H3, H4⟩
  case round =>
    clear H1 H2 H3 H4
    obtain ⟨k, hk, rfl, BL, YB, ZB, BW⟩ := hrel
    by_cases hlt : k < 5
    · have c1 := BL.out.cell k (by rw [show (Fe.part x (Fe.plus x y) k).length = 5 from rfl]; exact hlt)
      have f1 := BL.out.free k
      rw [Fe.part_get x _ k hlt] at c1
      have hyb : Blk wr (w.heap.size + 1) .u64 30 y.cells := YB.out
      have c2 := hyb.cell k (by rw [show y.cells.length = 5 from rfl]; exact hlt)
      have hset := BL.out.set k ((Fe.plus x y).cells.getD k 0)
      rw [Fe.part_set x _ k hlt, Fe.plus_get x y k hlt] at hset
      have hoth := fun v => heap_setCell_other wr ⟨w.heap.size, k, none⟩ (w.heap.size + 1) v (by simp)
      have hoth2 := fun v => heap_setCell_other wr ⟨w.heap.size, k, none⟩ (w.heap.size + 1 + 1) v (by simp; omega)
      have HSET := Lib.hid hset
      have HOTH := Lib.hid hoth
      have HOTH2 := Lib.hid hoth2
      obtain ⟨v0, v1⟩ := Fe.ok_get HX.out k hlt
      obtain ⟨d0, d1⟩ := Fe.ok_get HY.out k hlt
      clear hset hoth hoth2 hyb
      generalize x.cells.getD k 0 = v at *
      generalize y.cells.getD k 0 = d at *
      go_wp2
      go_region
      all_goals go_wp2
      all_goals go_roundw
      case rel => exact ⟨k + 1, by omega, by go_num, HSET.out, (HOTH.out _).trans YB.out, (HOTH2.out _).trans ZB.out, (BW.out.setCell (Nat.le_refl _) _).drew⟩
      case measure => simp [intOf]; omega
    · have hk5 : ((k : Nat) : Int) = 5 := by omega
      rw [hk5]
      clear hk5
      obtain rfl : k = 5 := by omega
      have h1 : wr.heap[w.heap.size]? = some (.cells (ec (Fe.plus x y)) 30 (0, 0)) := BL.out
      have hc := Lib.hid (fun w1 => carried_ev w1 (Fe.plus x y) (Fe.plus_wide HX.out HY.out))
      have hsz : w.heap.size + 1 + 1 < wr.heap.size := lt_of_block ZB.out
      clear BL YB
      go_wp2_with (first
        | ((with_reducible refine wpList_store_row (o := ⟨none, _, _, _, _, _⟩) rfl 30 (.tmp 4) (.tmp 19) rfl (w.heap.size + 1 + 1) (ec (Fe.carry (Fe.plus x y))) rfl rfl 30 _ HZ.out ?_ ?_ ?_ ?_); exact i30; exact rfl; exact ec_one _)
        | (go_at_call 40; refine (hc.out wr).mono ?_; rintro e w5 ⟨rfl, hb⟩; have HB5 := Lib.hid (BW.out.trans (hb.mono BW.out.size)); have HZ := Lib.hid ((hb.block _ hsz).trans ZB.out); clear hb)
        | ((with_reducible refine wpList_load_row (o := ⟨some 18, _, _, _, _, _⟩) rfl 30 (.tmp 2) rfl w.heap.size rfl 30 _ (0, 0) _ h1 Tryd.underlying30 rfl ?_ ?_); exact i30))
      refine bodyPost_ret (results_cell_row Tryd.results18 _ _ (w.heap.size + 1 + 1) 30 _ (0, 0) _ rfl (setRow_heap w5 (w.heap.size + 1 + 1) _ (ec (Fe.carry (Fe.plus x y))) 30 _ HZ.out) Tryd.underlying30 rfl i30) rfl ⟨?_, below_setRow HB5.out (by omega) _⟩
      rw [HA.out]
end Go.Proofs.YtgebangnhgmmoaaDoor

/- Arithmetic modulo 2^255 - 19, the walks: differences, the other sign, small numbers. -/
namespace Go.Proofs.YtgebangnhgmmoaaDoor
open Go.RowKit

/-- 2 P lies where start-up laid it. -/
def Dbl (w : World) : Prop := 0 < w.heap.size ∧ ∀ j, j < 5 → w.cell? ⟨0, j, none⟩ = some (.int .u64 (Fe.two.cells.getD j 0))
theorem Dbl.below {w w' : World} {B : Nat} (h : Dbl w) (hb : Below B w w') (hB : 0 < B) : Dbl w' := ⟨Nat.lt_of_lt_of_le h.1 hb.size, fun j hj => (hb.cell (p := ⟨0, j, none⟩) hB).trans (h.2 j hj)⟩

set_option maxRecDepth 100000 in
set_option maxHeartbeats 400000 in
theorem sub_any (w : World) (x y : Fe.E) (hx : Fe.Ok x) (hy : Fe.Ok y) (hd : Dbl w) :
    Calls Tryd.prog 20 #[.agg (ec x), .agg (ec y)] w fun e w' => e = .returned (.agg (ec (Fe.sub x y))) ∧ Below w.heap.size w w' := by
  have HX := Lib.hid hx
  have HD := Lib.hid hd
  have HY := Lib.hid hy
  have HA := Lib.hid (show Fe.sub x y = Fe.carry (Fe.minus x y) from rfl)
  obtain ⟨⟨h1, h2, h3⟩, h4⟩ := heap_alloc3 w (.cells (ec x) 30) (.cells (ec y) 30) (.cells (ec Fe.z) 30)
  have H1 := Lib.hid h1
  have H2 := Lib.hid h2
  have H3 := Lib.hid h3
  have H4 := Lib.hid h4
  clear h1 h2 h3 h4 hx hy hd
  go_enter Tryd.func20, Tryd.ntmps20
  go_wp2_with fail
  change Code.wp _ _ _ _ (((w.alloc (.cells (ec x) 30)).alloc (.cells (ec y) 30)).alloc (.cells (ec Fe.z) 30))
  generalize (((w.alloc (.cells (ec x) 30)).alloc (.cells (ec y) 30)).alloc (.cells (ec Fe.z) 30)) = w3 at *
  go_loopw [6] (fun i wr => ∃ k : Nat, k ≤ 5 ∧ i = .int .i64 k ∧ Hid (Blk wr w.heap.size .u64 30 (Fe.part x (Fe.minus x y) k)) ∧ Hid (wr.heap[w.heap.size + 1]? = some (.cells (ec y) 30 (0, 0))) ∧ Hid (wr.heap[w.heap.size + 1 + 1]? = some (.cells (ec Fe.z) 30 (0, 0))) ∧ Hid (Below w.heap.size w wr)) (fun i _ => 5 - (intOf i).toNat)
  case atStart => exact ⟨0, by omega, rfl, H1, H2, H3, H4⟩
  case round =>
    clear H1 H2 H3 H4
    obtain ⟨k, hk, rfl, BL, YB, ZB, BW⟩ := hrel
    by_cases hlt : k < 5
    · have c1 := BL.out.cell k (by rw [show (Fe.part x (Fe.minus x y) k).length = 5 from rfl]; exact hlt)
      have f1 := BL.out.free k
      rw [Fe.part_get x _ k hlt] at c1
      have hyb : Blk wr (w.heap.size + 1) .u64 30 y.cells := YB.out
      have c2 := hyb.cell k (by rw [show y.cells.length = 5 from rfl]; exact hlt)
      have cd := (HD.out.below BW.out HD.out.1).2 k hlt
      have hset := BL.out.set k ((Fe.minus x y).cells.getD k 0)
      rw [Fe.part_set x _ k hlt, Fe.minus_get x y k hlt] at hset
      have hoth := fun v => heap_setCell_other wr ⟨w.heap.size, k, none⟩ (w.heap.size + 1) v (by simp)
      have hoth2 := fun v => heap_setCell_other wr ⟨w.heap.size, k, none⟩ (w.heap.size + 1 + 1) v (by simp; omega)
      have HSET := Lib.hid hset
      have HOTH := Lib.hid hoth
      have HOTH2 := Lib.hid hoth2
      obtain ⟨v0, v1⟩ := Fe.ok_get HX.out k hlt
      obtain ⟨d0, d1⟩ := Fe.ok_get HY.out k hlt
      clear hset hoth hoth2 hyb
      generalize x.cells.getD k 0 = v at *
      generalize y.cells.getD k 0 = d at *
      obtain ⟨t0, t1⟩ := Fe.two_get k hlt
      generalize Fe.two.cells.getD k 0 = tw at *
      go_wp2
      go_region
      all_goals go_wp2
      all_goals go_roundw
      case rel => exact ⟨k + 1, by omega, by go_num, HSET.out, (HOTH.out _).trans YB.out, (HOTH2.out _).trans ZB.out, (BW.out.setCell (Nat.le_refl _) _).drew⟩
      case measure => simp [intOf]; omega
    · have hk5 : ((k : Nat) : Int) = 5 := by omega
      rw [hk5]
      clear hk5
      obtain rfl : k = 5 := by omega
      have h1 : wr.heap[w.heap.size]? = some (.cells (ec (Fe.minus x y)) 30 (0, 0)) := BL.out
      have hc := Lib.hid (fun w1 => carried_ev w1 (Fe.minus x y) (Fe.minus_wide HX.out HY.out))
      have hsz : w.heap.size + 1 + 1 < wr.heap.size := lt_of_block ZB.out
      clear BL YB
      go_wp2_with (first
        | ((with_reducible refine wpList_store_row (o := ⟨none, _, _, _, _, _⟩) rfl 30 (.tmp 4) (.tmp 23) rfl (w.heap.size + 1 + 1) (ec (Fe.carry (Fe.minus x y))) rfl rfl 30 _ HZ.out ?_ ?_ ?_ ?_); exact i30; exact rfl; exact ec_one _)
        | (go_at_call 40; refine (hc.out wr).mono ?_; rintro e w5 ⟨rfl, hb⟩; have HB5 := Lib.hid (BW.out.trans (hb.mono BW.out.size)); have HZ := Lib.hid ((hb.block _ hsz).trans ZB.out); clear hb)
        | ((with_reducible refine wpList_load_row (o := ⟨some 22, _, _, _, _, _⟩) rfl 30 (.tmp 2) rfl w.heap.size rfl 30 _ (0, 0) _ h1 Tryd.underlying30 rfl ?_ ?_); exact i30))
      refine bodyPost_ret (results_cell_row Tryd.results20 _ _ (w.heap.size + 1 + 1) 30 _ (0, 0) _ rfl (setRow_heap w5 (w.heap.size + 1 + 1) _ (ec (Fe.carry (Fe.minus x y))) 30 _ HZ.out) Tryd.underlying30 rfl i30) rfl ⟨?_, below_setRow HB5.out (by omega) _⟩
      rw [HA.out]

def Fe.neg (x : Fe.E) : Fe.E := Fe.sub Fe.z x
theorem Fe.z_ok : Fe.Ok Fe.z := by unfold Fe.Ok Fe.Pt Fe.z; simp only; omega

set_option maxRecDepth 100000 in
set_option maxHeartbeats 400000 in
theorem neg_any (w : World) (x : Fe.E) (hx : Fe.Ok x) (hd : Dbl w) :
    Calls Tryd.prog 22 #[.agg (ec x)] w fun e w' => e = .returned (.agg (ec (Fe.neg x))) ∧ Below w.heap.size w w' := by
  have h1 := heap_alloc2_old w (.cells (ec x) 30) (.cells #[.int .u64 0, .int .u64 0, .int .u64 0, .int .u64 0, .int .u64 0] 30)
  have h2 := heap_alloc2_new w (.cells (ec x) 30) (.cells #[.int .u64 0, .int .u64 0, .int .u64 0, .int .u64 0, .int .u64 0] 30)
  have h3 : Below w.heap.size w ((w.alloc (.cells (ec x) 30)).alloc (.cells #[.int .u64 0, .int .u64 0, .int .u64 0, .int .u64 0, .int .u64 0] 30)) := ((Below.refl _ _).alloc (Nat.le_refl _) _).alloc (by simp) _
  have hsz : w.heap.size + 1 < ((w.alloc (.cells (ec x) 30)).alloc (.cells #[.int .u64 0, .int .u64 0, .int .u64 0, .int .u64 0, .int .u64 0] 30)).heap.size := lt_of_block h2
  have HS : Hid (Calls Tryd.prog 20 #[.agg #[.int .u64 0, .int .u64 0, .int .u64 0, .int .u64 0, .int .u64 0], .agg (ec x)] ((w.alloc (.cells (ec x) 30)).alloc (.cells #[.int .u64 0, .int .u64 0, .int .u64 0, .int .u64 0, .int .u64 0] 30)) fun e w' => e = .returned (.agg (ec (Fe.sub Fe.z x))) ∧ Below ((w.alloc (.cells (ec x) 30)).alloc (.cells #[.int .u64 0, .int .u64 0, .int .u64 0, .int .u64 0, .int .u64 0] 30)).heap.size ((w.alloc (.cells (ec x) 30)).alloc (.cells #[.int .u64 0, .int .u64 0, .int .u64 0, .int .u64 0, .int .u64 0] 30)) w') := sub_any ((w.alloc (.cells (ec x) 30)).alloc (.cells #[.int .u64 0, .int .u64 0, .int .u64 0, .int .u64 0, .int .u64 0] 30)) Fe.z x Fe.z_ok hx (hd.below h3 hd.1)
  have HB := Lib.hid h3
  have H2 := Lib.hid h2
  clear hx hd h3 h2
  go_enter Tryd.func22, Tryd.ntmps22
  go_wp2_with (first
    | ((with_reducible refine wpList_store_row (o := ⟨none, _, _, _, _, _⟩) rfl 30 (.tmp 2) (.tmp 5) rfl (w.heap.size + 1) (ec (Fe.sub Fe.z x)) rfl rfl 30 _ HZ.out ?_ ?_ ?_ ?_); exact i30; exact rfl; exact ec_one _)
    | (go_at_call 20; refine HS.out.mono ?_; rintro e w5 ⟨rfl, hb⟩; have HB5 := Lib.hid (HB.out.trans (hb.mono HB.out.size)); have HZ := Lib.hid ((hb.block _ hsz).trans H2.out); clear hb)
    | ((with_reducible refine wpList_load_row (o := ⟨some 4, _, _, _, _, _⟩) rfl 30 (.tmp 1) rfl w.heap.size rfl 30 _ (0, 0) _ h1 Tryd.underlying30 rfl ?_ ?_); exact i30))
  refine bodyPost_ret (results_cell_row Tryd.results22 _ _ (w.heap.size + 1) 30 _ (0, 0) _ rfl (setRow_heap w5 (w.heap.size + 1) _ (ec (Fe.sub Fe.z x)) 30 _ HZ.out) Tryd.underlying30 rfl i30) rfl ⟨rfl, below_setRow HB5.out (by omega) _⟩

def Fe.num (n : Int) : Fe.E := ⟨n, 0, 0, 0, 0⟩
theorem Fe.num_ok (n : Int) (h0 : 0 ≤ n) (h1 : n ≤ 4294967295) : Fe.Ok (Fe.num n) := by unfold Fe.Ok Fe.Pt Fe.num; simp only; omega
theorem Fe.num_val (n : Int) : Fe.val (Fe.num n) = n := by unfold Fe.val Fe.num Fe.M; simp only; omega
set_option maxRecDepth 100000 in
set_option maxHeartbeats 400000 in
theorem num_any (w : World) (n : Int) (h0 : 0 ≤ n) (h1 : n ≤ 4294967295) :
    Calls Tryd.prog 28 #[.int .u32 n] w fun e w' => e = .returned (.agg (ec (Fe.num n))) ∧ Below w.heap.size w w' := by
  have h2 := heap_alloc_new w (.cells (ec Fe.z) 30)
  go_enter Tryd.func28, Tryd.ntmps28
  go_wp2_with ((with_reducible refine wpList_store_row (o := ⟨none, _, _, _, _, _⟩) rfl 30 (.tmp 2) (.tmp 5) rfl w.heap.size (ec (Fe.num n)) rfl rfl 30 _ h2 ?_ ?_ ?_ ?_); exact i30; exact rfl; exact ec_one _)
  exact bodyPost_ret (results_cell_row Tryd.results28 _ _ w.heap.size 30 (ec (Fe.num n)) (0, 0) _ rfl (heap_alloc_new w (.cells (ec (Fe.num n)) 30)) Tryd.underlying30 rfl i30) rfl ⟨rfl, (Below.refl _ _).alloc (Nat.le_refl _) _⟩
end Go.Proofs.YtgebangnhgmmoaaDoor

/- Arithmetic modulo 2^255 - 19, the walks: numbers of 128 bits. -/
namespace Go.Proofs.YtgebangnhgmmoaaDoor
open Go.RowKit Go.Lib

set_option maxRecDepth 100000 in
set_option maxHeartbeats 1000000 in
theorem mul64_nat (x y : Nat) (hx : x < 18446744073709551616) (hy : y < 18446744073709551616) (w : World) :
    Calls Tryd.prog 51 #[.int .u64 x, .int .u64 y] w fun e w' => e = .returned (.tuple #[.int .u64 ((x * y / 18446744073709551616 : Nat) : Int), .int .u64 ((x * y % 18446744073709551616 : Nat) : Int)]) ∧ w' = w := by
  obtain ⟨bd, bt, bw, hhi⟩ := Lib.mul64_hi x y hx hy
  have ba := Lib.half_mul_le (a := x / 4294967296) (b := y / 4294967296) (by omega) (by omega)
  have bb := Lib.half_mul_le (a := x / 4294967296) (b := y % 4294967296) (by omega) (by omega)
  have bc := Lib.half_mul_le (a := x % 4294967296) (b := y / 4294967296) (by omega) (by omega)
  have ba' : x / 4294967296 * (y / 4294967296) < 18446744073709551616 := by omega
  have bb' : x / 4294967296 * (y % 4294967296) < 18446744073709551616 := by omega
  have bc' : x % 4294967296 * (y / 4294967296) < 18446744073709551616 := by omega
  have bh1 : x / 4294967296 * (y / 4294967296) + (x / 4294967296 * (y % 4294967296) + x % 4294967296 * (y % 4294967296) / 4294967296) / 4294967296 < 18446744073709551616 := by omega
  have bh : x / 4294967296 * (y / 4294967296) + (x / 4294967296 * (y % 4294967296) + x % 4294967296 * (y % 4294967296) / 4294967296) / 4294967296 + ((x / 4294967296 * (y % 4294967296) + x % 4294967296 * (y % 4294967296) / 4294967296) % 4294967296 + x % 4294967296 * (y / 4294967296)) / 4294967296 < 18446744073709551616 := by omega
  go_enter Tryd.func51, Tryd.ntmps51
  go_wp2
  simp only [Mul64.maskN x hx, Mul64.maskN y hy, Mul64.divN, Mul64.mulN, Mul64.addN, Mul64.wrapN _ bd, Mul64.wrapN _ bb', Mul64.wrapN _ bt, Mul64.maskN _ bt, Mul64.wrapN _ bc', Mul64.wrapN _ bw, Mul64.wrapN _ ba', Mul64.wrapN _ bh1, Mul64.wrapN _ bh, Mul64.wrapM (x * y)]
  rw [hhi]
  go_ret2
  exact ⟨rfl, rfl⟩
theorem mul64_any (x y : Int) (hx : Fe.Wd x) (hy : Fe.Wd y) (w : World) :
    Calls Tryd.prog 51 #[.int .u64 x, .int .u64 y] w fun e w' => e = .returned (.tuple #[.int .u64 (x * y / 18446744073709551616), .int .u64 (x * y % 18446744073709551616)]) ∧ w' = w := by
  obtain ⟨h0, h1⟩ := hx
  obtain ⟨h2, h3⟩ := hy
  obtain ⟨X, rfl⟩ := Int.eq_ofNat_of_zero_le h0
  obtain ⟨Y, rfl⟩ := Int.eq_ofNat_of_zero_le h2
  have h := mul64_nat X Y (by omega) (by omega) w
  rw [Int.natCast_ediv, Int.natCast_emod, Int.natCast_mul] at h
  exact h
theorem add64_any (x y c : Int) (hx : Fe.Wd x) (hy : Fe.Wd y) (hc0 : 0 ≤ c) (hc1 : c ≤ 1) (w : World) :
    (callFunc 52 #[.int .u64 x, .int .u64 y, .int .u64 c]).run Tryd.prog w = .ok (.value (.tuple #[.int .u64 ((x + y + c) % 18446744073709551616), .int .u64 ((x + y + c) / 18446744073709551616)])) w := by
  rw [run_callFunc_extern Tryd.func52 (by kernel_rfl) (by kernel_rfl) (by kernel_rfl) (e := add64Entry) (by kernel_rfl), run_add64 x y c hx.1 hy.1 hc0 hc1]
  rfl

/-- A number of 128 bits as a value. -/
def wv (W : Int) : Array Value := #[.int .u64 (W / 18446744073709551616), .int .u64 (W % 18446744073709551616)]
theorem i61 : (Tryd.prog.info? 61).map (·.size) = some 2 := by kernel_rfl
end Go.Proofs.YtgebangnhgmmoaaDoor

/- Arithmetic modulo 2^255 - 19, the walks: numbers of 128 bits, a product more; what lies above a part. -/
namespace Go.Proofs.YtgebangnhgmmoaaDoor
open Go.RowKit Go.Lib

theorem ret_agg2 {a b c d : Int} (h1 : a = c) (h2 : b = d) : Ending.returned (.agg #[.int .u64 a, .int .u64 b]) = .returned (.agg #[.int .u64 c, .int .u64 d]) := by rw [h1, h2]
set_option maxRecDepth 100000 in
set_option maxHeartbeats 1000000 in
theorem plus_any (w : World) (W a b : Int) (hW : 0 ≤ W) (ha : Fe.Wd a) (hb : Fe.Wd b) (hs : W + a * b < 340282366920938463463374607431768211456) :
    Calls Tryd.prog 45 #[.agg (wv W), .int .u64 a, .int .u64 b] w fun e w' => e = .returned (.agg (wv (W + a * b))) ∧ Below w.heap.size w w' := by
  have hp : 0 ≤ a * b := Int.mul_nonneg ha.1 hb.1
  have HM := Lib.hid (mul64_any a b ha hb)
  unfold wv
  obtain ⟨p, hpe⟩ : ∃ p, p = a * b := ⟨_, rfl⟩
  rw [← hpe] at hs hp HM ⊢
  obtain ⟨H, hH⟩ : ∃ H, H = W / 18446744073709551616 := ⟨_, rfl⟩
  obtain ⟨L, hL⟩ : ∃ L, L = W % 18446744073709551616 := ⟨_, rfl⟩
  obtain ⟨ph, hph⟩ : ∃ ph, ph = p / 18446744073709551616 := ⟨_, rfl⟩
  obtain ⟨pl, hpl⟩ : ∃ pl, pl = p % 18446744073709551616 := ⟨_, rfl⟩
  rw [← hH, ← hL]
  rw [← hph, ← hpl] at HM
  have e1 := add64_any L pl 0 (by unfold Fe.Wd; omega) (by unfold Fe.Wd; omega) (by omega) (by omega)
  obtain ⟨s, hse⟩ : ∃ s, s = (L + pl + 0) % 18446744073709551616 := ⟨_, rfl⟩
  obtain ⟨c, hce⟩ : ∃ c, c = (L + pl + 0) / 18446744073709551616 := ⟨_, rfl⟩
  rw [← hse, ← hce] at e1
  have e2 := add64_any H ph c (by unfold Fe.Wd; omega) (by unfold Fe.Wd; omega) (by omega) (by omega)
  have r1 : (H + ph + c) % 18446744073709551616 = (W + p) / 18446744073709551616 := by omega
  have r2 : s = (W + p) % 18446744073709551616 := by omega
  rw [r1] at e2
  rw [← r2]
  generalize (W + p) / 18446744073709551616 = T at *
  have hc0 : 0 ≤ c := by omega
  clear hs hp hH hL hph hpl hse hce r1 r2 hpe ha hb hW
  generalize (H + ph + c) / 18446744073709551616 = T2 at *
  have h3 := heap_alloc2_new w (.cells #[.int .u64 H, .int .u64 L] 61) (.cells #[.int .u64 0, .int .u64 0] 61)
  have h4 : Below w.heap.size w ((w.alloc (.cells #[.int .u64 H, .int .u64 L] 61)).alloc (.cells #[.int .u64 0, .int .u64 0] 61)) := ((Below.refl _ _).alloc (Nat.le_refl _) _).alloc (by simp) _
  have HB := Lib.hid h4
  clear h4
  go_enter Tryd.func45, Tryd.ntmps45
  go_wp2_with (go_at_call 51; refine (HM.out _).mono ?_; rintro e w5 ⟨rfl, rfl⟩)
  exact bodyPost_ret (results_cell_row Tryd.results45 _ _ (w.heap.size + 1) 61 #[.int .u64 T, .int .u64 s] (0, 0) _ rfl (heap_alloc2_new w _ (.cells #[.int .u64 T, .int .u64 s] 61)) Tryd.underlying61 rfl i61) rfl ⟨rfl, ((Below.refl _ _).alloc (Nat.le_refl _) _).alloc (by simp) _⟩

theorem or13 (H L : Int) (h0 : 0 ≤ H) (h1 : H < 2251799813685248) (h2 : 0 ≤ L) (h3 : L < 18446744073709551616) : bits BinOp.or IntKind.u64 (H * 8192) (L / 2251799813685248) = H * 8192 + L / 2251799813685248 := by
  obtain ⟨X, rfl⟩ := Int.eq_ofNat_of_zero_le h0
  obtain ⟨Y, rfl⟩ := Int.eq_ofNat_of_zero_le h2
  rw [show ((X : Nat) : Int) * 8192 = ((X * 8192 : Nat) : Int) by omega, show ((Y : Nat) : Int) / 2251799813685248 = ((Y / 2251799813685248 : Nat) : Int) by omega]
  rw [u64_or_nat _ _ (by omega) (by omega), nat_join 13 _ _ (by omega) (by omega)]
  omega
set_option maxRecDepth 100000 in
set_option maxHeartbeats 1000000 in
theorem beyond_any (w : World) (W : Int) (hW : 0 ≤ W) (hs : W < 41538374868278621028243970633760768) :
    Calls Tryd.prog 46 #[.agg (wv W)] w fun e w' => e = .returned (.int .u64 (W / 2251799813685248)) ∧ Below w.heap.size w w' := by
  unfold wv
  obtain ⟨H, hH⟩ : ∃ H, H = W / 18446744073709551616 := ⟨_, rfl⟩
  obtain ⟨L, hL⟩ : ∃ L, L = W % 18446744073709551616 := ⟨_, rfl⟩
  rw [← hH, ← hL]
  have h0 : 0 ≤ H := by omega
  have h1 : H < 2251799813685248 := by omega
  have h2 : 0 ≤ L := by omega
  have h3 : L < 18446744073709551616 := by omega
  have ho := or13 H L h0 h1 h2 h3
  have hr : H * 8192 + L / 2251799813685248 = W / 2251799813685248 := by omega
  rw [hr] at ho
  generalize W / 2251799813685248 = T at *
  clear hH hL hW hs hr
  go_enter Tryd.func46, Tryd.ntmps46
  go_wp2
  go_ret
  exact ⟨rfl, (Below.refl _ _).alloc (Nat.le_refl _) _⟩
end Go.Proofs.YtgebangnhgmmoaaDoor

/- Arithmetic modulo 2^255 - 19, the walks: products. -/
namespace Go.Proofs.YtgebangnhgmmoaaDoor
open Go.RowKit

namespace Fe
def places (y : E) (k : Nat) : List Int := [if 0 < k then 19 * y.a else 0, if 1 < k then 19 * y.b else 0, if 2 < k then 19 * y.c else 0, if 3 < k then 19 * y.d else 0, if 4 < k then 19 * y.e else 0, if 0 < k then y.a else 0, if 1 < k then y.b else 0, if 2 < k then y.c else 0, if 3 < k then y.d else 0, if 4 < k then y.e else 0]
theorem places_set (y : E) (k : Nat) (h : k < 5) : ((places y k).set k (19 * y.cells.getD k 0)).set (5 + k) (y.cells.getD k 0) = places y (k + 1) := by
  match k, h with
  | 0, _ => rfl
  | 1, _ => rfl
  | 2, _ => rfl
  | 3, _ => rfl
  | 4, _ => rfl
def term (x y : E) (i k : Nat) : Int := x.cells.getD k 0 * (places y 5).getD (5 + i - k) 0
def sums (x y : E) (i : Nat) : Nat → Int
  | 0 => 0
  | k + 1 => sums x y i k + term x y i k
theorem sums_five (x y : E) (i : Nat) (h : i < 5) : sums x y i 5 = (col x y).cells.getD i 0 := by
  match i, h with
  | 0, _ => simp [sums, term, places, col, E.cells]
  | 1, _ => simp [sums, term, places, col, E.cells]
  | 2, _ => simp [sums, term, places, col, E.cells]
  | 3, _ => simp [sums, term, places, col, E.cells]
  | 4, _ => simp [sums, term, places, col, E.cells]
theorem place_le {y : E} (h : Ok y) (j : Nat) (hj : j < 10) : 0 ≤ (places y 5).getD j 0 ∧ (places y 5).getD j 0 ≤ 42784196465000429 := by
  unfold Ok Pt at h
  match j, hj with
  | 0, _ => simp [places]; omega
  | 1, _ => simp [places]; omega
  | 2, _ => simp [places]; omega
  | 3, _ => simp [places]; omega
  | 4, _ => simp [places]; omega
  | 5, _ => simp [places]; omega
  | 6, _ => simp [places]; omega
  | 7, _ => simp [places]; omega
  | 8, _ => simp [places]; omega
  | 9, _ => simp [places]; omega
theorem term_le {x y : E} (hx : Ok x) (hy : Ok y) (i k : Nat) (hi : i < 5) (hk : k < 5) : 0 ≤ term x y i k ∧ term x y i k ≤ 96341445639776589740292998430739 := by
  obtain ⟨h1, h2⟩ := ok_get hx k hk
  obtain ⟨h3, h4⟩ := place_le hy (5 + i - k) (by omega)
  refine ⟨Int.mul_nonneg h1 h3, ?_⟩
  have h5 : term x y i k ≤ 2251799813947391 * 42784196465000429 := Int.mul_le_mul h2 h4 h3 (by decide)
  omega
theorem sums_le {x y : E} (hx : Ok x) (hy : Ok y) (i : Nat) (hi : i < 5) : ∀ k, k ≤ 5 → 0 ≤ sums x y i k ∧ sums x y i k ≤ 96341445639776589740292998430739 * k
  | 0, _ => by simp [sums]
  | k + 1, h => by
    have h1 := sums_le hx hy i hi k (by omega)
    have h2 := term_le hx hy i k hi (by omega)
    simp only [sums]
    omega
/-- What is handed on. -/
def cc (x y : E) : Nat → Int
  | 0 => 0
  | i + 1 => (col x y).cells.getD i 0 / M
def outE (x y : E) : E := ⟨(col x y).a % M + 0, (col x y).b % M + (col x y).a / M, (col x y).c % M + (col x y).b / M, (col x y).d % M + (col x y).c / M, (col x y).e % M + (col x y).d / M⟩
theorem outE_get (x y : E) (i : Nat) (h : i < 5) : (outE x y).cells.getD i 0 = (col x y).cells.getD i 0 % M + cc x y i := by
  match i, h with
  | 0, _ => rfl
  | 1, _ => rfl
  | 2, _ => rfl
  | 3, _ => rfl
  | 4, _ => rfl
theorem col_le {x y : E} (hx : Ok x) (hy : Ok y) (i : Nat) (hi : i < 5) : 0 ≤ (col x y).cells.getD i 0 ∧ (col x y).cells.getD i 0 ≤ 481707228198882948701464992153695 := by
  have h := sums_le hx hy i hi 5 (Nat.le_refl _)
  rw [sums_five x y i hi] at h
  omega
theorem cc_le {x y : E} (hx : Ok x) (hy : Ok y) (i : Nat) (hi : i ≤ 5) : 0 ≤ cc x y i ∧ cc x y i ≤ 300000000000000000 := by
  cases i with
  | zero => simp [cc]
  | succ i =>
    have h := col_le hx hy i (by omega)
    show 0 ≤ (col x y).cells.getD i 0 / 2251799813685248 ∧ (col x y).cells.getD i 0 / 2251799813685248 ≤ 300000000000000000
    generalize (col x y).cells.getD i 0 = v at *
    omega
theorem outE_last (x y : E) : (outE x y).cells.set 0 ((outE x y).a + 19 * cc x y 5) = (carry (col x y)).cells := by
  unfold outE carry cc
  simp [E.cells]
theorem col_wide {x y : E} (hx : Ok x) (hy : Ok y) : Wide (carry (col x y)) := by
  have h0 := col_le hx hy 0 (by omega)
  have h1 := col_le hx hy 1 (by omega)
  have h2 := col_le hx hy 2 (by omega)
  have h3 := col_le hx hy 3 (by omega)
  have h4 := col_le hx hy 4 (by omega)
  simp only [E.cells, List.getD_cons_zero, List.getD_cons_succ] at h0 h1 h2 h3 h4
  have hm : M = 2251799813685248 := rfl
  unfold Wide Wd carry
  simp only
  rw [hm]
  generalize (col x y).a = a at *
  generalize (col x y).b = b at *
  generalize (col x y).c = c at *
  generalize (col x y).d = d at *
  generalize (col x y).e = e at *
  omega
theorem mul_ok {x y : E} (hx : Ok x) (hy : Ok y) : Ok (mul x y) := carry_ok (col_wide hx hy)
end Fe
end Go.Proofs.YtgebangnhgmmoaaDoor

/- Arithmetic modulo 2^255 - 19, the walks: a product. -/
namespace Go.Proofs.YtgebangnhgmmoaaDoor
open Go.RowKit

/-- What lies where: the factors, the result, the places. -/
structure Lay (w : World) (x y : Fe.E) (pl : List Int) (wq : World) : Prop where
  xx : Blk wq w.heap.size .u64 30 x.cells
  yy : Blk wq (w.heap.size + 1) .u64 30 y.cells
  zz : wq.heap[w.heap.size + 1 + 1]? = some (.cells (ec Fe.z) 30 (0, 0))
  pp : Blk wq (w.heap.size + 1 + 1 + 1) .u64 59 pl
  bb : Below w.heap.size w wq
theorem Lay.below {w wq w' : World} {x y : Fe.E} {pl : List Int} (h : Lay w x y pl wq) (hb : Below wq.heap.size wq w') : Lay w x y pl w' :=
  ⟨h.xx.other (hb.block _ h.xx.lt), h.yy.other (hb.block _ h.yy.lt), (hb.block _ (lt_of_block h.zz)).trans h.zz, h.pp.other (hb.block _ h.pp.lt), h.bb.trans (hb.mono h.bb.size)⟩
theorem Lay.put {w wq : World} {x y : Fe.E} {pl : List Int} (h : Lay w x y pl wq) (j : Nat) (v : Int) : Lay w x y (pl.set j v) (wq.setCell ⟨w.heap.size + 1 + 1 + 1, j, none⟩ (.int .u64 v)) := by
  refine ⟨h.xx.other (heap_setCell_other _ _ _ _ (by simp; omega)), h.yy.other (heap_setCell_other _ _ _ _ (by simp)), (heap_setCell_other _ _ _ _ (by simp)).trans h.zz, h.pp.set j v, h.bb.setCell (by simp; omega) _⟩
theorem Lay.aside {w wq : World} {x y : Fe.E} {pl : List Int} (h : Lay w x y pl wq) (g j : Nat) (hg : w.heap.size + 1 + 1 + 1 < g) (v : Value) : Lay w x y pl (wq.setCell ⟨g, j, none⟩ v) :=
  ⟨h.xx.other (heap_setCell_other _ _ _ _ (by simp; omega)), h.yy.other (heap_setCell_other _ _ _ _ (by simp; omega)), (heap_setCell_other _ _ _ _ (by simp; omega)).trans h.zz, h.pp.other (heap_setCell_other _ _ _ _ (by simp; omega)), h.bb.setCell (by simp; omega) _⟩
theorem heap_alloc4 (w : World) (o1 o2 o3 o4 : Obj) : (((((w.alloc o1).alloc o2).alloc o3).alloc o4).heap[w.heap.size]? = some o1 ∧ ((((w.alloc o1).alloc o2).alloc o3).alloc o4).heap[w.heap.size + 1]? = some o2 ∧ ((((w.alloc o1).alloc o2).alloc o3).alloc o4).heap[w.heap.size + 1 + 1]? = some o3 ∧ ((((w.alloc o1).alloc o2).alloc o3).alloc o4).heap[w.heap.size + 1 + 1 + 1]? = some o4) ∧ Below w.heap.size w ((((w.alloc o1).alloc o2).alloc o3).alloc o4) := by
  obtain ⟨⟨h1, h2, h3⟩, h4⟩ := heap_alloc3 w o1 o2 o3
  refine ⟨⟨?_, ?_, ?_, ?_⟩, h4.alloc (by simp; omega) _⟩
  · exact (Below.heap_alloc _ _ _ (by simp; omega)).trans h1
  · exact (Below.heap_alloc _ _ _ (by simp)).trans h2
  · exact (Below.heap_alloc _ _ _ (by simp)).trans h3
  · simpa using heap_alloc_new (((w.alloc o1).alloc o2).alloc o3) o4

set_option maxRecDepth 100000 in
set_option maxHeartbeats 1000000 in
theorem mul_any (w : World) (x y : Fe.E) (hx : Fe.Ok x) (hy : Fe.Ok y) :
    Calls Tryd.prog 25 #[.agg (ec x), .agg (ec y)] w fun e w' => e = .returned (.agg (ec (Fe.mul x y))) ∧ Below w.heap.size w w' := by
  have HX := Lib.hid hx
  have HY := Lib.hid hy
  obtain ⟨⟨h1, h2, h3, h4⟩, h5⟩ := heap_alloc4 w (.cells (ec x) 30) (.cells (ec y) 30) (.cells (ec Fe.z) 30) (.cells ((Fe.places y 0).map (Value.int .u64)).toArray 59)
  have HL := Lib.hid (Lay.mk (w := w) (x := x) (y := y) (pl := Fe.places y 0) h1 h2 h3 h4 h5)
  clear h1 h2 h3 h4 h5 hx hy
  go_enter Tryd.func25, Tryd.ntmps25
  go_wp2_with fail
  change Code.wp _ _ _ _ ((((w.alloc (.cells (ec x) 30)).alloc (.cells (ec y) 30)).alloc (.cells (ec Fe.z) 30)).alloc (.cells ((Fe.places y 0).map (Value.int .u64)).toArray 59))
  generalize ((((w.alloc (.cells (ec x) 30)).alloc (.cells (ec y) 30)).alloc (.cells (ec Fe.z) 30)).alloc (.cells ((Fe.places y 0).map (Value.int .u64)).toArray 59)) = w3 at *
  go_loopw [12] (fun i wr => ∃ k : Nat, k ≤ 5 ∧ i = .int .i64 k ∧ Hid (Lay w x y (Fe.places y k) wr)) (fun i _ => 5 - (intOf i).toNat)
  case atStart => exact ⟨0, by omega, rfl, HL⟩
  case round =>
    clear HL
    obtain ⟨k, hk, rfl, LA⟩ := hrel
    by_cases hlt : k < 5
    · have c2 := LA.out.yy.cell k (by rw [show y.cells.length = 5 from rfl]; exact hlt)
      have c3 := LA.out.pp.cell k (by rw [show (Fe.places y k).length = 10 from rfl]; omega)
      have c4 := LA.out.pp.cell (5 + k) (by rw [show (Fe.places y k).length = 10 from rfl]; omega)
      have f3 := LA.out.pp.free k
      have f4 := LA.out.pp.free (5 + k)
      have hset := (LA.out.put k (19 * y.cells.getD k 0)).put (5 + k) (y.cells.getD k 0)
      rw [Fe.places_set y k hlt] at hset
      have HSET := Lib.hid hset
      obtain ⟨d0, d1⟩ := Fe.ok_get HY.out k hlt
      clear hset
      generalize y.cells.getD k 0 = d at *
      generalize (Fe.places y k).getD k 0 = p1 at *
      generalize (Fe.places y k).getD (5 + k) 0 = p2 at *
      go_wp2
      go_roundw
      case rel => exact ⟨k + 1, by omega, by go_num, HSET⟩
      case measure => simp [intOf]; omega
    · have hk5 : ((k : Nat) : Int) = 5 := by omega
      rw [hk5]
      clear hk5
      obtain rfl : k = 5 := by omega
      go_wp2
      have LB : Hid (Lay w x y (Fe.places y 5) (wr.alloc (.cells (ec Fe.z) 30))) := LA.out.below ((Below.refl _ _).alloc (Nat.le_refl _) _)
      have OB : Hid (Blk (wr.alloc (.cells (ec Fe.z) 30)) wr.heap.size .u64 30 (Fe.part Fe.z (Fe.outE x y) 0)) := heap_alloc_new wr _
      have hgo : w.heap.size + 1 + 1 + 1 < wr.heap.size := LA.out.pp.lt
      clear LA
      change Code.wp _ _ _ _ (wr.alloc (.cells (ec Fe.z) 30))
      generalize (wr.alloc (.cells (ec Fe.z) 30)) = w4 at *
      generalize wr.heap.size = go at *
      go_loopw [8, 28] (fun c i wq => ∃ k : Nat, k ≤ 5 ∧ i = .int .i64 k ∧ c = .int .u64 (Fe.cc x y k) ∧ Hid (Lay w x y (Fe.places y 5) wq) ∧ Hid (Blk wq go .u64 30 (Fe.part Fe.z (Fe.outE x y) k))) (fun _ i _ => 5 - (intOf i).toNat)
      case atStart => exact ⟨0, by omega, rfl, rfl, LB, OB⟩
      case round =>
        clear LB OB
        obtain ⟨k, hk, rfl, rfl, LA, OB⟩ := hrel
        by_cases hlt : k < 5
        · obtain ⟨b0, b1⟩ := Fe.cc_le HX.out HY.out k (by omega)
          have HOG := Lib.hid (Fe.outE_get x y k hlt)
          have HC1 := Lib.hid (show Fe.cc x y (k + 1) = (Fe.col x y).cells.getD k 0 / Fe.M from rfl)
          have HS5 := Lib.hid (Fe.sums_five x y k hlt)
          obtain ⟨q0, q1⟩ := Fe.col_le HX.out HY.out k hlt
          generalize Fe.cc x y k = c at *
          generalize (Fe.col x y).cells.getD k 0 = cq at *
          go_wp2
          rw [show decide ((k : Int) < 5) = true from decide_eq_true (by omega)]
          obtain ⟨wo, hwo⟩ : ∃ wo, wo = wr := ⟨_, rfl⟩
          rw [← hwo] at LA OB
          rw [← hwo]
          clear hwo
          go_loopw [31] (fun i wq => ∃ j : Nat, j ≤ 5 ∧ i = .int .i64 j ∧ Hid (wq.heap[wo.heap.size]? = some (.cells (wv (Fe.sums x y k j)) 61 (0, 0))) ∧ Hid (Below wo.heap.size wo wq)) (fun i _ => 5 - (intOf i).toNat)
          case atStart => exact ⟨0, by omega, rfl, heap_alloc_new wo _, (Below.refl _ _).alloc (Nat.le_refl _) _⟩
          case round =>
            obtain ⟨j, hj, rfl, SB, BQ⟩ := hrel
            by_cases hj5 : j < 5
            · have LQ := LA.out.below BQ.out
              have c1 := LQ.xx.cell j (by rw [show x.cells.length = 5 from rfl]; exact hj5)
              have c2 := LQ.pp.cell (5 + k - j) (by rw [show (Fe.places y 5).length = 10 from rfl]; omega)
              have s0 : wr.cell? ⟨wo.heap.size, 0, none⟩ = some (.int .u64 (Fe.sums x y k j / 18446744073709551616)) := by
                rw [cell_of_row wr wo.heap.size 0 _ 61 (0, 0) SB.out]; rfl
              have s1 : wr.cell? ⟨wo.heap.size, 1, none⟩ = some (.int .u64 (Fe.sums x y k j % 18446744073709551616)) := by
                rw [cell_of_row wr wo.heap.size 1 _ 61 (0, 0) SB.out]; rfl
              have hsl := Fe.sums_le HX.out HY.out k hlt j hj
              have htl := Fe.term_le HX.out HY.out k j hlt hj5
              have HT := Lib.hid (show Fe.sums x y k (j + 1) = Fe.sums x y k j + x.cells.getD j 0 * (Fe.places y 5).getD (5 + k - j) 0 from rfl)
              have htm : Fe.term x y k j = x.cells.getD j 0 * (Fe.places y 5).getD (5 + k - j) 0 := rfl
              obtain ⟨v0, v1⟩ := Fe.ok_get HX.out j hj5
              obtain ⟨p0, p1⟩ := Fe.place_le HY.out (5 + k - j) (by omega)
              rw [htm] at htl
              generalize Fe.sums x y k j = S at *
              generalize x.cells.getD j 0 = v at *
              generalize (Fe.places y 5).getD (5 + k - j) 0 = p at *
              have HP : Hid (∀ w1, Calls Tryd.prog 45 #[.agg #[.int .u64 (S / 18446744073709551616), .int .u64 (S % 18446744073709551616)], .int .u64 v, .int .u64 p] w1 fun e w' => e = .returned (.agg #[.int .u64 ((S + v * p) / 18446744073709551616), .int .u64 ((S + v * p) % 18446744073709551616)]) ∧ Below w1.heap.size w1 w') := fun w1 => plus_any w1 S v p hsl.1 (by unfold Fe.Wd; omega) (by unfold Fe.Wd; omega) (by omega)
              have HSB := Lib.hid SB.out
              rw [← HT.out] at HP
              generalize hS2 : Fe.sums x y k (j + 1) = S2 at *
              have hq2 : S2 / 18446744073709551616 = S2 / 18446744073709551616 := rfl
              clear htm hsl htl LQ SB HT hq2
              generalize S / 18446744073709551616 = sh at *
              generalize S % 18446744073709551616 = sl at *
              obtain ⟨th, hth⟩ : ∃ th, th = S2 / 18446744073709551616 := ⟨_, rfl⟩
              obtain ⟨tl, htl⟩ : ∃ tl, tl = S2 % 18446744073709551616 := ⟨_, rfl⟩
              rw [← hth, ← htl] at HP
              have HV := Lib.hid (show wv S2 = #[.int .u64 th, .int .u64 tl] by rw [hth, htl]; rfl)
              have HS2 := Lib.hid hS2
              clear hth htl hS2
              obtain ⟨d1, hd1⟩ : ∃ d1 : Nat, d1 = 5 + k := ⟨_, rfl⟩
              obtain ⟨d2, hd2⟩ : ∃ d2 : Nat, d2 = 5 + k - j := ⟨_, rfl⟩
              have e5 : IntKind.i64.wrap (5 + (k : Int)) = (d1 : Int) := by rw [IntKind.wrap_i64]; omega
              have e6 : IntKind.i64.wrap ((d1 : Int) - (j : Int)) = (d2 : Int) := by rw [IntKind.wrap_i64]; omega
              have e7 : (d2 : Int) < 10 := by omega
              rw [← hd2] at c2
              clear hd1 hd2
              go_wp2
              refine wp_region_still_tail 10 (by kernel_rfl) (by kernel_rfl) ?_
              simp only [List.take_succ_cons, List.take_zero, List.drop_succ_cons, List.drop_zero]
              change wpStill _ _ wr.drew (fun a' => wpList _ _ _ _ a' wr.drew) _ _
              obtain ⟨w2, hw2⟩ : ∃ w2, w2 = wr.drew := ⟨_, rfl⟩
              have c1' : w2.cell? ⟨w.heap.size, j, none⟩ = some (.int .u64 v) := by rw [hw2]; exact c1
              have c2' : w2.cell? ⟨w.heap.size + 1 + 1 + 1, d2, none⟩ = some (.int .u64 p) := by rw [hw2]; exact c2
              have s0' : w2.cell? ⟨wo.heap.size, 0, none⟩ = some (.int .u64 sh) := by rw [hw2]; exact s0
              have s1' : w2.cell? ⟨wo.heap.size, 1, none⟩ = some (.int .u64 sl) := by rw [hw2]; exact s1
              have hsb2 : w2.heap[wo.heap.size]? = some (.cells (wv S) 61 (0, 0)) := by rw [hw2]; exact HSB.out
              have HB2 : Hid (Below wo.heap.size wo w2) := by rw [hw2]; exact BQ.out.drew
              have HSB2 := Lib.hid hsb2
              rw [← hw2]
              clear hw2 c1 c2 s0 s1 HSB BQ hsb2
              repeat still_step
              refine wpStill_nil ?_
              go_wp2_with (first
                | ((with_reducible refine wpList_store_row (o := ⟨none, _, _, _, _, _⟩) rfl 61 (.tmp 10) (.tmp 44) rfl wo.heap.size #[.int .u64 th, .int .u64 tl] rfl rfl 61 _ HZ.out ?_ ?_ ?_ ?_); exact i61; exact rfl; exact (by simp [Value.oneCell']))
                | (go_at_call 45; refine (HP.out _).mono ?_; rintro e w5 ⟨rfl, hb⟩; have HB5 := Lib.hid (HB2.out.trans (hb.mono HB2.out.size)); have HZ := Lib.hid ((hb.block wo.heap.size (lt_of_block HSB2.out)).trans HSB2.out); clear hb))
              have hfin : (w5.setRow wo.heap.size #[.int .u64 th, .int .u64 tl]).heap[wo.heap.size]? = some (.cells (wv S2) 61 (0, 0)) := by
                rw [HV.out]; exact setRow_heap w5 wo.heap.size _ _ 61 _ HZ.out
              have HF := Lib.hid hfin
              have HBF := Lib.hid (below_setRow HB5.out (Nat.le_refl _) #[.int .u64 th, .int .u64 tl])
              clear hfin
              go_roundw
              case rel => exact ⟨j + 1, by omega, by go_num, by rw [HS2.out]; exact HF, HBF⟩
              case measure => simp [intOf]; omega
            · have hj5' : ((j : Nat) : Int) = 5 := by omega
              rw [hj5']
              clear hj5'
              obtain rfl : j = 5 := by omega
              have hsb := SB.out
              rw [HS5.out] at hsb
              have LQ := LA.out.below BQ.out
              have hob := OB.out.other (BQ.out.block go OB.out.lt)
              have c1 := hob.cell k (by rw [show (Fe.part Fe.z (Fe.outE x y) k).length = 5 from rfl]; exact hlt)
              have f1 := hob.free k
              have s1 : wr.cell? ⟨wo.heap.size, 1, none⟩ = some (.int .u64 (cq % 18446744073709551616)) := by
                rw [cell_of_row wr wo.heap.size 1 _ 61 (0, 0) hsb]; rfl
              have hm : bits BinOp.and IntKind.u64 (cq % 18446744073709551616) 2251799813685247 = cq % 2251799813685248 := (mask51 (cq % 18446744073709551616) (by omega) (by omega)).trans (by omega)
              have hset := hob.set k (cq % 2251799813685248 + c)
              have hps := Fe.part_set Fe.z (Fe.outE x y) k hlt
              rw [HOG.out] at hps
              rw [show cq % 2251799813685248 + c = cq % Fe.M + c from rfl, hps] at hset
              have hlt2 : go < wo.heap.size := OB.out.lt
              have hsb3 := fun v => (heap_setCell_other wr ⟨go, k, none⟩ wo.heap.size v (by simp; omega)).trans hsb
              have hla := fun v => LQ.aside go k hgo v
              have HSET := Lib.hid hset
              have HSB3 := Lib.hid hsb3
              have HLA := Lib.hid hla
              have HBY := Lib.hid (fun w1 => beyond_any w1 cq q0 (by omega))
              rw [Fe.M_eq] at HSET
              clear hset hsb3 hla LQ hob hps hsb SB OB LA BQ
              generalize (Fe.part Fe.z (Fe.outE x y) k).getD k 0 = old at *
              go_wp2_with (first
                | (go_at_call 46; refine (HBY.out _).mono ?_; rintro e w6 ⟨rfl, hb⟩; have HB6 := Lib.hid hb; clear hb)
                | ((with_reducible refine wpList_load_row (o := ⟨some 53, _, _, _, _, _⟩) rfl 61 (.tmp 10) rfl wo.heap.size rfl 61 _ (0, 0) _ (HSB3.out _) Tryd.underlying61 rfl ?_ ?_); exact i61))
              go_roundw
              case rel => exact ⟨k + 1, by omega, by go_num, by rw [HC1.out]; rfl, (HLA.out _).below HB6.out, HSET.out.other (HB6.out.block go HSET.out.lt)⟩
              case measure => simp [intOf]; omega
        · have hk5 : ((k : Nat) : Int) = 5 := by omega
          rw [hk5]
          clear hk5
          obtain rfl : k = 5 := by omega
          have hob : Blk wr go .u64 30 (Fe.outE x y).cells := OB.out
          have c1 := hob.cell 0 (by rw [show (Fe.outE x y).cells.length = 5 from rfl]; decide)
          have f1 := hob.free 0
          obtain ⟨b0, b1⟩ := Fe.cc_le HX.out HY.out 5 (Nat.le_refl _)
          have hcl := Fe.cc_le HX.out HY.out 0 (by omega)
          have hol : 0 ≤ (Fe.outE x y).a ∧ (Fe.outE x y).a ≤ 2251799813685248 := by
            show 0 ≤ (Fe.col x y).a % 2251799813685248 + 0 ∧ (Fe.col x y).a % 2251799813685248 + 0 ≤ 2251799813685248
            omega
          obtain ⟨o0, o1⟩ := hol
          have hset := hob.set 0 ((Fe.outE x y).a + 19 * Fe.cc x y 5)
          rw [Fe.outE_last] at hset
          rw [show (Fe.outE x y).cells.getD 0 0 = (Fe.outE x y).a from rfl] at c1
          have hla := fun v => LA.out.aside go 0 hgo v
          have HSET := Lib.hid hset
          have HLA := Lib.hid hla
          have hc := Lib.hid (fun w1 => carried_ev w1 (Fe.carry (Fe.col x y)) (Fe.col_wide HX.out HY.out))
          have hsz : w.heap.size + 1 + 1 < wr.heap.size := lt_of_block LA.out.zz
          clear hset hla hob OB LA hcl
          generalize (Fe.outE x y).a = oa at *
          generalize Fe.cc x y 5 = c5 at *
          have hbl := Lib.hid (show (wr.setCell ⟨go, 0, none⟩ (.int .u64 (oa + 19 * c5))).heap[go]? = some (.cells (ec (Fe.carry (Fe.col x y))) 30 (0, 0)) from HSET.out)
          have hsz2 : w.heap.size + 1 + 1 < (wr.setCell ⟨go, 0, none⟩ (.int .u64 (oa + 19 * c5))).heap.size := lt_of_block (HLA.out (.int .u64 (oa + 19 * c5))).zz
          have HLB := Lib.hid (HLA.out (.int .u64 (oa + 19 * c5)))
          clear HSET HLA
          go_wp2_with (first
            | ((with_reducible refine wpList_store_row (o := ⟨none, _, _, _, _, _⟩) rfl 30 (.tmp 4) (.tmp 63) rfl (w.heap.size + 1 + 1) (ec (Fe.carry (Fe.carry (Fe.col x y)))) rfl rfl 30 _ HZ.out ?_ ?_ ?_ ?_); exact i30; exact rfl; exact ec_one _)
            | (go_at_call 40; refine (hc.out _).mono ?_; rintro e w5 ⟨rfl, hb⟩; have HB5 := Lib.hid (HLB.out.bb.trans (hb.mono HLB.out.bb.size)); have HZ := Lib.hid ((hb.block _ hsz2).trans HLB.out.zz); clear hb)
            | ((with_reducible refine wpList_load_row (o := ⟨some 62, _, _, _, _, _⟩) rfl 30 (.tmp 7) rfl go rfl 30 _ (0, 0) _ hbl.out Tryd.underlying30 rfl ?_ ?_); exact i30))
          exact bodyPost_ret (results_cell_row Tryd.results25 _ _ (w.heap.size + 1 + 1) 30 _ (0, 0) _ rfl (setRow_heap w5 (w.heap.size + 1 + 1) _ (ec (Fe.carry (Fe.carry (Fe.col x y)))) 30 _ HZ.out) Tryd.underlying30 rfl i30) rfl ⟨rfl, below_setRow HB5.out (by omega) _⟩
end Go.Proofs.YtgebangnhgmmoaaDoor

/- Arithmetic modulo 2^255 - 19: squares; the least form. -/
namespace Go.Proofs.YtgebangnhgmmoaaDoor
open Go.RowKit

set_option maxRecDepth 100000 in
set_option maxHeartbeats 400000 in
theorem square_any (w : World) (x : Fe.E) (hx : Fe.Ok x) :
    Calls Tryd.prog 27 #[.agg (ec x)] w fun e w' => e = .returned (.agg (ec (Fe.mul x x))) ∧ Below w.heap.size w w' := by
  have h1 := heap_alloc2_old w (.cells (ec x) 30) (.cells #[.int .u64 0, .int .u64 0, .int .u64 0, .int .u64 0, .int .u64 0] 30)
  have h2 := heap_alloc2_new w (.cells (ec x) 30) (.cells #[.int .u64 0, .int .u64 0, .int .u64 0, .int .u64 0, .int .u64 0] 30)
  have h3 : Below w.heap.size w ((w.alloc (.cells (ec x) 30)).alloc (.cells #[.int .u64 0, .int .u64 0, .int .u64 0, .int .u64 0, .int .u64 0] 30)) := ((Below.refl _ _).alloc (Nat.le_refl _) _).alloc (by simp) _
  have hsz : w.heap.size + 1 < ((w.alloc (.cells (ec x) 30)).alloc (.cells #[.int .u64 0, .int .u64 0, .int .u64 0, .int .u64 0, .int .u64 0] 30)).heap.size := lt_of_block h2
  have HS := Lib.hid (mul_any ((w.alloc (.cells (ec x) 30)).alloc (.cells #[.int .u64 0, .int .u64 0, .int .u64 0, .int .u64 0, .int .u64 0] 30)) x x hx hx)
  have HB := Lib.hid h3
  have H2 := Lib.hid h2
  clear hx h3 h2
  go_enter Tryd.func27, Tryd.ntmps27
  go_wp2_with (first
    | ((with_reducible refine wpList_store_row (o := ⟨none, _, _, _, _, _⟩) rfl 30 (.tmp 2) (.tmp 5) rfl (w.heap.size + 1) (ec (Fe.mul x x)) rfl rfl 30 _ HZ.out ?_ ?_ ?_ ?_); exact i30; exact rfl; exact ec_one _)
    | (go_at_call 25; refine HS.out.mono ?_; rintro e w5 ⟨rfl, hb⟩; have HB5 := Lib.hid (HB.out.trans (hb.mono HB.out.size)); have HZ := Lib.hid ((hb.block _ hsz).trans H2.out); clear hb)
    | ((with_reducible refine wpList_load_row (o := ⟨some 3, _, _, _, _, _⟩) rfl 30 (.tmp 1) rfl w.heap.size rfl 30 _ (0, 0) _ h1 Tryd.underlying30 rfl ?_ ?_); exact i30)
    | ((with_reducible refine wpList_load_row (o := ⟨some 4, _, _, _, _, _⟩) rfl 30 (.tmp 1) rfl w.heap.size rfl 30 _ (0, 0) _ h1 Tryd.underlying30 rfl ?_ ?_); exact i30))
  exact bodyPost_ret (results_cell_row Tryd.results27 _ _ (w.heap.size + 1) 30 _ (0, 0) _ rfl (setRow_heap w5 (w.heap.size + 1) _ (ec (Fe.mul x x)) 30 _ HZ.out) Tryd.underlying30 rfl i30) rfl ⟨rfl, below_setRow HB5.out (by omega) _⟩

namespace Fe
/-- What reaches 2^255 when 19 is added. -/
def reach (x : E) : Nat → Int
  | 0 => 19
  | k + 1 => (x.cells.getD k 0 + reach x k) / M
/-- What is handed on when 19 is added, or nothing. -/
def ride (x : E) : Nat → Int
  | 0 => reach x 5 * 19
  | k + 1 => (x.cells.getD k 0 + ride x k) / M
def least (x : E) : E := ⟨(x.a + ride x 0) % M, (x.b + ride x 1) % M, (x.c + ride x 2) % M, (x.d + ride x 3) % M, (x.e + ride x 4) % M⟩
theorem reach_le {x : E} (h : Ok x) : (∀ k, k ≤ 5 → 0 ≤ reach x k ∧ reach x k ≤ 19) ∧ 0 ≤ reach x 5 ∧ reach x 5 ≤ 1 := by
  unfold Ok Pt at h
  have h0 : reach x 0 = 19 := rfl
  have h1 : reach x 1 = (x.a + reach x 0) / 2251799813685248 := rfl
  have h2 : reach x 2 = (x.b + reach x 1) / 2251799813685248 := rfl
  have h3 : reach x 3 = (x.c + reach x 2) / 2251799813685248 := rfl
  have h4 : reach x 4 = (x.d + reach x 3) / 2251799813685248 := rfl
  have h5 : reach x 5 = (x.e + reach x 4) / 2251799813685248 := rfl
  refine ⟨fun k hk => ?_, by omega, by omega⟩
  match k, hk with
  | 0, _ => omega
  | 1, _ => omega
  | 2, _ => omega
  | 3, _ => omega
  | 4, _ => omega
  | 5, _ => omega
theorem ride_le {x : E} (h : Ok x) : ∀ k, k ≤ 5 → 0 ≤ ride x k ∧ ride x k ≤ 19 := by
  have hr := (reach_le h).2
  unfold Ok Pt at h
  have h0 : ride x 0 = reach x 5 * 19 := rfl
  have h1 : ride x 1 = (x.a + ride x 0) / 2251799813685248 := rfl
  have h2 : ride x 2 = (x.b + ride x 1) / 2251799813685248 := rfl
  have h3 : ride x 3 = (x.c + ride x 2) / 2251799813685248 := rfl
  have h4 : ride x 4 = (x.d + ride x 3) / 2251799813685248 := rfl
  have h5 : ride x 5 = (x.e + ride x 4) / 2251799813685248 := rfl
  intro k hk
  match k, hk with
  | 0, _ => omega
  | 1, _ => omega
  | 2, _ => omega
  | 3, _ => omega
  | 4, _ => omega
  | 5, _ => omega
/-- The least form: from 0 to P - 1, each part in its bits. -/
theorem least_val {x : E} (h : Ok x) : val (least x) = val x % P ∧ 0 ≤ val (least x) ∧ val (least x) < P := by
  have hr := (reach_le h).2
  unfold Ok Pt at h
  have h0 : reach x 0 = 19 := rfl
  have h1 : reach x 1 = (x.a + reach x 0) / 2251799813685248 := rfl
  have h2 : reach x 2 = (x.b + reach x 1) / 2251799813685248 := rfl
  have h3 : reach x 3 = (x.c + reach x 2) / 2251799813685248 := rfl
  have h4 : reach x 4 = (x.d + reach x 3) / 2251799813685248 := rfl
  have h5 : reach x 5 = (x.e + reach x 4) / 2251799813685248 := rfl
  have g0 : ride x 0 = reach x 5 * 19 := rfl
  have g1 : ride x 1 = (x.a + ride x 0) / 2251799813685248 := rfl
  have g2 : ride x 2 = (x.b + ride x 1) / 2251799813685248 := rfl
  have g3 : ride x 3 = (x.c + ride x 2) / 2251799813685248 := rfl
  have g4 : ride x 4 = (x.d + ride x 3) / 2251799813685248 := rfl
  have g5 : ride x 5 = (x.e + ride x 4) / 2251799813685248 := rfl
  have hv : val x = x.a + 2251799813685248 * (x.b + 2251799813685248 * (x.c + 2251799813685248 * (x.d + 2251799813685248 * x.e))) := rfl
  have hl : val (least x) = (x.a + ride x 0) % 2251799813685248 + 2251799813685248 * ((x.b + ride x 1) % 2251799813685248 + 2251799813685248 * ((x.c + ride x 2) % 2251799813685248 + 2251799813685248 * ((x.d + ride x 3) % 2251799813685248 + 2251799813685248 * ((x.e + ride x 4) % 2251799813685248)))) := rfl
  rw [show P = 57896044618658097711785492504343953926634992332820282019728792003956564819949 from rfl]
  have hq : reach x 5 = 0 ∨ reach x 5 = 1 := by omega
  have e : val (least x) = val x - 57896044618658097711785492504343953926634992332820282019728792003956564819949 * reach x 5 ∧ 0 ≤ val (least x) ∧ val (least x) < 57896044618658097711785492504343953926634992332820282019728792003956564819949 := by
    rcases hq with hq | hq <;> omega
  obtain ⟨e1, e2, e3⟩ := e
  refine ⟨?_, e2, e3⟩
  omega
end Fe
end Go.Proofs.YtgebangnhgmmoaaDoor

/- Arithmetic modulo 2^255 - 19, the walks: the least form; are two numbers one, is one nought, is it odd? -/
namespace Go.Proofs.YtgebangnhgmmoaaDoor
open Go.RowKit

namespace Fe
theorem least_get (x : E) (k : Nat) (h : k < 5) : (least x).cells.getD k 0 = (x.cells.getD k 0 + ride x k) % M := by
  match k, h with
  | 0, _ => rfl
  | 1, _ => rfl
  | 2, _ => rfl
  | 3, _ => rfl
  | 4, _ => rfl
end Fe

set_option maxRecDepth 100000 in
set_option maxHeartbeats 1000000 in
theorem least_any (w : World) (x : Fe.E) (hx : Fe.Ok x) :
    Calls Tryd.prog 39 #[.agg (ec x)] w fun e w' => e = .returned (.agg (ec (Fe.least x))) ∧ Below w.heap.size w w' := by
  have HX := Lib.hid hx
  have h1 := heap_alloc2_old w (.cells (ec x) 30) (.cells (ec Fe.z) 30)
  have h2 := heap_alloc2_new w (.cells (ec x) 30) (.cells (ec Fe.z) 30)
  have h3 : Below w.heap.size w ((w.alloc (.cells (ec x) 30)).alloc (.cells (ec Fe.z) 30)) := ((Below.refl _ _).alloc (Nat.le_refl _) _).alloc (by simp) _
  have H1 := Lib.hid (show Blk ((w.alloc (.cells (ec x) 30)).alloc (.cells (ec Fe.z) 30)) w.heap.size .u64 30 x.cells from h1)
  have H2 := Lib.hid h2
  have H3 := Lib.hid h3
  clear h1 h2 h3 hx
  go_enter Tryd.func39, Tryd.ntmps39
  go_wp2_with fail
  change Code.wp _ _ _ _ ((w.alloc (.cells (ec x) 30)).alloc (.cells (ec Fe.z) 30))
  generalize ((w.alloc (.cells (ec x) 30)).alloc (.cells (ec Fe.z) 30)) = w3 at *
  go_loop [3, 7] (fun c i => ∃ k : Nat, k ≤ 5 ∧ i = .int .i64 k ∧ c = .int .u64 (Fe.reach x k)) (fun _ i => 5 - (intOf i).toNat)
  case atStart => exact ⟨0, by omega, rfl, rfl⟩
  case round =>
    obtain ⟨k, hk, rfl, rfl⟩ := hrel
    by_cases hlt : k < 5
    · have c1 := H1.out.cell k (by rw [show x.cells.length = 5 from rfl]; exact hlt)
      obtain ⟨v0, v1⟩ := Fe.ok_get HX.out k hlt
      obtain ⟨d0, d1⟩ := (Fe.reach_le HX.out).1 k hk
      have HR := Lib.hid (show Fe.reach x (k + 1) = (x.cells.getD k 0 + Fe.reach x k) / 2251799813685248 from rfl)
      generalize x.cells.getD k 0 = v at *
      generalize Fe.reach x k = d at *
      go_wp2
      go_round
      case rel => exact ⟨k + 1, by omega, by go_num, by rw [HR.out]⟩
      case measure => simp [intOf]; omega
    · have hk5 : ((k : Nat) : Int) = 5 := by omega
      rw [hk5]
      clear hk5
      obtain rfl : k = 5 := by omega
      obtain ⟨d0, d1⟩ := (Fe.reach_le HX.out).2
      have HR0 := Lib.hid (show Fe.ride x 0 = Fe.reach x 5 * 19 from rfl)
      generalize Fe.reach x 5 = d at *
      go_wp2
      obtain ⟨wo, hwo⟩ : ∃ wo, wo = w3 := ⟨_, rfl⟩
      rw [← hwo] at H1 H2 H3
      rw [← hwo]
      clear hwo
      go_loopw [3, 19] (fun c i wr => ∃ k : Nat, k ≤ 5 ∧ i = .int .i64 k ∧ c = .int .u64 (Fe.ride x k) ∧ Hid (Blk wr w.heap.size .u64 30 (Fe.part x (Fe.least x) k)) ∧ Hid (wr.heap[w.heap.size + 1]? = some (.cells (ec Fe.z) 30 (0, 0))) ∧ Hid (Below w.heap.size w wr)) (fun _ i _ => 5 - (intOf i).toNat)
      case atStart => exact ⟨0, by omega, rfl, by rw [HR0.out], H1, H2, H3⟩
      case round =>
        clear H1 H2 H3
        obtain ⟨k, hk, rfl, rfl, BL, ZB, BW⟩ := hrel
        by_cases hlt : k < 5
        · have c1 := BL.out.cell k (by rw [show (Fe.part x (Fe.least x) k).length = 5 from rfl]; exact hlt)
          have f1 := BL.out.free k
          rw [Fe.part_get x _ k hlt] at c1
          have hset := BL.out.set k ((Fe.least x).cells.getD k 0)
          rw [Fe.part_set x _ k hlt, Fe.least_get x k hlt, Fe.M_eq] at hset
          have hoth := fun v => heap_setCell_other wr ⟨w.heap.size, k, none⟩ (w.heap.size + 1) v (by simp)
          have HSET := Lib.hid hset
          have HOTH := Lib.hid hoth
          obtain ⟨v0, v1⟩ := Fe.ok_get HX.out k hlt
          obtain ⟨d0, d1⟩ := Fe.ride_le HX.out k hk
          have HR := Lib.hid (show Fe.ride x (k + 1) = (x.cells.getD k 0 + Fe.ride x k) / 2251799813685248 from rfl)
          clear hset hoth
          generalize x.cells.getD k 0 = v at *
          generalize Fe.ride x k = d at *
          have hm := mask51 (v + d) (by omega) (by omega)
          go_wp2
          go_roundw
          case rel => exact ⟨k + 1, by omega, by go_num, by rw [HR.out], HSET.out, (HOTH.out _).trans ZB.out, (BW.out.setCell (Nat.le_refl _) _)⟩
          case measure => simp [intOf]; omega
        · have hk5 : ((k : Nat) : Int) = 5 := by omega
          rw [hk5]
          clear hk5
          obtain rfl : k = 5 := by omega
          have h1 : wr.heap[w.heap.size]? = some (.cells (ec (Fe.least x)) 30 (0, 0)) := BL.out
          have h2 := ZB.out
          go_wp2_with (first
            | ((with_reducible refine wpList_load_row (o := ⟨some 34, _, _, _, _, _⟩) rfl 30 (.tmp 1) rfl w.heap.size rfl 30 _ (0, 0) _ h1 Tryd.underlying30 rfl ?_ ?_); exact i30)
            | ((with_reducible refine wpList_store_row (o := ⟨none, _, _, _, _, _⟩) rfl 30 (.tmp 2) (.tmp 34) rfl (w.heap.size + 1) (ec (Fe.least x)) rfl rfl 30 _ h2 ?_ ?_ ?_ ?_); exact i30; exact rfl; exact ec_one _))
          exact bodyPost_ret (results_cell_row Tryd.results39 _ _ (w.heap.size + 1) 30 _ (0, 0) _ rfl (setRow_heap wr (w.heap.size + 1) _ (ec (Fe.least x)) 30 _ h2) Tryd.underlying30 rfl i30) rfl ⟨rfl, below_setRow BW.out (by omega) _⟩
end Go.Proofs.YtgebangnhgmmoaaDoor

/- Arithmetic modulo 2^255 - 19, the walks: is a number odd? -/
namespace Go.Proofs.YtgebangnhgmmoaaDoor
open Go.RowKit

theorem and1 (v : Int) (h0 : 0 ≤ v) (h1 : v ≤ 18446744073709551615) : bits BinOp.and IntKind.u64 v 1 = v % 2 := by
  obtain ⟨n, rfl⟩ := Int.eq_ofNat_of_zero_le h0
  have h := u64_and_nat n 1 (by omega) (by decide)
  rw [nat_mask1, Int.natCast_emod] at h
  exact h
theorem Fe.least_part {x : Fe.E} : 0 ≤ (Fe.least x).a ∧ (Fe.least x).a ≤ 2251799813685247 := by
  show 0 ≤ (x.a + Fe.ride x 0) % 2251799813685248 ∧ (x.a + Fe.ride x 0) % 2251799813685248 ≤ 2251799813685247
  omega
theorem index30 (x : Fe.E) (w : World) : (Instr.index 30 (.agg (ec x)) (.int .i64 0)).run Tryd.prog w = .ok (.int .u64 x.a) w := by kernel_rfl

set_option maxRecDepth 100000 in
set_option maxHeartbeats 400000 in
theorem odd_any (w : World) (x : Fe.E) (hx : Fe.Ok x) :
    Calls Tryd.prog 15 #[.agg (ec x)] w fun e w' => e = .returned (.bool (decide ((Fe.least x).a % 2 = 1))) ∧ Below w.heap.size w w' := by
  have h1 := heap_alloc_new w (.cells (ec x) 30)
  have h3 : Below w.heap.size w (w.alloc (.cells (ec x) 30)) := (Below.refl _ _).alloc (Nat.le_refl _) _
  have HS := Lib.hid (least_any (w.alloc (.cells (ec x) 30)) x hx)
  have HB := Lib.hid h3
  have hix := index30 (Fe.least x)
  obtain ⟨v0, v1⟩ := Fe.least_part (x := x)
  have hm := and1 (Fe.least x).a v0 (by omega)
  clear hx h3
  generalize (Fe.least x).a = v at *
  generalize ec (Fe.least x) = lx at *
  go_enter Tryd.func15, Tryd.ntmps15
  go_wp2_with (first
    | (go_at_call 39; refine HS.out.mono ?_; rintro e w5 ⟨rfl, hb⟩; have HB5 := Lib.hid (HB.out.trans (hb.mono HB.out.size)); clear hb)
    | ((with_reducible refine wpList_load_row (o := ⟨some 3, _, _, _, _, _⟩) rfl 30 (.tmp 1) rfl w.heap.size rfl 30 _ (0, 0) _ h1 Tryd.underlying30 rfl ?_ ?_); exact i30))
  go_ret
  exact ⟨rfl, HB5.out⟩
end Go.Proofs.YtgebangnhgmmoaaDoor
