/- The walks of plus and carried. -/
import Derived.Test.YticoefnojgaplaaF
namespace Go.Proofs.Yticoefnojgaplaa
open Go.RowKit

namespace Po
/-- As far as it has come. -/
def part (x s : E) (k : Nat) : List Int := [if 0 < k then s.a else x.a, if 1 < k then s.b else x.b, if 2 < k then s.c else x.c, if 3 < k then s.d else x.d, if 4 < k then s.e else x.e]
theorem part_get (x s : E) (k : Nat) (h : k < 5) : (part x s k).getD k 0 = x.cells.getD k 0 := by
  match k, h with
  | 0, _ => rfl
  | 1, _ => rfl
  | 2, _ => rfl
  | 3, _ => rfl
  | 4, _ => rfl
theorem part_set (x s : E) (k : Nat) (h : k < 5) : (part x s k).set k (s.cells.getD k 0) = part x s (k + 1) := by
  match k, h with
  | 0, _ => rfl
  | 1, _ => rfl
  | 2, _ => rfl
  | 3, _ => rfl
  | 4, _ => rfl
theorem plus_get (x y : E) (k : Nat) (h : k < 5) : (plus x y).cells.getD k 0 = x.cells.getD k 0 + y.cells.getD k 0 := by
  match k, h with
  | 0, _ => rfl
  | 1, _ => rfl
  | 2, _ => rfl
  | 3, _ => rfl
  | 4, _ => rfl
theorem rest_get (x : E) (k : Nat) (h : k < 5) : (rest x).cells.getD k 0 = (x.cells.getD k 0 + cc x k) % 67108864 := by
  match k, h with
  | 0, _ => rfl
  | 1, _ => rfl
  | 2, _ => rfl
  | 3, _ => rfl
  | 4, _ => rfl
end Po

set_option maxRecDepth 100000 in
set_option maxHeartbeats 400000 in
theorem plus_any (w : World) (x y : Po.E) (hx : Po.Le 9223372036854775807 x) (hy : Po.Le 9223372036854775807 y) :
    Calls Try.prog 26 #[.agg (ec x), .agg (ec y)] w fun e w' => e = .returned (.agg (ec (Po.plus x y))) ∧ Below w.heap.size w w' := by
  have HX := Lib.hid hx
  have HY := Lib.hid hy
  obtain ⟨⟨h1, h2, h3⟩, h4⟩ := heap_alloc3 w (.cells (ec x) 48) (.cells (ec y) 48) (.cells (ec Po.z) 48)
  have H1 := Lib.hid h1
  have H2 := Lib.hid h2
  have H3 := Lib.hid h3
  have H4 := Lib.hid h4
  clear h1 h2 h3 h4 hx hy
  go_enter Try.func26, Try.ntmps26
  go_wp2_with fail
  change Code.wp _ _ _ _ (((w.alloc (.cells (ec x) 48)).alloc (.cells (ec y) 48)).alloc (.cells (ec Po.z) 48))
  generalize (((w.alloc (.cells (ec x) 48)).alloc (.cells (ec y) 48)).alloc (.cells (ec Po.z) 48)) = w3 at *
  go_loopw [6] (fun i wr => ∃ k : Nat, k ≤ 5 ∧ i = .int .i64 k ∧ Hid (Blk wr w.heap.size .u64 48 (Po.part x (Po.plus x y) k)) ∧ Hid (wr.heap[w.heap.size + 1]? = some (.cells (ec y) 48 (0, 0))) ∧ Hid (wr.heap[w.heap.size + 1 + 1]? = some (.cells (ec Po.z) 48 (0, 0))) ∧ Hid (Below w.heap.size w wr)) (fun i _ => 5 - (intOf i).toNat)
  case atStart => exact ⟨0, by omega, rfl, H1, H2, H3, H4⟩
  case round =>
    clear H1 H2 H3 H4
    obtain ⟨k, hk, rfl, BL, YB, ZB, BW⟩ := hrel
    by_cases hlt : k < 5
    · have c1 := BL.out.cell k (by rw [show (Po.part x (Po.plus x y) k).length = 5 from rfl]; exact hlt)
      have f1 := BL.out.free k
      rw [Po.part_get x _ k hlt] at c1
      have hyb : Blk wr (w.heap.size + 1) .u64 48 y.cells := YB.out
      have c2 := hyb.cell k (by rw [show y.cells.length = 5 from rfl]; exact hlt)
      have hset := BL.out.set k ((Po.plus x y).cells.getD k 0)
      rw [Po.part_set x _ k hlt, Po.plus_get x y k hlt] at hset
      have hoth := fun v => heap_setCell_other wr ⟨w.heap.size, k, none⟩ (w.heap.size + 1) v (by simp)
      have hoth2 := fun v => heap_setCell_other wr ⟨w.heap.size, k, none⟩ (w.heap.size + 1 + 1) v (by simp; omega)
      have HSET := Lib.hid hset
      have HOTH := Lib.hid hoth
      have HOTH2 := Lib.hid hoth2
      obtain ⟨v0, v1⟩ := HX.out.get k hlt
      obtain ⟨d0, d1⟩ := HY.out.get k hlt
      clear hset hoth hoth2 hyb
      generalize x.cells.getD k 0 = v at *
      generalize y.cells.getD k 0 = d at *
      go_wp2
      go_region
      all_goals go_wp2
      all_goals go_roundw
      case rel => exact ⟨k + 1, by omega, by go_num, HSET.out, (HOTH.out _).trans YB.out, (HOTH2.out _).trans ZB.out, (BW.out.setCell (Nat.le_refl _) _).drew⟩
      case measure => simp [intOf]; omega
    · have hk5 : ((k : Nat) : Int) = 5 := by omega
      rw [hk5]
      clear hk5
      obtain rfl : k = 5 := by omega
      have h1 : wr.heap[w.heap.size]? = some (.cells (ec (Po.plus x y)) 48 (0, 0)) := BL.out
      have h2 := ZB.out
      clear BL YB
      go_wp2_with (first
        | ((with_reducible refine wpList_load_row (o := ⟨some 18, _, _, _, _, _⟩) rfl 48 (.tmp 2) rfl w.heap.size rfl 48 _ (0, 0) _ h1 Try.underlying48 rfl ?_ ?_); exact i48)
        | ((with_reducible refine wpList_store_row (o := ⟨none, _, _, _, _, _⟩) rfl 48 (.tmp 4) (.tmp 18) rfl (w.heap.size + 1 + 1) (ec (Po.plus x y)) rfl rfl 48 _ h2 ?_ ?_ ?_ ?_); exact i48; exact rfl; exact ec_one _))
      exact bodyPost_ret (results_cell_row Try.results26 _ _ (w.heap.size + 1 + 1) 48 _ (0, 0) _ rfl (setRow_heap wr (w.heap.size + 1 + 1) _ (ec (Po.plus x y)) 48 _ h2) Try.underlying48 rfl i48) rfl ⟨rfl, below_setRow BW.out (by omega) _⟩

theorem results_row_tmp {fn : Func} {p u : Tmp} (h : fn.results = #[.cell p 48, .tmp u]) (tmps : Array Value) (w : World) (g : Nat) (y : Po.E) (hp : tmps.getD p undef = .pointer (some ⟨g, 0, none⟩)) (hg : w.heap[g]? = some (.cells (ec y) 48 (0, 0))) :
    (results fn tmps).run Try.prog w = .ok (.tuple #[.agg (ec y), tmps.getD u undef]) w := by
  rw [results_cell_tmp h, hp]
  have := run_loadVar_row (P := Try.prog) w g 48 48 (ec y) (0, 0) _ hg Try.underlying48 rfl i48
  simp [asAddr, this]

set_option maxRecDepth 100000 in
set_option maxHeartbeats 400000 in
theorem carried_any (w : World) (x : Po.E) (hx : Po.Le 9223372036854775807 x) :
    Calls Try.prog 41 #[.agg (ec x)] w fun e w' => e = .returned (.tuple #[.agg (ec (Po.rest x)), .int .u64 (Po.beyond x)]) ∧ Below w.heap.size w w' := by
  have HX := Lib.hid hx
  have h1 := heap_alloc2_old w (.cells (ec x) 48) (.cells (ec Po.z) 48)
  have h2 := heap_alloc2_new w (.cells (ec x) 48) (.cells (ec Po.z) 48)
  have h3 : Below w.heap.size w ((w.alloc (.cells (ec x) 48)).alloc (.cells (ec Po.z) 48)) := ((Below.refl _ _).alloc (Nat.le_refl _) _).alloc (by simp) _
  have H1 := Lib.hid h1
  have H2 := Lib.hid h2
  have H3 := Lib.hid h3
  clear h1 h2 h3 hx
  go_enter Try.func41, Try.ntmps41
  go_wp2_with fail
  change Code.wp _ _ _ _ ((w.alloc (.cells (ec x) 48)).alloc (.cells (ec Po.z) 48))
  generalize ((w.alloc (.cells (ec x) 48)).alloc (.cells (ec Po.z) 48)) = w3 at *
  go_loopw [4, 7] (fun c i wr => ∃ k : Nat, k ≤ 5 ∧ i = .int .i64 k ∧ c = .int .u64 (Po.cc x k) ∧ Hid (Blk wr w.heap.size .u64 48 (Po.part x (Po.rest x) k)) ∧ Hid (wr.heap[w.heap.size + 1]? = some (.cells (ec Po.z) 48 (0, 0))) ∧ Hid (Below w.heap.size w wr)) (fun _ i _ => 5 - (intOf i).toNat)
  case atStart => exact ⟨0, by omega, rfl, rfl, H1, H2, H3⟩
  case round =>
    clear H1 H2 H3
    obtain ⟨k, hk, rfl, rfl, BL, ZB, BW⟩ := hrel
    by_cases hlt : k < 5
    · have c1 := BL.out.cell k (by rw [show (Po.part x (Po.rest x) k).length = 5 from rfl]; exact hlt)
      have f1 := BL.out.free k
      rw [Po.part_get x _ k hlt] at c1
      have hset := BL.out.set k ((Po.rest x).cells.getD k 0)
      rw [Po.part_set x _ k hlt, Po.rest_get x k hlt] at hset
      have hoth := fun v => heap_setCell_other wr ⟨w.heap.size, k, none⟩ (w.heap.size + 1) v (by simp)
      have HSET := Lib.hid hset
      have HOTH := Lib.hid hoth
      obtain ⟨v0, v1⟩ := HX.out.get k hlt
      obtain ⟨d0, d1⟩ := Po.cc_le HX.out (Int.le_refl _) k hk
      have HC : Hid (Po.cc x (k + 1) = (x.cells.getD k 0 + Po.cc x k) / 67108864) := rfl
      clear hset hoth
      generalize x.cells.getD k 0 = v at *
      generalize Po.cc x k = d at *
      have hm := mask26 (v + d) (by omega) (by omega)
      go_wp2
      go_roundw
      case rel => exact ⟨k + 1, by omega, by go_num, by rw [HC.out], HSET.out, (HOTH.out _).trans ZB.out, BW.out.setCell (Nat.le_refl _) _⟩
      case measure => simp [intOf]; omega
    · have hk5 : ((k : Nat) : Int) = 5 := by omega
      rw [hk5]
      clear hk5
      obtain rfl : k = 5 := by omega
      have h1 : wr.heap[w.heap.size]? = some (.cells (ec (Po.rest x)) 48 (0, 0)) := BL.out
      have h2 := ZB.out
      clear BL
      go_wp2_with (first
        | ((with_reducible refine wpList_load_row (o := ⟨some 22, _, _, _, _, _⟩) rfl 48 (.tmp 1) rfl w.heap.size rfl 48 _ (0, 0) _ h1 Try.underlying48 rfl ?_ ?_); exact i48)
        | ((with_reducible refine wpList_store_row (o := ⟨none, _, _, _, _, _⟩) rfl 48 (.tmp 2) (.tmp 22) rfl (w.heap.size + 1) (ec (Po.rest x)) rfl rfl 48 _ h2 ?_ ?_ ?_ ?_); exact i48; exact rfl; exact ec_one _))
      exact bodyPost_ret (results_row_tmp Try.results41 _ _ (w.heap.size + 1) (Po.rest x) rfl (setRow_heap wr (w.heap.size + 1) _ (ec (Po.rest x)) 48 _ h2)) rfl ⟨rfl, below_setRow BW.out (by omega) _⟩
end Go.Proofs.Yticoefnojgaplaa
