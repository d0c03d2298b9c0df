/- The walks of times and least. -/
import Derived.Test.YticoefnojgaplaaG
namespace Go.Proofs.Yticoefnojgaplaa
open Go.RowKit

namespace Po
def prod (x y : E) (i k : Nat) : Int := if 5 ≤ i + k then x.cells.getD i 0 * y.cells.getD k 0 * 5 else x.cells.getD i 0 * y.cells.getD k 0
def inner (x y : E) (o : List Int) (i : Nat) : Nat → List Int
  | 0 => o
  | k + 1 => (inner x y o i k).set ((i + k) % 5) ((inner x y o i k).getD ((i + k) % 5) 0 + prod x y i k)
def outer (x y : E) : Nat → List Int
  | 0 => [0, 0, 0, 0, 0]
  | i + 1 => inner x y (outer x y i) i 5
theorem inner_length (x y : E) (o : List Int) (i : Nat) : ∀ k, (inner x y o i k).length = o.length
  | 0 => rfl
  | k + 1 => by rw [inner, List.length_set, inner_length x y o i k]
theorem outer_length (x y : E) : ∀ i, (outer x y i).length = 5
  | 0 => rfl
  | i + 1 => by rw [outer, inner_length, outer_length x y i]
theorem outer_five (x y : E) : outer x y 5 = (col x y).cells := by
  obtain ⟨a, b, c, d, e⟩ := x
  obtain ⟨f, g, h, i, j⟩ := y
  simp [outer, inner, prod, E.cells, col]
  refine ⟨?_, ?_, ?_, ?_⟩ <;> grind
/-- Bounds. -/
def Bd (o : List Int) (n : Int) : Prop := ∀ j, 0 ≤ o.getD j 0 ∧ o.getD j 0 ≤ n * 45387839994593280
theorem prod_le {x y : E} (hx : Le 135266304 x) (hy : Le 67108863 y) (i k : Nat) (hi : i < 5) (hk : k < 5) : 0 ≤ prod x y i k ∧ prod x y i k ≤ 45387839994593280 := by
  obtain ⟨a0, a1⟩ := hx.get i hi
  obtain ⟨b0, b1⟩ := hy.get k hk
  have h := part_mul a0 a1 b0 b1
  unfold prod
  split <;> omega
theorem Bd.set {o : List Int} {n p : Int} (h : Bd o n) (h0 : 0 ≤ p) (h1 : p ≤ 45387839994593280) (j : Nat) : Bd (o.set j (o.getD j 0 + p)) (n + 1) := by
  intro i
  have hj := h j
  have hi := h i
  rw [List.getD_eq_getElem?_getD, List.getElem?_set]
  split
  · split
    · simp only [Option.getD_some]; omega
    · simp only [Option.getD_none]; omega
  · rw [← List.getD_eq_getElem?_getD]; omega
theorem inner_bd {x y : E} (hx : Le 135266304 x) (hy : Le 67108863 y) {o : List Int} {n : Int} (h : Bd o n) (i : Nat) (hi : i < 5) : ∀ k : Nat, k ≤ 5 → Bd (inner x y o i k) (n + k)
  | 0, _ => by simpa [inner] using h
  | k + 1, hk => by
    have ih := inner_bd hx hy h i hi k (by omega)
    obtain ⟨p0, p1⟩ := prod_le hx hy i k hi (by omega)
    have := ih.set p0 p1 ((i + k) % 5)
    rw [inner]
    rwa [show n + ((k + 1 : Nat) : Int) = n + (k : Int) + 1 by omega]
theorem outer_bd {x y : E} (hx : Le 135266304 x) (hy : Le 67108863 y) : ∀ i : Nat, i ≤ 5 → Bd (outer x y i) (5 * i)
  | 0, _ => by
    intro j
    have : (outer x y 0).getD j 0 = 0 := by
      show ([0, 0, 0, 0, 0] : List Int).getD j 0 = 0
      match j with
      | 0 | 1 | 2 | 3 | 4 => rfl
      | j + 5 => rfl
    rw [this]; omega
  | i + 1, hi => by
    have := inner_bd hx hy (outer_bd hx hy i (by omega)) i (by omega) 5 (Nat.le_refl _)
    rw [outer]
    rwa [show 5 * ((i + 1 : Nat) : Int) = 5 * (i : Int) + ((5 : Nat) : Int) by omega]
theorem col_le {x y : E} (hx : Le 135266304 x) (hy : Le 67108863 y) : Le 9223372036854775807 (col x y) := by
  have h := outer_bd hx hy 5 (Nat.le_refl _)
  rw [outer_five] at h
  have h0 := h 0
  have h1 := h 1
  have h2 := h 2
  have h3 := h 3
  have h4 := h 4
  simp only [E.cells, List.getD_cons_zero, List.getD_cons_succ] at h0 h1 h2 h3 h4
  unfold Le
  omega
/-- How often it is folded back. -/
def reds (x : E) : Nat → E
  | 0 => x
  | k + 1 => red (reds x k)
theorem red_le {x : E} (h : Le 9223372036854775807 x) : Le 9223372036854775807 (red x) := by
  have hb := cc_le h (Int.le_refl _) 5 (Nat.le_refl _)
  have hr := rest_can x
  have hbx : beyond x = cc x 5 := rfl
  unfold Can Le at hr
  unfold red plus Le
  simp only
  omega
theorem five_le {x : E} (h : Le 9223372036854775807 x) : Le 9223372036854775807 ⟨5 * beyond x, 0, 0, 0, 0⟩ := by
  have hb := cc_le h (Int.le_refl _) 5 (Nat.le_refl _)
  have hbx : beyond x = cc x 5 := rfl
  unfold Le
  simp only
  omega
theorem reds_le {x : E} (h : Le 9223372036854775807 x) : ∀ k, Le 9223372036854775807 (reds x k)
  | 0 => h
  | k + 1 => red_le (reds_le h k)
end Po

/-- What lies where while a product is made. -/
structure TLay (w : World) (x y : Po.E) (o : List Int) (wr : World) : Prop where
  xx : Blk wr w.heap.size .u64 48 x.cells
  yy : Blk wr (w.heap.size + 1) .u64 48 y.cells
  zz : wr.heap[w.heap.size + 1 + 1]? = some (.cells (ec Po.z) 48 (0, 0))
  oo : Blk wr (w.heap.size + 1 + 1 + 1) .u64 48 o
  bb : Below w.heap.size w wr
theorem TLay.put {w wr : World} {x y : Po.E} {o : List Int} (h : TLay w x y o wr) (j : Nat) (v : Int) : TLay w x y (o.set j v) (wr.setCell ⟨w.heap.size + 1 + 1 + 1, j, none⟩ (.int .u64 v)) :=
  ⟨h.xx.other (heap_setCell_other _ _ _ _ (by simp; omega)), h.yy.other (heap_setCell_other _ _ _ _ (by simp)), (heap_setCell_other _ _ _ _ (by simp)).trans h.zz, h.oo.set j v, h.bb.setCell (by simp; omega) _⟩
theorem TLay.below {w wr w' : World} {x y : Po.E} {o : List Int} (h : TLay w x y o wr) (hb : Below wr.heap.size wr w') : TLay w x y o w' :=
  ⟨h.xx.other (hb.block _ h.xx.lt), h.yy.other (hb.block _ h.yy.lt), (hb.block _ (lt_of_block h.zz)).trans h.zz, h.oo.other (hb.block _ h.oo.lt), h.bb.trans (hb.mono h.bb.size)⟩
theorem TLay.row {w wr : World} {x y : Po.E} {o : List Int} (h : TLay w x y o wr) (t : Po.E) : TLay w x y t.cells (wr.setRow (w.heap.size + 1 + 1 + 1) (ec t)) := by
  refine ⟨h.xx.other (setRow_other _ _ _ _ (by omega)), h.yy.other (setRow_other _ _ _ _ (by omega)), (setRow_other _ _ _ _ (by omega)).trans h.zz, ?_, below_setRow h.bb (by omega) _⟩
  exact setRow_heap wr (w.heap.size + 1 + 1 + 1) _ (ec t) 48 _ h.oo
theorem TLay.drewN {w wr : World} {x y : Po.E} {o : List Int} (h : TLay w x y o wr) (n : Nat) : TLay w x y o (wr.drewN n) := ⟨h.xx, h.yy, h.zz, h.oo, below_drewN h.bb n⟩

set_option maxRecDepth 100000 in
set_option maxHeartbeats 1000000 in
theorem times_any (w : World) (x y : Po.E) (hx : Po.Le 135266304 x) (hy : Po.Le 67108863 y) :
    Calls Try.prog 27 #[.agg (ec x), .agg (ec y)] w fun e w' => e = .returned (.agg (ec (Po.mul x y))) ∧ Below w.heap.size w w' := by
  have HX := Lib.hid hx
  have HY := Lib.hid hy
  obtain ⟨⟨h1, h2, h3, h4⟩, h5⟩ := heap_alloc4 w (.cells (ec x) 48) (.cells (ec y) 48) (.cells (ec Po.z) 48) (.cells (ec Po.z) 48)
  have L0 := Lib.hid (TLay.mk (w := w) (x := x) (y := y) (o := Po.outer x y 0) h1 h2 h3 h4 h5)
  clear h1 h2 h3 h4 h5 hx hy
  go_enter Try.func27, Try.ntmps27
  go_wp2_with fail
  change Code.wp _ _ _ _ ((((w.alloc (.cells (ec x) 48)).alloc (.cells (ec y) 48)).alloc (.cells (ec Po.z) 48)).alloc (.cells (ec Po.z) 48))
  generalize ((((w.alloc (.cells (ec x) 48)).alloc (.cells (ec y) 48)).alloc (.cells (ec Po.z) 48)).alloc (.cells (ec Po.z) 48)) = w3 at *
  go_loopw [11] (fun i wr => ∃ n : Nat, n ≤ 5 ∧ i = .int .i64 n ∧ Hid (TLay w x y (Po.outer x y n) wr)) (fun i _ => 5 - (intOf i).toNat)
  case atStart => exact ⟨0, by omega, rfl, L0⟩
  case round =>
    clear L0
    obtain ⟨i, hi, rfl, LA⟩ := hrel
    by_cases hlt : i < 5
    · have HOB := Lib.hid (Po.outer_bd HX.out HY.out i hi)
      have HOL := Lib.hid (Po.outer_length x y i)
      have HNX : Hid (Po.outer x y (i + 1) = Po.inner x y (Po.outer x y i) i 5) := rfl
      generalize Po.outer x y i = o0 at *
      obtain ⟨a0, a1⟩ := HX.out.get i hlt
      go_wp2_with fail
      go_loopw [14] (fun j wq => ∃ k : Nat, k ≤ 5 ∧ j = .int .i64 k ∧ Hid (TLay w x y (Po.inner x y o0 i k) wq)) (fun j _ => 5 - (intOf j).toNat)
      case atStart => exact ⟨0, by omega, rfl, LA⟩
      case round =>
        clear LA
        obtain ⟨k, hk, rfl, LB⟩ := hrel
        by_cases hlk : k < 5
        · have c1 := LB.out.xx.cell i (by rw [show x.cells.length = 5 from rfl]; exact hlt)
          have c2 := LB.out.yy.cell k (by rw [show y.cells.length = 5 from rfl]; exact hlk)
          have hll : (Po.inner x y o0 i k).length = 5 := by rw [Po.inner_length]; exact HOL.out
          obtain ⟨m, hm⟩ : ∃ m : Nat, m = (i + k) % 5 := ⟨_, rfl⟩
          have hm5 : m < 5 := by omega
          have c3 := LB.out.oo.cell m (by rw [hll]; exact hm5)
          have f3 := LB.out.oo.free m
          have hbd := Po.inner_bd HX.out HY.out HOB.out i hlt k hk m
          obtain ⟨b0, b1⟩ := HY.out.get k hlk
          obtain ⟨p0, p1⟩ := Po.prod_le HX.out HY.out i k hlt hlk
          have hpm := Po.part_mul a0 a1 b0 b1
          have hset := fun n => ((LB.out.drewN n).put m ((Po.inner x y o0 i k).getD m 0 + Po.prod x y i k))
          have hnx : (Po.inner x y o0 i k).set m ((Po.inner x y o0 i k).getD m 0 + Po.prod x y i k) = Po.inner x y o0 i (k + 1) := by rw [hm]; rfl
          rw [hnx] at hset
          have HSET := Lib.hid hset
          have hrem : ((i : Int) + (k : Int)) % 5 = (m : Int) := by omega
          obtain ⟨q0, q1⟩ := hbd
          obtain ⟨r0, r1⟩ := hpm
          by_cases h5 : 5 ≤ i + k
          · have hpr : Po.prod x y i k = x.cells.getD i 0 * y.cells.getD k 0 * 5 := by unfold Po.prod; rw [if_pos h5]
            rw [hpr] at HSET p0 p1
            clear hset hnx hpr hm hll LB
            generalize (Po.inner x y o0 i k).getD m 0 = q at *
            generalize hpq : x.cells.getD i 0 * y.cells.getD k 0 = r at *
            generalize x.cells.getD i 0 = u at *
            generalize y.cells.getD k 0 = v at *
            go_wp2
            go_quiet (fail)
            go_wp2
            exact ⟨⟨k + 1, by omega, by go_num, HSET.out _⟩, by simp [intOf]; omega⟩
          · have hpr : Po.prod x y i k = x.cells.getD i 0 * y.cells.getD k 0 := by unfold Po.prod; rw [if_neg h5]
            rw [hpr] at HSET p0 p1
            clear hset hnx hpr hm hll LB
            generalize (Po.inner x y o0 i k).getD m 0 = q at *
            generalize hpq : x.cells.getD i 0 * y.cells.getD k 0 = r at *
            generalize x.cells.getD i 0 = u at *
            generalize y.cells.getD k 0 = v at *
            go_wp2
            go_quiet (fail)
            go_wp2
            exact ⟨⟨k + 1, by omega, by go_num, HSET.out _⟩, by simp [intOf]; omega⟩
        · have hk5 : ((k : Nat) : Int) = 5 := by omega
          rw [hk5]
          clear hk5
          obtain rfl : k = 5 := by omega
          go_wp2
          go_roundw
          case rel => exact ⟨i + 1, by omega, by go_num, by rw [HNX.out]; exact LB⟩
          case measure => simp [intOf]; omega
    · have hi5 : ((i : Nat) : Int) = 5 := by omega
      rw [hi5]
      clear hi5
      obtain rfl : i = 5 := by omega
      have LC : Hid (TLay w x y (Po.reds (Po.col x y) 0).cells wr) := by
        have := LA.out
        rw [Po.outer_five] at this
        exact this
      have HCL := Lib.hid (Po.col_le HX.out HY.out)
      have HMU : Hid (Po.mul x y = Po.reds (Po.col x y) 2) := rfl
      clear LA HX HY
      generalize Po.col x y = C at *
      go_wp2
      go_loopw [9, 10, 41] (fun _ _ j wq => ∃ k : Nat, k ≤ 2 ∧ j = .int .i64 k ∧ Hid (TLay w x y (Po.reds C k).cells wq)) (fun _ _ j _ => 2 - (intOf j).toNat)
      case atStart => exact ⟨0, by omega, rfl, LC⟩
      case round =>
        clear LC
        obtain ⟨k, hk, rfl, LB⟩ := hrel
        by_cases hlk : k < 2
        · have HNX : Hid (Po.reds C (k + 1) = Po.plus (Po.rest (Po.reds C k)) ⟨5 * Po.beyond (Po.reds C k), 0, 0, 0, 0⟩) := rfl
          have HR := Lib.hid (Po.reds_le HCL.out k)
          generalize Po.reds C k = R at *
          have hcr : wr.heap[w.heap.size + 1 + 1 + 1]? = some (.cells (ec R) 48 (0, 0)) := LB.out.oo
          obtain ⟨b0, b1⟩ := Po.cc_le HR.out (Int.le_refl _) 5 (Nat.le_refl _)
          have hbe : Po.cc R 5 = Po.beyond R := rfl
          rw [hbe] at b0 b1
          clear hbe
          go_wp2_with (first
            | ((with_reducible refine wpList_store_row (o := ⟨none, _, _, _, _, _⟩) rfl 48 (.tmp 5) (.tmp 52) rfl (w.heap.size + 1 + 1 + 1) (ec (Po.plus (Po.rest R) ⟨5 * Po.beyond R, 0, 0, 0, 0⟩)) rfl rfl 48 _ HO7.out ?_ ?_ ?_ ?_); exact i48; exact rfl; exact ec_one _)
            | (go_at_call 26; refine (HPL.out _).mono ?_; rintro e w7 ⟨rfl, hb⟩; have L7 := Lib.hid (L6.out.below hb); have HO7 := Lib.hid ((hb.block _ L6.out.oo.lt).trans L6.out.oo); clear hb)
            | ((with_reducible refine wpList_load_row (o := ⟨some 48, _, _, _, _, _⟩) rfl 48 (.tmp 9) rfl w5.heap.size rfl 48 _ (0, 0) _ HN.out Try.underlying48 rfl ?_ ?_); exact i48)
            | ((with_reducible refine wpList_store_row (o := ⟨none, _, _, _, _, _⟩) rfl 48 (.tmp 9) (.tmp 46) rfl w5.heap.size (ec (Po.rest R)) rfl rfl 48 _ HZ5.out ?_ ?_ ?_ ?_); exact i48; exact rfl; exact ec_one _; have L6 := Lib.hid (L5.out.below (below_setRow ((Below.refl w5.heap.size w5).alloc (Nat.le_refl _) (.cells #[.int .u64 0, .int .u64 0, .int .u64 0, .int .u64 0, .int .u64 0] 48)) (Nat.le_refl _) (ec (Po.rest R)))); have HN := Lib.hid (setRow_heap (w5.alloc (.cells #[.int .u64 0, .int .u64 0, .int .u64 0, .int .u64 0, .int .u64 0] 48)) w5.heap.size _ (ec (Po.rest R)) 48 _ HZ5.out))
            | (go_at_call 41; refine (carried_any wr R HR.out).mono ?_; rintro e w5 ⟨rfl, hb⟩; have L5 := Lib.hid (LB.out.below hb); have HZ5 : Hid ((w5.alloc (.cells #[.int .u64 0, .int .u64 0, .int .u64 0, .int .u64 0, .int .u64 0] 48)).heap[w5.heap.size]? = some (.cells (ec Po.z) 48 (0, 0))) := heap_alloc_new w5 (.cells (ec Po.z) 48); have HPL : Hid (∀ w6, Calls Try.prog 26 #[.agg (ec (Po.rest R)), .agg #[.int .u64 (5 * Po.beyond R), .int .u64 0, .int .u64 0, .int .u64 0, .int .u64 0]] w6 fun e w' => e = .returned (.agg (ec (Po.plus (Po.rest R) ⟨5 * Po.beyond R, 0, 0, 0, 0⟩))) ∧ Below w6.heap.size w6 w') := (fun w6 => plus_any w6 (Po.rest R) ⟨5 * Po.beyond R, 0, 0, 0, 0⟩ ((Po.rest_can R).mono (by decide)) (Po.five_le HR.out)); clear hb)
            | ((with_reducible refine wpList_load_row (o := ⟨some 44, _, _, _, _, _⟩) rfl 48 (.tmp 5) rfl (w.heap.size + 1 + 1 + 1) rfl 48 _ (0, 0) _ hcr Try.underlying48 rfl ?_ ?_); exact i48))
          have L8 := Lib.hid (L7.out.row (Po.plus (Po.rest R) ⟨5 * Po.beyond R, 0, 0, 0, 0⟩))
          go_roundw
          case rel => exact ⟨k + 1, by omega, by go_num, by rw [HNX.out]; exact L8⟩
          case measure => simp [intOf]; omega
        · obtain rfl : k = 2 := by omega
          rw [← HMU.out] at LB
          obtain ⟨R, hR⟩ : ∃ R, R = Po.mul x y := ⟨_, rfl⟩
          rw [← hR] at LB
          have HRR := Lib.hid hR
          clear hR HMU
          have h1 : wr.heap[w.heap.size + 1 + 1 + 1]? = some (.cells (ec R) 48 (0, 0)) := LB.out.oo
          have h2 := LB.out.zz
          go_wp2_with (first
            | ((with_reducible refine wpList_load_row (o := ⟨some 54, _, _, _, _, _⟩) rfl 48 (.tmp 5) rfl (w.heap.size + 1 + 1 + 1) rfl 48 _ (0, 0) _ h1 Try.underlying48 rfl ?_ ?_); exact i48)
            | ((with_reducible refine wpList_store_row (o := ⟨none, _, _, _, _, _⟩) rfl 48 (.tmp 4) (.tmp 54) rfl (w.heap.size + 1 + 1) (ec R) rfl rfl 48 _ h2 ?_ ?_ ?_ ?_); exact i48; exact rfl; exact ec_one _))
          exact bodyPost_ret (results_cell_row Try.results27 _ _ (w.heap.size + 1 + 1) 48 _ (0, 0) _ rfl (setRow_heap wr (w.heap.size + 1 + 1) _ (ec R) 48 _ h2) Try.underlying48 rfl i48) rfl ⟨by rw [HRR.out], below_setRow LB.out.bb (by omega) _⟩
end Go.Proofs.Yticoefnojgaplaa
