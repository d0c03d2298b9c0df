/- Reading a table: how many terms, one of them. -/
import Derived.Test.YtghaknienffmjaaDoorMf
namespace Go.Proofs.YtghaknienffmjaaDoor
open Go.RowKit Go.Maps
set_option maxHeartbeats 400000 in
theorem len_any {w : World} {B tb : Nat} {tv mv : Value} {E : List En} (h : Tab w B tb tv mv E) : Calls Tryd.prog 12 #[.pointer (some ⟨tb, 0, none⟩)] w fun e w' => e = .returned (.int .i64 E.length) ∧ w' = w := by
  obtain ⟨ao, c, rfl⟩ := own_slice h.own
  have t0 : w.cell? ⟨tb, 0, none⟩ = some (.slice ao E.length c) := by rw [cell_of_row _ _ _ _ _ _ h.row]; rfl
  go_enter Tryd.func12, Tryd.ntmps12
  go_wp2
  go_ret
  exact ⟨rfl, rfl⟩
theorem flat_get : ∀ (E : List En) (i r : Nat) (hi : i < E.length), r < 4 → (flat E)[i * 4 + r]? = (enV E[i])[r]?
  | e :: E, 0, r, _, hr => by
    show (enV e ++ flat E)[0 * 4 + r]? = _
    rw [Nat.zero_mul, Nat.zero_add, List.getElem?_append_left (by show r < 4; exact hr)]
    rfl
  | e :: E, i + 1, r, hi, hr => by
    have h := flat_get E i r (by simpa using hi) hr
    show (enV e ++ flat E)[(i + 1) * 4 + r]? = _
    rw [List.getElem?_append_right (by show 4 ≤ _; omega)]
    show (flat E)[(i + 1) * 4 + r - 4]? = _
    rw [show (i + 1) * 4 + r - 4 = i * 4 + r by omega, h]
    rfl
theorem own_cells {w : World} {B : Nat} {tv : Value} {E : List En} (h : w.ownsRow B 25 4 tv E.length (flat E)) (i : Nat) (hi : i < E.length) :
    ∃ g c, tv = .slice (some ⟨g, 0, none⟩) E.length c ∧ g < w.heap.size ∧ w.cell? ⟨g, i * 4, none⟩ = some (.int .u8 E[i].1.k) ∧ w.cell? ⟨g, i * 4 + 1, none⟩ = some (.slice E[i].2.1 E[i].1.of.length E[i].2.2) ∧ w.cell? ⟨g, i * 4 + 2, none⟩ = some (.string ⟨E[i].1.tx.toArray⟩) ∧ w.cell? ⟨g, i * 4 + 3, none⟩ = some (.int .i64 E[i].1.n) := by
  rcases h.2 with ⟨-, h0⟩ | ⟨g, cap, cur, rfl, hg, hc, h1, h2, h3, h4⟩
  · omega
  · have hcell : ∀ r, r < 4 → w.cell? ⟨g, i * 4 + r, none⟩ = (enV E[i])[r]? := fun r hr => by
      rw [cell_of_row w g _ cur 25 (0, 0) hc, ← flat_get E i r hi hr, ← h4]
      rw [List.getElem?_take_of_lt (by omega), Array.getElem?_toList]
    exact ⟨g, cap, rfl, (Array.getElem?_eq_some_iff.1 hc).1, hcell 0 (by omega), hcell 1 (by omega), hcell 2 (by omega), hcell 3 (by omega)⟩
set_option maxRecDepth 20000 in
set_option maxHeartbeats 4000000 in
theorem get_out {w : World} {B tb : Nat} {tv mv : Value} {E : List En} (h : Tab w B tb tv mv E) (i : Int) (hi : i < 0 ∨ (E.length : Int) ≤ i) :
    Calls Tryd.prog 13 #[.pointer (some ⟨tb, 0, none⟩), .int .i64 i] w fun e w' => e = .returned (.tuple #[.agg #[.int .u8 0, .slice none 0 0, .string ⟨#[]⟩, .int .i64 0], .bool false]) ∧ Below w.heap.size w w' := by
  have hl := len_any (h.on (Joins.below_alloc1 w (.cells #[.int .u8 0, .slice none 0 0, .string ⟨#[]⟩, .int .i64 0] 25)))
  by_cases h0 : i < 0
  · go_enter Tryd.func13, Tryd.ntmps13
    go_wp2
    exact bodyPost_ret (results_cell_tmp_row Tryd.results13 _ _ w.heap.size 25 _ (0, 0) _ rfl (heap_alloc_new w _) Tryd.underlying25 rfl info25) rfl ⟨rfl, Joins.below_alloc1 _ _⟩
  · have hi2 : (E.length : Int) ≤ i := by omega
    clear hi
    go_enter Tryd.func13, Tryd.ntmps13
    go_wp2_with (go_at_call 12; refine hl.mono ?_; rintro e w1 ⟨rfl, rfl⟩)
    exact bodyPost_ret (results_cell_tmp_row Tryd.results13 _ _ w.heap.size 25 _ (0, 0) _ rfl (heap_alloc_new w _) Tryd.underlying25 rfl info25) rfl ⟨rfl, Joins.below_alloc1 _ _⟩
set_option maxRecDepth 20000 in
set_option maxHeartbeats 4000000 in
theorem get_in {w : World} {B tb : Nat} {tv mv : Value} {E : List En} (h : Tab w B tb tv mv E) (i : Nat) (hi : i < E.length) :
    Calls Tryd.prog 13 #[.pointer (some ⟨tb, 0, none⟩), .int .i64 i] w fun e w' => ∃ ao cap, e = .returned (.tuple #[.agg #[.int .u8 E[i].1.k, .slice ao E[i].1.of.length cap, .string ⟨E[i].1.tx.toArray⟩, .int .i64 E[i].1.n], .bool true]) ∧ Nums w' ao E[i].1.of ∧ Below w.heap.size w w' := by
  have hb0 := Joins.below_alloc1 w (.cells #[.int .u8 0, .slice none 0 0, .string ⟨#[]⟩, .int .i64 0] 25)
  have hl := len_any (h.on hb0)
  obtain ⟨hf, hN, -⟩ := h.each E[i] (List.getElem_mem hi)
  have hT0 := h.on hb0
  obtain ⟨g, c, rfl, hg, x0, x1, x2, x3⟩ := own_cells hT0.own i hi
  have t0 : (w.alloc (.cells #[.int .u8 0, .slice none 0 0, .string ⟨#[]⟩, .int .i64 0] 25)).cell? ⟨tb, 0, none⟩ = some (.slice (some ⟨g, 0, none⟩) E.length c) := by rw [cell_of_row _ _ _ _ _ _ hT0.row]; rfl
  have hN0 := hN.on hb0 (Nat.le_refl _)
  obtain ⟨N, hNd⟩ : ∃ N, N = E.length := ⟨_, rfl⟩
  rw [← hNd] at hl t0 hi
  generalize E[i].1 = t at *
  obtain ⟨L, hLd⟩ : ∃ L, L = t.of.length := ⟨_, rfl⟩
  rw [← hLd] at x1 ⊢
  obtain ⟨tx, htx⟩ : ∃ tx : ByteArray, tx = ⟨t.tx.toArray⟩ := ⟨_, rfl⟩
  rw [← htx] at x2 ⊢
  have HN := Lib.hid hNd
  have HL := Lib.hid hLd
  have hi1 : (i : Int) < N := by omega
  clear htx hNd hLd h hT0
  go_enter Tryd.func13, Tryd.ntmps13
  go_wp2_with (first
    | (go_at_call 12; refine hl.mono ?_; rintro e w1 ⟨rfl, rfl⟩)
    | (go_at_call 22; refine Hid.out ?_))
  refine Lib.hid ?_
  have hb1 := Joins.below_alloc2 w (.cells #[.int .u8 0, .slice none 0 0, .string ⟨#[]⟩, .int .i64 0] 25) (.cells #[.int .u8 t.k, .slice E[i].2.1 L E[i].2.2, .string tx, .int .i64 t.n] 25)
  have hcl := clone_nums E[i].2.1 E[i].2.2 t.of _ (hN.on hb1 (Nat.le_refl _)) hf.of
  rw [← HL.out] at hcl
  have r0 : ((w.alloc (.cells #[.int .u8 0, .slice none 0 0, .string ⟨#[]⟩, .int .i64 0] 25)).alloc (.cells #[.int .u8 t.k, .slice E[i].2.1 L E[i].2.2, .string tx, .int .i64 t.n] 25)).heap[w.heap.size]? = some (.cells #[.int .u8 0, .slice none 0 0, .string ⟨#[]⟩, .int .i64 0] 25 (0, 0)) := by
    rw [Below.heap_alloc _ _ _ (by simp)]
    exact heap_alloc_new w _
  have r1 := heap_alloc2_new w (.cells #[.int .u8 0, .slice none 0 0, .string ⟨#[]⟩, .int .i64 0] 25) (.cells #[.int .u8 t.k, .slice E[i].2.1 L E[i].2.2, .string tx, .int .i64 t.n] 25)
  generalize (w.alloc (.cells #[.int .u8 0, .slice none 0 0, .string ⟨#[]⟩, .int .i64 0] 25)).alloc (.cells #[.int .u8 t.k, .slice E[i].2.1 L E[i].2.2, .string tx, .int .i64 t.n] 25) = w2 at *
  clear hl t0 x0 x1 x2 x3 hN0 hb0
  go_wp2_with (go_at_call 22; refine hcl.mono ?_; rintro e w3 ⟨ao', cap', rfl, hN3, hnew3, hb3⟩; refine Hid.out ?_)
  refine Lib.hid ?_
  have l0 := (Array.getElem?_eq_some_iff.1 r0).1
  have l1 := (Array.getElem?_eq_some_iff.1 r1).1
  have s0 := (hb3.block _ l0).trans r0
  have s1 := (hb3.block _ l1).trans r1
  have s1' := heap_setCell_same w3 (w.heap.size + 1) 1 _ 25 (.slice ao' L cap') s1
  have s0' : (w3.setCell ⟨w.heap.size + 1, 1, none⟩ (.slice ao' L cap')).heap[w.heap.size]? = _ := (Below.heap_setCell _ _ _ _ (by show w.heap.size ≠ w.heap.size + 1; omega)).trans s0
  have f1 : w3.frozen? ⟨w.heap.size + 1, 1, none⟩ = false := by simp [World.frozen?, s1]
  have d1 : w3.cell? ⟨w.heap.size + 1, 1, none⟩ = some (.slice E[i].2.1 L E[i].2.2) := by rw [cell_of_row _ _ _ _ _ _ s1]; rfl
  have b3 : Below w.heap.size w (w3.setCell ⟨w.heap.size + 1, 1, none⟩ (.slice ao' L cap')) := (hb1.trans (hb3.mono hb1.size)).setCell (p := ⟨w.heap.size + 1, 1, none⟩) (by show _ ≤ w.heap.size + 1; omega) _
  have hN4 : Nums (w3.setCell ⟨w.heap.size + 1, 1, none⟩ (.slice ao' L cap')) ao' t.of := by
    refine ⟨fun q hq => ?_⟩
    obtain ⟨b, off, q1, q2, q3⟩ := hN3.at_ q hq
    have h1 := hnew3 _ q1
    have h1 : w2.heap.size ≤ b := h1
    exact ⟨b, off, q1, by have e : (w3.setCell ⟨w.heap.size + 1, 1, none⟩ (.slice ao' L cap')).heap.size = w3.heap.size := by simp [World.setCell]
                          omega, (World.cell?_of_block (w := w3) (a := ⟨b, off + q, none⟩) (Below.heap_setCell _ _ _ _ (by show b ≠ w.heap.size + 1; omega))).trans q3⟩
  have e0 : (w3.setCell ⟨w.heap.size + 1, 1, none⟩ (.slice ao' L cap')).cell? ⟨w.heap.size + 1, 0, none⟩ = some (.int .u8 t.k) := by rw [cell_of_row _ _ _ _ _ _ s1']; rfl
  have e1 : (w3.setCell ⟨w.heap.size + 1, 1, none⟩ (.slice ao' L cap')).cell? ⟨w.heap.size + 1, 1, none⟩ = some (.slice ao' L cap') := by rw [cell_of_row _ _ _ _ _ _ s1']; rfl
  have e2 : (w3.setCell ⟨w.heap.size + 1, 1, none⟩ (.slice ao' L cap')).cell? ⟨w.heap.size + 1, 2, none⟩ = some (.string tx) := by rw [cell_of_row _ _ _ _ _ _ s1']; rfl
  have e3 : (w3.setCell ⟨w.heap.size + 1, 1, none⟩ (.slice ao' L cap')).cell? ⟨w.heap.size + 1, 3, none⟩ = some (.int .i64 t.n) := by rw [cell_of_row _ _ _ _ _ _ s1']; rfl
  have z0 : (w3.setCell ⟨w.heap.size + 1, 1, none⟩ (.slice ao' L cap')).cell? ⟨w.heap.size, 0, none⟩ = some (.int .u8 0) := by rw [cell_of_row _ _ _ _ _ _ s0']; rfl
  have y0 : (w3.setCell ⟨w.heap.size + 1, 1, none⟩ (.slice ao' L cap')).frozen? ⟨w.heap.size, 0, none⟩ = false := by simp [World.frozen?, s0']
  have z1 : (w3.setCell ⟨w.heap.size + 1, 1, none⟩ (.slice ao' L cap')).cell? ⟨w.heap.size, 1, none⟩ = some (.slice none 0 0) := by rw [cell_of_row _ _ _ _ _ _ s0']; rfl
  have y1 : (w3.setCell ⟨w.heap.size + 1, 1, none⟩ (.slice ao' L cap')).frozen? ⟨w.heap.size, 1, none⟩ = false := by simp [World.frozen?, s0']
  have z2 : (w3.setCell ⟨w.heap.size + 1, 1, none⟩ (.slice ao' L cap')).cell? ⟨w.heap.size, 2, none⟩ = some (.string ⟨#[]⟩) := by rw [cell_of_row _ _ _ _ _ _ s0']; rfl
  have y2 : (w3.setCell ⟨w.heap.size + 1, 1, none⟩ (.slice ao' L cap')).frozen? ⟨w.heap.size, 2, none⟩ = false := by simp [World.frozen?, s0']
  have z3 : (w3.setCell ⟨w.heap.size + 1, 1, none⟩ (.slice ao' L cap')).cell? ⟨w.heap.size, 3, none⟩ = some (.int .i64 0) := by rw [cell_of_row _ _ _ _ _ _ s0']; rfl
  have y3 : (w3.setCell ⟨w.heap.size + 1, 1, none⟩ (.slice ao' L cap')).frozen? ⟨w.heap.size, 3, none⟩ = false := by simp [World.frozen?, s0']
  clear hcl r0 r1 s0 s1 hb1 hb3
  go_wp2_with fail
  have q0 := heap_setCell_same _ w.heap.size 0 _ 25 (.int .u8 t.k) s0'
  have q1 := heap_setCell_same _ w.heap.size 1 _ 25 (.slice ao' L cap') q0
  have q2 := heap_setCell_same _ w.heap.size 2 _ 25 (.string tx) q1
  have q3 := heap_setCell_same _ w.heap.size 3 _ 25 (.int .i64 t.n) q2
  refine bodyPost_ret (results_cell_tmp_row Tryd.results13 _ _ w.heap.size 25 #[.int .u8 t.k, .slice ao' L cap', .string tx, .int .i64 t.n] (0, 0) _ rfl q3 Tryd.underlying25 rfl info25) rfl ⟨ao', cap', rfl, ?_, ?_⟩
  · refine ⟨fun q hq => ?_⟩
    obtain ⟨b, off, p1, p2, p3⟩ := hN4.at_ q hq
    have h1 : w2.heap.size ≤ b := hnew3 _ p1
    have hne : b ≠ w.heap.size := by omega
    exact ⟨b, off, p1, by simpa [World.setCell] using p2, (World.cell?_of_block (a := ⟨b, off + q, none⟩) ((Below.heap_setCell _ _ _ _ hne).trans ((Below.heap_setCell _ _ _ _ hne).trans ((Below.heap_setCell _ _ _ _ hne).trans (Below.heap_setCell _ _ _ _ hne))))).trans p3⟩
  · exact (((b3.setCell (p := ⟨w.heap.size, 0, none⟩) (Nat.le_refl _) _).setCell (p := ⟨w.heap.size, 1, none⟩) (Nat.le_refl _) _).setCell (p := ⟨w.heap.size, 2, none⟩) (Nat.le_refl _) _).setCell (p := ⟨w.heap.size, 3, none⟩) (Nat.le_refl _) _
end Go.Proofs.YtghaknienffmjaaDoor
