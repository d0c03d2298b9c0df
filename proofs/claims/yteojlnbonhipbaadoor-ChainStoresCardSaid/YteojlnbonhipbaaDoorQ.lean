/- The primitives over terms: a key read; two keys derived. -/
import Derived.Test.YteojlnbonhipbaaDoorP
namespace Go.Proofs.YteojlnbonhipbaaDoor
open Go.RowKit Go.Maps
theorem made1 : madeCells #[Value.int .i64 0] 1 = #[.int .i64 0] := by kernel_rfl
set_option maxHeartbeats 4000000 in
/-- One key read, that is known. -/
theorem tread_one (w : World) (B tb : Nat) (L : List Tm) (u : Nat) (hT : Tb w B tb L) (hL : L.length ≤ 1048576) (hu : u < L.length) (g c : Nat) (ko : Option Addr) (kc : Nat) (hc : w.cell? ⟨g, 0, none⟩ = some (.slice ko 32 kc)) (hg : g < w.heap.size) (hby : By w ko (keyB u)) (hkc : 32 ≤ kc) :
    Calls Tryd.prog 87 #[.agg #[.pointer (some ⟨tb, 0, none⟩)], .slice (some ⟨g, 0, none⟩) 1 c] w fun e w' => ∃ n, e = .returned (.slice (some ⟨n, 0, none⟩) 1 1) ∧ w'.heap[n]? = some (.cells #[.int .i64 u] 3 (0, 0)) ∧ Below w.heap.size w w' := by
  obtain ⟨i0, hi, hz0, hz1, hz2⟩ := info_parts info3
  have hb0 := Joins.below_alloc1 w (.cells #[.pointer (some ⟨tb, 0, none⟩)] 73)
  have c0 : (w.alloc (.cells #[.pointer (some ⟨tb, 0, none⟩)] 73)).cell? ⟨w.heap.size, 0, none⟩ = some (.pointer (some ⟨tb, 0, none⟩)) := by
    rw [cell_of_row _ _ _ _ _ _ (heap_alloc_new w _)]; rfl
  have hrd : ∀ w', Below w.heap.size w w' → Calls Tryd.prog 90 #[.pointer (some ⟨tb, 0, none⟩), .slice ko 32 kc] w' fun e w2 => e = .returned (.int .i64 u) ∧ w2 = w' := by
    intro w' hb
    obtain ⟨tv, mv, E, hE, rfl⟩ := hT.on hb
    have hEl : E.length ≤ 1048576 := by simpa using hL
    have huE : u < E.length := by simpa using hu
    have hbi := byti_of (hby.kp (Kp.of_below [] hb) (List.not_mem_nil))
    have h := read_yes w' B tb tv mv E hE hEl ko kc (bl u 8) (by rw [bl_len]; omega) (by rw [bl_len]; exact hkc) hbi (bl_byte u 8) ((bl_stands u _ (by omega)).2 huE)
    rw [bl_len, bl_val8 u (by omega)] at h
    exact h
  have HR := Lib.hid hrd
  have HB := Lib.hid hb0
  clear hrd hby hT hu
  go_enter Tryd.func87, Tryd.ntmps87
  go_wp2_with (at_make; refine wpList_make_row _ rfl _ _ 125 rfl 3 i0 (.int .i64 0) Tryd.underlying125 hi hz0 hz1 rfl .i64 .i64 1 rfl rfl (by rw [hz2]; decide) (by decide) ?_; rw [made1]; refine Hid.out ?_)
  refine Lib.hid ?_
  have hb1 : Below w.heap.size w ((w.alloc (.cells #[.pointer (some ⟨tb, 0, none⟩)] 73)).alloc (.cells #[.int .i64 0] 3)) := Joins.below_alloc2 w _ _
  have hn1 := heap_alloc_new (w.alloc (.cells #[.pointer (some ⟨tb, 0, none⟩)] 73)) (.cells #[.int .i64 0] 3)
  have c1 := ((Joins.below_alloc1 (w.alloc (.cells #[.pointer (some ⟨tb, 0, none⟩)] 73)) (.cells #[.int .i64 0] 3)).cell (p := ⟨w.heap.size, 0, none⟩) (by simp)).trans c0
  have ck := (hb1.cell (p := ⟨g, 0, none⟩) hg).trans hc
  have hsz : (w.alloc (.cells #[.pointer (some ⟨tb, 0, none⟩)] 73)).heap.size = w.heap.size + 1 := by simp
  rw [hsz] at hn1
  generalize (w.alloc (.cells #[.pointer (some ⟨tb, 0, none⟩)] 73)).alloc (.cells #[.int .i64 0] 3) = w1 at *
  have f1 : w1.frozen? ⟨w.heap.size + 1, 0, none⟩ = false := by simp [World.frozen?, hn1]
  have d1 : w1.cell? ⟨w.heap.size + 1, 0, none⟩ = some (.int .i64 0) := by rw [cell_of_row _ _ _ _ _ _ hn1]; rfl
  have hcall := HR.out w1 hb1
  clear c0 hc HB
  go_wp2
  refine wp_loop_rounds 2 ?_
  rw [rounds_succ]
  go_wp2_with (go_at_call 90; refine hcall.mono ?_; rintro e w2 ⟨rfl, hw⟩; obtain rfl := hw.symm)
  rw [rounds_succ]
  go_wp2
  go_ret
  have hr := heap_setCell_same w1 (w.heap.size + 1) 0 _ 3 (.int .i64 u) hn1
  exact ⟨_, rfl, hr, hb1.setCell (p := ⟨w.heap.size + 1, 0, none⟩) (by show w.heap.size ≤ w.heap.size + 1; omega) _⟩
theorem nums_row {w : World} {n : Nat} {u : Int} (h : w.heap[n]? = some (.cells #[.int .i64 u] 3 (0, 0))) : Nums w (some ⟨n, 0, none⟩) [u] := by
  refine ⟨fun j hj => ⟨_, 0, rfl, (Array.getElem?_eq_some_iff.1 h).1, ?_⟩⟩
  match j, hj with
  | 0, _ => rw [cell_of_row _ _ _ _ _ _ h]; rfl
end Go.Proofs.YteojlnbonhipbaaDoor
