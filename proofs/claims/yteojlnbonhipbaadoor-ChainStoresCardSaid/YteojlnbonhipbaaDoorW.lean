/- A store: find, Len, Get, a key copied; a nil store. -/
import Derived.Test.YteojlnbonhipbaaDoorV
namespace Go.Proofs.YteojlnbonhipbaaDoor
open Go.RowKit Go.Maps
theorem idx_range (E : List Se) (P : List UInt8) (n : Nat) : -1 ≤ idx E P n ∧ idx E P n < E.length ∧ (0 ≤ idx E P n → (idx E P n).toNat < E.length) := by
  unfold idx
  split
  · omega
  · omega
set_option maxHeartbeats 4000000 in
theorem find_any (w : World) (B sb : Nat) (v : Value) (E : List Se) (P : List UInt8) (fo : Option Addr) (fc n : Nat) (hS : Sto w B sb v E) (hP : Byt w fo P) (hl : E.length ≤ 1048576) :
    Calls Tryd.prog 23 #[.pointer (some ⟨sb, 0, none⟩), .slice fo P.length fc, .int .u32 n] w fun x w' => x = .returned (.tuple #[.int .i64 (idx E P n), .bool (decide (0 ≤ idx E P n))]) ∧ Below w.heap.size w w' := by
  have hb0 := Joins.below_alloc2 w (.cells #[.slice fo P.length fc] 24) (.cells #[.int .u32 n] 25)
  have hr0 := (Below.heap_alloc (w.alloc (.cells #[.slice fo P.length fc] 24)) (.cells #[.int .u32 n] 25) w.heap.size (by simp)).trans (heap_alloc_new w (.cells #[.slice fo P.length fc] 24))
  have hr1 := heap_alloc_new (w.alloc (.cells #[.slice fo P.length fc] 24)) (.cells #[.int .u32 n] 25)
  rw [show (w.alloc (.cells #[.slice fo P.length fc] 24)).heap.size = w.heap.size + 1 by simp] at hr1
  have hS0 := hS.on hb0
  have c0 : ((w.alloc (.cells #[.slice fo P.length fc] 24)).alloc (.cells #[.int .u32 n] 25)).cell? ⟨sb, 0, none⟩ = some v := by rw [cell_of_row _ _ _ _ _ _ hS0.row]; rfl
  have hix := index_any _ B v E P fo fc n (w.heap.size + 1) w.heap.size hS0.own (fun e he => (hS0.each e he).1) (hP.on hb0 (Nat.le_refl _)) (by rw [cell_of_row _ _ _ _ _ _ hr1]; rfl) (by rw [cell_of_row _ _ _ _ _ _ hr0]; rfl) (by simp) (by simp; omega) hl
  have hrg := idx_range E P n
  generalize idx E P n = i at *
  have HX := Lib.hid hix
  have HB := Lib.hid hb0
  obtain ⟨vo, vc, rfl⟩ := own_slice hS.own
  clear hix hb0 hr0 hr1 hS hS0 hP
  go_enter Tryd.func23, Tryd.ntmps23
  go_wp2_with (go_at_call 29; refine HX.out.mono ?_; rintro e w1 ⟨rfl, hb1⟩)
  go_ret2
  exact ⟨by simp, HB.out.trans (hb1.mono HB.out.size)⟩
set_option maxHeartbeats 4000000 in
theorem find_nil (w : World) (n : Nat) (xo : Option Addr) (xn xc : Nat) : Calls Tryd.prog 23 #[.pointer none, .slice xo xn xc, .int .u32 n] w fun e w' => e = .returned (.tuple #[.int .i64 0, .bool false]) ∧ Below w.heap.size w w' := by
  go_enter Tryd.func23, Tryd.ntmps23
  go_wp2
  go_ret2
  exact ⟨rfl, Joins.below_alloc2 _ _ _⟩
set_option maxHeartbeats 4000000 in
theorem slen_any (w : World) (B sb : Nat) (v : Value) (E : List Se) (hS : Sto w B sb v E) : Calls Tryd.prog 12 #[.pointer (some ⟨sb, 0, none⟩)] w fun e w' => e = .returned (.int .i64 E.length) ∧ w' = w := by
  obtain ⟨vo, vc, rfl⟩ := own_slice hS.own
  have c0 : w.cell? ⟨sb, 0, none⟩ = some (.slice vo E.length vc) := by rw [cell_of_row _ _ _ _ _ _ hS.row]; rfl
  clear hS
  generalize E.length = N at *
  go_enter Tryd.func12, Tryd.ntmps12
  go_wp2
  go_ret
  exact ⟨rfl, rfl⟩
set_option maxHeartbeats 4000000 in
theorem slen_nil (w : World) : Calls Tryd.prog 12 #[.pointer none] w fun e w' => e = .returned (.int .i64 0) ∧ w' = w := by
  go_enter Tryd.func12, Tryd.ntmps12
  go_wp2
  go_ret
  exact ⟨rfl, rfl⟩
set_option maxHeartbeats 4000000 in
theorem get_none (w : World) (B sb : Nat) (v : Value) (E : List Se) (P : List UInt8) (fo : Option Addr) (fc n : Nat) (hS : Sto w B sb v E) (hP : Byt w fo P) (hl : E.length ≤ 1048576) (hi : idx E P n = -1) :
    Calls Tryd.prog 13 #[.pointer (some ⟨sb, 0, none⟩), .slice fo P.length fc, .int .u32 n] w fun x w' => x = .returned (.tuple #[.slice none 0 0, .bool false]) ∧ Below w.heap.size w w' := by
  have hf := find_any w B sb v E P fo fc n hS hP hl
  rw [hi] at hf
  have HF := Lib.hid hf
  clear hf hS hP hi
  go_enter Tryd.func13, Tryd.ntmps13
  go_wp2_with (go_at_call 23; refine HF.out.mono ?_; rintro e w1 ⟨rfl, hb1⟩)
  go_ret2
  exact ⟨rfl, hb1⟩
set_option maxHeartbeats 4000000 in
theorem get_nil (w : World) (n : Nat) (xo : Option Addr) (xn xc : Nat) : Calls Tryd.prog 13 #[.pointer none, .slice xo xn xc, .int .u32 n] w fun e w' => e = .returned (.tuple #[.slice none 0 0, .bool false]) ∧ Below w.heap.size w w' := by
  have HF := Lib.hid (find_nil w n xo xn xc)
  go_enter Tryd.func13, Tryd.ntmps13
  go_wp2_with (go_at_call 23; refine HF.out.mono ?_; rintro e w1 ⟨rfl, hb1⟩)
  go_ret2
  exact ⟨rfl, hb1⟩
set_option maxRecDepth 20000 in
set_option maxHeartbeats 4000000 in
theorem get_some (w : World) (B sb : Nat) (v : Value) (E : List Se) (P : List UInt8) (fo : Option Addr) (fc n k : Nat) (hS : Sto w B sb v E) (hP : Byt w fo P) (hl : E.length ≤ 1048576) (hk : k < E.length) (hi : idx E P n = k) (hkl : E[k].1.key.length ≤ 1048576) :
    Calls Tryd.prog 13 #[.pointer (some ⟨sb, 0, none⟩), .slice fo P.length fc, .int .u32 n] w fun x w' => ∃ ao cap, x = .returned (.tuple #[.slice ao E[k].1.key.length cap, .bool true]) ∧ By w' ao E[k].1.key ∧ E[k].1.key.length ≤ cap ∧ Below w.heap.size w w' := by
  have hf := find_any w B sb v E P fo fc n hS hP hl
  rw [hi] at hf
  have hcl := fun W (hb : Below w.heap.size w W) => clone_any E[k].2.ka E[k].2.kc E[k].1.key W ((hS.each E[k] (List.getElem_mem hk)).2.kp (Kp.of_below [] hb) (List.not_mem_nil)).byt hkl
  obtain ⟨g, c, rfl, hg, x0, x1, x2⟩ := srow_cells hS.own k hk
  have c0 : w.cell? ⟨sb, 0, none⟩ = some (.slice (some ⟨g, 0, none⟩) E.length c) := by rw [cell_of_row _ _ _ _ _ _ hS.row]; rfl
  have hsl := (Array.getElem?_eq_some_iff.1 hS.row).1
  obtain ⟨N, hN⟩ : ∃ N, N = E.length := ⟨_, rfl⟩
  have hk1 : (k : Int) < N := by omega
  rw [← hN] at c0
  have HF := Lib.hid hf
  have HC := Lib.hid hcl
  obtain ⟨key, hkey⟩ : ∃ key, key = E[k].1.key := ⟨_, rfl⟩
  rw [← hkey] at x2 ⊢
  have HK := Lib.hid hkey
  have hd : decide ((0 : Int) ≤ k) = true := by simp
  rw [hd] at HF
  clear hf hcl hS hP hi x0 x1 hkey hN
  go_enter Tryd.func13, Tryd.ntmps13
  go_wp2_with (go_at_call 23; refine HF.out.mono ?_; rintro e w1 ⟨rfl, hb1⟩; have d0 := (hb1.cell (p := ⟨sb, 0, none⟩) hsl).trans c0; have d2 := (hb1.cell (p := ⟨g, k * 3 + 2, none⟩) hg).trans x2; have HC1 := Lib.hid (HC.out w1 hb1); have HB1 := Lib.hid hb1; clear hb1; refine Hid.out ?_)
  refine Lib.hid ?_
  rw [← HK.out] at HC1
  go_wp2_with (go_at_call 24; refine HC1.out.mono ?_; rintro e w2 ⟨v2, rfl, hown, hb2⟩)
  go_ret2
  obtain ⟨ao, cap, rfl, hby, hcap⟩ := hown.by_
  exact ⟨ao, cap, rfl, hby, hcap, HB1.out.trans (hb2.mono HB1.out.size)⟩
end Go.Proofs.YteojlnbonhipbaaDoor
