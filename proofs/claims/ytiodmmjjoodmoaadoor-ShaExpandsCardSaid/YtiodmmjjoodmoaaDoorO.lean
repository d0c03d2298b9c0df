/- Layer 2, the walks: the document's examples. -/
import Derived.Test.YtiodmmjjoodmoaaDoorN
import Derived.Lib.SlBytesConst
namespace Go.Proofs.YtiodmmjjoodmoaaDoor
open Go.RowKit

theorem sha_abc : Sh.sha [97, 98, 99] = [0xba, 0x78, 0x16, 0xbf, 0x8f, 0x01, 0xcf, 0xea, 0x41, 0x41, 0x40, 0xde, 0x5d, 0xae, 0x22, 0x23, 0xb0, 0x03, 0x61, 0xa3, 0x96, 0x17, 0x7a, 0x9c, 0xb4, 0x10, 0xff, 0x61, 0xf2, 0x00, 0x15, 0xad] := by decide +kernel

theorem mac_jefe : Sh.mac [74, 101, 102, 101] [119, 104, 97, 116, 32, 100, 111, 32, 121, 97, 32, 119, 97, 110, 116, 32, 102, 111, 114, 32, 110, 111, 116, 104, 105, 110, 103, 63] = [0x5b, 0xdc, 0xc1, 0x46, 0xbf, 0x60, 0x75, 0x4e, 0x6a, 0x04, 0x24, 0x26, 0x08, 0x95, 0x75, 0xc7, 0x5a, 0x00, 0x3f, 0x08, 0x9d, 0x27, 0x39, 0x83, 0x9d, 0xec, 0x58, 0xb9, 0x64, 0xec, 0x38, 0x43] := by decide +kernel

theorem conv_at {w : World} {go off n c : Nat} {l : List Int} (h : At w .u8 go off l) (hl : l.length = n) : (convert 22 9 (.slice (some ⟨go, off, none⟩) n c)).run Tryd.prog w = .ok (.string (strOfNums l)) w :=
  run_convert_bytes_arg w 22 5 Tryd.underlying22 Tryd.underlying5 go off n c l hl (fun i hi => h i (by omega)) 9 Tryd.underlying9

theorem kconst (w : World) (C : Array Value) (n c g : Nat) (hg : g = w.heap.size) :
    (convert 22 22 (.slice (some ⟨g, 0, none⟩) n c)).run Tryd.prog (w.alloc (.cells C 5)) = .ok (.slice (some ⟨g, 0, none⟩) n c) (w.alloc (.cells C 5 (C.size, C.size + 1))) := by
  subst hg; exact Lib.run_convert_bytes_const w 22 5 C n c Tryd.underlying22 Tryd.underlying5

theorem str_abc : (⟨#[186, 120, 22, 191, 143, 1, 207, 234, 65, 65, 64, 222, 93, 174, 34, 35, 176, 3, 97, 163, 150, 23, 122, 156, 180, 16, 255, 97, 242, 0, 21, 173]⟩ : ByteArray) = strOfNums [186, 120, 22, 191, 143, 1, 207, 234, 65, 65, 64, 222, 93, 174, 34, 35, 176, 3, 97, 163, 150, 23, 122, 156, 180, 16, 255, 97, 242, 0, 21, 173] := by decide +kernel
theorem str_jefe : (⟨#[91, 220, 193, 70, 191, 96, 117, 78, 106, 4, 36, 38, 8, 149, 117, 199, 90, 0, 63, 8, 157, 39, 57, 131, 157, 236, 88, 185, 100, 236, 56, 67]⟩ : ByteArray) = strOfNums [91, 220, 193, 70, 191, 96, 117, 78, 106, 4, 36, 38, 8, 149, 117, 199, 90, 0, 63, 8, 157, 39, 57, 131, 157, 236, 88, 185, 100, 236, 56, 67] := by decide +kernel

theorem at_row {w : World} {g : Nat} {t : TypeId} {fr : Nat × Nat} {l : List Int} (h : w.heap[g]? = some (.cells (l.map (Value.int .u8)).toArray t fr)) : At w .u8 g 0 l := by
  intro j hj
  rw [Nat.zero_add, cell_of_row w g j _ t fr h]
  simp [hj]
theorem slc_row {w : World} {g : Nat} {t : TypeId} {fr : Nat × Nat} {l : List Int} {n : Nat} (h : w.heap[g]? = some (.cells (l.map (Value.int .u8)).toArray t fr)) (hl : l.length = n) (h8 : ∀ x ∈ l, Sh.W8 x) : Slc w (.slice (some ⟨g, 0, none⟩) n n) l :=
  ⟨_, n, by rw [hl], by omega, h8, Or.inr ⟨g, 0, rfl, lt_of_block h, at_row h⟩⟩
theorem parts_two {w : World} {g : Nat} {t : TypeId} {v1 v2 : Value} {P1 P2 : List Int} (h : w.heap[g]? = some (.cells #[v1, v2] t (0, 0))) (h1 : Slc w v1 P1) (h2 : Slc w v2 P2) : Parts w (.slice (some ⟨g, 0, none⟩) 2 2) [P1, P2] := by
  refine ⟨_, 2, rfl, by simp, Or.inr ⟨g, 0, rfl, lt_of_block h, ?_⟩⟩
  intro j hj
  match j, hj with
  | 0, _ => exact ⟨v1, by rw [cell_of_row _ _ _ _ t (0, 0) h]; rfl, h1⟩
  | 1, _ => exact ⟨v2, by rw [cell_of_row _ _ _ _ t (0, 0) h]; rfl, h2⟩
/-- Three new blocks. -/
theorem three (w : World) (o1 o2 o3 : Obj) : ((((w.alloc o1).alloc o2).alloc o3).heap[w.heap.size]? = some o1 ∧ (((w.alloc o1).alloc o2).alloc o3).heap[w.heap.size + 1]? = some o2 ∧ (((w.alloc o1).alloc o2).alloc o3).heap[w.heap.size + 1 + 1]? = some o3) ∧ Below w.heap.size w (((w.alloc o1).alloc o2).alloc o3) := by
  refine ⟨⟨?_, ?_, ?_⟩, ?_⟩
  · exact (Below.heap_alloc _ _ _ (by simp; omega)).trans ((Below.heap_alloc _ _ _ (by simp)).trans (heap_alloc_new w o1))
  · have := heap_alloc_new (w.alloc o1) o2
    rw [show (w.alloc o1).heap.size = w.heap.size + 1 by simp] at this
    exact (Below.heap_alloc _ _ _ (by simp)).trans this
  · have := heap_alloc_new ((w.alloc o1).alloc o2) o3
    rw [show ((w.alloc o1).alloc o2).heap.size = w.heap.size + 1 + 1 by simp] at this
    exact this
  · exact (((Below.refl _ _).alloc (Nat.le_refl _) _).alloc (by simp) _).alloc (by simp; omega) _

/-- The first example's call. -/
theorem awake_sum (w : World) (ht : Tab w) :
    Calls Tryd.prog 9 #[.slice (some ⟨w.heap.size + 1 + 1, 0, none⟩) 2 2] (((w.alloc (.cells #[.int .u8 97] 5 (1, 2))).alloc (.cells #[.int .u8 98, .int .u8 99] 5 (2, 3))).alloc (.cells #[.slice (some ⟨w.heap.size, 0, none⟩) 1 1, .slice (some ⟨w.heap.size + 1, 0, none⟩) 2 2] 22)) fun e w' =>
      ∃ go, e = .returned (.slice (some ⟨go, 0, none⟩) 32 32) ∧ (convert 22 9 (.slice (some ⟨go, 0, none⟩) 32 32)).run Tryd.prog w' = .ok (.string ⟨#[186, 120, 22, 191, 143, 1, 207, 234, 65, 65, 64, 222, 93, 174, 34, 35, 176, 3, 97, 163, 150, 23, 122, 156, 180, 16, 255, 97, 242, 0, 21, 173]⟩) w' ∧ Below w.heap.size w w' := by
  obtain ⟨⟨h1, h2, h3⟩, hb⟩ := three w (.cells #[.int .u8 97] 5 (1, 2)) (.cells #[.int .u8 98, .int .u8 99] 5 (2, 3)) (.cells #[.slice (some ⟨w.heap.size, 0, none⟩) 1 1, .slice (some ⟨w.heap.size + 1, 0, none⟩) 2 2] 22)
  generalize ((w.alloc (.cells #[.int .u8 97] 5 (1, 2))).alloc (.cells #[.int .u8 98, .int .u8 99] 5 (2, 3))).alloc (.cells #[.slice (some ⟨w.heap.size, 0, none⟩) 1 1, .slice (some ⟨w.heap.size + 1, 0, none⟩) 2 2] 22) = w0 at *
  have hp := parts_two h3 (slc_row (l := [97]) h1 rfl (by unfold Sh.W8; simp)) (slc_row (l := [98, 99]) h2 rfl (by unfold Sh.W8; simp))
  refine (sum_any w0 _ _ hp (by simp) (ht.below hb ht.1)).mono ?_
  rintro e w1 ⟨go, rfl, h4, -, h5⟩
  have e1 : ([[97], [98, 99]] : List (List Int)).flatten = [97, 98, 99] := rfl
  rw [e1, sha_abc] at h4
  refine ⟨go, rfl, ?_, hb.trans (h5.mono hb.size)⟩
  rw [str_abc]
  exact conv_at h4.at rfl

/-- The second example's call. -/
theorem awake_mac (w : World) (ht : Tab w) :
    Calls Tryd.prog 11 #[.slice (some ⟨w.heap.size, 0, none⟩) 4 4, .slice (some ⟨w.heap.size + 1 + 1, 0, none⟩) 1 1] (((w.alloc (.cells #[.int .u8 74, .int .u8 101, .int .u8 102, .int .u8 101] 5 (4, 5))).alloc (.cells #[.int .u8 119, .int .u8 104, .int .u8 97, .int .u8 116, .int .u8 32, .int .u8 100, .int .u8 111, .int .u8 32, .int .u8 121, .int .u8 97, .int .u8 32, .int .u8 119, .int .u8 97, .int .u8 110, .int .u8 116, .int .u8 32, .int .u8 102, .int .u8 111, .int .u8 114, .int .u8 32, .int .u8 110, .int .u8 111, .int .u8 116, .int .u8 104, .int .u8 105, .int .u8 110, .int .u8 103, .int .u8 63] 5 (28, 29))).alloc (.cells #[.slice (some ⟨w.heap.size + 1, 0, none⟩) 28 28] 22)) fun e w' =>
      ∃ go, e = .returned (.slice (some ⟨go, 0, none⟩) 32 32) ∧ (convert 22 9 (.slice (some ⟨go, 0, none⟩) 32 32)).run Tryd.prog w' = .ok (.string ⟨#[91, 220, 193, 70, 191, 96, 117, 78, 106, 4, 36, 38, 8, 149, 117, 199, 90, 0, 63, 8, 157, 39, 57, 131, 157, 236, 88, 185, 100, 236, 56, 67]⟩) w' ∧ Below w.heap.size w w' := by
  obtain ⟨⟨h1, h2, h3⟩, hb⟩ := three w (.cells #[.int .u8 74, .int .u8 101, .int .u8 102, .int .u8 101] 5 (4, 5)) (.cells #[.int .u8 119, .int .u8 104, .int .u8 97, .int .u8 116, .int .u8 32, .int .u8 100, .int .u8 111, .int .u8 32, .int .u8 121, .int .u8 97, .int .u8 32, .int .u8 119, .int .u8 97, .int .u8 110, .int .u8 116, .int .u8 32, .int .u8 102, .int .u8 111, .int .u8 114, .int .u8 32, .int .u8 110, .int .u8 111, .int .u8 116, .int .u8 104, .int .u8 105, .int .u8 110, .int .u8 103, .int .u8 63] 5 (28, 29)) (.cells #[.slice (some ⟨w.heap.size + 1, 0, none⟩) 28 28] 22)
  generalize ((w.alloc (.cells #[.int .u8 74, .int .u8 101, .int .u8 102, .int .u8 101] 5 (4, 5))).alloc (.cells #[.int .u8 119, .int .u8 104, .int .u8 97, .int .u8 116, .int .u8 32, .int .u8 100, .int .u8 111, .int .u8 32, .int .u8 121, .int .u8 97, .int .u8 32, .int .u8 119, .int .u8 97, .int .u8 110, .int .u8 116, .int .u8 32, .int .u8 102, .int .u8 111, .int .u8 114, .int .u8 32, .int .u8 110, .int .u8 111, .int .u8 116, .int .u8 104, .int .u8 105, .int .u8 110, .int .u8 103, .int .u8 63] 5 (28, 29))).alloc (.cells #[.slice (some ⟨w.heap.size + 1, 0, none⟩) 28 28] 22) = w0 at *
  have hp := parts_one h3 (slc_row (l := [119, 104, 97, 116, 32, 100, 111, 32, 121, 97, 32, 119, 97, 110, 116, 32, 102, 111, 114, 32, 110, 111, 116, 104, 105, 110, 103, 63]) h2 rfl (by unfold Sh.W8; simp)) rfl
  refine (mac_any w0 _ _ [74, 101, 102, 101] _ (slc_row h1 rfl (by unfold Sh.W8; simp)) hp (by simp) (by simp) (ht.below hb ht.1)).mono ?_
  rintro e w1 ⟨go, rfl, h4, -, h5⟩
  rw [List.flatten_singleton, mac_jefe] at h4
  refine ⟨go, rfl, ?_, hb.trans (h5.mono hb.size)⟩
  rw [str_jefe]
  exact conv_at h4.at rfl

set_option maxRecDepth 100000 in
set_option maxHeartbeats 400000 in
theorem awake_any (w : World) (ht : Tab w) :
    Calls Tryd.prog 8 #[] w fun e w' => e = .returned (.bool true) ∧ Below w.heap.size w w' := by
  have kc := fun (w : World) (C : Array Value) (n c : Nat) => kconst w C n c w.heap.size rfl
  have kc2 := fun (w : World) (o : Obj) (C : Array Value) (n c : Nat) => kconst (w.alloc o) C n c (w.heap.size + 1) (by simp)
  have HS := Lib.hid (awake_sum w ht)
  have HT := Lib.hid ht
  clear ht
  go_enter Tryd.func8, Tryd.ntmps8
  go_wp2_with (first
    | (go_at_call 11; refine HM.out.mono ?_; rintro e w2 ⟨go2, rfl, hcv2, hb2⟩; have HB2 := Lib.hid hb2; clear hb2)
    | (go_at_call 9; refine HS.out.mono ?_; rintro e w1 ⟨go1, rfl, hcv1, hb1⟩; have HB1 := Lib.hid hb1; have HM := Lib.hid (awake_mac w1 (HT.out.below HB1.out HT.out.1)); clear hb1 kc kc2; have kc := fun (w : World) (C : Array Value) (n c : Nat) => kconst w C n c w.heap.size rfl; have kc2 := fun (w : World) (o : Obj) (C : Array Value) (n c : Nat) => kconst (w.alloc o) C n c (w.heap.size + 1) (by simp)))
  go_ret
  exact ⟨rfl, HB1.out.trans (HB2.out.mono HB1.out.size)⟩
end Go.Proofs.YtiodmmjjoodmoaaDoor
