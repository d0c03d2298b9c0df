/- Layer 2, the walks: the sum of parts, and the key that is masked. -/
import Derived.Test.YtiodmmjjoodmoaaDoorJ
namespace Go.Proofs.YtiodmmjjoodmoaaDoor
open Go.RowKit

set_option maxHeartbeats 400000 in
theorem sum_any (w : World) (vp : Value) (ls : List (List Int)) (hP : Parts w vp ls) (hlen : ls.flatten.length ≤ 281474976710656) (ht : Tab w) :
    Calls Tryd.prog 9 #[vp] w fun e w' => ∃ go, e = .returned (.slice (some ⟨go, 0, none⟩) 32 32) ∧ Blk w' go .u8 5 (Sh.sha ls.flatten) ∧ w.heap.size ≤ go ∧ Below w.heap.size w w' := by
  have hs := sumAfter_any w (.slice none 0 0) vp [] ls (Slc.nil w) hP (by simpa using hlen) ht
  rw [List.nil_append] at hs
  have HS := Lib.hid hs
  clear hs
  go_enter Tryd.func9, Tryd.ntmps9
  go_wp2_with (go_at_call 17; refine HS.out.mono ?_; rintro e w1 ⟨go, rfl, h1, h2, h3⟩; have H1 := Lib.hid h1; have H2 := Lib.hid h2; have H3 := Lib.hid h3; clear h1 h2 h3)
  go_ret
  exact ⟨go, rfl, H1.out, H2.out, H3.out⟩

def c64 : Array Value := ((List.replicate 64 (0 : Int)).map (Value.int .u8)).toArray
theorem zero46 (w : World) : (zeroValue 46).run Tryd.prog w = .ok (.agg c64) w := by kernel_rfl

namespace Sh
def x8 (x m : Int) : Int := bits .xor .u8 x m
def pad64 (K : List Int) : List Int := K ++ List.replicate (64 - K.length) 0
/-- The key of one block, masked. -/
def mask (K : List Int) (m : Int) : List Int := (pad64 K).map fun x => x8 x m
def maskAt (L : List Int) (m : Int) (k : Nat) : List Int := ((L.take k).map fun x => x8 x m) ++ L.drop k
theorem x8_W (x m : Int) : W8 (x8 x m) := by
  unfold x8 bits
  rw [IntKind.wrap_u8]; unfold W8; omega
theorem length_pad64 (K : List Int) (h : K.length ≤ 64) : (pad64 K).length = 64 := by simp [pad64]; omega
theorem length_maskAt (L : List Int) (m : Int) (k : Nat) : (maskAt L m k).length = L.length := by simp [maskAt]; omega
theorem maskAt_zero (L : List Int) (m : Int) : maskAt L m 0 = L := by simp [maskAt]
theorem maskAt_all (L : List Int) (m : Int) (k : Nat) (h : L.length ≤ k) : maskAt L m k = L.map fun x => x8 x m := by
  simp [maskAt, List.take_of_length_le h, List.drop_eq_nil_of_le h]
theorem maskAt_get (L : List Int) (m : Int) (k : Nat) (h : k < L.length) : (maskAt L m k).getD k 0 = L.getD k 0 := by
  unfold maskAt
  rw [List.getD_eq_getElem?_getD, List.getElem?_append_right (by simp; omega), List.getD_eq_getElem?_getD]
  congr 1
  simp
  congr 1; omega
theorem maskAt_set (L : List Int) (m : Int) (k : Nat) (h : k < L.length) : (maskAt L m k).set k (x8 (L.getD k 0) m) = maskAt L m (k + 1) := by
  unfold maskAt
  rw [List.set_append_right _ _ (by simp; omega), List.take_succ_eq_append_getElem h, List.map_append, List.append_assoc]
  congr 1
  have e : L.drop k = L[k] :: L.drop (k + 1) := List.drop_eq_getElem_cons h
  simp [h, Nat.min_eq_left (Nat.le_of_lt h)]
  rw [e]; rfl
theorem mask_W (K : List Int) (m : Int) : ∀ x ∈ mask K m, W8 x := by
  intro x hx
  simp only [mask, List.mem_map] at hx
  obtain ⟨y, _, rfl⟩ := hx
  exact x8_W _ _
theorem length_mask (K : List Int) (m : Int) (h : K.length ≤ 64) : (mask K m).length = 64 := by simp [mask, length_pad64 K h]
end Sh

theorem copy_key (w : World) (a : Option Addr) (cap : Nat) (K : List Int) (hK : K.length ≤ 64) (hS : Slc w (.slice a K.length cap) K) :
    ∃ w2, (Builtin.copy_ #[22, 22] 3 #[.slice (some ⟨w.heap.size, 0, none⟩) 64 64, .slice a K.length cap]).run Tryd.prog (w.alloc (.cells c64 46)) = .ok (.int .i64 K.length) w2 ∧ Blk w2 w.heap.size .u8 46 (Sh.pad64 K) ∧ Below w.heap.size w w2 := by
  have h0 : Below w.heap.size w (w.alloc (.cells c64 46)) := (Below.refl _ _).alloc (Nat.le_refl _) _
  have hbk : (w.alloc (.cells c64 46)).heap[w.heap.size]? = some (.cells c64 46 (0, 0)) := heap_alloc_new w _
  by_cases hn : K = []
  · subst hn
    refine ⟨_, run_copy_none _ 22 22 3 5 _ _ _ _ _ _ Tryd.underlying22 i5 (by simp), ?_, h0⟩
    exact hbk
  · obtain ⟨a', cap', hv, hc, h8, hm⟩ := hS
    simp only [Value.slice.injEq] at hv
    obtain ⟨rfl, -, rfl⟩ := hv
    rcases hm with hm | ⟨b, off, rfl, h2, h3⟩
    · exact absurd hm hn
    · have hl : (K.map (Value.int .u8)).length = K.length := List.length_map _
      have hr := run_copy_row (P := Tryd.prog) (w.alloc (.cells c64 46)) 22 22 3 5 w.heap.size 0 64 64 ⟨b, off, none⟩ K.length cap c64 46 (K.map (Value.int .u8)) Tryd.underlying22 i5 hbk (by rw [hl]; exact (Nat.min_eq_left hK).symm) (src_of_at (h3.below h0 h2)) (by rw [hl]; simp [c64]; omega) (ints_oneCell _ _)
      rw [hl] at hr
      refine ⟨_, hr, ?_, below_setRow h0 (Nat.le_refl _) _⟩
      have := setRow_heap _ _ _ (c64.toList.take 0 ++ K.map (Value.int .u8) ++ c64.toList.drop (0 + K.length)).toArray 46 _ hbk
      refine this.trans ?_
      have hc : c64.toList = List.replicate 64 (.int .u8 0) := by unfold c64; rw [List.map_replicate]
      rw [hc, List.drop_replicate]
      simp only [Sh.pad64, List.map_append, List.map_replicate, List.take_zero, List.nil_append, Nat.zero_add]

set_option maxRecDepth 100000 in
set_option maxHeartbeats 400000 in
theorem masked_any (w : World) (vk : Value) (K : List Int) (m : Int) (hS : Slc w vk K) (hK : K.length ≤ 64)  :
    Calls Tryd.prog 20 #[vk, .int .u8 m] w fun e w' => ∃ go, e = .returned (.slice (some ⟨go, 0, none⟩) 64 64) ∧ Blk w' go .u8 46 (Sh.mask K m) ∧ w.heap.size ≤ go ∧ Below w.heap.size w w' := by
  obtain ⟨a, cap, rfl, hc, -⟩ := id hS
  obtain ⟨w2, hcp, hB2, hO2⟩ := copy_key w a cap K hK hS
  have hz := zero46
  have HB2 := Lib.hid hB2
  have HO2 := Lib.hid hO2
  have hl := Sh.length_pad64 K hK
  have HMK := Lib.hid (show Sh.mask K m = (Sh.pad64 K).map fun x => Sh.x8 x m from rfl)
  clear hB2 hO2 hS
  generalize Sh.pad64 K = L at *
  go_enter Tryd.func20, Tryd.ntmps20
  go_wp2_with fail
  clear hcp hz
  go_loopw [10] (fun i wr => ∃ k : Nat, k ≤ 64 ∧ i = .int .i64 k ∧ Hid (Blk wr w.heap.size .u8 46 (Sh.maskAt L m k)) ∧ Hid (Below w.heap.size w wr)) (fun i _ => 64 - (intOf i).toNat)
  case atStart => exact ⟨0, by omega, rfl, by rw [Sh.maskAt_zero]; exact HB2, HO2⟩
  case round =>
    clear HB2 HO2
    obtain ⟨k, hk, rfl, B, O⟩ := hrel
    by_cases hlt : k < 64
    · have hml := Sh.length_maskAt L m k
      have hcl := B.out.cell k (by omega)
      have hf := B.out.free k
      rw [Sh.maskAt_get L m k (by omega)] at hcl
      have hset := B.out.set k (Sh.x8 (L.getD k 0) m)
      rw [Sh.maskAt_set L m k (by omega)] at hset
      unfold Sh.x8 at hset
      have HS := Lib.hid hset
      clear hset hml HMK
      generalize L.getD k 0 = old at *
      go_wp2
      go_roundw
      case rel => exact ⟨k + 1, by omega, by go_num, HS.out, O.out.setCell (Nat.le_refl _) _⟩
      case measure => simp [intOf]; omega
    · have hB := B.out
      rw [Sh.maskAt_all L m k (by omega), ← HMK.out] at hB
      have HB := Lib.hid hB
      clear hB B HMK
      go_wp2
      go_ret
      exact ⟨_, rfl, HB.out, Nat.le_refl _, O.out⟩
end Go.Proofs.YtiodmmjjoodmoaaDoor
