/- Layer 2, the walks: a word turned; the schedule. -/
import Derived.Test.YtiodmmjjoodmoaaDoorRows
import Derived.WalkKit
import Derived.WalkSpells
import Derived.WalkLawsBesides
import Derived.Lib.Hide
import Derived.Deep.RegionWith
import Derived.Deep.QuietTactic
import Derived.BigQuiet
import Derived.BigRegion
import Derived.WalkSmall
import Derived.Laws.CopyOwn
import Derived.Test.YtiodmmjjoodmoaaDoorM
namespace Go.Proofs.YtiodmmjjoodmoaaDoor
open Go.RowKit

theorem ret_int {k : IntKind} {a b : Int} (h : a = b) : Ending.returned (.int k a) = .returned (.int k b) := by rw [h]

theorem and31 (k : Nat) (h2 : 1 ≤ k) (h3 : k ≤ 31) : bits BinOp.and IntKind.u64 (IntKind.u64.wrap (-(k : Int))) 31 = ((32 - k : Nat) : Int) := by
  have : ∀ k : Fin 32, 1 ≤ k.val → bits BinOp.and IntKind.u64 (IntKind.u64.wrap (-(k.val : Int))) 31 = ((32 - k.val : Nat) : Int) := by decide +kernel
  exact this ⟨k, by omega⟩ h2

set_option maxHeartbeats 400000 in
theorem turnk (x : Int) (k : Nat) (w : World) (h : Sh.W32 x) (h2 : 1 ≤ k) (h3 : k ≤ 31) :
    Calls Tryd.prog 31 #[.int .u32 x, .int .i64 k] w fun e w' => e = .returned (.int .u32 (Sh.rot x k)) ∧ w = w' := by
  obtain ⟨h0, h1⟩ := h
  have hb := and31 k h2 h3
  obtain ⟨j, hj⟩ : ∃ j : Nat, j = 32 - k := ⟨_, rfl⟩
  rw [← hj] at hb
  have g1 : 1 ≤ j := by omega
  have g2 : j ≤ 31 := by omega
  have HJ := Lib.hid hj
  clear hj
  go_enter Tryd.func31, Tryd.ntmps31
  go_wp2
  go_ret
  refine ⟨ret_int ?_, rfl⟩
  have e := HJ.out
  unfold Sh.rot
  rw [Sh.or_comm, show 32 - j = k by omega, e]

theorem turn_lit (x : Int) (k : Nat) (w : World) (h : Sh.W32 x) (n : Int) (hn : n = k) (h2 : 1 ≤ k) (h3 : k ≤ 31) :
    Calls Tryd.prog 31 #[.int .u32 x, .int .i64 n] w fun e w' => e = .returned (.int .u32 (Sh.rot x k)) ∧ w = w' := by
  subst hn; exact turnk x k w h h2 h3

def Drew (w w' : World) : Prop := ∃ n, w' = w.drewN n
theorem Drew.refl (w : World) : Drew w w := ⟨0, rfl⟩

set_option maxHeartbeats 400000 in
theorem rturnk (x : Int) (k : Nat) (w : World) (h : Sh.W32 x) (h2 : 1 ≤ k) (h3 : k ≤ 31) :
    Calls Tryd.prog 19 #[.int .u32 x, .int .i64 k] w fun e w' => e = .returned (.int .u32 (Sh.rot x k)) ∧ Drew w w' := by
  obtain ⟨h0, h1⟩ := h
  go_enter Tryd.func19, Tryd.ntmps19
  go_wp2_with fail
  go_quiet (fail)
  go_wp2
  go_ret
  exact ⟨rfl, ⟨_, rfl⟩⟩

/-- So many numbers of a kind lie in a block from a place on. -/
def At (w : World) (k : IntKind) (b off : Nat) (l : List Int) : Prop := ∀ j, j < l.length → w.cell? ⟨b, off + j, none⟩ = some (.int k (l.getD j 0))
theorem At.below {w w' : World} {B : Nat} {k : IntKind} {b off : Nat} {l : List Int} (h : At w k b off l) (hb : Below B w w') (hB : b < B) : At w' k b off l :=
  fun j hj => (hb.cell (p := ⟨b, off + j, none⟩) hB).trans (h j hj)

def z64 : List Int := List.replicate 64 0
def blk (l : List Int) : Obj := .cells (l.map (Value.int .u32)).toArray 60 (0, 0)

theorem blk_cell {w : World} {g : Nat} {l : List Int} (h : w.heap[g]? = some (blk l)) (j : Nat) (hj : j < l.length) : w.cell? ⟨g, j, none⟩ = some (.int .u32 (l.getD j 0)) := by
  rw [cell_of_row w g j _ 60 (0, 0) h]
  simp [hj]
theorem blk_free {w : World} {g : Nat} {l : List Int} (h : w.heap[g]? = some (blk l)) (j : Nat) : w.frozen? ⟨g, j, none⟩ = false := frozen_of_row w g j _ 60 h
theorem blk_set {w : World} {g : Nat} {l : List Int} (h : w.heap[g]? = some (blk l)) (j : Nat) (x : Int) : (w.setCell ⟨g, j, none⟩ (.int .u32 x)).heap[g]? = some (blk (l.set j x)) := by
  rw [heap_setCell_same w g j _ 60 _ h]
  unfold blk
  simp [List.map_set]

theorem set_fill (T Z : List Int) (x z : Int) : (T ++ (z :: Z)).set T.length x = T ++ [x] ++ Z := by
  simp

theorem getD_append_lt (T Z : List Int) (j : Nat) (h : j < T.length) : (T ++ Z).getD j 0 = T.getD j 0 := by
  simp [List.getElem?_append_left h]
theorem W32_getD {l : List Int} (h : ∀ x ∈ l, Sh.W32 x) (j : Nat) : Sh.W32 (l.getD j 0) := by
  by_cases hj : j < l.length
  · have : l.getD j 0 = l[j] := by simp [hj]
    rw [this]; exact h _ (List.getElem_mem hj)
  · have : l.getD j 0 = 0 := by simp; rw [List.getElem?_eq_none (by omega)]; rfl
    rw [this]; unfold Sh.W32; omega
theorem W8_getD {l : List Int} (h : ∀ x ∈ l, Sh.W8 x) (j : Nat) : Sh.W8 (l.getD j 0) := by
  by_cases hj : j < l.length
  · have : l.getD j 0 = l[j] := by simp [hj]
    rw [this]; exact h _ (List.getElem_mem hj)
  · have : l.getD j 0 = 0 := by simp; rw [List.getElem?_eq_none (by omega)]; rfl
    rw [this]; unfold Sh.W8; omega

theorem w16_take_succ (p : List Int) (k : Nat) (h : k < 16) : (Sh.w16 p).take (k + 1) = (Sh.w16 p).take k ++ [Sh.ld4 (p.getD (4 * k) 0) (p.getD (4 * k + 1) 0) (p.getD (4 * k + 2) 0) (p.getD (4 * k + 3) 0)] := by
  rw [List.take_succ_eq_append_getElem (by rw [Sh.length_w16]; exact h)]
  congr 2
  simp [Sh.w16]
theorem w16_W (p : List Int) : ∀ x ∈ Sh.w16 p, Sh.W32 x := by
  intro x hx
  simp only [Sh.w16, List.mem_map] at hx
  obtain ⟨i, _, rfl⟩ := hx
  exact Sh.bits_W _ _ _
theorem grow_W (n : Nat) (l : List Int) (h : ∀ x ∈ l, Sh.W32 x) : ∀ x ∈ Sh.grow n l, Sh.W32 x := by
  induction n with
  | zero => exact h
  | succ n ih =>
    intro x hx
    simp only [Sh.grow, List.mem_append, List.mem_singleton] at hx
    rcases hx with hx | rfl
    · exact ih x hx
    · exact Sh.wrap_W _

theorem zeros_succ (k : Nat) : List.replicate (k + 1) (0 : Int) = 0 :: List.replicate k 0 := rfl

set_option maxHeartbeats 2000000 in
theorem sched_any (b off cap : Nat) (w : World) (p : List Int) (hp : p.length = 64) (hw8 : ∀ x ∈ p, Sh.W8 x) (ha : At w .u8 b off p) (hb : b < w.heap.size) :
    Calls Tryd.prog 30 #[.slice (some ⟨b, off, none⟩) 64 cap] w fun e w' => e = .returned (.agg ((Sh.sched p).map (Value.int .u32)).toArray) ∧ Below w.heap.size w w' := by
  go_enter Tryd.func30, Tryd.ntmps30
  go_wp2
  go_loopw [10] (fun i wr => ∃ k : Nat, k ≤ 16 ∧ i = .int .i64 k ∧ wr.heap[w.heap.size + 1]? = some (blk ((Sh.w16 p).take k ++ List.replicate (64 - k) 0)) ∧ wr.heap[w.heap.size]? = some (blk z64) ∧ Below w.heap.size w wr) (fun i _ => 16 - (intOf i).toNat)
  case atStart => exact ⟨0, by omega, rfl, heap_alloc2_new w _ _, heap_alloc2_old w _ _, ((Below.refl _ _).alloc (Nat.le_refl _) _).alloc (by simp) _⟩
  case round =>
    obtain ⟨k, hk, rfl, h1, h2, h3⟩ := hrel
    by_cases hlt : k < 16
    · have hA := ha.below h3 hb
      have c0 := hA (4 * k) (by omega)
      have c1 := hA (4 * k + 1) (by omega)
      have c2 := hA (4 * k + 2) (by omega)
      have c3 := hA (4 * k + 3) (by omega)
      have hlen : ((Sh.w16 p).take k ++ List.replicate (64 - k) 0).length = 64 := by simp [Sh.length_w16]; omega
      have cs := blk_cell h1 k (by omega)
      have cf := blk_free h1 k
      have ht := w16_take_succ p k hlt
      have b0 := W8_getD hw8 (4 * k)
      have b1 := W8_getD hw8 (4 * k + 1)
      have b2 := W8_getD hw8 (4 * k + 2)
      have b3 := W8_getD hw8 (4 * k + 3)
      have hset := blk_set h1 k (Sh.ld4 (p.getD (4 * k) 0) (p.getD (4 * k + 1) 0) (p.getD (4 * k + 2) 0) (p.getD (4 * k + 3) 0))
      have hl : ((Sh.w16 p).take k ++ List.replicate (64 - k) 0).set k (Sh.ld4 (p.getD (4 * k) 0) (p.getD (4 * k + 1) 0) (p.getD (4 * k + 2) 0) (p.getD (4 * k + 3) 0)) = (Sh.w16 p).take (k + 1) ++ List.replicate (64 - (k + 1)) 0 := by
        have e : ((Sh.w16 p).take k).length = k := by simp [Sh.length_w16]; omega
        rw [ht, show 64 - k = (64 - (k + 1)) + 1 by omega, zeros_succ]
        have := set_fill ((Sh.w16 p).take k) (List.replicate (64 - (k + 1)) 0) (Sh.ld4 (p.getD (4 * k) 0) (p.getD (4 * k + 1) 0) (p.getD (4 * k + 2) 0) (p.getD (4 * k + 3) 0)) 0
        rw [e] at this
        exact this
      rw [hl] at hset
      have hother := fun x => heap_setCell_other wr ⟨w.heap.size + 1, k, none⟩ w.heap.size (.int .u32 x) (by simp)
      have HS := Lib.hid hset
      have HO := Lib.hid hother
      have H2 := Lib.hid h2
      obtain ⟨lo0, hi0⟩ := b0
      obtain ⟨lo1, hi1⟩ := b1
      obtain ⟨lo2, hi2⟩ := b2
      obtain ⟨lo3, hi3⟩ := b3
      generalize p.getD (4 * k) 0 = x0 at *
      generalize p.getD (4 * k + 1) 0 = x1 at *
      generalize p.getD (4 * k + 2) 0 = x2 at *
      generalize p.getD (4 * k + 3) 0 = x3 at *
      generalize ((Sh.w16 p).take k ++ List.replicate (64 - k) 0).getD k 0 = v at *
      clear hset hother h1 h2 ht hl hlen hA
      go_wp2
      go_region
      all_goals go_wp2
      all_goals go_roundw
      case rel => exact ⟨k + 1, by omega, by go_num, HS.out, (HO.out _).trans H2.out, (h3.setCell (by simp) _).drew⟩
      case measure => simp [intOf]; omega
    · have hk16 : ((k : Nat) : Int) = 16 := by omega
      rw [hk16]
      clear hk16
      obtain rfl : k = 16 := by omega
      have h1' : wr.heap[w.heap.size + 1]? = some (blk (Sh.grow 0 (Sh.w16 p) ++ List.replicate 48 0)) := by
        rw [h1, List.take_of_length_le (by rw [Sh.length_w16]; omega)]; rfl
      have H1 := Lib.hid h1'
      have H2 := Lib.hid h2
      clear h1 h1' h2
      go_wp2
      obtain ⟨wo, hwo⟩ : ∃ wo : World, wo = wr := ⟨_, rfl⟩
      have H1o : Hid (wo.heap[w.heap.size + 1]? = some (blk (Sh.grow 0 (Sh.w16 p) ++ List.replicate 48 0))) := by rw [hwo]; exact H1
      have H2o : Hid (wo.heap[w.heap.size]? = some (blk z64)) := by rw [hwo]; exact H2
      have h3o : Below w.heap.size w wo := by rw [hwo]; exact h3
      rw [← hwo]
      clear hwo H1 H2 h3
      go_loopw [5] (fun i wr => ∃ j : Nat, 16 ≤ j ∧ j ≤ 64 ∧ i = .int .i64 j ∧ Hid (wr.heap[w.heap.size + 1]? = some (blk (Sh.grow (j - 16) (Sh.w16 p) ++ List.replicate (64 - j) 0))) ∧ Hid (wr.heap[w.heap.size]? = some (blk z64)) ∧ Below w.heap.size w wr) (fun i _ => 64 - (intOf i).toNat)
      case atStart => exact ⟨16, by omega, by omega, rfl, H1o, H2o, h3o⟩
      case round =>
        obtain ⟨j, hj0, hj, rfl, H1, H2, h3⟩ := hrel
        clear H1o H2o h3o
        by_cases hlt : j < 64
        · have h1 := H1.out
          have hlen : (Sh.grow (j - 16) (Sh.w16 p)).length = j := by rw [Sh.length_grow, Sh.length_w16]; omega
          have hlen2 : (Sh.grow (j - 16) (Sh.w16 p) ++ List.replicate (64 - j) 0).length = 64 := by simp only [List.length_append, hlen, List.length_replicate]; omega
          have hgW := grow_W (j - 16) (Sh.w16 p) (w16_W p)
          have c16 := blk_cell h1 (j - 16) (by omega)
          have c15 := blk_cell h1 (j - 15) (by omega)
          have c7 := blk_cell h1 (j - 7) (by omega)
          have c2 := blk_cell h1 (j - 2) (by omega)
          have cs := blk_cell h1 j (by omega)
          have cf := blk_free h1 j
          rw [getD_append_lt _ _ _ (by omega)] at c16 c15 c7 c2
          have w16 := W32_getD hgW (j - 16)
          have w15 := W32_getD hgW (j - 15)
          have w7 := W32_getD hgW (j - 7)
          have w2 := W32_getD hgW (j - 2)
          have hext : Sh.ext (Sh.grow (j - 16) (Sh.w16 p)) = Sh.ad (Sh.ad (Sh.ad ((Sh.grow (j - 16) (Sh.w16 p)).getD (j - 16) 0) (Sh.sg0 ((Sh.grow (j - 16) (Sh.w16 p)).getD (j - 15) 0))) ((Sh.grow (j - 16) (Sh.w16 p)).getD (j - 7) 0)) (Sh.sg1 ((Sh.grow (j - 16) (Sh.w16 p)).getD (j - 2) 0)) := by
            unfold Sh.ext; rw [hlen]
          have hset := blk_set h1 j (Sh.ext (Sh.grow (j - 16) (Sh.w16 p)))
          have hl : (Sh.grow (j - 16) (Sh.w16 p) ++ List.replicate (64 - j) 0).set j (Sh.ext (Sh.grow (j - 16) (Sh.w16 p))) = Sh.grow (j + 1 - 16) (Sh.w16 p) ++ List.replicate (64 - (j + 1)) 0 := by
            rw [show 64 - j = (64 - (j + 1)) + 1 by omega, zeros_succ, show j + 1 - 16 = (j - 16) + 1 by omega]
            have := set_fill (Sh.grow (j - 16) (Sh.w16 p)) (List.replicate (64 - (j + 1)) 0) (Sh.ext (Sh.grow (j - 16) (Sh.w16 p))) 0
            rw [hlen] at this
            exact this
          rw [hl, hext] at hset
          have hother := fun x => heap_setCell_other wr ⟨w.heap.size + 1, j, none⟩ w.heap.size (.int .u32 x) (by simp)
          have HS := Lib.hid hset
          have HO := Lib.hid hother
          generalize (Sh.grow (j - 16) (Sh.w16 p)).getD (j - 16) 0 = x16 at *
          generalize (Sh.grow (j - 16) (Sh.w16 p)).getD (j - 15) 0 = x15 at *
          generalize (Sh.grow (j - 16) (Sh.w16 p)).getD (j - 7) 0 = x7 at *
          generalize (Sh.grow (j - 16) (Sh.w16 p)).getD (j - 2) 0 = x2 at *
          generalize (Sh.grow (j - 16) (Sh.w16 p) ++ List.replicate (64 - j) 0).getD j 0 = v at *
          clear hset hother h1 hlen hlen2 hl hext hgW H1
          go_wp2
          go_quiet (fail)
          go_wp2_with (first | (go_at_call_of 31 (Value.int IntKind.i64 7); refine (turn_lit _ 7 _ w15 7 rfl (by decide) (by decide)).mono ?_; rintro e w' ⟨rfl, rfl⟩) | (go_at_call_of 31 (Value.int IntKind.i64 18); refine (turn_lit _ 18 _ w15 18 rfl (by decide) (by decide)).mono ?_; rintro e w' ⟨rfl, rfl⟩) | (go_at_call_of 31 (Value.int IntKind.i64 17); refine (turn_lit _ 17 _ w2 17 rfl (by decide) (by decide)).mono ?_; rintro e w' ⟨rfl, rfl⟩) | (go_at_call_of 31 (Value.int IntKind.i64 19); refine (turn_lit _ 19 _ w2 19 rfl (by decide) (by decide)).mono ?_; rintro e w' ⟨rfl, rfl⟩))
          go_region
          all_goals go_wp2
          all_goals go_roundw
          case rel =>
            have hv : ∀ s0 s1 : Int, (x16 + s0 + x7 + s1) % 4294967296 = Sh.ad (Sh.ad (Sh.ad x16 s0) x7) s1 := by
              intro s0 s1; rw [Sh.ad_eq, Sh.ad_eq, Sh.ad_eq]; omega
            refine ⟨j + 1, by omega, by omega, by go_num, ?_, (HO.out _).trans H2.out, (below_drewN h3 _).setCell (by simp) _⟩
            rw [hv]
            exact HS.out
          case measure => simp [intOf]; omega
        · have hj64 : ((j : Nat) : Int) = 64 := by omega
          rw [hj64]
          clear hj64
          obtain rfl : j = 64 := by omega
          have h1 := H1.out
          have h2 := H2.out
          rw [show Sh.grow (64 - 16) (Sh.w16 p) ++ List.replicate (64 - 64) 0 = Sh.sched p by simp [Sh.sched]] at h1
          have hz : z64.length = 64 := by simp [z64]
          have hs := Sh.length_sched p
          have hB : w.heap.size + 1 ≠ w.heap.size := by omega
          unfold blk at h1 h2
          have hso : ∀ c : Array Value, c = ((Sh.sched p).map (Value.int .u32)).toArray → (wr.setRow w.heap.size c).heap[w.heap.size]? = some (.cells c 60 (0, 0)) := fun c _ => setRow_heap wr w.heap.size _ _ 60 _ h2
          have h64 : (Tryd.prog.info? 60).map (·.size) = some 64 := by kernel_rfl
          go_wp2_with (first | (refine wpList_load_row rfl 60 _ rfl (w.heap.size + 1) rfl 60 _ (0, 0) _ h1 Tryd.underlying60 rfl ?_ ?_) | (refine wpList_store_row rfl 60 _ _ rfl w.heap.size _ rfl rfl 60 _ h2 ?_ ?_ ?_ ?_))
          · simp only [List.size_toArray, List.length_map, hs]; exact h64
          · simp only [List.size_toArray, List.length_map, hs]; exact h64
          · simp only [List.size_toArray, List.length_map, hs, hz]
          · exact Array.all_eq_true_iff_forall_mem.2 fun x hx => by
              simp only [List.mem_toArray, List.mem_map] at hx
              obtain ⟨y, _, rfl⟩ := hx; rfl
          · exact bodyPost_ret (results_cell_row Tryd.results30 _ _ w.heap.size 60 _ (0, 0) _ rfl (hso _ rfl) Tryd.underlying60 rfl (by simp only [List.size_toArray, List.length_map, hs]; exact h64)) rfl ⟨rfl, below_setRow h3 (Nat.le_refl _) _⟩
end Go.Proofs.YtiodmmjjoodmoaaDoor
