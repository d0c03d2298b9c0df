/- The walk of keyOf: 32 bytes of any. -/
import Derived.Test.YticoefnojgaplaaC
namespace Go.Proofs.Yticoefnojgaplaa
open Go.RowKit

def zs (n : Nat) : List Int := List.replicate n 0
/-- Just so many bytes: cut, or with noughts behind. -/
def fit (P : List Int) (n : Nat) : List Int := P.take n ++ zs (n - P.length)
theorem fit_length (P : List Int) (n : Nat) : (fit P n).length = n := by simp [fit, zs]; omega
theorem fit_W8 {P : List Int} (h : ∀ x ∈ P, W8 x) (n : Nat) : ∀ x ∈ fit P n, W8 x := by
  intro x hx
  unfold fit zs at hx
  rcases List.mem_append.1 hx with hx | hx
  · exact h x (List.mem_of_mem_take hx)
  · rw [List.mem_replicate] at hx
    rw [hx.2]; unfold W8; omega
theorem fit_splice (P : List Int) (n : Nat) : splice ((zs n).map (Value.int .u8)) 0 ((P.take n).map (Value.int .u8)) = (fit P n).map (Value.int .u8) := by
  unfold splice fit zs
  rw [List.map_append, List.take_zero, List.nil_append, Nat.zero_add, List.length_map, List.length_take, List.map_replicate, List.drop_replicate, List.map_replicate]
  congr 2
  omega
def bv (l : List Int) : Value := .agg (l.map (Value.int .u8)).toArray
theorem i44 : (Try.prog.info? 44).map (·.size) = some 32 := by kernel_rfl
theorem i5 : (Try.prog.info? 5).map (·.size) = some 1 := by kernel_rfl
theorem bytes_one (l : List Int) : (l.map (Value.int .u8)).toArray.all (·.oneCell') = true := by simp [Value.oneCell']
theorem ints_one (k : IntKind) (l : List Int) : ∀ v ∈ l.map (Value.int k), v.oneCell' = true := by
  intro v hv
  rw [List.mem_map] at hv
  obtain ⟨n, _, rfl⟩ := hv
  rfl
/-- What a slice's first bytes are taken from. -/
theorem slc_pos {w : World} {a : Option Addr} {c : Nat} {P : List Int} (h : Slc w (.slice a P.length c) P) (n : Nat) (h0 : 0 < ((P.take n).map (Value.int .u8)).length) : ∃ ad, a = some ad ∧ ∀ (j : Nat) (v : Value), ((P.take n).map (Value.int .u8))[j]? = some v → w.cell? (ad.add j) = some v := by
  obtain ⟨a', c', hv, _, _, hm⟩ := h
  simp only [Value.slice.injEq] at hv
  obtain ⟨rfl, -, -⟩ := hv
  rcases hm with hm | ⟨b, off, rfl, h2, h3⟩
  · rw [hm] at h0; simp at h0
  · refine ⟨_, rfl, fun j v hj => ?_⟩
    refine src_of_at h3 j v ?_
    rw [List.getElem?_map] at hj ⊢
    rw [List.getElem?_take] at hj
    split at hj
    · exact hj
    · simp at hj

set_option maxRecDepth 100000 in
set_option maxHeartbeats 400000 in
theorem keyOf_any (w : World) (a : Option Addr) (c : Nat) (P : List Int) (hP : Slc w (.slice a P.length c) P) :
    Calls Try.prog 23 #[.slice a P.length c] w fun e w' => e = .returned (bv (fit P 32)) ∧ Below w.heap.size w w' := by
  have q1 := heap_alloc2_old w (.cells ((zs 32).map (Value.int .u8)).toArray 44) (.cells ((zs 32).map (Value.int .u8)).toArray 44)
  have q2 := heap_alloc2_new w (.cells ((zs 32).map (Value.int .u8)).toArray 44) (.cells ((zs 32).map (Value.int .u8)).toArray 44)
  have q3 : Below w.heap.size w ((w.alloc (.cells ((zs 32).map (Value.int .u8)).toArray 44)).alloc (.cells ((zs 32).map (Value.int .u8)).toArray 44)) := ((Below.refl _ _).alloc (Nat.le_refl _) _).alloc (by simp) _
  have H1 := Lib.hid q1
  have H2 : Hid (((w.alloc (.cells ((zs 32).map (Value.int .u8)).toArray 44)).alloc (.cells ((zs 32).map (Value.int .u8)).toArray 44)).heap[w.heap.size + 1]? = some (.cells ((zs 32).map (Value.int .u8)).toArray 44 (0, 0))) := q2
  have HB := Lib.hid q3
  have HP := Lib.hid (hP.below q3 (Nat.le_refl _))
  have HF := Lib.hid (fit_splice P 32)
  have HT : Hid (((P.take 32).map (Value.int .u8)).length = Nat.min P.length 32) := by show _ = _; rw [List.length_map, List.length_take, Nat.min_comm]
  have HPOS := Lib.hid (slc_pos HP.out 32)
  have HI := Lib.hid (ints_one .u8 (P.take 32))
  clear q1 q2 q3 hP
  generalize (P.take 32).map (Value.int .u8) = CS at *
  have HL : Hid (CS.length ≤ 32) := by show _ ≤ _; rw [HT.out]; exact Nat.min_le_right _ _
  have HFIT : Hid (0 + CS.length ≤ ((zs 32).map (Value.int .u8)).length) := by
    have := HL.out
    show 0 + CS.length ≤ ((zs 32).map (Value.int .u8)).length
    rw [Nat.zero_add, List.length_map]
    exact this
  have HSZ : Hid ((Try.prog.info? 44).map (·.size) = some (splice ((zs 32).map (Value.int .u8)) 0 CS).toArray.size) := by
    show _ = _
    rw [HF.out, i44]
    simp [fit_length]
  have HONE : Hid ((splice ((zs 32).map (Value.int .u8)) 0 CS).toArray.all (·.oneCell') = true) := by
    show _ = _
    rw [HF.out]
    exact bytes_one _
  have HEQ : Hid (((zs 32).map (Value.int .u8)).toArray.size = (splice ((zs 32).map (Value.int .u8)) 0 CS).toArray.size) := by
    show _ = _
    rw [HF.out]
    simp [fit_length, zs]
  go_enter Try.func23, Try.ntmps23
  go_wp2_with (first
    | ((with_reducible refine wpList_load_row (o := ⟨some 7, _, _, _, _, _⟩) rfl 44 (.tmp 3) rfl (w.heap.size + 1) rfl 44 _ (0, 0) _ H3.out Try.underlying44 rfl ?_ ?_); exact HSZ.out)
    | ((with_reducible refine wpList_store_row (o := ⟨none, _, _, _, _, _⟩) rfl 44 (.tmp 2) (.tmp 7) rfl w.heap.size _ rfl rfl 44 _ H4.out ?_ ?_ ?_ ?_); exact HSZ.out; exact HEQ.out; exact HONE.out)
    | ((with_reducible refine wpList_copy_splice (o := ⟨some 6, _, _, _, _, _⟩) rfl (.tmp 4) (.tmp 5) 22 22 rfl 5 Try.underlying22 i5 (some ⟨w.heap.size + 1, 0, none⟩) a 32 32 P.length c rfl rfl (w.heap.size + 1) 0 ((zs 32).map (Value.int .u8)) 44 ?_ CS ?_ ?_ ?_ ?_ (w.heap.size + 1) ((w.alloc (.cells ((zs 32).map (Value.int .u8)).toArray 44)).alloc (.cells ((zs 32).map (Value.int .u8)).toArray 44)) ?_ ?_ ?_); exact H2.out; exact HT.out; exact (fun h => ⟨rfl, HPOS.out h⟩); exact HFIT.out; exact HI.out; exact Below.refl _ _; exact Nat.le_refl _; intro w3 hs3 hb3; have H3 := hs3; have H4 := Lib.hid ((hb3.block w.heap.size (Nat.lt_succ_self _)).trans H1.out); have HB3 := Lib.hid (HB.out.trans (hb3.mono (Nat.le_succ _))); clear hs3 hb3))
  refine bodyPost_ret (results_cell_row Try.results23 _ _ w.heap.size 44 _ (0, 0) _ rfl (setRow_heap w3 w.heap.size _ _ 44 _ H4.out) Try.underlying44 rfl HSZ.out) rfl ?_
  exact ⟨by rw [HF.out]; rfl, below_setRow HB3.out (Nat.le_refl _) _⟩
end Go.Proofs.Yticoefnojgaplaa
