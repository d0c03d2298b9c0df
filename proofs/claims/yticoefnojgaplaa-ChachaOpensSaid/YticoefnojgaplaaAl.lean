/- The code's start: a state out of key, count and nonce. -/
import Derived.Test.YticoefnojgaplaaAk
namespace Go.Proofs.Yticoefnojgaplaa
open Go.RowKit

namespace Ch
def wd (K : List Int) (i : Nat) : Int := (Bt.low ((K.drop (4 * i)).take 4) : Nat)
theorem wd_W {K : List Int} (h8 : ∀ x ∈ K, W8 x) (i : Nat) : W32 (wd K i) := by
  have h := Bt.low_lt ((K.drop (4 * i)).take 4) (fun x hx => h8 x (List.mem_of_mem_drop (List.mem_of_mem_take hx)))
  have h2 : 2 ^ (8 * ((K.drop (4 * i)).take 4).length) ≤ 2 ^ 32 := Nat.pow_le_pow_right (by decide) (by rw [List.length_take]; omega)
  simp only [Nat.reducePow] at h2
  unfold W32 wd
  omega
def st0 : List Int := [1634760805, 857760878, 2036477234, 1797285236, 0, 0, 0, 0, 0, 0, 0, 0, 0, 0, 0, 0]
def setw (S K : List Int) (at0 : Nat) : Nat → List Int
  | 0 => S
  | k + 1 => (setw S K at0 k).set (at0 + k) (wd K k)
theorem setw_length (S K : List Int) (at0 : Nat) : ∀ k, (setw S K at0 k).length = S.length
  | 0 => rfl
  | k + 1 => by rw [setw, List.length_set, setw_length S K at0 k]
theorem Ok.setw {S K : List Int} (h : Ok S) (h8 : ∀ x ∈ K, W8 x) (at0 : Nat) : ∀ k, Ok (setw S K at0 k)
  | 0 => h
  | k + 1 => (Ok.setw h h8 at0 k).set _ (wd_W h8 k)
/-- The state that a block begins with. -/
def st (K : List Int) (n : Int) (N : List Int) : List Int := setw ((setw st0 K 4 8).set 12 n) N 13 3
theorem st_length (K : List Int) (n : Int) (N : List Int) : (st K n N).length = 16 := by
  unfold st; rw [setw_length, List.length_set, setw_length]; rfl
theorem st_ok {K N : List Int} {n : Int} (hK : ∀ x ∈ K, W8 x) (hn : W32 n) (hN : ∀ x ∈ N, W8 x) : Ok (st K n N) := by
  have h0 : Ok st0 := by unfold Ok st0 W32; decide
  exact ((h0.setw hK 4 8).set 12 hn).setw hN 13 3
end Ch
/-- What lies where while a state is begun. -/
structure StL (w : World) (gk gn g9 : Nat) (K N S : List Int) (wr : World) : Prop where
  kk : Blk wr gk .u8 44 K
  nn : Blk wr gn .u8 62 N
  zz : Blk wr w.heap.size .u32 37 (List.replicate 16 (0 : Int))
  ss : Blk wr g9 .u32 37 S
  ne : gk < g9 ∧ gn < g9 ∧ w.heap.size < g9
  bb : Below w.heap.size w wr
theorem StL.below {w wr w' : World} {gk gn g9 : Nat} {K N S : List Int} (h : StL w gk gn g9 K N S wr) (hb : Below wr.heap.size wr w') : StL w gk gn g9 K N S w' :=
  ⟨h.kk.other (hb.block _ h.kk.lt), h.nn.other (hb.block _ h.nn.lt), h.zz.other (hb.block _ h.zz.lt), h.ss.other (hb.block _ h.ss.lt), h.ne, h.bb.trans (hb.mono h.bb.size)⟩
theorem StL.put {w wr : World} {gk gn g9 : Nat} {K N S : List Int} (h : StL w gk gn g9 K N S wr) (j : Nat) (x : Int) : StL w gk gn g9 K N (S.set j x) (wr.setCell ⟨g9, j, none⟩ (.int .u32 x)) := by
  obtain ⟨n1, n2, n3⟩ := h.ne
  exact ⟨h.kk.other (heap_setCell_other _ _ _ _ (by simp; omega)), h.nn.other (heap_setCell_other _ _ _ _ (by simp; omega)), h.zz.other (heap_setCell_other _ _ _ _ (by simp; omega)), h.ss.set j x, h.ne, h.bb.setCell (Nat.le_of_lt n3) _⟩
theorem i62 : (Try.prog.info? 62).map (·.size) = some 12 := by kernel_rfl
set_option maxRecDepth 100000 in
set_option maxHeartbeats 2000000 in
theorem start_any (w : World) (ak : Option Addr) (ck : Nat) (K : List Int) (hK : Slc w (.slice ak K.length ck) K) (n : Int) (hn : W32 n) (an : Option Addr) (cn : Nat) (N : List Int) (hN : Slc w (.slice an N.length cn) N) :
    Calls Try.prog 18 #[.slice ak K.length ck, .int .u32 n, .slice an N.length cn] w fun e w' => e = .returned (wv (Ch.st (fit K 32) n (fit N 12))) ∧ Below w.heap.size w w' := by
  have hz : Below w.heap.size w (w.alloc (.cells ((List.replicate 16 (0 : Int)).map (Value.int .u32)).toArray 37)) := (Below.refl _ _).alloc (Nat.le_refl _) _
  have HKC : Hid (Calls Try.prog 23 #[.slice ak K.length ck] (w.alloc (.cells ((List.replicate 16 (0 : Int)).map (Value.int .u32)).toArray 37)) fun e w' => e = .returned (.agg ((fit K 32).map (Value.int .u8)).toArray) ∧ Below (w.alloc (.cells ((List.replicate 16 (0 : Int)).map (Value.int .u32)).toArray 37)).heap.size (w.alloc (.cells ((List.replicate 16 (0 : Int)).map (Value.int .u32)).toArray 37)) w') := keyOf_any _ ak ck K (hK.below hz (Nat.le_refl _))
  have HZ0 : Hid (Blk (w.alloc (.cells ((List.replicate 16 (0 : Int)).map (Value.int .u32)).toArray 37)) w.heap.size .u32 37 (List.replicate 16 (0 : Int))) := heap_alloc_new w _
  have HZB := Lib.hid hz
  have HN := Lib.hid hN
  have hk8 : ∀ x ∈ K, W8 x := by obtain ⟨_, _, _, _, h, _⟩ := hK; exact h
  have hn8 : ∀ x ∈ N, W8 x := by obtain ⟨_, _, _, _, h, _⟩ := hN; exact h
  have H8 := Lib.hid (fit_W8 hk8 32)
  have HL := Lib.hid (fit_length K 32)
  have N8 := Lib.hid (fit_W8 hn8 12)
  have NL := Lib.hid (fit_length N 12)
  have HF := Lib.hid (fit_splice N 12)
  have HT : Hid (((N.take 12).map (Value.int .u8)).length = Nat.min N.length 12) := by show _ = _; rw [List.length_map, List.length_take, Nat.min_comm]
  have HI := Lib.hid (ints_one .u8 (N.take 12))
  have HPOS := Lib.hid (fun wq (hb : Below w.heap.size w wq) => slc_pos (hN.below hb (Nat.le_refl _)) 12)
  clear hK hN hk8 hn8 hz
  generalize (N.take 12).map (Value.int .u8) = CS at *
  generalize fit K 32 = KK at *
  generalize fit N 12 = NN at *
  go_enter Try.func18, Try.ntmps18
  go_wp2_with (first
    | ((with_reducible refine wpList_copy_splice (o := ⟨some 16, _, _, _, _, _⟩) rfl (.tmp 14) (.tmp 15) 22 22 rfl 5 Try.underlying22 i5 (some ⟨w2.heap.size, 0, none⟩) an 12 12 N.length cn rfl rfl w2.heap.size 0 ((zs 12).map (Value.int .u8)) 62 ?_ CS ?_ ?_ ?_ ?_ w2.heap.size w2 ?_ ?_ ?_); exact heap_alloc_new w2 (.cells ((zs 12).map (Value.int .u8)).toArray 62); exact HT.out; exact (fun h => ⟨rfl, HPOS.out _ (B2.out.alloc B2.out.size _) h⟩); exact (by rw [HT.out, List.length_map, Nat.zero_add]; exact Nat.min_le_right _ _); exact HI.out; exact (Below.refl _ _).alloc (Nat.le_refl _) _; exact Nat.le_refl _; intro w3 hs3 hb3; have N3 : Hid (Blk w3 w2.heap.size .u8 62 NN) := (by show w3.heap[_]? = _; rw [hs3.out, HF.out]); have K3 := Lib.hid (K2.out.other (hb3.block _ K2.out.lt)); have Z3 := Lib.hid (Z2.out.other (hb3.block _ Z2.out.lt)); have B3 := Lib.hid (B2.out.trans (hb3.mono B2.out.size)); clear hs3 hb3 K2 Z2 B2)
    | ((with_reducible refine wpList_store_row (o := ⟨none, _, _, _, _, _⟩) rfl 44 (.tmp 7) (.tmp 13) rfl w1.heap.size (KK.map (Value.int .u8)).toArray rfl rfl 44 ((zs 32).map (Value.int .u8)).toArray ?_ ?_ ?_ ?_ ?_); exact heap_alloc_new w1 (.cells ((zs 32).map (Value.int .u8)).toArray 44); exact (by rw [i44]; simp [HL.out]); exact (by simp [zs, HL.out]); exact bytes_one _; rw [World.setRow_alloc_new]; have K2 : Hid (Blk (w1.alloc (.cells (KK.map (Value.int .u8)).toArray 44)) w1.heap.size .u8 44 KK) := heap_alloc_new w1 _; have Z2 : Hid (Blk (w1.alloc (.cells (KK.map (Value.int .u8)).toArray 44)) w.heap.size .u32 37 (List.replicate 16 (0 : Int))) := Z1.out.other (Below.heap_alloc _ _ _ Z1.out.lt); have B2 := Lib.hid (B1.out.alloc B1.out.size (.cells (KK.map (Value.int .u8)).toArray 44)); clear B1 Z1; generalize w1.alloc (.cells (KK.map (Value.int .u8)).toArray 44) = w2 at *; generalize w1.heap.size = gk at *)
    | (go_at_call 23; refine HKC.out.mono ?_; rintro e w1 ⟨rfl, hb⟩; have B1 := Lib.hid (HZB.out.trans (hb.mono HZB.out.size)); have Z1 := Lib.hid (HZ0.out.other (hb.block _ HZ0.out.lt)); clear hb))
  have T0 : Hid (StL w gk w2.heap.size w3.heap.size KK NN Ch.st0 (w3.alloc (.cells (Ch.st0.map (Value.int .u32)).toArray 37))) :=
    ⟨K3.out.other (Below.heap_alloc _ _ _ K3.out.lt), N3.out.other (Below.heap_alloc _ _ _ N3.out.lt), Z3.out.other (Below.heap_alloc _ _ _ Z3.out.lt), heap_alloc_new w3 _, ⟨K3.out.lt, N3.out.lt, Z3.out.lt⟩, B3.out.alloc B3.out.size _⟩
  change Code.wp _ _ _ _ (w3.alloc (.cells (Ch.st0.map (Value.int .u32)).toArray 37))
  clear HZ0 HZB HN HT HI HPOS HKC HF N3 K3 Z3 B3
  generalize w3.alloc (.cells (Ch.st0.map (Value.int .u32)).toArray 37) = w4 at *
  generalize w3.heap.size = g9 at *
  generalize w2.heap.size = gn at *
  generalize (Value.int .i64 (CS.length : Nat)) = v16 at *
  have hn0 := hn
  obtain ⟨n0, n1⟩ := hn0
  go_loopw [18] (fun i wr => ∃ k : Nat, k ≤ 8 ∧ i = .int .i64 k ∧ Hid (StL w gk gn g9 KK NN (Ch.setw Ch.st0 KK 4 k) wr)) (fun i _ => 8 - (intOf i).toNat)
  case atStart => exact ⟨0, by omega, rfl, T0⟩
  case round =>
    clear T0
    obtain ⟨k, hk, rfl, T⟩ := hrel
    by_cases hlt : k < 8
    · have hlen : ∀ j, (Ch.setw Ch.st0 KK 4 j).length = 16 := fun j => Ch.setw_length _ _ _ _
      have HLEN := Lib.hid hlen
      clear hlen
      by_cases h0 : k = 0
      · subst h0
        have HLOW : Hid (∀ wq, Blk wq gk .u8 44 KK → Calls Try.prog 25 #[.slice (some ⟨gk, 0, none⟩) 4 32] wq fun e w' => e = .returned (.int .u64 (Bt.low ((KK.drop 0).take 4) : Nat)) ∧ Below wq.heap.size wq w') := fun wq hb => low_at 32 4 (at_part2 hb 0 4 (by rw [HL.out]; decide)) hb.lt (fun x hx => H8.out x (List.mem_of_mem_drop (List.mem_of_mem_take hx))) (by rw [List.length_take, List.length_drop, HL.out]; rfl) (by decide) (by decide)
        have hw : W32 ((Bt.low ((KK.drop 0).take 4) : Nat) : Int) := Ch.wd_W H8.out 0
        obtain ⟨x0, x1⟩ := hw
        have HSET : Hid (Ch.setw Ch.st0 KK 4 1 = (Ch.setw Ch.st0 KK 4 0).set 4 ((Bt.low ((KK.drop 0).take 4) : Nat) : Int)) := rfl
        generalize ((Bt.low ((KK.drop 0).take 4) : Nat) : Int) = x at *
        go_wp2_with (go_at_call 25; refine (HLOW.out wr T.out.kk).mono ?_; rintro e w5 ⟨rfl, hb⟩; have T5 := Lib.hid (T.out.below hb); have c1 := T5.out.ss.cell 4 (by rw [HLEN.out]; decide); have f1 := T5.out.ss.free 4; clear hb)
        go_roundw
        case rel => exact ⟨1, by omega, by go_num, by show StL _ _ _ _ _ _ _ _; rw [HSET.out]; exact T5.out.put 4 x⟩
        case measure => simp [intOf]
      by_cases h1 : k = 1
      · subst h1
        have HLOW : Hid (∀ wq, Blk wq gk .u8 44 KK → Calls Try.prog 25 #[.slice (some ⟨gk, 4, none⟩) 4 28] wq fun e w' => e = .returned (.int .u64 (Bt.low ((KK.drop 4).take 4) : Nat)) ∧ Below wq.heap.size wq w') := fun wq hb => low_at 28 4 (at_part2 hb 4 4 (by rw [HL.out]; decide)) hb.lt (fun x hx => H8.out x (List.mem_of_mem_drop (List.mem_of_mem_take hx))) (by rw [List.length_take, List.length_drop, HL.out]; rfl) (by decide) (by decide)
        have hw : W32 ((Bt.low ((KK.drop 4).take 4) : Nat) : Int) := Ch.wd_W H8.out 1
        obtain ⟨x0, x1⟩ := hw
        have HSET : Hid (Ch.setw Ch.st0 KK 4 2 = (Ch.setw Ch.st0 KK 4 1).set 5 ((Bt.low ((KK.drop 4).take 4) : Nat) : Int)) := rfl
        generalize ((Bt.low ((KK.drop 4).take 4) : Nat) : Int) = x at *
        go_wp2_with (go_at_call 25; refine (HLOW.out wr T.out.kk).mono ?_; rintro e w5 ⟨rfl, hb⟩; have T5 := Lib.hid (T.out.below hb); have c1 := T5.out.ss.cell 5 (by rw [HLEN.out]; decide); have f1 := T5.out.ss.free 5; clear hb)
        go_roundw
        case rel => exact ⟨2, by omega, by go_num, by show StL _ _ _ _ _ _ _ _; rw [HSET.out]; exact T5.out.put 5 x⟩
        case measure => simp [intOf]
      by_cases h2 : k = 2
      · subst h2
        have HLOW : Hid (∀ wq, Blk wq gk .u8 44 KK → Calls Try.prog 25 #[.slice (some ⟨gk, 8, none⟩) 4 24] wq fun e w' => e = .returned (.int .u64 (Bt.low ((KK.drop 8).take 4) : Nat)) ∧ Below wq.heap.size wq w') := fun wq hb => low_at 24 4 (at_part2 hb 8 4 (by rw [HL.out]; decide)) hb.lt (fun x hx => H8.out x (List.mem_of_mem_drop (List.mem_of_mem_take hx))) (by rw [List.length_take, List.length_drop, HL.out]; rfl) (by decide) (by decide)
        have hw : W32 ((Bt.low ((KK.drop 8).take 4) : Nat) : Int) := Ch.wd_W H8.out 2
        obtain ⟨x0, x1⟩ := hw
        have HSET : Hid (Ch.setw Ch.st0 KK 4 3 = (Ch.setw Ch.st0 KK 4 2).set 6 ((Bt.low ((KK.drop 8).take 4) : Nat) : Int)) := rfl
        generalize ((Bt.low ((KK.drop 8).take 4) : Nat) : Int) = x at *
        go_wp2_with (go_at_call 25; refine (HLOW.out wr T.out.kk).mono ?_; rintro e w5 ⟨rfl, hb⟩; have T5 := Lib.hid (T.out.below hb); have c1 := T5.out.ss.cell 6 (by rw [HLEN.out]; decide); have f1 := T5.out.ss.free 6; clear hb)
        go_roundw
        case rel => exact ⟨3, by omega, by go_num, by show StL _ _ _ _ _ _ _ _; rw [HSET.out]; exact T5.out.put 6 x⟩
        case measure => simp [intOf]
      by_cases h3 : k = 3
      · subst h3
        have HLOW : Hid (∀ wq, Blk wq gk .u8 44 KK → Calls Try.prog 25 #[.slice (some ⟨gk, 12, none⟩) 4 20] wq fun e w' => e = .returned (.int .u64 (Bt.low ((KK.drop 12).take 4) : Nat)) ∧ Below wq.heap.size wq w') := fun wq hb => low_at 20 4 (at_part2 hb 12 4 (by rw [HL.out]; decide)) hb.lt (fun x hx => H8.out x (List.mem_of_mem_drop (List.mem_of_mem_take hx))) (by rw [List.length_take, List.length_drop, HL.out]; rfl) (by decide) (by decide)
        have hw : W32 ((Bt.low ((KK.drop 12).take 4) : Nat) : Int) := Ch.wd_W H8.out 3
        obtain ⟨x0, x1⟩ := hw
        have HSET : Hid (Ch.setw Ch.st0 KK 4 4 = (Ch.setw Ch.st0 KK 4 3).set 7 ((Bt.low ((KK.drop 12).take 4) : Nat) : Int)) := rfl
        generalize ((Bt.low ((KK.drop 12).take 4) : Nat) : Int) = x at *
        go_wp2_with (go_at_call 25; refine (HLOW.out wr T.out.kk).mono ?_; rintro e w5 ⟨rfl, hb⟩; have T5 := Lib.hid (T.out.below hb); have c1 := T5.out.ss.cell 7 (by rw [HLEN.out]; decide); have f1 := T5.out.ss.free 7; clear hb)
        go_roundw
        case rel => exact ⟨4, by omega, by go_num, by show StL _ _ _ _ _ _ _ _; rw [HSET.out]; exact T5.out.put 7 x⟩
        case measure => simp [intOf]
      by_cases h4 : k = 4
      · subst h4
        have HLOW : Hid (∀ wq, Blk wq gk .u8 44 KK → Calls Try.prog 25 #[.slice (some ⟨gk, 16, none⟩) 4 16] wq fun e w' => e = .returned (.int .u64 (Bt.low ((KK.drop 16).take 4) : Nat)) ∧ Below wq.heap.size wq w') := fun wq hb => low_at 16 4 (at_part2 hb 16 4 (by rw [HL.out]; decide)) hb.lt (fun x hx => H8.out x (List.mem_of_mem_drop (List.mem_of_mem_take hx))) (by rw [List.length_take, List.length_drop, HL.out]; rfl) (by decide) (by decide)
        have hw : W32 ((Bt.low ((KK.drop 16).take 4) : Nat) : Int) := Ch.wd_W H8.out 4
        obtain ⟨x0, x1⟩ := hw
        have HSET : Hid (Ch.setw Ch.st0 KK 4 5 = (Ch.setw Ch.st0 KK 4 4).set 8 ((Bt.low ((KK.drop 16).take 4) : Nat) : Int)) := rfl
        generalize ((Bt.low ((KK.drop 16).take 4) : Nat) : Int) = x at *
        go_wp2_with (go_at_call 25; refine (HLOW.out wr T.out.kk).mono ?_; rintro e w5 ⟨rfl, hb⟩; have T5 := Lib.hid (T.out.below hb); have c1 := T5.out.ss.cell 8 (by rw [HLEN.out]; decide); have f1 := T5.out.ss.free 8; clear hb)
        go_roundw
        case rel => exact ⟨5, by omega, by go_num, by show StL _ _ _ _ _ _ _ _; rw [HSET.out]; exact T5.out.put 8 x⟩
        case measure => simp [intOf]
      by_cases h5 : k = 5
      · subst h5
        have HLOW : Hid (∀ wq, Blk wq gk .u8 44 KK → Calls Try.prog 25 #[.slice (some ⟨gk, 20, none⟩) 4 12] wq fun e w' => e = .returned (.int .u64 (Bt.low ((KK.drop 20).take 4) : Nat)) ∧ Below wq.heap.size wq w') := fun wq hb => low_at 12 4 (at_part2 hb 20 4 (by rw [HL.out]; decide)) hb.lt (fun x hx => H8.out x (List.mem_of_mem_drop (List.mem_of_mem_take hx))) (by rw [List.length_take, List.length_drop, HL.out]; rfl) (by decide) (by decide)
        have hw : W32 ((Bt.low ((KK.drop 20).take 4) : Nat) : Int) := Ch.wd_W H8.out 5
        obtain ⟨x0, x1⟩ := hw
        have HSET : Hid (Ch.setw Ch.st0 KK 4 6 = (Ch.setw Ch.st0 KK 4 5).set 9 ((Bt.low ((KK.drop 20).take 4) : Nat) : Int)) := rfl
        generalize ((Bt.low ((KK.drop 20).take 4) : Nat) : Int) = x at *
        go_wp2_with (go_at_call 25; refine (HLOW.out wr T.out.kk).mono ?_; rintro e w5 ⟨rfl, hb⟩; have T5 := Lib.hid (T.out.below hb); have c1 := T5.out.ss.cell 9 (by rw [HLEN.out]; decide); have f1 := T5.out.ss.free 9; clear hb)
        go_roundw
        case rel => exact ⟨6, by omega, by go_num, by show StL _ _ _ _ _ _ _ _; rw [HSET.out]; exact T5.out.put 9 x⟩
        case measure => simp [intOf]
      by_cases h6 : k = 6
      · subst h6
        have HLOW : Hid (∀ wq, Blk wq gk .u8 44 KK → Calls Try.prog 25 #[.slice (some ⟨gk, 24, none⟩) 4 8] wq fun e w' => e = .returned (.int .u64 (Bt.low ((KK.drop 24).take 4) : Nat)) ∧ Below wq.heap.size wq w') := fun wq hb => low_at 8 4 (at_part2 hb 24 4 (by rw [HL.out]; decide)) hb.lt (fun x hx => H8.out x (List.mem_of_mem_drop (List.mem_of_mem_take hx))) (by rw [List.length_take, List.length_drop, HL.out]; rfl) (by decide) (by decide)
        have hw : W32 ((Bt.low ((KK.drop 24).take 4) : Nat) : Int) := Ch.wd_W H8.out 6
        obtain ⟨x0, x1⟩ := hw
        have HSET : Hid (Ch.setw Ch.st0 KK 4 7 = (Ch.setw Ch.st0 KK 4 6).set 10 ((Bt.low ((KK.drop 24).take 4) : Nat) : Int)) := rfl
        generalize ((Bt.low ((KK.drop 24).take 4) : Nat) : Int) = x at *
        go_wp2_with (go_at_call 25; refine (HLOW.out wr T.out.kk).mono ?_; rintro e w5 ⟨rfl, hb⟩; have T5 := Lib.hid (T.out.below hb); have c1 := T5.out.ss.cell 10 (by rw [HLEN.out]; decide); have f1 := T5.out.ss.free 10; clear hb)
        go_roundw
        case rel => exact ⟨7, by omega, by go_num, by show StL _ _ _ _ _ _ _ _; rw [HSET.out]; exact T5.out.put 10 x⟩
        case measure => simp [intOf]
      have h7 : k = 7 := by omega
      subst h7
      have HLOW : Hid (∀ wq, Blk wq gk .u8 44 KK → Calls Try.prog 25 #[.slice (some ⟨gk, 28, none⟩) 4 4] wq fun e w' => e = .returned (.int .u64 (Bt.low ((KK.drop 28).take 4) : Nat)) ∧ Below wq.heap.size wq w') := fun wq hb => low_at 4 4 (at_part2 hb 28 4 (by rw [HL.out]; decide)) hb.lt (fun x hx => H8.out x (List.mem_of_mem_drop (List.mem_of_mem_take hx))) (by rw [List.length_take, List.length_drop, HL.out]; rfl) (by decide) (by decide)
      have hw : W32 ((Bt.low ((KK.drop 28).take 4) : Nat) : Int) := Ch.wd_W H8.out 7
      obtain ⟨x0, x1⟩ := hw
      have HSET : Hid (Ch.setw Ch.st0 KK 4 8 = (Ch.setw Ch.st0 KK 4 7).set 11 ((Bt.low ((KK.drop 28).take 4) : Nat) : Int)) := rfl
      generalize ((Bt.low ((KK.drop 28).take 4) : Nat) : Int) = x at *
      go_wp2_with (go_at_call 25; refine (HLOW.out wr T.out.kk).mono ?_; rintro e w5 ⟨rfl, hb⟩; have T5 := Lib.hid (T.out.below hb); have c1 := T5.out.ss.cell 11 (by rw [HLEN.out]; decide); have f1 := T5.out.ss.free 11; clear hb)
      go_roundw
      case rel => exact ⟨8, by omega, by go_num, by show StL _ _ _ _ _ _ _ _; rw [HSET.out]; exact T5.out.put 11 x⟩
      case measure => simp [intOf]
    · have hk8 : ((k : Nat) : Int) = 8 := by omega
      rw [hk8]
      clear hk8
      obtain rfl : k = 8 := by omega
      have L8 : Hid ((Ch.setw Ch.st0 KK 4 8).length = 16) := Ch.setw_length _ _ _ _
      have HST : Hid (Ch.setw ((Ch.setw Ch.st0 KK 4 8).set 12 n) NN 13 3 = Ch.st KK n NN) := rfl
      generalize Ch.setw Ch.st0 KK 4 8 = S8 at *
      have c1 := T.out.ss.cell 12 (by rw [L8.out]; decide)
      have f1 := T.out.ss.free 12
      have T1 := Lib.hid (T.out.put 12 n)
      have L9 : Hid ((S8.set 12 n).length = 16) := by show _ = _; rw [List.length_set]; exact L8.out
      go_wp2_with fail
      change Code.wp _ _ _ _ (wr.setCell ⟨g9, 12, none⟩ (.int .u32 n))
      clear c1 f1 T L8
      generalize S8.set 12 n = S9 at *
      generalize wr.setCell ⟨g9, 12, none⟩ (.int .u32 n) = w6 at *
      go_loopw [35] (fun i wr => ∃ k : Nat, k ≤ 3 ∧ i = .int .i64 k ∧ Hid (StL w gk gn g9 KK NN (Ch.setw S9 NN 13 k) wr)) (fun i _ => 3 - (intOf i).toNat)
      case atStart => exact ⟨0, by omega, rfl, T1⟩
      case round =>
        clear T1
        obtain ⟨k, hk, rfl, T⟩ := hrel
        by_cases hlt : k < 3
        · have hlen : ∀ j, (Ch.setw S9 NN 13 j).length = 16 := fun j => (Ch.setw_length _ _ _ _).trans L9.out
          have HLEN := Lib.hid hlen
          clear hlen
          by_cases h0 : k = 0
          · subst h0
            have HLOW : Hid (∀ wq, Blk wq gn .u8 62 NN → Calls Try.prog 25 #[.slice (some ⟨gn, 0, none⟩) 4 12] wq fun e w' => e = .returned (.int .u64 (Bt.low ((NN.drop 0).take 4) : Nat)) ∧ Below wq.heap.size wq w') := fun wq hb => low_at 12 4 (at_part2 hb 0 4 (by rw [NL.out]; decide)) hb.lt (fun x hx => N8.out x (List.mem_of_mem_drop (List.mem_of_mem_take hx))) (by rw [List.length_take, List.length_drop, NL.out]; rfl) (by decide) (by decide)
            have hw : W32 ((Bt.low ((NN.drop 0).take 4) : Nat) : Int) := Ch.wd_W N8.out 0
            obtain ⟨x0, x1⟩ := hw
            have HSET : Hid (Ch.setw S9 NN 13 1 = (Ch.setw S9 NN 13 0).set 13 ((Bt.low ((NN.drop 0).take 4) : Nat) : Int)) := rfl
            generalize ((Bt.low ((NN.drop 0).take 4) : Nat) : Int) = x at *
            go_wp2_with (go_at_call 25; refine (HLOW.out wr T.out.nn).mono ?_; rintro e w5 ⟨rfl, hb⟩; have T5 := Lib.hid (T.out.below hb); have c1 := T5.out.ss.cell 13 (by rw [HLEN.out]; decide); have f1 := T5.out.ss.free 13; clear hb)
            go_roundw
            case rel => exact ⟨1, by omega, by go_num, by show StL _ _ _ _ _ _ _ _; rw [HSET.out]; exact T5.out.put 13 x⟩
            case measure => simp [intOf]
          by_cases h1 : k = 1
          · subst h1
            have HLOW : Hid (∀ wq, Blk wq gn .u8 62 NN → Calls Try.prog 25 #[.slice (some ⟨gn, 4, none⟩) 4 8] wq fun e w' => e = .returned (.int .u64 (Bt.low ((NN.drop 4).take 4) : Nat)) ∧ Below wq.heap.size wq w') := fun wq hb => low_at 8 4 (at_part2 hb 4 4 (by rw [NL.out]; decide)) hb.lt (fun x hx => N8.out x (List.mem_of_mem_drop (List.mem_of_mem_take hx))) (by rw [List.length_take, List.length_drop, NL.out]; rfl) (by decide) (by decide)
            have hw : W32 ((Bt.low ((NN.drop 4).take 4) : Nat) : Int) := Ch.wd_W N8.out 1
            obtain ⟨x0, x1⟩ := hw
            have HSET : Hid (Ch.setw S9 NN 13 2 = (Ch.setw S9 NN 13 1).set 14 ((Bt.low ((NN.drop 4).take 4) : Nat) : Int)) := rfl
            generalize ((Bt.low ((NN.drop 4).take 4) : Nat) : Int) = x at *
            go_wp2_with (go_at_call 25; refine (HLOW.out wr T.out.nn).mono ?_; rintro e w5 ⟨rfl, hb⟩; have T5 := Lib.hid (T.out.below hb); have c1 := T5.out.ss.cell 14 (by rw [HLEN.out]; decide); have f1 := T5.out.ss.free 14; clear hb)
            go_roundw
            case rel => exact ⟨2, by omega, by go_num, by show StL _ _ _ _ _ _ _ _; rw [HSET.out]; exact T5.out.put 14 x⟩
            case measure => simp [intOf]
          have h2 : k = 2 := by omega
          subst h2
          have HLOW : Hid (∀ wq, Blk wq gn .u8 62 NN → Calls Try.prog 25 #[.slice (some ⟨gn, 8, none⟩) 4 4] wq fun e w' => e = .returned (.int .u64 (Bt.low ((NN.drop 8).take 4) : Nat)) ∧ Below wq.heap.size wq w') := fun wq hb => low_at 4 4 (at_part2 hb 8 4 (by rw [NL.out]; decide)) hb.lt (fun x hx => N8.out x (List.mem_of_mem_drop (List.mem_of_mem_take hx))) (by rw [List.length_take, List.length_drop, NL.out]; rfl) (by decide) (by decide)
          have hw : W32 ((Bt.low ((NN.drop 8).take 4) : Nat) : Int) := Ch.wd_W N8.out 2
          obtain ⟨x0, x1⟩ := hw
          have HSET : Hid (Ch.setw S9 NN 13 3 = (Ch.setw S9 NN 13 2).set 15 ((Bt.low ((NN.drop 8).take 4) : Nat) : Int)) := rfl
          generalize ((Bt.low ((NN.drop 8).take 4) : Nat) : Int) = x at *
          go_wp2_with (go_at_call 25; refine (HLOW.out wr T.out.nn).mono ?_; rintro e w5 ⟨rfl, hb⟩; have T5 := Lib.hid (T.out.below hb); have c1 := T5.out.ss.cell 15 (by rw [HLEN.out]; decide); have f1 := T5.out.ss.free 15; clear hb)
          go_roundw
          case rel => exact ⟨3, by omega, by go_num, by show StL _ _ _ _ _ _ _ _; rw [HSET.out]; exact T5.out.put 15 x⟩
          case measure => simp [intOf]
        · obtain rfl : k = 3 := by omega
          rw [HST.out] at T
          have HSZ : Hid ((Try.prog.info? 37).map (·.size) = some ((Ch.st KK n NN).map (Value.int .u32)).toArray.size) := by show _ = _; rw [i37]; simp [Ch.st_length]
          have HEQ : Hid (((List.replicate 16 (0 : Int)).map (Value.int .u32)).toArray.size = ((Ch.st KK n NN).map (Value.int .u32)).toArray.size) := by show _ = _; simp [Ch.st_length]
          generalize hSS : Ch.st KK n NN = SS at *
          have HSS := Lib.hid hSS
          clear hSS
          go_wp2_with (first
            | ((with_reducible refine wpList_load_row (o := ⟨some 50, _, _, _, _, _⟩) rfl 37 (.tmp 9) rfl g9 rfl 37 (SS.map (Value.int .u32)).toArray (0, 0) _ ?_ Try.underlying37 rfl ?_ ?_); exact T.out.ss; exact HSZ.out)
            | ((with_reducible refine wpList_store_row (o := ⟨none, _, _, _, _, _⟩) rfl 37 (.tmp 6) (.tmp 50) rfl w.heap.size (SS.map (Value.int .u32)).toArray rfl rfl 37 ((List.replicate 16 (0 : Int)).map (Value.int .u32)).toArray ?_ ?_ ?_ ?_ ?_); exact T.out.zz; exact HSZ.out; exact HEQ.out; exact words_one SS))
          exact bodyPost_ret (results_cell_row Try.results18 _ _ w.heap.size 37 _ (0, 0) _ rfl (setRow_heap wr w.heap.size _ (SS.map (Value.int .u32)).toArray 37 _ T.out.zz) Try.underlying37 rfl HSZ.out) rfl ⟨by rw [HSS.out]; rfl, below_setRow T.out.bb (Nat.le_refl _) _⟩
end Go.Proofs.Yticoefnojgaplaa
