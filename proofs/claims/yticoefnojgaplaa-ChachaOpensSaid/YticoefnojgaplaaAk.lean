/- The code's block out of a state. -/
import Derived.Test.YticoefnojgaplaaAj
namespace Go.Proofs.Yticoefnojgaplaa
open Go.RowKit

namespace Ch
def rounds (S : List Int) : Nat → List Int
  | 0 => S
  | k + 1 => mixk (mixk (rounds S k) 0 4) 1 4
theorem rounds_length (S : List Int) : ∀ k, (rounds S k).length = S.length
  | 0 => rfl
  | k + 1 => by rw [rounds, mixk_length, mixk_length, rounds_length S k]
theorem Ok.rounds {S : List Int} (h : Ok S) : ∀ k, Ok (rounds S k)
  | 0 => h
  | k + 1 => ((Ok.rounds h k).mixk 0 4).mixk 1 4
/-- The bytes of the first sums. -/
def outk (S M : List Int) : Nat → List Int
  | 0 => []
  | k + 1 => outk S M k ++ Bt.le (ad (M.getD k 0) (S.getD k 0)).toNat 4
theorem outk_length (S M : List Int) : ∀ k, (outk S M k).length = 4 * k
  | 0 => rfl
  | k + 1 => by rw [outk, List.length_append, outk_length S M k, Bt.le_length]; omega
def block (S : List Int) : List Int := outk S (rounds S 10) 16
end Ch
def wv (l : List Int) : Value := .agg (l.map (Value.int .u32)).toArray
theorem i37 : (Try.prog.info? 37).map (·.size) = some 16 := by kernel_rfl
theorem words_one (l : List Int) : (l.map (Value.int .u32)).toArray.all (·.oneCell') = true := by simp [Value.oneCell']
theorem run_index37 (l : List Int) (j : Nat) (hl : l.length = 16) (hj : j < 16) (w : World) : (Instr.index 37 (.agg (l.map (Value.int .u32)).toArray) (.int .i64 (j : Int))).run Try.prog w = .ok (.int .u32 (l.getD j 0)) w := by
  have h1 := run_underlying (P := Try.prog) Try.underlying37
  have h2 := Try.sizeOf23
  have h3 := Try.isAgg23
  have e : (l.map (Value.int .u32)).toArray[j]? = some (.int .u32 (l.getD j 0)) := by simp [hl, hj]
  simp [Instr.index, asIntOf, h1, h2, h3, part, hj, hl]
theorem run_mk64 (w : World) : (Instr.makeSlice 22 (.int .i64 0) (.int .i64 64)).run Try.prog w = .ok (.slice (some ⟨w.heap.size, 0, none⟩) 0 64) (w.alloc (.cells ((zs 64).map (Value.int .u8)).toArray 5)) := by
  obtain ⟨i0, hi, hz0, hz1, hz2⟩ := info_parts info5b
  have h := run_make w 22 5 i0 (.int .u8 0) Try.underlying22 hi hz0 .i64 .i64 0 64 (by omega) (by omega) (by rw [hz2]; omega) (by omega)
  rw [h]
  have e : madeCells (Value.int .u8 0).cells ((64 : Int).toNat * i0.size) = ((zs 64).map (Value.int .u8)).toArray := by
    apply Array.toList_inj.1
    rw [hz1, Nat.mul_one]
    show (madeCells #[Value.int .u8 0] _).toList = _
    rw [toList_madeCells_one]
    simp [zs]
  rw [e]
  rfl
theorem own_made (w : World) {B : Nat} (hB : B ≤ w.heap.size) : Own B (w.alloc (.cells ((zs 64).map (Value.int .u8)).toArray 5)) (.slice (some ⟨w.heap.size, 0, none⟩) 0 64) [] := by
  refine ⟨⟨rfl, Or.inr ⟨w.heap.size, 64, _, rfl, hB, heap_alloc_new w _, by decide, ?_, ?_, ?_⟩⟩, fun _ h => (List.not_mem_nil h).elim, by simp; omega⟩
  · unfold maxLen; omega
  · simp [zs]
  · simp
theorem Own.mono {B B' : Nat} {w : World} {v : Value} {xs : List Int} (h : Own B w v xs) (hB : B' ≤ B) : Own B' w v xs := by
  obtain ⟨⟨h1, h2⟩, h3, h4⟩ := h
  refine ⟨⟨h1, ?_⟩, h3, Nat.le_trans hB h4⟩
  rcases h2 with h2 | ⟨g, cap, cur, a, b, c⟩
  · exact Or.inl h2
  · exact Or.inr ⟨g, cap, cur, a, Nat.le_trans hB b, c⟩
set_option maxRecDepth 100000 in
set_option maxHeartbeats 2000000 in
theorem block_any (w : World) (S : List Int) (hl : S.length = 16) (hok : Ch.Ok S) :
    Calls Try.prog 19 #[wv S] w fun e w' => ∃ v', e = .returned v' ∧ Own w.heap.size w' v' (Ch.block S) ∧ Below w.heap.size w w' := by
  have L0 := Lib.hid hl
  have K0 := Lib.hid hok
  have HSZ : Hid ((Try.prog.info? 37).map (·.size) = some (S.map (Value.int .u32)).toArray.size) := by show _ = _; rw [i37]; simp [hl]
  have HEQ : Hid (((List.replicate 16 (0 : Int)).map (Value.int .u32)).toArray.size = (S.map (Value.int .u32)).toArray.size) := by show _ = _; simp [hl]
  have HN : Hid ((w.alloc (.cells (S.map (Value.int .u32)).toArray 37)).heap[w.heap.size]? = some (.cells (S.map (Value.int .u32)).toArray 37 (0, 0))) := heap_alloc_new w _
  have HZ : Hid (((w.alloc (.cells (S.map (Value.int .u32)).toArray 37)).alloc (.cells ((List.replicate 16 (0 : Int)).map (Value.int .u32)).toArray 37)).heap[w.heap.size + 1]? = some (.cells ((List.replicate 16 (0 : Int)).map (Value.int .u32)).toArray 37 (0, 0))) := heap_alloc2_new w _ _
  have HO : Hid (((w.alloc (.cells (S.map (Value.int .u32)).toArray 37)).alloc (.cells ((List.replicate 16 (0 : Int)).map (Value.int .u32)).toArray 37)).heap[w.heap.size]? = some (.cells (S.map (Value.int .u32)).toArray 37 (0, 0))) := heap_alloc2_old w _ _
  have HB : Hid (Below w.heap.size w ((w.alloc (.cells (S.map (Value.int .u32)).toArray 37)).alloc (.cells ((List.replicate 16 (0 : Int)).map (Value.int .u32)).toArray 37))) := ((Below.refl _ _).alloc (Nat.le_refl _) _).alloc (by simp) _
  clear hl hok
  unfold wv
  go_enter Try.func19, Try.ntmps19
  go_wp2_with (first
    | ((with_reducible refine wpList_load_row (o := ⟨some 7, _, _, _, _, _⟩) rfl 37 (.tmp 1) rfl w.heap.size rfl 37 _ (0, 0) _ HN.out Try.underlying37 rfl ?_ ?_); exact HSZ.out)
    | ((with_reducible refine wpList_store_row (o := ⟨none, _, _, _, _, _⟩) rfl 37 (.tmp 3) (.tmp 7) rfl (w.heap.size + 1) (S.map (Value.int .u32)).toArray rfl rfl 37 ((List.replicate 16 (0 : Int)).map (Value.int .u32)).toArray ?_ ?_ ?_ ?_ ?_); exact HZ.out; exact HSZ.out; exact HEQ.out; exact words_one S))
  change Code.wp _ _ _ _ (((w.alloc (.cells (S.map (Value.int .u32)).toArray 37)).alloc (.cells ((List.replicate 16 (0 : Int)).map (Value.int .u32)).toArray 37)).setRow (w.heap.size + 1) (S.map (Value.int .u32)).toArray)
  have B1 : Hid (Blk (((w.alloc (.cells (S.map (Value.int .u32)).toArray 37)).alloc (.cells ((List.replicate 16 (0 : Int)).map (Value.int .u32)).toArray 37)).setRow (w.heap.size + 1) (S.map (Value.int .u32)).toArray) (w.heap.size + 1) .u32 37 S) := setRow_heap _ (w.heap.size + 1) _ _ 37 _ HZ.out
  have B0 : Hid (Blk (((w.alloc (.cells (S.map (Value.int .u32)).toArray 37)).alloc (.cells ((List.replicate 16 (0 : Int)).map (Value.int .u32)).toArray 37)).setRow (w.heap.size + 1) (S.map (Value.int .u32)).toArray) w.heap.size .u32 37 S) := (setRow_other _ _ _ _ (by omega)).trans HO.out
  have BB := Lib.hid (below_setRow HB.out (Nat.le_succ _) (S.map (Value.int .u32)).toArray)
  clear HSZ HEQ HN HZ HO HB
  generalize ((w.alloc (.cells (S.map (Value.int .u32)).toArray 37)).alloc (.cells ((List.replicate 16 (0 : Int)).map (Value.int .u32)).toArray 37)).setRow (w.heap.size + 1) (S.map (Value.int .u32)).toArray = w2 at *
  go_loopw [8] (fun i wr => ∃ k : Nat, k ≤ 10 ∧ i = .int .i64 k ∧ Hid (Blk wr w.heap.size .u32 37 S) ∧ Hid (Blk wr (w.heap.size + 1) .u32 37 (Ch.rounds S k)) ∧ Hid (Below w.heap.size w wr)) (fun i _ => 10 - (intOf i).toNat)
  case atStart => exact ⟨0, by omega, rfl, B0, B1, BB⟩
  case round =>
    clear B0 B1 BB
    obtain ⟨k, hk, rfl, SB, RB, BW⟩ := hrel
    by_cases hlt : k < 10
    · have hlk := (Ch.rounds_length S k).trans L0.out
      have HM0 : Hid (Calls Try.prog 39 #[.pointer (some ⟨w.heap.size + 1, 0, none⟩), .int .i64 0] wr fun e w' => e = .returned (.tuple #[]) ∧ Blk w' (w.heap.size + 1) .u32 37 (Ch.mixk (Ch.rounds S k) 0 4) ∧ Only (w.heap.size + 1) wr w') := mix_any wr (w.heap.size + 1) _ RB.out hlk 0 (by decide)
      have HM1 : Hid (∀ wq, Blk wq (w.heap.size + 1) .u32 37 (Ch.mixk (Ch.rounds S k) 0 4) → Calls Try.prog 39 #[.pointer (some ⟨w.heap.size + 1, 0, none⟩), .int .i64 1] wq fun e w' => e = .returned (.tuple #[]) ∧ Blk w' (w.heap.size + 1) .u32 37 (Ch.rounds S (k + 1)) ∧ Only (w.heap.size + 1) wq w') := fun wq hb => mix_any wq (w.heap.size + 1) _ hb ((Ch.mixk_length _ _ _).trans hlk) 1 (by decide)
      clear hlk
      go_wp2_with (first
        | (go_at_call 39; refine (HM1.out w3 M0.out).mono ?_; rintro e w4 ⟨rfl, hb, ho⟩; have M1 := Lib.hid hb; have O1 := Lib.hid (O0.out.trans ho); clear hb ho)
        | (go_at_call 39; refine HM0.out.mono ?_; rintro e w3 ⟨rfl, hb, ho⟩; have M0 := Lib.hid hb; have O0 := Lib.hid ho; clear hb ho))
      go_roundw
      case rel => exact ⟨k + 1, by omega, by go_num, SB.out.other (O1.out.block _ SB.out.lt (by simp)), M1, BW.out.trans (O1.out.toBelow (Nat.le_succ _) BW.out.size)⟩
      case measure => simp [intOf]; omega
    · have hk10 : ((k : Nat) : Int) = 10 := by omega
      rw [hk10]
      clear hk10
      obtain rfl : k = 10 := by omega
      have LM : Hid ((Ch.rounds S 10).length = 16) := (Ch.rounds_length S 10).trans L0.out
      have HBK : Hid (Ch.outk S (Ch.rounds S 10) 16 = Ch.block S) := rfl
      have KM := Lib.hid (K0.out.rounds 10)
      generalize Ch.rounds S 10 = M at *
      have hmk := run_mk64
      have HSZ : Hid ((Try.prog.info? 37).map (·.size) = some (M.map (Value.int .u32)).toArray.size) := by show _ = _; rw [i37]; simp [LM.out]
      go_wp2_with ((with_reducible refine wpList_load_row (o := ⟨some 14, _, _, _, _, _⟩) rfl 37 (.tmp 3) rfl (w.heap.size + 1) rfl 37 (M.map (Value.int .u32)).toArray (0, 0) _ ?_ Try.underlying37 rfl ?_ ?_); exact (show _ = _ from (Below.heap_alloc _ _ _ RB.out.lt).trans RB.out); exact HSZ.out)
      clear hmk HSZ
      have OW0 := Lib.hid (own_made wr (B := w.heap.size + 1) (Nat.le_of_lt RB.out.lt))
      have SB0 : Hid (Blk (wr.alloc (.cells ((zs 64).map (Value.int .u8)).toArray 5)) w.heap.size .u32 37 S) := SB.out.other (Below.heap_alloc _ _ _ SB.out.lt)
      have BW0 := Lib.hid (BW.out.alloc BW.out.size (.cells ((zs 64).map (Value.int .u8)).toArray 5))
      clear RB SB BW
      generalize wr.alloc (.cells ((zs 64).map (Value.int .u8)).toArray 5) = w5 at *
      generalize wr.heap.size = g2 at *
      go_loopw [4, 15] (fun v i wr => ∃ k : Nat, k ≤ 16 ∧ i = .int .i64 k ∧ Hid (Own (w.heap.size + 1) wr v (Ch.outk S M k)) ∧ Hid (Blk wr w.heap.size .u32 37 S) ∧ Hid (Below w.heap.size w wr)) (fun _ i _ => 16 - (intOf i).toNat)
      case atStart => exact ⟨0, by omega, rfl, OW0, SB0, BW0⟩
      case round =>
        clear OW0 SB0 BW0
        obtain ⟨k, hk, rfl, OW, SB, BW⟩ := hrel
        obtain ⟨av, cv, rfl⟩ := OW.out.form
        by_cases hlt : k < 16
        · have hidx := run_index37 M k LM.out hlt
          have c1 := SB.out.cell k (by rw [L0.out]; exact hlt)
          obtain ⟨m0, m1⟩ := KM.out.getD k
          obtain ⟨s0, s1⟩ := K0.out.getD k
          obtain ⟨z0, z1⟩ := Ch.ad_W (M.getD k 0) (S.getD k 0)
          have hlen : (Ch.outk S M k).length ≤ 1000000 := by rw [Ch.outk_length]; omega
          obtain ⟨X, hX⟩ := Int.eq_ofNat_of_zero_le z0
          have hX2 : X < 2 ^ 64 := by simp only [Nat.reducePow]; omega
          have HAP : Hid (Calls Try.prog 31 #[.slice av (Ch.outk S M k).length cv, .int .u64 (X : Int), .int .i64 4] wr fun e w' => ∃ v', e = .returned v' ∧ Own (w.heap.size + 1) w' v' (Ch.outk S M (k + 1)) ∧ Below (w.heap.size + 1) wr w') := by
            have h := append_low wr (w.heap.size + 1) _ _ OW.out hlen X hX2 4 (by decide)
            rw [show Ch.outk S M k ++ Bt.le X 4 = Ch.outk S M (k + 1) by rw [Ch.outk, hX]; rfl] at h
            exact h
          have hwrap : IntKind.u32.wrap (M.getD k 0 + S.getD k 0) = (X : Int) := hX
          have hX3 : (X : Int) ≤ 4294967295 := by omega
          clear hX z0 z1 hlen
          generalize M.getD k 0 = mm at *
          generalize S.getD k 0 = ss at *
          go_wp2_with (go_at_call 31; refine HAP.out.mono ?_; rintro e w6 ⟨v6, rfl, hv, hb⟩; have O6 := Lib.hid hv; have B6 := Lib.hid (BW.out.trans (hb.mono (Nat.le_succ _))); have S6 := Lib.hid (SB.out.other (hb.block _ (Nat.lt_succ_self _))); clear hv hb)
          go_roundw
          case rel => exact ⟨k + 1, by omega, by go_num, O6, S6, B6⟩
          case measure => simp [intOf]; omega
        · obtain rfl : k = 16 := by omega
          go_wp2
          go_ret
          exact ⟨_, rfl, by rw [← HBK.out]; exact OW.out.mono (Nat.le_succ _), BW.out⟩
end Go.Proofs.Yticoefnojgaplaa
