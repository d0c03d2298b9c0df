/- The reference's numbers, the walks: a number out of bytes. -/
import Derived.Test.YticoefnojgaplaaV
namespace Go.Proofs.Yticoefnojgaplaa
open Go.RowKit

set_option maxRecDepth 100000 in
set_option maxHeartbeats 1000000 in
theorem nlow_any (w : World) (va : Value) (p : List Int) (hp : Slc w va p) (hla : p.length ≤ 100000) :
    Calls Try.prog 35 #[va] w fun e w' => ∃ v' l, e = .returned v' ∧ Num w' v' l ∧ Nt.val l = (Bt.low p : Nat) ∧ Nt.Neat l ∧ l.length ≤ (p.length + 3) / 4 ∧ Below w.heap.size w w' := by
  obtain ⟨aa, ca, rfl⟩ := slc_form hp
  have HP := Lib.hid hp
  have h8 : Hid (∀ x ∈ p, W8 x) := by obtain ⟨_, _, _, _, h, _⟩ := hp; exact h
  clear hp
  have hmk := fun w => run_mk w ((p.length + 3) / 4) (((p.length : Int) + 3) / 4) (by omega) (by omega)
  have hb0 : Hid (Blk (w.alloc (.cells ((zs ((p.length + 3) / 4)).map (Value.int .u32)).toArray 23)) w.heap.size .u32 23 (zs ((p.length + 3) / 4))) := heap_alloc_new w _
  have ho0 : Hid (Below w.heap.size w (w.alloc (.cells ((zs ((p.length + 3) / 4)).map (Value.int .u32)).toArray 23))) := (Below.refl _ _).alloc (Nat.le_refl _) _
  go_enter Try.func35, Try.ntmps35
  go_wp2_with fail
  clear hmk
  go_loopw [4] (fun i wr => ∃ (k : Nat) (O : List Int), k ≤ p.length ∧ i = .int .i64 k ∧ Hid (Blk wr w.heap.size .u32 23 O) ∧ O.length = (p.length + 3) / 4 ∧ Hid (Nt.Ws O) ∧ Hid (Nt.val O = (Bt.low (p.take k) : Nat)) ∧ Hid (Below w.heap.size w wr)) (fun i _ => p.length - (intOf i).toNat)
  case atStart =>
    refine ⟨0, zs ((p.length + 3) / 4), Nat.zero_le _, rfl, hb0, by simp [zs], ?_, ?_, ho0⟩
    · intro x hx
      simp only [zs, List.mem_replicate] at hx
      rw [hx.2]; unfold W32; omega
    · show Nt.val (zs _) = _
      unfold zs
      rw [Nt.val_zeros]; rfl
  case round =>
    clear hb0 ho0
    obtain ⟨k, O, hk, rfl, BK, hlO, WO, VO, BW⟩ := hrel
    by_cases hlt : k < p.length
    · obtain ⟨b1, o1, rfl, hb1, hc1, hcap1⟩ := slc_cell HP.out k hlt
      have hcb := (BW.out.cell (p := ⟨b1, o1 + k, none⟩) hb1).trans hc1
      have hco := BK.out.cell (k / 4) (by omega)
      have hfo := BK.out.free (k / 4)
      have hx8 : 0 ≤ p.getD k 0 ∧ p.getD k 0 ≤ 255 := by
        have hm : p.getD k 0 ∈ p := by rw [List.getD_eq_getElem?_getD, List.getElem?_eq_getElem hlt]; exact List.getElem_mem hlt
        have := h8.out _ hm
        unfold W8 at this; omega
      have hlow : Nt.val O < 2 ^ (32 * (k / 4) + 8 * (k % 4)) := by
        have h1 := Bt.low_lt (p.take k) (fun x hx => h8.out x (List.mem_of_mem_take hx))
        rw [List.length_take, Nat.min_eq_left hk] at h1
        rw [VO.out, show 32 * (k / 4) + 8 * (k % 4) = 8 * k by omega]
        exact_mod_cast h1
      have hsm := Nt.word_small WO.out (by omega : k / 4 < O.length) hlow
      have ho32 := WO.out.getD (k / 4)
      obtain ⟨x0, x1⟩ := hx8
      obtain ⟨o0, o1'⟩ := ho32
      have hmore := fun x hx => Nt.low_word (x := x) hlt (by omega : k / 4 < O.length) x0 hx VO.out
      have hset := fun x => BK.out.set (k / 4) x
      have HMORE := Lib.hid hmore
      have HSET := Lib.hid hset
      clear hlow hmore hset hc1
      generalize p.getD k 0 = x at *
      generalize O.getD (k / 4) 0 = o at *
      obtain ⟨on, rfl⟩ := Int.eq_ofNat_of_zero_le o0
      obtain ⟨xn, rfl⟩ := Int.eq_ofNat_of_zero_le x0
      have hsn : on < 2 ^ (8 * (k % 4)) := by exact_mod_cast hsm
      have hor := Nt.or32 on (8 * (k % 4)) xn (by omega) (by omega) hsn
      have h2p : 2 ^ (8 * (k % 4)) ≤ 2 ^ 24 := Nat.pow_le_pow_right (by decide) (by omega)
      have hbp : xn * 2 ^ (8 * (k % 4)) ≤ 255 * 2 ^ (8 * (k % 4)) := Nat.mul_le_mul_right _ (by omega)
      have hcast : (xn : Int) * 2 ^ (8 * (k % 4)) % 4294967296 = ((xn * 2 ^ (8 * (k % 4)) : Nat) : Int) := by
        rw [show (xn : Int) * 2 ^ (8 * (k % 4)) = ((xn * 2 ^ (8 * (k % 4)) : Nat) : Int) by simp]
        exact Int.emod_eq_of_lt (by omega) (by omega)
      have hval : bits BinOp.or IntKind.u32 (on : Int) ((xn : Int) * 2 ^ (8 * (k % 4)) % 4294967296) = ((on + xn * 2 ^ (8 * (k % 4)) : Nat) : Int) := by rw [hcast]; exact hor
      have hvn : Hid (Nt.val (O.set (k / 4) ((on + xn * 2 ^ (8 * (k % 4)) : Nat) : Int)) = (Bt.low (p.take (k + 1)) : Nat)) := HMORE.out _ (by simp)
      have hws : Hid (Nt.Ws (O.set (k / 4) ((on + xn * 2 ^ (8 * (k % 4)) : Nat) : Int))) := WO.out.set _ (by unfold W32; simp only [Nat.reducePow] at h2p; omega)
      have hlen : Hid ((O.set (k / 4) ((on + xn * 2 ^ (8 * (k % 4)) : Nat) : Int)).length = (p.length + 3) / 4) := by show _ = _; rw [List.length_set]; exact hlO
      have HVAL := Lib.hid hval
      clear hor hval hcast h2p hbp hsn hsm HMORE VO
      go_wp2
      go_region
      all_goals go_wp2
      all_goals go_roundw
      case rel => exact ⟨k + 1, _, by omega, by go_num, by rw [HVAL.out]; exact HSET.out _, hlen.out, hws, hvn, (BW.out.setCell (by simp) _).drew⟩
      case measure => simp [intOf]; omega
    · obtain rfl : k = p.length := by omega
      have hv := VO.out
      rw [List.take_length] at hv
      have HV := Lib.hid hv
      have ht := trim_any wr _ O (num_blk BK.out hlO WO.out) (by omega)
      have HT := Lib.hid ht
      clear ht hv VO WO HP h8
      go_wp2_with (go_at_call 46; refine HT.out.mono ?_; rintro e w1 ⟨v1, rfl, h2, h3⟩; have H2 := Lib.hid h2; have H3 := Lib.hid h3; clear h2 h3)
      go_ret
      refine ⟨_, _, rfl, H2.out, ?_, Nt.neat_trim _, ?_, BW.out.trans (H3.out.mono BW.out.size)⟩
      · rw [Nt.val_trim]; exact HV.out
      · rw [Nt.length_trim, ← hlO]; exact Nt.cut_le _ _
end Go.Proofs.Yticoefnojgaplaa
