/- Layer 2's reference, the walks: the numbers of the rounds out of roots. -/
import Derived.Test.YtiodmmjjoodmoaaDoorY
namespace Go.Proofs.YtiodmmjjoodmoaaDoor
open Go.RowKit

namespace Nt
/-- Bit by bit from above: the greatest number whose power is at most that. -/
def rootFrom (p k : Nat) : Nat → Nat → Nat
  | 0, lo => lo
  | b + 1, lo => rootFrom p k b (if (lo + 2 ^ b) ^ k ≤ p * 4294967296 ^ k then lo + 2 ^ b else lo)
def rootW (p k : Nat) : Int := ((rootFrom p k 40 0 % 4294967296 : Nat) : Int)
def collect (k p : Nat) : List Int := ((List.range p).filter prime).map fun q => rootW q k
theorem collect_succ (k p : Nat) : collect k (p + 1) = collect k p ++ if prime p then [rootW p k] else [] := by
  unfold collect
  rw [List.range_succ, List.filter_append, List.map_append]
  by_cases h : prime p = true
  · simp [h]
  · simp [h]
theorem collect_prefix (k p d : Nat) : ∃ r, collect k (p + d) = collect k p ++ r := by
  induction d with
  | zero => exact ⟨[], by simp⟩
  | succ d ih =>
    obtain ⟨r, hr⟩ := ih
    exact ⟨_, by rw [← Nat.add_assoc, collect_succ, hr, List.append_assoc]⟩
theorem collect_take (k p : Nat) (h : p ≤ 400) : (collect k 400).take (collect k p).length = collect k p := by
  obtain ⟨r, hr⟩ := collect_prefix k p (400 - p)
  rw [show p + (400 - p) = 400 by omega] at hr
  rw [hr, List.take_left']
  rfl
theorem collect_many (k : Nat) : 64 ≤ (collect k 400).length := by
  unfold collect
  rw [List.length_map]
  decide +kernel
end Nt
theorem roots_KK : (Nt.collect 3 400).take 64 = KK := by decide +kernel
theorem roots_H0 : (Nt.collect 2 400).take 8 = Sh.H0.cells := by decide +kernel

theorem own_kept {w w' : World} {base k : Nat} {e : TypeId} {v : Value} {xs : List Value} (h : w.ownsRow base e 1 v k xs) (hb : Below w.heap.size w w') : w'.ownsRow base e 1 v k xs := by
  obtain ⟨h1, h2⟩ := h
  refine ⟨h1, ?_⟩
  rcases h2 with h2 | ⟨g, cap, cur, hv, hg, hat, r⟩
  · exact Or.inl h2
  · exact Or.inr ⟨g, cap, cur, hv, hg, (hb.block g (lt_of_block hat)).trans hat, r⟩

/-- A power: y times x, some times more. -/
theorem pow_step (X : Nat) (j : Nat) {y x : Int} (hy : y = ((X ^ j : Nat) : Int)) (hx : x = (X : Int)) : y * x = ((X ^ (j + 1) : Nat) : Int) := by
  rw [hy, hx, Nat.pow_succ, Int.natCast_mul]

set_option maxRecDepth 100000 in
set_option maxHeartbeats 400000 in
theorem roots_probe (w : World) (many k : Nat) (hm : many ≤ 64) (hk0 : 1 ≤ k) (hk : k ≤ 3) :
    Calls Tryd.prog 18 #[.int .i64 many, .int .i64 k] w fun e w' => ∃ v', e = .returned v' ∧ w'.ownsRow w.heap.size 39 1 v' many (((Nt.collect k 400).take many).map (Value.int .u32)) ∧ Below w.heap.size w w' := by
  go_enter Tryd.func18, Tryd.ntmps18
  go_wp2_with fail
  go_loopw [5, 6] (fun v i wr => ∃ p : Nat, 2 ≤ p ∧ p ≤ 400 ∧ i = .int .i64 p ∧ (Nt.collect k p).length ≤ many ∧ Hid (wr.ownsRow w.heap.size 39 1 v (Nt.collect k p).length ((Nt.collect k p).map (Value.int .u32))) ∧ Hid (Below w.heap.size w wr)) (fun _ i _ => 400 - (intOf i).toNat)
  case atStart => exact ⟨2, Nat.le_refl _, by omega, rfl, Nat.zero_le _, ⟨rfl, Or.inl ⟨rfl, rfl⟩⟩, Below.refl _ _⟩
  case round =>
    obtain ⟨p, hp0, hp1, rfl, hlen, OW, BW⟩ := hrel
    by_cases hlt : (Nt.collect k p).length < many
    · have hp2 : p < 400 := by
        rcases Nat.lt_or_ge p 400 with h | h
        · exact h
        · obtain rfl : p = 400 := by omega
          have := Nt.collect_many k
          omega
      have hpr := Lib.hid (prime_any wr p (by omega))
      have hsucc := Nt.collect_succ k p
      by_cases hpp : Nt.prime p = true
      · have hcs : Nt.collect k (p + 1) = Nt.collect k p ++ [Nt.rootW p k] := by rw [hsucc, if_pos hpp]
        rw [hpp] at hpr
        have HCS := Lib.hid hcs
        have HRW := Lib.hid (show Nt.rootW p k = ((Nt.rootFrom p k 40 0 % 4294967296 : Nat) : Int) from rfl)
        clear hsucc hcs hpp
        obtain ⟨a5, c5, rfl⟩ : ∃ a5 c5, u5 = .slice a5 (Nt.collect k p).length c5 := by
          rcases OW.out.2 with ⟨h, h0⟩ | ⟨g, cap, cur, h, _⟩
          · exact ⟨none, 0, by rw [h0]; exact h⟩
          · exact ⟨_, _, h⟩
        have hmk := fun w => run_mk w (k + 1) ((k : Int) + 1) (by omega) (by omega)
        have hlz : (zs (k + 1)).length = k + 1 := by simp [zs]
        have hB1 : Blk (wr.alloc (.cells (((zs (k + 1)).map (Value.int .u32)).set k (.int .u32 p)).toArray 39)) wr.heap.size .u32 39 ((zs (k + 1)).set k (p : Int)) := by
          have := heap_alloc_new wr (.cells (((zs (k + 1)).map (Value.int .u32)).set k (.int .u32 p)).toArray 39)
          unfold Blk
          rw [this, List.map_set]
        have hvn : Nt.val ((zs (k + 1)).set k (p : Int)) = (p : Int) * Nt.pw k := by
          rw [Nt.val_set _ _ _ (by omega)]
          unfold zs
          rw [Nt.val_zeros, List.getD_eq_getElem?_getD, List.getElem?_replicate, if_pos (by omega)]
          show 0 + Nt.pw k * ((p : Int) - 0) = _
          rw [Int.sub_zero, Int.zero_add, Int.mul_comm]
        have hwn : Nt.Ws ((zs (k + 1)).set k (p : Int)) := by
          refine Nt.Ws.set ?_ k (by unfold Sh.W32; omega)
          intro x hx
          simp only [zs, List.mem_replicate] at hx
          rw [hx.2]; unfold Sh.W32; omega
        have HN := Lib.hid (num_blk hB1 (n := k + 1) (by rw [List.length_set, hlz]) hwn)
        have HVN := Lib.hid hvn
        have hba : Below wr.heap.size wr (wr.alloc (.cells (((zs (k + 1)).map (Value.int .u32)).set k (.int .u32 p)).toArray 39)) := (Below.refl _ _).alloc (Nat.le_refl _) _
        have HBA := Lib.hid hba
        have hln : ((zs (k + 1)).set k (p : Int)).length = k + 1 := by rw [List.length_set, hlz]
        clear hB1 hwn hvn hba
        go_wp2_with (go_at_call 24; refine hpr.out.mono ?_; rintro e w1 ⟨rfl, rfl⟩)
        generalize w1.alloc (.cells (((zs (k + 1)).map (Value.int .u32)).set k (.int .u32 p)).toArray 39) = wa at *
        clear hmk hlz
        generalize (zs (k + 1)).set k (p : Int) = nl at *
        go_loopw [8, 9] (fun lo i wq => ∃ c lo' : Nat, c ≤ 40 ∧ i = .int .i64 ((c : Int) - 1) ∧ lo = .int .u64 (lo' : Int) ∧ lo' + 2 ^ c ≤ 1099511627776 ∧ Hid (Nt.rootFrom p k c lo' = Nt.rootFrom p k 40 0) ∧ Hid (Below wa.heap.size wa wq)) (fun _ i _ => (intOf i + 1).toNat)
        case atStart => exact ⟨40, 0, Nat.le_refl _, rfl, rfl, by decide, rfl, Below.refl _ _⟩
        case round =>
          obtain ⟨c, lo, hc, rfl, rfl, hlo, RF, BQ⟩ := hrel
          cases c with
          | zero =>
            have hbq := HBA.out.trans (BQ.out.mono HBA.out.size)
            have hown := own_kept OW.out hbq
            have hbw := BW.out.trans (hbq.mono BW.out.size)
            have hrw : Nt.rootW p k = (lo : Int) % 4294967296 := by
              have h : Nt.rootFrom p k 0 lo = lo := rfl
              rw [HRW.out, ← RF.out, h, Int.natCast_emod]; rfl
            have HRW2 := Lib.hid hrw
            have HOWN := Lib.hid hown
            have HBW := Lib.hid hbw
            clear hown hbw hrw hbq RF HRW HVN HN OW
            obtain ⟨i0, hi, hz0, hz1, hz2⟩ := info_parts info39
            have hlz2 := hlt
            generalize hlne : (Nt.collect k p).length = len at *
            have HLN := Lib.hid hlne
            clear hlne
            rw [show ((0 : Nat) : Int) - 1 = -1 from rfl]
            go_wp2_with ((with_reducible refine wpList_append_own _ (o := ⟨some 60, _, _, _, _, _⟩) rfl (.tmp 56) (.tmp 59) 36 rfl w.heap.size 39 i0 (.int .u32 0) 1 4 Tryd.underlying36 hi hz0 hz1 hz2 rfl ?_ (.slice a5 len c5) len ((Nt.collect k p).map (Value.int .u32)) rfl ?_ ⟨wr.heap.size, 0, none⟩ 1 1 [.int .u32 ((lo : Int) % 4294967296)] rfl rfl ?_ ?_ ?_ ?_ ?_ ?_); exact (by decide); exact HOWN.out.alloc _; exact (fun j u hu => by rw [Addr.add_mid, Nat.zero_add, cell_of_row _ _ _ _ 39 (0, 0) (heap_alloc_new wr _)]; simpa using hu); exact (fun u hu => by simp at hu; subst hu; rfl); exact (by unfold maxLen; omega); exact (by omega); exact (by have := HBW.out.size; simp; omega); intro v3 w3 hown3 hgr _; have HOW3 := Lib.hid hown3; have HGR := Lib.hid hgr; clear hown3 hgr)
            go_roundw
            case rel =>
              have hb3 : Below w.heap.size w w3 := by
                refine HBW.out.trans ⟨HGR.out.os, HGR.out.tape, HGR.out.output, by have := HGR.out.size; simp at this; omega, fun i hi => ?_⟩
                have hiw := Nat.lt_of_lt_of_le hi HBW.out.size
                refine (HGR.out.block i (by simp; omega) ?_).trans (Below.heap_alloc wr _ i hiw)
                rcases HOWN.out.2 with ⟨h, _⟩ | ⟨g, cap, cur, h, hg', _⟩
                · rw [h]; simp [Value.ownBlock]
                · rw [h]
                  intro hh
                  simp only [Value.ownBlock, Option.some.injEq] at hh
                  omega
              have hl : (Nt.collect k (p + 1)).length = len + 1 := by rw [HCS.out, List.length_append, HLN.out]; rfl
              refine ⟨p + 1, by omega, by omega, by go_num, by omega, ?_, hb3⟩
              rw [hl]
              have := HOW3.out
              rw [HCS.out, List.map_append, HRW2.out]
              exact this
            case measure => simp [intOf]; omega
          | succ c =>
            rw [show ((c + 1 : Nat) : Int) - 1 = (c : Int) by omega]
            have ht2 : 2 ^ (c + 1) = 2 * 2 ^ c := by rw [Nat.pow_succ]; omega
            rw [ht2] at hlo
            clear ht2
            have hsh : IntKind.u64.wrap ((2 : Int) ^ c) = ((2 ^ c : Nat) : Int) := by
              have h1 : ((2 ^ c : Nat) : Int) = (2 : Int) ^ c := by simp
              rw [IntKind.wrap_u64, ← h1]
              omega
            have hrs : Nt.rootFrom p k (c + 1) lo = Nt.rootFrom p k c (if (lo + 2 ^ c) ^ k ≤ p * 4294967296 ^ k then lo + 2 ^ c else lo) := rfl
            have HRS := Lib.hid hrs
            clear hrs
            have ht1 : 1 ≤ 2 ^ c := Nat.one_le_two_pow
            generalize hte : 2 ^ c = t at *
            have HTE := Lib.hid hte
            clear hte
            have hsm := small_any wr ((lo : Int) + (t : Int)) (by omega) (by omega)
            have HSM := Lib.hid hsm
            clear hsm
            go_wp2_with (go_at_call 25; refine HSM.out.mono ?_; rintro e w2 ⟨vx, lx, rfl, h1, h2, h3, h4, h5⟩; obtain ⟨ax, cx, rfl⟩ := num_form h1; have H1 := Lib.hid h1; have H2 := Lib.hid h2; have H5 := Lib.hid h5; clear h1 h2 h3 h5)
            have HB2 := Lib.hid (BQ.out.trans (H5.out.mono BQ.out.size))
            obtain ⟨X, hX⟩ : ∃ X, X = lo + t := ⟨_, rfl⟩
            go_loopw [11, 12] (fun y i wq => ∃ (j : Nat) (ly : List Int), 1 ≤ j ∧ j ≤ k ∧ i = .int .i64 j ∧ ly.length ≤ 2 * j ∧ Hid (Num wq y ly) ∧ Hid (Nt.val ly = ((X ^ j : Nat) : Int)) ∧ Hid (Below w2.heap.size w2 wq)) (fun _ i _ => k - (intOf i).toNat)
            case atStart =>
              refine ⟨1, lx, Nat.le_refl _, hk0, rfl, by omega, H1, ?_, Below.refl _ _⟩
              show _ = _
              rw [H2.out, hX, Nat.pow_one]; omega
            case round =>
              obtain ⟨j, ly, hj0, hj1, rfl, hly, NY, VY, BY⟩ := hrel
              obtain ⟨ay, cy, rfl⟩ := num_form NY.out
              by_cases hjk : j < k
              · have htm := times_probe wr ay ax cy cx ly lx NY.out (H1.out.below BY.out (Nat.le_refl _)) (by omega) (by omega)
                have HTM := Lib.hid htm
                have HPS := Lib.hid (pow_step X j VY.out (show Nt.val lx = (X : Int) by rw [H2.out, hX]; omega))
                clear htm NY VY HN HVN HRS RF OW HCS HRW HSM
                go_wp2_with (go_at_call 26; refine HTM.out.mono ?_; rintro e w4 ⟨v4, l4, rfl, h6, h7, h8, h9, h10⟩; have H6 := Lib.hid h6; have H7 := Lib.hid h7; have H10 := Lib.hid h10; clear h6 h7 h8 h10)
                go_roundw
                case rel => exact ⟨j + 1, l4, by omega, by omega, by go_num, by omega, H6, by rw [← HPS.out]; exact H7, BY.out.trans (H10.out.mono BY.out.size)⟩
                case measure => simp [intOf]; omega
              · have hjk' : j = k := by omega
                have hvl : Nt.val ly = ((X ^ k : Nat) : Int) := by rw [← hjk']; exact VY.out
                have hbb := HB2.out.trans (BY.out.mono HB2.out.size)
                have hcm := cmp_any wr _ _ ly nl NY.out (HN.out.below hbb (Nat.le_refl _)) (by omega) (by omega)
                have hpk : ((p * 4294967296 ^ k : Nat) : Int) = (p : Int) * Nt.pw k := by simp [Nt.pw, Nt.B]
                rw [hvl, HVN.out, ← hpk] at hcm
                have HCM := Lib.hid hcm
                have HBB := Lib.hid hbb
                have hrf := RF.out
                rw [HRS.out, ← hX] at hrf
                have HRF := Lib.hid hrf
                clear hcm hbb hpk hvl NY VY HN HVN HRS RF OW HCS HRW HSM hrf hjk'
                by_cases hle : X ^ k ≤ p * 4294967296 ^ k
                · have hrf := HRF.out
                  rw [if_pos hle] at hrf
                  have HRF2 := Lib.hid hrf
                  have HLE := Lib.hid hle
                  clear hrf HRF hle
                  go_wp2_with (go_at_call 27; refine HCM.out.mono ?_; rintro e w4 ⟨r, rfl, hr, -, h10⟩; have hr' := hr.2 (by have := HLE.out; omega); have H10 := Lib.hid h10; clear hr h10)
                  go_roundw
                  case rel => exact ⟨c, X, by omega, by go_num, by rw [hX]; go_num, by rw [HTE.out]; omega, HRF2, HBB.out.trans (H10.out.mono HBB.out.size)⟩
                  case measure => simp [intOf]
                · have hrf := HRF.out
                  rw [if_neg hle] at hrf
                  have HRF2 := Lib.hid hrf
                  have HLE := Lib.hid hle
                  clear hrf HRF hle
                  go_wp2_with (go_at_call 27; refine HCM.out.mono ?_; rintro e w4 ⟨r, rfl, hr, -, h10⟩; have hr' : ¬ r ≤ 0 := (fun h => (by have h1 := hr.1 h; have h2 := HLE.out; omega)); have H10 := Lib.hid h10; clear hr h10)
                  go_roundw
                  case rel => exact ⟨c, lo, by omega, by go_num, rfl, by rw [HTE.out]; omega, HRF2, HBB.out.trans (H10.out.mono HBB.out.size)⟩
                  case measure => simp [intOf]
      · have hcs : Nt.collect k (p + 1) = Nt.collect k p := by rw [hsucc, if_neg hpp, List.append_nil]
        have hpf : Nt.prime p = false := by simpa using hpp
        rw [hpf] at hpr
        have HCS := Lib.hid hcs
        clear hsucc hcs hpp hpf
        obtain ⟨a5, c5, rfl⟩ : ∃ a5 c5, u5 = .slice a5 (Nt.collect k p).length c5 := by
          rcases OW.out.2 with ⟨h, h0⟩ | ⟨g, cap, cur, h, _⟩
          · exact ⟨none, 0, by rw [h0]; exact h⟩
          · exact ⟨_, _, h⟩
        go_wp2_with (go_at_call 24; refine hpr.out.mono ?_; rintro e w1 ⟨rfl, rfl⟩)
        go_roundw
        case rel => exact ⟨p + 1, by omega, by omega, by go_num, by rw [HCS.out]; exact hlen, by rw [HCS.out]; exact OW, BW⟩
        case measure => simp [intOf]; omega
    · have hlm : (Nt.collect k p).length = many := by omega
      have hfin : Hid (wr.ownsRow w.heap.size 39 1 u5 many (((Nt.collect k 400).take many).map (Value.int .u32))) := by
        have h := OW.out
        have e := Nt.collect_take k p hp1
        rw [hlm] at h e
        rw [e]
        exact h
      obtain ⟨a5, c5, rfl⟩ : ∃ a5 c5, u5 = .slice a5 (Nt.collect k p).length c5 := by
        rcases OW.out.2 with ⟨h, h0⟩ | ⟨g, cap, cur, h, _⟩
        · exact ⟨none, 0, by rw [h0]; exact h⟩
        · exact ⟨_, _, h⟩
      clear OW
      go_wp2
      go_ret
      exact ⟨_, rfl, hfin.out, BW.out⟩
end Go.Proofs.YtiodmmjjoodmoaaDoor
