/- Layer 2's reference, the walks: products. -/
import Derived.Test.YticoefnojgaplaaO
namespace Go.Proofs.Yticoefnojgaplaa
open Go.RowKit

namespace Nt
theorem ring1 (v p r o q m c : Int) (h : m + o + c = B * q + r) : v + p * (r - o) + q * (B * p) = v + c * p + p * m := by
  have e : r = m + o + c - B * q := by omega
  subst e
  grind
theorem ring2 (s x p y z : Int) : s + x * p * y + p * (x * 0) + z * 0 = s + x * p * y := by grind
/-- One word more of the second one. -/
theorem times_inner {O a b : List Int} {i k N : Nat} {c m x : Int} (hN : N = i + k) (hO : N < O.length) (hk : k < b.length) (hm : m = a.getD i 0 * b.getD k 0) (hx : x = m + O.getD N 0 + c) (V : Int)
    (h : val O + c * pw N = V + a.getD i 0 * pw i * val (b.take k)) : val (O.set N (x % B)) + x / B * pw (N + 1) = V + a.getD i 0 * pw i * val (b.take (k + 1)) := by
  rw [val_set O N _ hO, pw_succ, val_take_succ b k hk]
  have hr : m + O.getD N 0 + c = B * (x / B) + x % B := by rw [← hx]; exact (Int.mul_ediv_add_emod x B).symm
  rw [ring1 _ _ _ _ _ _ _ hr, h, hm, hN, pw_add]
  grind
theorem mul_bound {x y : Int} (hx : W32 x) (hy : W32 y) : 0 ≤ x * y ∧ x * y ≤ 18446744065119617025 := by
  obtain ⟨x0, x1⟩ := hx
  obtain ⟨y0, y1⟩ := hy
  refine ⟨Int.mul_nonneg x0 y0, ?_⟩
  calc x * y ≤ 4294967295 * y := Int.mul_le_mul_of_nonneg_right x1 y0
    _ ≤ 4294967295 * 4294967295 := Int.mul_le_mul_of_nonneg_left y1 (by decide)
    _ = 18446744065119617025 := by decide
end Nt

theorem info36 : (Try.prog.info? 23).map (fun i => (i.zero, i.size, i.bytes)) = some (some (.int .u32 0), 1, 4) := by kernel_rfl
theorem run_mk (w : World) (n : Nat) (i : Int) (hi : i = n) (hn : n ≤ 1000000) : (Instr.makeSlice 58 (.int .i64 i) (.int .i64 i)).run Try.prog w = .ok (.slice (some ⟨w.heap.size, 0, none⟩) n n) (w.alloc (.cells ((zs n).map (Value.int .u32)).toArray 23)) := by
  subst hi
  obtain ⟨i0, hi, hz0, hz1, hz2⟩ := info_parts info36
  have h := run_make w 58 23 i0 (.int .u32 0) Try.underlying58 hi hz0 .i64 .i64 n n (by omega) (by omega) (by rw [hz2]; omega) (by omega)
  rw [h]
  have e : madeCells (Value.int .u32 0).cells ((n : Int).toNat * i0.size) = ((zs n).map (Value.int .u32)).toArray := by
    apply Array.toList_inj.1
    rw [hz1, Nat.mul_one]
    show (madeCells #[Value.int .u32 0] _).toList = _
    rw [toList_madeCells_one]
    simp [zs]
  rw [e]
  rfl

set_option maxRecDepth 100000 in
set_option maxHeartbeats 400000 in
theorem times_probe (w : World) (aa ab : Option Addr) (ca cb : Nat) (a b : List Int) (ha : Num w (.slice aa a.length ca) a) (hb : Num w (.slice ab b.length cb) b) (hla : a.length ≤ 100000) (hlb : b.length ≤ 100000) :
    Calls Try.prog 33 #[.slice aa a.length ca, .slice ab b.length cb] w fun e w' => ∃ v' l, e = .returned v' ∧ Num w' v' l ∧ Nt.val l = Nt.val a * Nt.val b ∧ Nt.Neat l ∧ l.length ≤ a.length + b.length ∧ Below w.heap.size w w' := by
  have HA := Lib.hid ha
  have HB := Lib.hid hb
  have hwa : Hid (Nt.Ws a) := by obtain ⟨_, _, _, _, h, _⟩ := ha; exact h
  have hwb : Hid (Nt.Ws b) := by obtain ⟨_, _, _, _, h, _⟩ := hb; exact h
  clear ha hb
  have hmk := fun w => run_mk w (a.length + b.length) ((a.length : Int) + (b.length : Int)) (by omega) (by omega)
  have hb0 : Hid (Blk (w.alloc (.cells ((zs (a.length + b.length)).map (Value.int .u32)).toArray 23)) w.heap.size .u32 23 (zs (a.length + b.length))) := heap_alloc_new w _
  have ho0 : Hid (Below w.heap.size w (w.alloc (.cells ((zs (a.length + b.length)).map (Value.int .u32)).toArray 23))) := (Below.refl _ _).alloc (Nat.le_refl _) _
  go_enter Try.func33, Try.ntmps33
  go_wp2_with fail
  clear hmk
  go_loopw [6] (fun i wr => ∃ (n : Nat) (O : List Int), n ≤ a.length ∧ i = .int .i64 n ∧ Hid (Blk wr w.heap.size .u32 23 O) ∧ O.length = a.length + b.length ∧ Hid (Nt.Ws O) ∧ Hid (∀ j, n + b.length ≤ j → O.getD j 0 = 0) ∧ Hid (Nt.val O = Nt.val (a.take n) * Nt.val b) ∧ Hid (Below w.heap.size w wr)) (fun i _ => a.length - (intOf i).toNat)
  case atStart =>
    refine ⟨0, zs (a.length + b.length), Nat.zero_le _, rfl, hb0, by simp [zs], ?_, ?_, ?_, ho0⟩
    · intro x hx
      simp only [zs, List.mem_replicate] at hx
      rw [hx.2]; unfold W32; omega
    · intro j _
      unfold zs
      rw [List.getD_eq_getElem?_getD, List.getElem?_replicate]
      split <;> rfl
    · show Nt.val (zs _) = Nt.val [] * _
      unfold zs
      rw [Nt.val_zeros]; simp [Nt.val]
  case round =>
    clear hb0 ho0
    obtain ⟨n, O, hn, rfl, BK, hlO, WO, ZO, VO, BW⟩ := hrel
    by_cases hlt : n < a.length
    · obtain ⟨b1, o1, rfl, hb1, hc1, hcap1⟩ := num_cell HA.out n hlt
      have hx1 := hwa.out.getD n
      have hW1 := Lib.hid hx1
      obtain ⟨x10, x11⟩ := hx1
      have hV : Nt.val (a.take (n + 1)) * Nt.val b = Nt.val (a.take n) * Nt.val b + a.getD n 0 * Nt.pw n * Nt.val (b.take b.length) := by
        rw [Nt.val_take_succ a n hlt, List.take_length]; grind
      have HV := Lib.hid hV
      clear hV
      go_wp2_with fail
      go_loopw [7, 8] (fun c i wq => ∃ (k : Nat) (O2 : List Int) (cz : Int), k ≤ b.length ∧ i = .int .i64 k ∧ c = .int .u64 cz ∧ 0 ≤ cz ∧ cz ≤ 4294967295 ∧ Hid (Blk wq w.heap.size .u32 23 O2) ∧ O2.length = a.length + b.length ∧ Hid (Nt.Ws O2) ∧ Hid (∀ j, n + b.length ≤ j → O2.getD j 0 = 0) ∧ Hid (Nt.val O2 + cz * Nt.pw (n + k) = Nt.val (a.take n) * Nt.val b + a.getD n 0 * Nt.pw n * Nt.val (b.take k)) ∧ Hid (Below w.heap.size w wq)) (fun _ i _ => b.length - (intOf i).toNat)
      case atStart =>
        refine ⟨0, O, 0, Nat.zero_le _, rfl, rfl, by omega, by omega, BK, hlO, WO, ZO, ?_, BW⟩
        show _ = _
        rw [VO.out, List.take_zero, Nt.val]; simp
      case round =>
        clear BK WO ZO VO BW
        obtain ⟨k, O2, cz, hk, rfl, rfl, c0, c1, BQ, hl2, W2, Z2, V2, BWQ⟩ := hrel
        have hca := (BWQ.out.cell (p := ⟨b1, o1 + n, none⟩) hb1).trans hc1
        by_cases hlk : k < b.length
        · obtain ⟨b2, o2, rfl, hb2, hc2, hcap2⟩ := num_cell HB.out k hlk
          have hcb := (BWQ.out.cell (p := ⟨b2, o2 + k, none⟩) hb2).trans hc2
          have hco := BQ.out.cell (n + k) (by omega)
          have hfo := BQ.out.free (n + k)
          have hx2 := hwb.out.getD k
          have hx3 := W2.out.getD (n + k)
          obtain ⟨m0, m1⟩ := Nt.mul_bound hW1.out hx2
          obtain ⟨x30, x31⟩ := hx3
          obtain ⟨x20, x21⟩ := hx2
          generalize hm : a.getD n 0 * b.getD k 0 = m at *
          obtain ⟨x, hx⟩ : ∃ x, x = m + O2.getD (n + k) 0 + cz := ⟨_, rfl⟩
          have hvv := Nt.times_inner rfl (by omega) hlk hm.symm hx _ V2.out
          unfold Nt.B at hvv
          have hset := fun q => (show Blk (wr.drewN q) w.heap.size .u32 23 O2 from BQ.out.other rfl).set (n + k) (x % 4294967296)
          have hws := W2.out.set (n + k) (x := x % 4294967296) (by unfold W32; omega)
          have hzz : ∀ j, n + b.length ≤ j → (O2.set (n + k) (x % 4294967296)).getD j 0 = 0 := by
            intro j hj
            rw [List.getD_eq_getElem?_getD, List.getElem?_set_ne (by omega), ← List.getD_eq_getElem?_getD]
            exact Z2.out j hj
          have HVV := Lib.hid hvv
          have HS := Lib.hid hset
          have HWS := Lib.hid hws
          have HZ := Lib.hid hzz
          have hlen' : (O2.set (n + k) (x % 4294967296)).length = a.length + b.length := by rw [List.length_set]; exact hl2
          clear hvv hset hws hzz V2 Z2 W2 BQ
          subst hx
          generalize O2.set (n + k) ((m + O2.getD (n + k) 0 + cz) % 4294967296) = O3 at *
          generalize O2.getD (n + k) 0 = o at *
          generalize a.getD n 0 = x1 at *
          generalize b.getD k 0 = x2 at *
          go_wp2
          go_quiet (fail)
          go_wp2
          go_roundw
          case rel => exact ⟨k + 1, O3, _, by omega, by go_num, rfl, by omega, by omega, HS.out _, hlen', HWS.out, HZ.out, HVV.out, (below_drewN BWQ.out _).setCell (Nat.le_refl _) _⟩
          case measure => simp [intOf]; omega
        · obtain rfl : k = b.length := by omega
          have hco := BQ.out.cell (n + b.length) (by omega)
          have hfo := BQ.out.free (n + b.length)
          have hset := BQ.out.set (n + b.length) cz
          have hws := W2.out.set (n + b.length) (x := cz) (by unfold W32; omega)
          have hzz : ∀ j, n + 1 + b.length ≤ j → (O2.set (n + b.length) cz).getD j 0 = 0 := by
            intro j hj
            rw [List.getD_eq_getElem?_getD, List.getElem?_set_ne (by omega), ← List.getD_eq_getElem?_getD]
            exact Z2.out j (by omega)
          have hvv : Nt.val (O2.set (n + b.length) cz) = Nt.val (a.take (n + 1)) * Nt.val b := by
            rw [Nt.val_set O2 _ _ (by omega), Z2.out _ (Nat.le_refl _), HV.out, ← V2.out]; grind
          have HVV := Lib.hid hvv
          have HS := Lib.hid hset
          have HWS := Lib.hid hws
          have HZ := Lib.hid hzz
          have hlen' : (O2.set (n + b.length) cz).length = a.length + b.length := by rw [List.length_set]; exact hl2
          clear hvv hset hws hzz V2 Z2 W2 BQ HV
          generalize O2.set (n + b.length) cz = O3 at *
          generalize O2.getD (n + b.length) 0 = o at *
          generalize a.getD n 0 = x1 at *
          go_wp2
          go_roundw
          case rel => exact ⟨n + 1, O3, by omega, by go_num, HS.out, hlen', HWS.out, HZ.out, HVV.out, BWQ.out.setCell (Nat.le_refl _) _⟩
          case measure => simp [intOf]; omega
    · obtain rfl : n = a.length := by omega
      have hvv := VO.out
      rw [List.take_length] at hvv
      have HVV := Lib.hid hvv
      have ht := trim_any wr _ O (num_blk BK.out hlO WO.out) (by omega)
      have HT := Lib.hid ht
      clear ht hvv VO ZO WO HA HB
      go_wp2_with (go_at_call 46; refine HT.out.mono ?_; rintro e w1 ⟨v1, rfl, h2, h3⟩; have H2 := Lib.hid h2; have H3 := Lib.hid h3; clear h2 h3)
      go_ret
      refine ⟨_, _, rfl, H2.out, ?_, Nt.neat_trim _, ?_, BW.out.trans (H3.out.mono BW.out.size)⟩
      · rw [Nt.val_trim]; exact HVV.out
      · rw [Nt.length_trim, ← hlO]; exact Nt.cut_le _ _
end Go.Proofs.Yticoefnojgaplaa
