/- Layer 6, a part of the proof: HX HY HZ HAh HAi HAj. -/
import Derived.Test.YtiinmdleechcgaaDoorQH1
import Derived.Deep.RegionLaw
namespace Go.Proofs.YtiinmdleechcgaaDoor.Sha
open Go.RowKit

theorem below_drw {B : Nat} {w w' : World} (h : Below B w w') : Below B w w'.drew := ⟨h.os, h.tape, h.output, h.size, h.block⟩
theorem num_form {w : World} {v : Value} {l : List Int} (h : Num w v l) : ∃ a cap, v = .slice a l.length cap := by
  obtain ⟨a, cap, h1, _⟩ := h
  exact ⟨a, cap, h1⟩
theorem num_cell {w : World} {a : Option Addr} {n cap : Nat} {l : List Int} (h : Num w (.slice a n cap) l) (j : Nat) (hj : j < n) : ∃ b off, a = some ⟨b, off, none⟩ ∧ b < w.heap.size ∧ w.cell? ⟨b, off + j, none⟩ = some (.int .u32 (l.getD j 0)) ∧ n ≤ cap := by
  obtain ⟨a', cap', hv, hc, h8, hm⟩ := h
  simp only [Value.slice.injEq] at hv
  obtain ⟨rfl, rfl, rfl⟩ := hv
  rcases hm with hm | ⟨b, off, rfl, h2, h3⟩
  · rw [hm] at hj; simp at hj
  · exact ⟨b, off, rfl, h2, h3 j hj, hc⟩

set_option maxRecDepth 100000 in
set_option maxHeartbeats 400000 in
theorem cmp_any (w : World) (va vb : Value) (a b : List Int) (ha : Num w va a) (hb : Num w vb b) (hla : a.length ≤ 1000000) (hlb : b.length ≤ 1000000) :
    Calls Tryd.prog 39 #[va, vb] w fun e w' => ∃ r : Int, e = .returned (.int .i64 r) ∧ (r ≤ 0 ↔ Nt.val a ≤ Nt.val b) ∧ (r < 0 ↔ Nt.val a < Nt.val b) ∧ Below w.heap.size w w' := by
  obtain ⟨aa, ca, rfl⟩ := num_form ha
  obtain ⟨ab, cb, rfl⟩ := num_form hb
  have HA := Lib.hid (trim_any w _ a ha hla)
  have HNB := Lib.hid hb
  have hwa : Hid (Nt.Ws (Nt.trim a)) := by obtain ⟨_, _, _, _, h, _⟩ := ha; exact h.trim
  have hwb : Hid (Nt.Ws (Nt.trim b)) := by obtain ⟨_, _, _, _, h, _⟩ := hb; exact h.trim
  have hva : Hid (Nt.val (Nt.trim a) = Nt.val a) := Nt.val_trim a
  have hvb : Hid (Nt.val (Nt.trim b) = Nt.val b) := Nt.val_trim b
  have hna : Hid (Nt.Neat (Nt.trim a)) := Nt.neat_trim a
  have hnb : Hid (Nt.Neat (Nt.trim b)) := Nt.neat_trim b
  have hl1 : (Nt.trim a).length ≤ 1000000 := by rw [Nt.length_trim]; exact Nat.le_trans (Nt.cut_le _ _) hla
  have hl2 : (Nt.trim b).length ≤ 1000000 := by rw [Nt.length_trim]; exact Nat.le_trans (Nt.cut_le _ _) hlb
  have HB := Lib.hid (fun w1 (h : Below w.heap.size w w1) => trim_any w1 _ b (hb.below h (Nat.le_refl _)) hlb)
  clear ha hb HNB
  generalize Nt.trim a = A at *
  generalize Nt.trim b = C at *
  generalize Nt.val a = xa at *
  generalize Nt.val b = xb at *
  go_enter Tryd.func39, Tryd.ntmps39
  go_wp2_with (first
    | (go_at_call 41; refine HB1.out.mono ?_; rintro e w2 ⟨v2, rfl, h2, h3⟩; obtain ⟨a2, c2, rfl⟩ := num_form h2; have H2 := Lib.hid h2; have H3 := Lib.hid h3; clear h2 h3)
    | (go_at_call 41; refine HA.out.mono ?_; rintro e w1 ⟨v1, rfl, h0, h1⟩; obtain ⟨a1, c1, rfl⟩ := num_form h0; have H0 := Lib.hid h0; have H1 := Lib.hid h1; have HB1 := Lib.hid (HB.out w1 h1); clear h0 h1))
  · rename_i hne
    have hne : A.length ≠ C.length := by
      intro h
      rw [h] at hne
      simp at hne
    go_ret
    have hlt := fun h => Nt.val_lt_of_length hwa.out hwb.out hnb.out h
    have hgt := fun h => Nt.val_lt_of_length hwb.out hwa.out hna.out h
    rw [hva.out, hvb.out] at hlt hgt
    refine ⟨_, rfl, ?_, ?_, H1.out.trans (H3.out.mono H1.out.size)⟩
    · rcases Nat.lt_or_gt_of_ne hne with h | h
      · have := hlt h; omega
      · have := hgt h; omega
    · rcases Nat.lt_or_gt_of_ne hne with h | h
      · have := hlt h; omega
      · have := hgt h; omega
  · rename_i hne _ _
    have hlen : A.length = C.length := by
      have : (A.length : Int) = (C.length : Int) := by simpa using hne
      omega
    clear hne
    have HL := Lib.hid hlen
    clear hlen HA HB HB1
    have H0' := Lib.hid (H0.out.below H3.out (Nat.le_refl _))
    have hb2 : Hid (Below w.heap.size w w2) := H1.out.trans (H3.out.mono H1.out.size)
    clear H0 H1 H3
    go_loopw [5] (fun i wr => ∃ m : Nat, m ≤ A.length ∧ i = .int .i64 ((m : Int) - 1) ∧ Hid (A.drop m = C.drop m) ∧ Hid (Below w2.heap.size w2 wr)) (fun i _ => (intOf i + 1).toNat)
    case atStart => exact ⟨A.length, Nat.le_refl _, by go_num, by rw [List.drop_length, HL.out, List.drop_length]; exact rfl, Below.refl _ _⟩
    case round =>
      obtain ⟨m, hm, rfl, D, BW⟩ := hrel
      have hb3 : Hid (Below w.heap.size w wr) := hb2.out.trans (BW.out.mono hb2.out.size)
      cases m with
      | zero =>
        have he : xa = xb := by
          have h := D.out
          rw [List.drop_zero, List.drop_zero] at h
          rw [← hva.out, ← hvb.out, h]
        clear H0' H2 D HL
        rw [show ((0 : Nat) : Int) - 1 = -1 from rfl]
        go_wp2
        go_ret
        exact ⟨0, rfl, by omega, by omega, hb3.out⟩
      | succ m =>
        obtain ⟨b1, o1, rfl, hb1, hc1, hcap1⟩ := num_cell (H0'.out.below BW.out (Nat.le_refl _)) m (by omega)
        have hm2 : m < C.length := by rw [← HL.out]; omega
        obtain ⟨b2, o2, rfl, hb2', hc2, hcap2⟩ := num_cell (H2.out.below BW.out (Nat.le_refl _)) m hm2
        have hlt := fun h => Nt.val_lt_of_word hwa.out hwb.out m (by omega) hm2 D.out h
        have hgt := fun h => Nt.val_lt_of_word hwb.out hwa.out m hm2 (by omega) D.out.symm h
        rw [hva.out, hvb.out] at hlt hgt
        have HLT := Lib.hid hlt
        have HGT := Lib.hid hgt
        have hdd : Hid (A.getD m 0 = C.getD m 0 → A.drop m = C.drop m) := fun h => by
          have hm1 : m < A.length := by omega
          have e : A[m] = C[m] := by simpa [hm2, hm1] using h
          rw [List.drop_eq_getElem_cons hm1, List.drop_eq_getElem_cons hm2, D.out, e]
        clear hlt hgt H0' H2
        generalize A.getD m 0 = x at *
        generalize C.getD m 0 = y at *
        rw [show ((m + 1 : Nat) : Int) - 1 = (m : Int) by omega]
        rcases Int.lt_trichotomy x y with hxy | hxy | hxy
        · go_wp2
          go_region
          go_wp2
          go_ret
          have := HLT.out hxy
          exact ⟨-1, rfl, by omega, by omega, below_drw hb3.out⟩
        · subst hxy
          go_wp2
          go_region
          go_wp2
          go_region
          go_wp2
          go_roundw
          case rel => exact ⟨m, by omega, by go_num, hdd.out trivial, below_drw (below_drw BW.out)⟩
          case measure => simp [intOf]
        · go_wp2
          go_region
          go_wp2
          go_region
          go_wp2
          go_ret
          have := HGT.out hxy
          exact ⟨1, rfl, by omega, by omega, below_drw (below_drw hb3.out)⟩

/-- Is it a prime? As the reference tries. -/
def Nt.tries (n : Nat) : Nat → Bool
  | 0 => true
  | j + 1 => Nt.tries n j && decide (n % (j + 2) ≠ 0)
def Nt.prime (n : Nat) : Bool := Nt.tries n (n - 2) && decide (1 < n)

theorem Nt.tries_mono {n j k : Nat} (h : Nt.tries n j = false) (hk : j ≤ k) : Nt.tries n k = false := by
  induction k with
  | zero =>
    obtain rfl : j = 0 := by omega
    exact h
  | succ k ih =>
    by_cases he : j = k + 1
    · rw [← he]; exact h
    · unfold Nt.tries
      rw [ih (by omega)]; rfl

set_option maxRecDepth 100000 in
set_option maxHeartbeats 400000 in
theorem prime_any (w : World) (n : Nat) (hn : n ≤ 1000000) :
    Calls Tryd.prog 82 #[.int .i64 n] w fun e w' => e = .returned (.bool (Nt.prime n)) ∧ w' = w := by
  go_enter Tryd.func82, Tryd.ntmps82
  go_wp2_with fail
  go_loopw [3] (fun i wr => ∃ j : Nat, (j = 0 ∨ j + 2 ≤ n) ∧ i = .int .i64 ((j : Int) + 2) ∧ Hid (Nt.tries n j = true) ∧ wr = w) (fun i _ => n - (intOf i).toNat)
  case atStart => exact ⟨0, Or.inl rfl, rfl, rfl, rfl⟩
  case round =>
    obtain ⟨j, hj, rfl, T, rfl⟩ := hrel
    by_cases hlt : j + 2 < n
    · obtain ⟨q, hq⟩ : ∃ q : Nat, q = n % (j + 2) := ⟨_, rfl⟩
      have hr : (n : Int) % ((j : Int) + 2) = (q : Int) := by rw [hq, Int.natCast_emod, Int.natCast_add]; rfl
      by_cases hq0 : q = 0
      · have hf : Nt.prime n = false := by
          have h1 : Nt.tries n (j + 1) = false := by
            unfold Nt.tries
            rw [← hq, hq0]; simp
          unfold Nt.prime
          rw [Nt.tries_mono h1 (show j + 1 ≤ n - 2 by omega)]
          rfl
        have HF := Lib.hid hf
        clear hf T hq
        subst hq0
        go_wp2
        go_ret
        exact ⟨by rw [HF.out]; rfl, rfl⟩
      · have ht : Hid (Nt.tries n (j + 1) = true) := by
          show Nt.tries n (j + 1) = true
          unfold Nt.tries
          rw [T.out, ← hq]
          simp [hq0]
        clear hq T
        go_wp2
        go_roundw
        case rel => exact ⟨j + 1, Or.inr (by omega), by go_num, ht, trivial⟩
        case measure => simp [intOf]; omega
    · have hj2 : j = n - 2 := by omega
      have hp : Nt.prime n = decide ((1 : Int) < (n : Int)) := by
        unfold Nt.prime
        rw [← hj2, T.out]
        by_cases h : 1 < n
        · simp [h, show (1 : Int) < (n : Int) by omega]
        · simp [h, show ¬ (1 : Int) < (n : Int) by omega]
      have HP := Lib.hid hp
      clear hp T
      go_wp2
      go_ret
      exact ⟨by rw [HP.out]; rfl, rfl⟩
end Go.Proofs.YtiinmdleechcgaaDoor.Sha
namespace Go.Proofs.YtiinmdleechcgaaDoor.Sha
open Go.RowKit

namespace Nt
theorem ring1 (v p r o q m c : Int) (h : m + o + c = B * q + r) : v + p * (r - o) + q * (B * p) = v + c * p + p * m := by
  have e : r = m + o + c - B * q := by omega
  subst e
  grind
theorem ring2 (s x p y z : Int) : s + x * p * y + p * (x * 0) + z * 0 = s + x * p * y := by grind
/-- One word more of the second one. -/
theorem times_inner {O a b : List Int} {i k N : Nat} {c m x : Int} (hN : N = i + k) (hO : N < O.length) (hk : k < b.length) (hm : m = a.getD i 0 * b.getD k 0) (hx : x = m + O.getD N 0 + c) (V : Int)
    (h : val O + c * pw N = V + a.getD i 0 * pw i * val (b.take k)) : val (O.set N (x % B)) + x / B * pw (N + 1) = V + a.getD i 0 * pw i * val (b.take (k + 1)) := by
  rw [val_set O N _ hO, pw_succ, val_take_succ b k hk]
  have hr : m + O.getD N 0 + c = B * (x / B) + x % B := by rw [← hx]; exact (Int.mul_ediv_add_emod x B).symm
  rw [ring1 _ _ _ _ _ _ _ hr, h, hm, hN, pw_add]
  grind
theorem mul_bound {x y : Int} (hx : Sh.W32 x) (hy : Sh.W32 y) : 0 ≤ x * y ∧ x * y ≤ 18446744065119617025 := by
  obtain ⟨x0, x1⟩ := hx
  obtain ⟨y0, y1⟩ := hy
  refine ⟨Int.mul_nonneg x0 y0, ?_⟩
  calc x * y ≤ 4294967295 * y := Int.mul_le_mul_of_nonneg_right x1 y0
    _ ≤ 4294967295 * 4294967295 := Int.mul_le_mul_of_nonneg_left y1 (by decide)
    _ = 18446744065119617025 := by decide
end Nt

theorem info39 : (Tryd.prog.info? 61).map (fun i => (i.zero, i.size, i.bytes)) = some (some (.int .u32 0), 1, 4) := by kernel_rfl
def zs (n : Nat) : List Int := List.replicate n 0
theorem run_mk (w : World) (n : Nat) (i : Int) (hi : i = n) (hn : n ≤ 1000000) : (Instr.makeSlice 29 (.int .i64 i) (.int .i64 i)).run Tryd.prog w = .ok (.slice (some ⟨w.heap.size, 0, none⟩) n n) (w.alloc (.cells ((zs n).map (Value.int .u32)).toArray 61)) := by
  subst hi
  obtain ⟨i0, hi, hz0, hz1, hz2⟩ := info_parts info39
  have h := run_make w 29 61 i0 (.int .u32 0) Tryd.underlying29 hi hz0 .i64 .i64 n n (by omega) (by omega) (by rw [hz2]; omega) (by omega)
  rw [h]
  have e : madeCells (Value.int .u32 0).cells ((n : Int).toNat * i0.size) = ((zs n).map (Value.int .u32)).toArray := by
    apply Array.toList_inj.1
    rw [hz1, Nat.mul_one]
    show (madeCells #[Value.int .u32 0] _).toList = _
    rw [toList_madeCells_one]
    simp [zs]
  rw [e]
  rfl

set_option maxRecDepth 100000 in
set_option maxHeartbeats 400000 in
theorem times_probe (w : World) (aa ab : Option Addr) (ca cb : Nat) (a b : List Int) (ha : Num w (.slice aa a.length ca) a) (hb : Num w (.slice ab b.length cb) b) (hla : a.length ≤ 100000) (hlb : b.length ≤ 100000) :
    Calls Tryd.prog 15 #[.slice aa a.length ca, .slice ab b.length cb] w fun e w' => ∃ v' l, e = .returned v' ∧ Num w' v' l ∧ Nt.val l = Nt.val a * Nt.val b ∧ Nt.Neat l ∧ l.length ≤ a.length + b.length ∧ Below w.heap.size w w' := by
  have HA := Lib.hid ha
  have HB := Lib.hid hb
  have hwa : Hid (Nt.Ws a) := by obtain ⟨_, _, _, _, h, _⟩ := ha; exact h
  have hwb : Hid (Nt.Ws b) := by obtain ⟨_, _, _, _, h, _⟩ := hb; exact h
  clear ha hb
  have hmk := fun w => run_mk w (a.length + b.length) ((a.length : Int) + (b.length : Int)) (by omega) (by omega)
  have hb0 : Hid (Blk (w.alloc (.cells ((zs (a.length + b.length)).map (Value.int .u32)).toArray 61)) w.heap.size .u32 61 (zs (a.length + b.length))) := heap_alloc_new w _
  have ho0 : Hid (Below w.heap.size w (w.alloc (.cells ((zs (a.length + b.length)).map (Value.int .u32)).toArray 61))) := (Below.refl _ _).alloc (Nat.le_refl _) _
  go_enter Tryd.func15, Tryd.ntmps15
  go_wp2_with fail
  clear hmk
  go_loopw [6] (fun i wr => ∃ (n : Nat) (O : List Int), n ≤ a.length ∧ i = .int .i64 n ∧ Hid (Blk wr w.heap.size .u32 61 O) ∧ O.length = a.length + b.length ∧ Hid (Nt.Ws O) ∧ Hid (∀ j, n + b.length ≤ j → O.getD j 0 = 0) ∧ Hid (Nt.val O = Nt.val (a.take n) * Nt.val b) ∧ Hid (Below w.heap.size w wr)) (fun i _ => a.length - (intOf i).toNat)
  case atStart =>
    refine ⟨0, zs (a.length + b.length), Nat.zero_le _, rfl, hb0, by simp [zs], ?_, ?_, ?_, ho0⟩
    · intro x hx
      simp only [zs, List.mem_replicate] at hx
      rw [hx.2]; unfold Sh.W32; omega
    · intro j _
      unfold zs
      rw [List.getD_eq_getElem?_getD, List.getElem?_replicate]
      split <;> rfl
    · show Nt.val (zs _) = Nt.val [] * _
      unfold zs
      rw [Nt.val_zeros]; simp [Nt.val]
  case round =>
    clear hb0 ho0
    obtain ⟨n, O, hn, rfl, BK, hlO, WO, ZO, VO, BW⟩ := hrel
    by_cases hlt : n < a.length
    · obtain ⟨b1, o1, rfl, hb1, hc1, hcap1⟩ := num_cell HA.out n hlt
      have hx1 := hwa.out.getD n
      have hW1 := Lib.hid hx1
      obtain ⟨x10, x11⟩ := hx1
      have hV : Nt.val (a.take (n + 1)) * Nt.val b = Nt.val (a.take n) * Nt.val b + a.getD n 0 * Nt.pw n * Nt.val (b.take b.length) := by
        rw [Nt.val_take_succ a n hlt, List.take_length]; grind
      have HV := Lib.hid hV
      clear hV
      go_wp2_with fail
      go_loopw [7, 8] (fun c i wq => ∃ (k : Nat) (O2 : List Int) (cz : Int), k ≤ b.length ∧ i = .int .i64 k ∧ c = .int .u64 cz ∧ 0 ≤ cz ∧ cz ≤ 4294967295 ∧ Hid (Blk wq w.heap.size .u32 61 O2) ∧ O2.length = a.length + b.length ∧ Hid (Nt.Ws O2) ∧ Hid (∀ j, n + b.length ≤ j → O2.getD j 0 = 0) ∧ Hid (Nt.val O2 + cz * Nt.pw (n + k) = Nt.val (a.take n) * Nt.val b + a.getD n 0 * Nt.pw n * Nt.val (b.take k)) ∧ Hid (Below w.heap.size w wq)) (fun _ i _ => b.length - (intOf i).toNat)
      case atStart =>
        refine ⟨0, O, 0, Nat.zero_le _, rfl, rfl, by omega, by omega, BK, hlO, WO, ZO, ?_, BW⟩
        show _ = _
        rw [VO.out, List.take_zero, Nt.val]; simp
      case round =>
        clear BK WO ZO VO BW
        obtain ⟨k, O2, cz, hk, rfl, rfl, c0, c1, BQ, hl2, W2, Z2, V2, BWQ⟩ := hrel
        have hca := (BWQ.out.cell (p := ⟨b1, o1 + n, none⟩) hb1).trans hc1
        by_cases hlk : k < b.length
        · obtain ⟨b2, o2, rfl, hb2, hc2, hcap2⟩ := num_cell HB.out k hlk
          have hcb := (BWQ.out.cell (p := ⟨b2, o2 + k, none⟩) hb2).trans hc2
          have hco := BQ.out.cell (n + k) (by omega)
          have hfo := BQ.out.free (n + k)
          have hx2 := hwb.out.getD k
          have hx3 := W2.out.getD (n + k)
          obtain ⟨m0, m1⟩ := Nt.mul_bound hW1.out hx2
          obtain ⟨x30, x31⟩ := hx3
          obtain ⟨x20, x21⟩ := hx2
          generalize hm : a.getD n 0 * b.getD k 0 = m at *
          obtain ⟨x, hx⟩ : ∃ x, x = m + O2.getD (n + k) 0 + cz := ⟨_, rfl⟩
          have hvv := Nt.times_inner rfl (by omega) hlk hm.symm hx _ V2.out
          unfold Nt.B at hvv
          have hset := fun q => (show Blk (wr.drewN q) w.heap.size .u32 61 O2 from BQ.out.other rfl).set (n + k) (x % 4294967296)
          have hws := W2.out.set (n + k) (x := x % 4294967296) (by unfold Sh.W32; omega)
          have hzz : ∀ j, n + b.length ≤ j → (O2.set (n + k) (x % 4294967296)).getD j 0 = 0 := by
            intro j hj
            rw [List.getD_eq_getElem?_getD, List.getElem?_set_ne (by omega), ← List.getD_eq_getElem?_getD]
            exact Z2.out j hj
          have HVV := Lib.hid hvv
          have HS := Lib.hid hset
          have HWS := Lib.hid hws
          have HZ := Lib.hid hzz
          have hlen' : (O2.set (n + k) (x % 4294967296)).length = a.length + b.length := by rw [List.length_set]; exact hl2
          clear hvv hset hws hzz V2 Z2 W2 BQ
          subst hx
          generalize O2.set (n + k) ((m + O2.getD (n + k) 0 + cz) % 4294967296) = O3 at *
          generalize O2.getD (n + k) 0 = o at *
          generalize a.getD n 0 = x1 at *
          generalize b.getD k 0 = x2 at *
          go_wp2
          go_quiet (fail)
          go_wp2
          go_roundw
          case rel => exact ⟨k + 1, O3, _, by omega, by go_num, rfl, by omega, by omega, HS.out _, hlen', HWS.out, HZ.out, HVV.out, (below_drewN BWQ.out _).setCell (Nat.le_refl _) _⟩
          case measure => simp [intOf]; omega
        · obtain rfl : k = b.length := by omega
          have hco := BQ.out.cell (n + b.length) (by omega)
          have hfo := BQ.out.free (n + b.length)
          have hset := BQ.out.set (n + b.length) cz
          have hws := W2.out.set (n + b.length) (x := cz) (by unfold Sh.W32; omega)
          have hzz : ∀ j, n + 1 + b.length ≤ j → (O2.set (n + b.length) cz).getD j 0 = 0 := by
            intro j hj
            rw [List.getD_eq_getElem?_getD, List.getElem?_set_ne (by omega), ← List.getD_eq_getElem?_getD]
            exact Z2.out j (by omega)
          have hvv : Nt.val (O2.set (n + b.length) cz) = Nt.val (a.take (n + 1)) * Nt.val b := by
            rw [Nt.val_set O2 _ _ (by omega), Z2.out _ (Nat.le_refl _), HV.out, ← V2.out]; grind
          have HVV := Lib.hid hvv
          have HS := Lib.hid hset
          have HWS := Lib.hid hws
          have HZ := Lib.hid hzz
          have hlen' : (O2.set (n + b.length) cz).length = a.length + b.length := by rw [List.length_set]; exact hl2
          clear hvv hset hws hzz V2 Z2 W2 BQ HV
          generalize O2.set (n + b.length) cz = O3 at *
          generalize O2.getD (n + b.length) 0 = o at *
          generalize a.getD n 0 = x1 at *
          go_wp2
          go_roundw
          case rel => exact ⟨n + 1, O3, by omega, by go_num, HS.out, hlen', HWS.out, HZ.out, HVV.out, BWQ.out.setCell (Nat.le_refl _) _⟩
          case measure => simp [intOf]; omega
    · obtain rfl : n = a.length := by omega
      have hvv := VO.out
      rw [List.take_length] at hvv
      have HVV := Lib.hid hvv
      have ht := trim_any wr _ O (num_blk BK.out hlO WO.out) (by omega)
      have HT := Lib.hid ht
      clear ht hvv VO ZO WO HA HB
      go_wp2_with (go_at_call 41; refine HT.out.mono ?_; rintro e w1 ⟨v1, rfl, h2, h3⟩; have H2 := Lib.hid h2; have H3 := Lib.hid h3; clear h2 h3)
      go_ret
      refine ⟨_, _, rfl, H2.out, ?_, Nt.neat_trim _, ?_, BW.out.trans (H3.out.mono BW.out.size)⟩
      · rw [Nt.val_trim]; exact HVV.out
      · rw [Nt.length_trim, ← hlO]; exact Nt.cut_le _ _
end Go.Proofs.YtiinmdleechcgaaDoor.Sha
namespace Go.Proofs.YtiinmdleechcgaaDoor.Sha
open Go.RowKit

namespace Nt
/-- Bit by bit from above: the greatest number whose power is at most that. -/
def rootFrom (p k : Nat) : Nat → Nat → Nat
  | 0, lo => lo
  | b + 1, lo => rootFrom p k b (if (lo + 2 ^ b) ^ k ≤ p * 4294967296 ^ k then lo + 2 ^ b else lo)
def rootW (p k : Nat) : Int := ((rootFrom p k 40 0 % 4294967296 : Nat) : Int)
def collect (k p : Nat) : List Int := ((List.range p).filter prime).map fun q => rootW q k
theorem collect_succ (k p : Nat) : collect k (p + 1) = collect k p ++ if prime p then [rootW p k] else [] := by
  unfold collect
  rw [List.range_succ, List.filter_append, List.map_append]
  by_cases h : prime p = true
  · simp [h]
  · simp [h]
theorem collect_prefix (k p d : Nat) : ∃ r, collect k (p + d) = collect k p ++ r := by
  induction d with
  | zero => exact ⟨[], by simp⟩
  | succ d ih =>
    obtain ⟨r, hr⟩ := ih
    exact ⟨_, by rw [← Nat.add_assoc, collect_succ, hr, List.append_assoc]⟩
theorem collect_take (k p : Nat) (h : p ≤ 400) : (collect k 400).take (collect k p).length = collect k p := by
  obtain ⟨r, hr⟩ := collect_prefix k p (400 - p)
  rw [show p + (400 - p) = 400 by omega] at hr
  rw [hr, List.take_left']
  rfl
theorem collect_many (k : Nat) : 64 ≤ (collect k 400).length := by
  unfold collect
  rw [List.length_map]
  decide +kernel
end Nt
theorem roots_KK : (Nt.collect 3 400).take 64 = KK := by decide +kernel
theorem roots_H0 : (Nt.collect 2 400).take 8 = Sh.H0.cells := by decide +kernel

theorem own_kept {w w' : World} {base k : Nat} {e : TypeId} {v : Value} {xs : List Value} (h : w.ownsRow base e 1 v k xs) (hb : Below w.heap.size w w') : w'.ownsRow base e 1 v k xs := by
  obtain ⟨h1, h2⟩ := h
  refine ⟨h1, ?_⟩
  rcases h2 with h2 | ⟨g, cap, cur, hv, hg, hat, r⟩
  · exact Or.inl h2
  · exact Or.inr ⟨g, cap, cur, hv, hg, (hb.block g (lt_of_block hat)).trans hat, r⟩

/-- A power: y times x, some times more. -/
theorem pow_step (X : Nat) (j : Nat) {y x : Int} (hy : y = ((X ^ j : Nat) : Int)) (hx : x = (X : Int)) : y * x = ((X ^ (j + 1) : Nat) : Int) := by
  rw [hy, hx, Nat.pow_succ, Int.natCast_mul]

set_option maxRecDepth 100000 in
set_option maxHeartbeats 400000 in
theorem roots_probe (w : World) (many k : Nat) (hm : many ≤ 64) (hk0 : 1 ≤ k) (hk : k ≤ 3) :
    Calls Tryd.prog 58 #[.int .i64 many, .int .i64 k] w fun e w' => ∃ v', e = .returned v' ∧ w'.ownsRow w.heap.size 61 1 v' many (((Nt.collect k 400).take many).map (Value.int .u32)) ∧ Below w.heap.size w w' := by
  go_enter Tryd.func58, Tryd.ntmps58
  go_wp2_with fail
  go_loopw [5, 6] (fun v i wr => ∃ p : Nat, 2 ≤ p ∧ p ≤ 400 ∧ i = .int .i64 p ∧ (Nt.collect k p).length ≤ many ∧ Hid (wr.ownsRow w.heap.size 61 1 v (Nt.collect k p).length ((Nt.collect k p).map (Value.int .u32))) ∧ Hid (Below w.heap.size w wr)) (fun _ i _ => 400 - (intOf i).toNat)
  case atStart => exact ⟨2, Nat.le_refl _, by omega, rfl, Nat.zero_le _, ⟨rfl, Or.inl ⟨rfl, rfl⟩⟩, Below.refl _ _⟩
  case round =>
    obtain ⟨p, hp0, hp1, rfl, hlen, OW, BW⟩ := hrel
    by_cases hlt : (Nt.collect k p).length < many
    · have hp2 : p < 400 := by
        rcases Nat.lt_or_ge p 400 with h | h
        · exact h
        · obtain rfl : p = 400 := by omega
          have := Nt.collect_many k
          omega
      have hpr := Lib.hid (prime_any wr p (by omega))
      have hsucc := Nt.collect_succ k p
      by_cases hpp : Nt.prime p = true
      · have hcs : Nt.collect k (p + 1) = Nt.collect k p ++ [Nt.rootW p k] := by rw [hsucc, if_pos hpp]
        rw [hpp] at hpr
        have HCS := Lib.hid hcs
        have HRW := Lib.hid (show Nt.rootW p k = ((Nt.rootFrom p k 40 0 % 4294967296 : Nat) : Int) from rfl)
        clear hsucc hcs hpp
        obtain ⟨a5, c5, rfl⟩ : ∃ a5 c5, u5 = .slice a5 (Nt.collect k p).length c5 := by
          rcases OW.out.2 with ⟨h, h0⟩ | ⟨g, cap, cur, h, _⟩
          · exact ⟨none, 0, by rw [h0]; exact h⟩
          · exact ⟨_, _, h⟩
        have hmk := fun w => run_mk w (k + 1) ((k : Int) + 1) (by omega) (by omega)
        have hlz : (zs (k + 1)).length = k + 1 := by simp [zs]
        have hB1 : Blk (wr.alloc (.cells (((zs (k + 1)).map (Value.int .u32)).set k (.int .u32 p)).toArray 61)) wr.heap.size .u32 61 ((zs (k + 1)).set k (p : Int)) := by
          have := heap_alloc_new wr (.cells (((zs (k + 1)).map (Value.int .u32)).set k (.int .u32 p)).toArray 61)
          unfold Blk
          rw [this, List.map_set]
        have hvn : Nt.val ((zs (k + 1)).set k (p : Int)) = (p : Int) * Nt.pw k := by
          rw [Nt.val_set _ _ _ (by omega)]
          unfold zs
          rw [Nt.val_zeros, List.getD_eq_getElem?_getD, List.getElem?_replicate, if_pos (by omega)]
          show 0 + Nt.pw k * ((p : Int) - 0) = _
          rw [Int.sub_zero, Int.zero_add, Int.mul_comm]
        have hwn : Nt.Ws ((zs (k + 1)).set k (p : Int)) := by
          refine Nt.Ws.set ?_ k (by unfold Sh.W32; omega)
          intro x hx
          simp only [zs, List.mem_replicate] at hx
          rw [hx.2]; unfold Sh.W32; omega
        have HN := Lib.hid (num_blk hB1 (n := k + 1) (by rw [List.length_set, hlz]) hwn)
        have HVN := Lib.hid hvn
        have hba : Below wr.heap.size wr (wr.alloc (.cells (((zs (k + 1)).map (Value.int .u32)).set k (.int .u32 p)).toArray 61)) := (Below.refl _ _).alloc (Nat.le_refl _) _
        have HBA := Lib.hid hba
        have hln : ((zs (k + 1)).set k (p : Int)).length = k + 1 := by rw [List.length_set, hlz]
        clear hB1 hwn hvn hba
        go_wp2_with (go_at_call 82; refine hpr.out.mono ?_; rintro e w1 ⟨rfl, rfl⟩)
        generalize w1.alloc (.cells (((zs (k + 1)).map (Value.int .u32)).set k (.int .u32 p)).toArray 61) = wa at *
        clear hmk hlz
        generalize (zs (k + 1)).set k (p : Int) = nl at *
        go_loopw [8, 9] (fun lo i wq => ∃ c lo' : Nat, c ≤ 40 ∧ i = .int .i64 ((c : Int) - 1) ∧ lo = .int .u64 (lo' : Int) ∧ lo' + 2 ^ c ≤ 1099511627776 ∧ Hid (Nt.rootFrom p k c lo' = Nt.rootFrom p k 40 0) ∧ Hid (Below wa.heap.size wa wq)) (fun _ i _ => (intOf i + 1).toNat)
        case atStart => exact ⟨40, 0, Nat.le_refl _, rfl, rfl, by decide, rfl, Below.refl _ _⟩
        case round =>
          obtain ⟨c, lo, hc, rfl, rfl, hlo, RF, BQ⟩ := hrel
          cases c with
          | zero =>
            have hbq := HBA.out.trans (BQ.out.mono HBA.out.size)
            have hown := own_kept OW.out hbq
            have hbw := BW.out.trans (hbq.mono BW.out.size)
            have hrw : Nt.rootW p k = (lo : Int) % 4294967296 := by
              have h : Nt.rootFrom p k 0 lo = lo := rfl
              rw [HRW.out, ← RF.out, h, Int.natCast_emod]; rfl
            have HRW2 := Lib.hid hrw
            have HOWN := Lib.hid hown
            have HBW := Lib.hid hbw
            clear hown hbw hrw hbq RF HRW HVN HN OW
            obtain ⟨i0, hi, hz0, hz1, hz2⟩ := info_parts info39
            have hlz2 := hlt
            generalize hlne : (Nt.collect k p).length = len at *
            have HLN := Lib.hid hlne
            clear hlne
            rw [show ((0 : Nat) : Int) - 1 = -1 from rfl]
            go_wp2_with ((with_reducible refine wpList_append_own _ (o := ⟨some 60, _, _, _, _, _⟩) rfl (.tmp 56) (.tmp 59) 28 rfl w.heap.size 61 i0 (.int .u32 0) 1 4 Tryd.underlying28 hi hz0 hz1 hz2 rfl ?_ (.slice a5 len c5) len ((Nt.collect k p).map (Value.int .u32)) rfl ?_ ⟨wr.heap.size, 0, none⟩ 1 1 [.int .u32 ((lo : Int) % 4294967296)] rfl rfl ?_ ?_ ?_ ?_ ?_ ?_); exact (by decide); exact HOWN.out.alloc _; exact (fun j u hu => by rw [Addr.add_mid, Nat.zero_add, cell_of_row _ _ _ _ 61 (0, 0) (heap_alloc_new wr _)]; simpa using hu); exact (fun u hu => by simp at hu; subst hu; rfl); exact (by unfold maxLen; omega); exact (by omega); exact (by have := HBW.out.size; simp; omega); intro v3 w3 hown3 hgr _; have HOW3 := Lib.hid hown3; have HGR := Lib.hid hgr; clear hown3 hgr)
            go_roundw
            case rel =>
              have hb3 : Below w.heap.size w w3 := by
                refine HBW.out.trans ⟨HGR.out.os, HGR.out.tape, HGR.out.output, by have := HGR.out.size; simp at this; omega, fun i hi => ?_⟩
                have hiw := Nat.lt_of_lt_of_le hi HBW.out.size
                refine (HGR.out.block i (by simp; omega) ?_).trans (Below.heap_alloc wr _ i hiw)
                rcases HOWN.out.2 with ⟨h, _⟩ | ⟨g, cap, cur, h, hg', _⟩
                · rw [h]; simp [Value.ownBlock]
                · rw [h]
                  intro hh
                  simp only [Value.ownBlock, Option.some.injEq] at hh
                  omega
              have hl : (Nt.collect k (p + 1)).length = len + 1 := by rw [HCS.out, List.length_append, HLN.out]; rfl
              refine ⟨p + 1, by omega, by omega, by go_num, by omega, ?_, hb3⟩
              rw [hl]
              have := HOW3.out
              rw [HCS.out, List.map_append, HRW2.out]
              exact this
            case measure => simp [intOf]; omega
          | succ c =>
            rw [show ((c + 1 : Nat) : Int) - 1 = (c : Int) by omega]
            have ht2 : 2 ^ (c + 1) = 2 * 2 ^ c := by rw [Nat.pow_succ]; omega
            rw [ht2] at hlo
            clear ht2
            have hsh : IntKind.u64.wrap ((2 : Int) ^ c) = ((2 ^ c : Nat) : Int) := by
              have h1 : ((2 ^ c : Nat) : Int) = (2 : Int) ^ c := by simp
              rw [IntKind.wrap_u64, ← h1]
              omega
            have hrs : Nt.rootFrom p k (c + 1) lo = Nt.rootFrom p k c (if (lo + 2 ^ c) ^ k ≤ p * 4294967296 ^ k then lo + 2 ^ c else lo) := rfl
            have HRS := Lib.hid hrs
            clear hrs
            have ht1 : 1 ≤ 2 ^ c := Nat.one_le_two_pow
            generalize hte : 2 ^ c = t at *
            have HTE := Lib.hid hte
            clear hte
            have hsm := small_any wr ((lo : Int) + (t : Int)) (by omega) (by omega)
            have HSM := Lib.hid hsm
            clear hsm
            go_wp2_with (go_at_call 64; refine HSM.out.mono ?_; rintro e w2 ⟨vx, lx, rfl, h1, h2, h3, h4, h5⟩; obtain ⟨ax, cx, rfl⟩ := num_form h1; have H1 := Lib.hid h1; have H2 := Lib.hid h2; have H5 := Lib.hid h5; clear h1 h2 h3 h5)
            have HB2 := Lib.hid (BQ.out.trans (H5.out.mono BQ.out.size))
            obtain ⟨X, hX⟩ : ∃ X, X = lo + t := ⟨_, rfl⟩
            go_loopw [11, 12] (fun y i wq => ∃ (j : Nat) (ly : List Int), 1 ≤ j ∧ j ≤ k ∧ i = .int .i64 j ∧ ly.length ≤ 2 * j ∧ Hid (Num wq y ly) ∧ Hid (Nt.val ly = ((X ^ j : Nat) : Int)) ∧ Hid (Below w2.heap.size w2 wq)) (fun _ i _ => k - (intOf i).toNat)
            case atStart =>
              refine ⟨1, lx, Nat.le_refl _, hk0, rfl, by omega, H1, ?_, Below.refl _ _⟩
              show _ = _
              rw [H2.out, hX, Nat.pow_one]; omega
            case round =>
              obtain ⟨j, ly, hj0, hj1, rfl, hly, NY, VY, BY⟩ := hrel
              obtain ⟨ay, cy, rfl⟩ := num_form NY.out
              by_cases hjk : j < k
              · have htm := times_probe wr ay ax cy cx ly lx NY.out (H1.out.below BY.out (Nat.le_refl _)) (by omega) (by omega)
                have HTM := Lib.hid htm
                have HPS := Lib.hid (pow_step X j VY.out (show Nt.val lx = (X : Int) by rw [H2.out, hX]; omega))
                clear htm NY VY HN HVN HRS RF OW HCS HRW HSM
                go_wp2_with (go_at_call 15; refine HTM.out.mono ?_; rintro e w4 ⟨v4, l4, rfl, h6, h7, h8, h9, h10⟩; have H6 := Lib.hid h6; have H7 := Lib.hid h7; have H10 := Lib.hid h10; clear h6 h7 h8 h10)
                go_roundw
                case rel => exact ⟨j + 1, l4, by omega, by omega, by go_num, by omega, H6, by rw [← HPS.out]; exact H7, BY.out.trans (H10.out.mono BY.out.size)⟩
                case measure => simp [intOf]; omega
              · have hjk' : j = k := by omega
                have hvl : Nt.val ly = ((X ^ k : Nat) : Int) := by rw [← hjk']; exact VY.out
                have hbb := HB2.out.trans (BY.out.mono HB2.out.size)
                have hcm := cmp_any wr _ _ ly nl NY.out (HN.out.below hbb (Nat.le_refl _)) (by omega) (by omega)
                have hpk : ((p * 4294967296 ^ k : Nat) : Int) = (p : Int) * Nt.pw k := by simp [Nt.pw, Nt.B]
                rw [hvl, HVN.out, ← hpk] at hcm
                have HCM := Lib.hid hcm
                have HBB := Lib.hid hbb
                have hrf := RF.out
                rw [HRS.out, ← hX] at hrf
                have HRF := Lib.hid hrf
                clear hcm hbb hpk hvl NY VY HN HVN HRS RF OW HCS HRW HSM hrf hjk'
                by_cases hle : X ^ k ≤ p * 4294967296 ^ k
                · have hrf := HRF.out
                  rw [if_pos hle] at hrf
                  have HRF2 := Lib.hid hrf
                  have HLE := Lib.hid hle
                  clear hrf HRF hle
                  go_wp2_with (go_at_call 39; refine HCM.out.mono ?_; rintro e w4 ⟨r, rfl, hr, -, h10⟩; have hr' := hr.2 (by have := HLE.out; omega); have H10 := Lib.hid h10; clear hr h10)
                  go_roundw
                  case rel => exact ⟨c, X, by omega, by go_num, by rw [hX]; go_num, by rw [HTE.out]; omega, HRF2, HBB.out.trans (H10.out.mono HBB.out.size)⟩
                  case measure => simp [intOf]
                · have hrf := HRF.out
                  rw [if_neg hle] at hrf
                  have HRF2 := Lib.hid hrf
                  have HLE := Lib.hid hle
                  clear hrf HRF hle
                  go_wp2_with (go_at_call 39; refine HCM.out.mono ?_; rintro e w4 ⟨r, rfl, hr, -, h10⟩; have hr' : ¬ r ≤ 0 := (fun h => (by have h1 := hr.1 h; have h2 := HLE.out; omega)); have H10 := Lib.hid h10; clear hr h10)
                  go_roundw
                  case rel => exact ⟨c, lo, by omega, by go_num, rfl, by rw [HTE.out]; omega, HRF2, HBB.out.trans (H10.out.mono HBB.out.size)⟩
                  case measure => simp [intOf]
      · have hcs : Nt.collect k (p + 1) = Nt.collect k p := by rw [hsucc, if_neg hpp, List.append_nil]
        have hpf : Nt.prime p = false := by simpa using hpp
        rw [hpf] at hpr
        have HCS := Lib.hid hcs
        clear hsucc hcs hpp hpf
        obtain ⟨a5, c5, rfl⟩ : ∃ a5 c5, u5 = .slice a5 (Nt.collect k p).length c5 := by
          rcases OW.out.2 with ⟨h, h0⟩ | ⟨g, cap, cur, h, _⟩
          · exact ⟨none, 0, by rw [h0]; exact h⟩
          · exact ⟨_, _, h⟩
        go_wp2_with (go_at_call 82; refine hpr.out.mono ?_; rintro e w1 ⟨rfl, rfl⟩)
        go_roundw
        case rel => exact ⟨p + 1, by omega, by omega, by go_num, by rw [HCS.out]; exact hlen, by rw [HCS.out]; exact OW, BW⟩
        case measure => simp [intOf]; omega
    · have hlm : (Nt.collect k p).length = many := by omega
      have hfin : Hid (wr.ownsRow w.heap.size 61 1 u5 many (((Nt.collect k 400).take many).map (Value.int .u32))) := by
        have h := OW.out
        have e := Nt.collect_take k p hp1
        rw [hlm] at h e
        rw [e]
        exact h
      obtain ⟨a5, c5, rfl⟩ : ∃ a5 c5, u5 = .slice a5 (Nt.collect k p).length c5 := by
        rcases OW.out.2 with ⟨h, h0⟩ | ⟨g, cap, cur, h, _⟩
        · exact ⟨none, 0, by rw [h0]; exact h⟩
        · exact ⟨_, _, h⟩
      clear OW
      go_wp2
      go_ret
      exact ⟨_, rfl, hfin.out, BW.out⟩
end Go.Proofs.YtiinmdleechcgaaDoor.Sha
namespace Go.Proofs.YtiinmdleechcgaaDoor.Sha
open Go.RowKit

theorem own32_form {w : World} {base size n : Nat} {e : TypeId} {v : Value} {xs : List Value} (h : w.ownsRow base e size v n xs) (hn : 0 < n := by decide) : ∃ g cap, v = .slice (some ⟨g, 0, none⟩) n cap ∧ base ≤ g ∧ g < w.heap.size := by
  rcases h.2 with ⟨_, h0⟩ | ⟨g, cap, cur, hv, hb, hat, _⟩
  · omega
  · exact ⟨g, cap, hv, hb, lt_of_block hat⟩
theorem own_below {w wr w' : World} {k : Nat} {e : TypeId} {v : Value} {xs : List Value} (hb : Below w.heap.size w wr) (h : wr.ownsRow w.heap.size e 1 v k xs) (hg : wr.grownBy w' v.ownBlock) : Below w.heap.size w w' := by
  refine hb.trans ⟨hg.os, hg.tape, hg.output, hg.size, fun i hi => hg.block i (Nat.lt_of_lt_of_le hi hb.size) ?_⟩
  rcases h.2 with ⟨rfl, _⟩ | ⟨g, cap, cur, rfl, hg', _⟩
  · simp [Value.ownBlock]
  · intro hh
    simp only [Value.ownBlock, Option.some.injEq] at hh
    omega

/-- A row of numbers that was made since. -/
def Mine (k : IntKind) (e : TypeId) (w0 w : World) (v : Value) (xs : List Int) : Prop := w.ownsRow w0.heap.size e 1 v xs.length (xs.map (Value.int k)) ∧ Below w0.heap.size w0 w
theorem Mine.nil (k : IntKind) (e : TypeId) (w : World) : Mine k e w w (.slice none 0 0) [] := ⟨⟨rfl, Or.inl ⟨rfl, rfl⟩⟩, Below.refl _ _⟩
theorem Mine.nil' {k : IntKind} {e : TypeId} {w w' : World} (h : Below w.heap.size w w') : Mine k e w w' (.slice none 0 0) [] := ⟨⟨rfl, Or.inl ⟨rfl, rfl⟩⟩, h⟩
theorem Mine.alloc {k : IntKind} {e : TypeId} {w0 w : World} {v : Value} {xs : List Int} (h : Mine k e w0 w v xs) (o : Obj) : Mine k e w0 (w.alloc o) v xs := ⟨h.1.alloc o, h.2.alloc h.2.size o⟩
theorem Mine.form {k : IntKind} {e : TypeId} {w0 w : World} {v : Value} {xs : List Int} (h : Mine k e w0 w v xs) : ∃ a c, v = .slice a xs.length c := by
  rcases h.1.2 with ⟨h, h0⟩ | ⟨g, cap, cur, h, _⟩
  · exact ⟨none, 0, by rw [h0]; exact h⟩
  · exact ⟨_, _, h⟩
theorem Mine.kept {k : IntKind} {e : TypeId} {w0 w w' : World} {v : Value} {xs : List Int} (h : Mine k e w0 w v xs) (hb : Below w.heap.size w w') : Mine k e w0 w' v xs := ⟨own_kept h.1 hb, h.2.trans (hb.mono h.2.size)⟩
theorem slc_one (w : World) (x : Int) (h : Sh.W8 x) : Slc (w.alloc (.cells #[.int .u8 x] 5)) (.slice (some ⟨w.heap.size, 0, none⟩) 1 1) [x] := by
  refine ⟨_, 1, rfl, Nat.le_refl _, fun y hy => ?_, Or.inr ⟨w.heap.size, 0, rfl, by simp, fun j hj => ?_⟩⟩
  · rw [List.mem_singleton] at hy; rw [hy]; exact h
  · obtain rfl : j = 0 := by simp at hj; omega
    rw [cell_of_row _ _ _ _ 5 (0, 0) (heap_alloc_new w _)]; rfl

section
variable {w : World} {ops : Array Oper} {rest : List Oper} {o : Oper} {a : Act} {Q : Exit → Act → World → Prop}
theorem append_mine (hgd : o.guard = none) (s x : Operand)
    (ho : o.op = .call { callee := .builtin .append, args := #[s, x], argTypes := #[22, 22] })
    (w0 : World) (v : Value) (xs : List Int) (hs : a.eval s = v) (hown : Mine .u8 5 w0 w v xs)
    (am : Option Addr) (m c : Nat) (M : List Int) (hx : a.eval x = .slice am m c) (hM : Slc w (.slice am m c) M) (hlen : xs.length + M.length ≤ 100000000000000)
    (h : ∀ v' w', Mine .u8 5 w0 w' v' (xs ++ M) → wpList Tryd.prog ops Q rest (a.put o.dst v') w') :
    wpList Tryd.prog ops Q (o :: rest) a w :=
  append_slc hgd s x ho w0.heap.size v xs.length xs hs hown.1 am m c M hx hM hlen hown.2.size fun v' w' h1 h2 _ =>
    h v' w' ⟨by rw [List.length_append]; exact h1, own_below hown.2 hown.1 h2⟩
/-- One byte. -/
theorem append_byte (hgd : o.guard = none) (s x : Operand)
    (ho : o.op = .call { callee := .builtin .append, args := #[s, x], argTypes := #[22, 22] })
    (w0 : World) (v : Value) (xs : List Int) (hs : a.eval s = v) (hown : Mine .u8 5 w0 w v xs) (y : Int) (hx : a.eval x = .slice (some ⟨w.heap.size, 0, none⟩) 1 1) (hy : Sh.W8 y) (hlen : xs.length ≤ 10000000000000)
    (h : ∀ v' w', Mine .u8 5 w0 w' v' (xs ++ [y]) → wpList Tryd.prog ops Q rest (a.put o.dst v') w') :
    wpList Tryd.prog ops Q (o :: rest) a (w.alloc (.cells #[.int .u8 y] 5)) :=
  append_mine hgd s x ho w0 v xs hs (hown.alloc _) _ 1 1 [y] hx (slc_one w y hy) (by simp; omega) h
/-- One word. -/
theorem append_word (hgd : o.guard = none) (s x : Operand)
    (ho : o.op = .call { callee := .builtin .append, args := #[s, x], argTypes := #[28, 28] })
    (w0 : World) (v : Value) (xs : List Int) (hs : a.eval s = v) (hown : Mine .u32 61 w0 w v xs) (y : Int) (hx : a.eval x = .slice (some ⟨w.heap.size, 0, none⟩) 1 1) (hlen : xs.length ≤ 10000000000000)
    (h : ∀ v' w', Mine .u32 61 w0 w' v' (xs ++ [y]) → wpList Tryd.prog ops Q rest (a.put o.dst v') w') :
    wpList Tryd.prog ops Q (o :: rest) a (w.alloc (.cells #[.int .u32 y] 61)) := by
  obtain ⟨i0, hi, hz0, hz1, hz2⟩ := info_parts info39
  refine wpList_append_own_at (w.alloc (.cells #[.int .u32 y] 61)) hgd s x 28 ho w0.heap.size 61 i0 (.int .u32 0) 1 4 Tryd.underlying28 hi hz0 hz1 hz2 rfl (by decide) v xs.length (xs.map (Value.int .u32)) hs (hown.1.alloc _) ⟨w.heap.size, 0, none⟩ 1 1 [.int .u32 y] hx rfl (cell_one_new w _ _) (by intro u hu; simp at hu; subst hu; rfl) (by unfold maxLen; omega) (by omega) (by have := hown.2.size; simp; omega) ?_
  intro v' w' h1 h2 _ _
  have hb := own_below (hown.2.alloc hown.2.size _) (hown.1.alloc _) h2
  exact h v' w' ⟨by rw [List.length_append, List.map_append]; exact h1, hb⟩
/-- .. as one step of a region that draws its order. -/
theorem step_append_word {K : Act → World → Prop} {E : Prop} (hgd : o.guard = none) (s x : Operand)
    (ho : o.op = .call { callee := .builtin .append, args := #[s, x], argTypes := #[28, 28] })
    (w0 w1 : World) (v : Value) (xs : List Int) (hs : a.eval s = v) (hown : Mine .u32 61 w0 w1 v xs) (y : Int) (hw : w = w1.alloc (.cells #[.int .u32 y] 61)) (hx : a.eval x = .slice (some ⟨w1.heap.size, 0, none⟩) 1 1) (hlen : xs.length ≤ 10000000000000)
    (h : ∀ v' w', Mine .u32 61 w0 w' v' (xs ++ [y]) → K (a.put o.dst v') w') :
    if Region.wanted o (yielded ops a.tmps) = true then Oper.wp Tryd.prog o a w K Q else E := by
  subst hw
  have hw : Region.wanted o (yielded ops a.tmps) = true := by simp [Region.wanted, hgd]
  rw [if_pos hw]
  obtain ⟨i0, hi, hz0, hz1, hz2⟩ := info_parts info39
  obtain ⟨v', w', hrun, h1, h2, _, _⟩ := run_append_own_at (P := Tryd.prog) (w1.alloc (.cells #[.int .u32 y] 61)) w0.heap.size 28 o.type 61 i0 (.int .u32 0) 1 4 Tryd.underlying28 hi hz0 hz1 hz2 rfl (by decide) v xs.length (xs.map (Value.int .u32)) (hown.1.alloc _) ⟨w1.heap.size, 0, none⟩ 1 1 [.int .u32 y] rfl (cell_one_new w1 _ _) (by intro u hu; simp at hu; subst hu; rfl) (by unfold maxLen; omega) (by omega) (by have := hown.2.size; simp; omega)
  have hb := own_below (hown.2.alloc hown.2.size _) (hown.1.alloc _) h2
  unfold Oper.wp
  simp [execOp, ho, resolve, invoke, builtin, hs, hx, hrun, Result.andThen]
  exact h v' w' ⟨by rw [List.length_append, List.map_append]; exact h1, hb⟩
end
end Go.Proofs.YtiinmdleechcgaaDoor.Sha
namespace Go.Proofs.YtiinmdleechcgaaDoor.Sha
open Go.RowKit

/-- The numbers of the rounds, the bytes, the state: each in its block. -/
structure Sits (w : World) (base gk gh ch gp : Nat) (L s : List Int) (wq : World) : Prop where
  kk : At wq .u32 gk 0 KK
  kl : gk < wq.heap.size
  pp : At wq .u8 gp 0 L
  pl : gp < wq.heap.size
  hh : wq.ownsRow base 61 1 (.slice (some ⟨gh, 0, none⟩) 8 ch) 8 (s.map (Value.int .u32))
  bb : Below w.heap.size w wq
section
variable {w : World} {base gk gh ch gp : Nat} {L s : List Int} {wq w' : World}
theorem Sits.below (h : Sits w base gk gh ch gp L s wq) (hb : Below wq.heap.size wq w') : Sits w base gk gh ch gp L s w' :=
  ⟨h.kk.below hb h.kl, Nat.lt_of_lt_of_le h.kl hb.size, h.pp.below hb h.pl, Nat.lt_of_lt_of_le h.pl hb.size, own_kept h.hh hb, h.bb.trans (hb.mono h.bb.size)⟩
theorem Sits.put (h : Sits w base gk gh ch gp L s wq) (h1 : gk ≠ gh) (h2 : gp ≠ gh) (h3 : w.heap.size ≤ gh) (j : Nat) (x : Int) : Sits w base gk gh ch gp L (s.set j x) (wq.setCell ⟨gh, j, none⟩ (.int .u32 x)) := by
  obtain ⟨h4, h5⟩ := h.hh.stored j (.int .u32 x)
  have ho : Only gh wq (wq.setCell ⟨gh, j, none⟩ (.int .u32 x)) := h5
  refine ⟨ho.at h.kk h.kl h1, Nat.lt_of_lt_of_le h.kl ho.size, ho.at h.pp h.pl h2, Nat.lt_of_lt_of_le h.pl ho.size, ?_, below_of_only h.bb ho h3 h.bb.size⟩
  rw [List.map_set]; exact h4
theorem Sits.drewN (h : Sits w base gk gh ch gp L s wq) (n : Nat) : Sits w base gk gh ch gp L s (wq.drewN n) := ⟨h.kk, h.kl, h.pp, h.pl, h.hh, ⟨h.bb.os, h.bb.tape, h.bb.output, h.bb.size, h.bb.block⟩⟩
theorem Sits.hcell (h : Sits w base gk gh ch gp L s wq) (hs : s.length = 8) (j : Nat) (hj : j < 8) : wq.cell? ⟨gh, j, none⟩ = some (.int .u32 (s.getD j 0)) := by
  rw [h.hh.cellAt j (by omega)]
  simp [show j < s.length by omega]
theorem Sits.hfree (h : Sits w base gk gh ch gp L s wq) (j : Nat) : wq.frozen? ⟨gh, j, none⟩ = false := h.hh.frozenAt j
theorem Sits.kcell (h : Sits w base gk gh ch gp L s wq) (j : Nat) (hj : j < 64) : wq.cell? ⟨gk, j, none⟩ = some (.int .u32 (KK.getD j 0)) := by
  have := h.kk j (by rw [length_KK]; exact hj)
  rwa [Nat.zero_add] at this
theorem Sits.pcell (h : Sits w base gk gh ch gp L s wq) (j : Nat) (hj : j < L.length) : wq.cell? ⟨gp, j, none⟩ = some (.int .u8 (L.getD j 0)) := by
  have := h.pp j hj
  rwa [Nat.zero_add] at this
end
theorem Mine.cell {k : IntKind} {e : TypeId} {w0 w : World} {g c n : Nat} {xs : List Int} (h : Mine k e w0 w (.slice (some ⟨g, 0, none⟩) n c) xs) (hn : n = xs.length) (j : Nat) (hj : j < xs.length) : w.cell? ⟨g, j, none⟩ = some (.int k (xs.getD j 0)) := by
  subst hn
  rw [h.1.cellAt j (by omega)]
  simp [hj]
theorem Mine.form2 {k : IntKind} {e : TypeId} {w0 w : World} {v : Value} {xs : List Int} (h : Mine k e w0 w v xs) (hn : 0 < xs.length) : ∃ g c, v = .slice (some ⟨g, 0, none⟩) xs.length c ∧ w0.heap.size ≤ g ∧ g < w.heap.size := own32_form h.1 hn
theorem Mine.drewN {k : IntKind} {e : TypeId} {w0 w : World} {v : Value} {xs : List Int} (h : Mine k e w0 w v xs) (n : Nat) : Mine k e w0 (w.drewN n) v xs := ⟨h.1, ⟨h.2.os, h.2.tape, h.2.output, h.2.size, h.2.block⟩⟩
theorem at_of_own {w : World} {base g c n : Nat} {e : TypeId} {k : IntKind} {l : List Int} (h : w.ownsRow base e 1 (.slice (some ⟨g, 0, none⟩) n c) n (l.map (Value.int k))) : At w k g 0 l := by
  intro j hj
  have hl := h.1
  rw [List.length_map] at hl
  rw [Nat.zero_add, h.cellAt j (by omega)]
  simp [hj]

/-- One round, as the reference writes it. -/
def asum (s : Sh.S) (i : Nat) : Value := .int .u32 (s.cells.getD i 0)
end Go.Proofs.YtiinmdleechcgaaDoor.Sha
namespace Go.Proofs.YtiinmdleechcgaaDoor.Sha
open Go.RowKit

def slen : Value → Nat
  | .slice _ n _ => n
  | _ => 0

/-- A word turned, asked in a region that draws. -/
theorem rturn_q (x : Int) (k : Nat) (n : Int) (hn : n = k) (w : World) (m : Nat) (h : Sh.W32 x) (h2 : 1 ≤ k) (h3 : k ≤ 31) : Calls Tryd.prog 59 #[.int .u32 x, .int .i64 n] (w.drewN m) fun e w'' => e = .returned (.int .u32 (Sh.rot x k)) ∧ ∃ m', w'' = w.drewN m' := by
  subst hn; exact Calls.quiet_of (rturnk x k _ h h2 h3)

theorem rturn_d (x : Int) (k : Nat) (n : Int) (hn : n = k) (w : World) (h : Sh.W32 x) (h2 : 1 ≤ k) (h3 : k ≤ 31) : Calls Tryd.prog 59 #[.int .u32 x, .int .i64 n] w fun e w' => e = .returned (.int .u32 (Sh.rot x k)) ∧ Drew w w' := by
  subst hn; exact rturnk x k w h h2 h3
theorem Drew.trans {a b c : World} (h : Drew a b) (k : Drew b c) : Drew a c := by
  obtain ⟨n, rfl⟩ := h
  obtain ⟨m, rfl⟩ := k
  exact ⟨n + m, World.drewN_drewN _ _ _⟩
theorem Drew.cell {a b : World} (h : Drew a b) (p : Addr) : b.cell? p = a.cell? p := by
  obtain ⟨n, rfl⟩ := h; rfl

theorem own_mono {w : World} {base base' size n : Nat} {e : TypeId} {v : Value} {xs : List Value} (h : w.ownsRow base e size v n xs) (hb : base' ≤ base) : w.ownsRow base' e size v n xs := by
  refine ⟨h.1, ?_⟩
  rcases h.2 with h2 | ⟨g, cap, cur, h1, h2, r⟩
  · exact Or.inl h2
  · exact Or.inr ⟨g, cap, cur, h1, Nat.le_trans hb h2, r⟩
theorem Sits.drew {w wq w' : World} {base gk gh ch gp : Nat} {L s : List Int} (h : Sits w base gk gh ch gp L s wq) (hd : Drew wq w') : Sits w base gk gh ch gp L s w' := by
  obtain ⟨n, rfl⟩ := hd
  exact h.drewN n
/-- Some of the eight are added. -/
def plusAt (s r : Sh.S) (k : Nat) : List Int := [if 0 < k then Sh.ad s.a r.a else s.a, if 1 < k then Sh.ad s.b r.b else s.b, if 2 < k then Sh.ad s.c r.c else s.c, if 3 < k then Sh.ad s.d r.d else s.d, if 4 < k then Sh.ad s.e r.e else s.e, if 5 < k then Sh.ad s.f r.f else s.f, if 6 < k then Sh.ad s.g r.g else s.g, if 7 < k then Sh.ad s.h r.h else s.h]
theorem plusAt_get (s r : Sh.S) (k : Nat) (h : k < 8) : (plusAt s r k).getD k 0 = s.cells.getD k 0 := by
  match k, h with
  | 0, _ => rfl
  | 1, _ => rfl
  | 2, _ => rfl
  | 3, _ => rfl
  | 4, _ => rfl
  | 5, _ => rfl
  | 6, _ => rfl
  | 7, _ => rfl
theorem plusAt_set (s r : Sh.S) (k : Nat) (h : k < 8) : (plusAt s r k).set k (Sh.ad (s.cells.getD k 0) (r.cells.getD k 0)) = plusAt s r (k + 1) := by
  match k, h with
  | 0, _ => rfl
  | 1, _ => rfl
  | 2, _ => rfl
  | 3, _ => rfl
  | 4, _ => rfl
  | 5, _ => rfl
  | 6, _ => rfl
  | 7, _ => rfl

set_option maxRecDepth 100000 in
set_option maxHeartbeats 20000000 in
theorem rsum_probe (w : World) (am : Option Addr) (nm cm : Nat) (m : List Int) (hM : Slc w (.slice am nm cm) m) (hlm : m.length ≤ 1000000) :
    Calls Tryd.prog 29 #[.slice am nm cm] w fun e w' => ∃ v', e = .returned v' ∧ w'.ownsRow w.heap.size 5 1 v' 32 ((Sh.sha m).map (Value.int .u8)) ∧ Below w.heap.size w w' := by
  obtain rfl := slc_len hM
  have h8 : ∀ x ∈ m, Sh.W8 x := by
    obtain ⟨_, _, _, _, h, _⟩ := hM; exact h
  have HM := Lib.hid hM
  have H8 := Lib.hid h8
  have h1 := roots_probe w 64 3 (by omega) (by omega) (by omega)
  have h2 := (fun w1 => roots_probe w1 8 2 (by omega) (by omega) (by omega))
  rw [roots_KK] at h1
  rw [roots_H0] at h2
  have H1 := Lib.hid h1
  have H2 := Lib.hid h2
  have HL := Lib.hid hlm
  clear hM h8 hlm h1 h2
  obtain ⟨n, hn⟩ : ∃ n, n = m.length := ⟨_, rfl⟩
  rw [← hn]
  have HN := Lib.hid hn
  clear hn
  go_enter Tryd.func29, Tryd.ntmps29
  go_wp2_with (first
    | ((with_reducible refine append_byte (o := ⟨some 40, _, _, _, _, _⟩) rfl (.tmp 38) (.tmp 39) rfl w2 u5 m rfl ?_ 128 rfl ?_ ?_ ?_); exact HP1.out; exact (by unfold Sh.W8; omega); exact (by have := HL.out; omega); intro u6 w4 hp2; have HP2 := Lib.hid hp2; clear hp2)
    | ((with_reducible refine append_mine (o := ⟨some 37, _, _, _, _, _⟩) rfl (.tmp 35) (.tmp 36) rfl w2 (.slice none 0 0) [] rfl ?_ am n cm m rfl ?_ ?_ ?_); exact Mine.nil _ _ _; exact (by have := HM.out.below (HB1.out.trans (HB2.out.mono HB1.out.size)) (Nat.le_refl _); rw [HN.out]; exact this); exact (by have := HL.out; simp; omega); rw [List.nil_append]; intro u5 w3 hp1; have HP1 := Lib.hid hp1; clear hp1)
    | (go_at_call 58; refine (HR.out).mono ?_; rintro e w2 ⟨vh, rfl, hh, hb2⟩; obtain ⟨gh, ch, rfl, hgh1, hgh2⟩ := own32_form hh; have HH := Lib.hid hh; have HB2 := Lib.hid hb2; clear hh hb2)
    | (go_at_call 58; refine H1.out.mono ?_; rintro e w1 ⟨vk, rfl, hk, hb1⟩; obtain ⟨gk, ck, rfl, hgk1, hgk2⟩ := own32_form hk; have HK := Lib.hid hk; have HB1 := Lib.hid hb1; have HR := Lib.hid (H2.out w1); clear hk hb1))
  obtain ⟨Z, hZ⟩ : ∃ Z, Z = (119 - n % 64) % 64 := ⟨_, rfl⟩
  go_loopw [5] (fun v wr => ∃ z : Nat, z ≤ Z ∧ Hid (Mine .u8 5 w2 wr v (m ++ 128 :: List.replicate z 0))) (fun v _ => n + 100 - slen v)
  case atStart => exact ⟨0, Nat.zero_le _, HP2.out⟩
  case round =>
    obtain ⟨z, hz, MZ⟩ := hrel
    obtain ⟨a5, c5, rfl⟩ := MZ.out.form
    have hsucc : m ++ 128 :: List.replicate (z + 1) 0 = m ++ 128 :: List.replicate z 0 ++ [0] := by
      rw [List.replicate_succ']; simp
    have hlen : (m ++ 128 :: List.replicate z (0 : Int)).length = n + z + 1 := by rw [HN.out]; simp; omega
    rw [hlen]
    have HLEN := Lib.hid hlen
    have HSUCC := Lib.hid hsucc
    clear hlen hsucc
    by_cases hlt : z < Z
    · go_wp2_with ((with_reducible refine append_byte (o := ⟨some 47, _, _, _, _, _⟩) rfl (.tmp 45) (.tmp 46) rfl w2 _ (m ++ 128 :: List.replicate z 0) rfl ?_ 0 rfl ?_ ?_ ?_); exact (by rw [← HLEN.out]; exact MZ.out); exact (by unfold Sh.W8; omega); exact (by have := HL.out; have := HLEN.out; have := HN.out; omega); intro u6 w5 hp2; have HP3 := Lib.hid hp2; clear hp2)
      go_roundw
      case rel => exact ⟨z + 1, by omega, by rw [HSUCC.out]; exact HP3.out⟩
      case measure =>
        obtain ⟨a6, c6, rfl⟩ := HP3.out.form
        have h1 := HLEN.out
        rw [List.length_append, h1]
        simp only [slen, List.length_singleton]
        omega
    · obtain rfl : z = Z := by omega
      have hcol : m ++ 128 :: List.replicate z 0 ++ Sh.lbytes ((n : Int) * 8) 8 = Sh.full m := by
        unfold Sh.full Sh.pad
        rw [← HN.out, ← hZ, List.append_assoc, List.cons_append]
      have HC := Lib.hid hcol
      have HZ2 := Lib.hid hZ
      have hnl : n ≤ 1000000 := by rw [HN.out]; exact HL.out
      have HNL := Lib.hid hnl
      have hmod : ((n : Int) + (z : Int) + 1) % 64 = 56 := by omega
      clear hcol hZ hlt hz
      go_wp2
      clear hmod hnl
      generalize m ++ 128 :: List.replicate z 0 = q at *
      obtain ⟨wo, hwo⟩ : ∃ wo, wo = wr := ⟨_, rfl⟩
      rw [← hwo] at MZ
      rw [← hwo]
      clear hwo
      go_loopw [5, 7] (fun v i wq => ∃ t : Nat, t ≤ 8 ∧ i = .int .i64 ((t : Int) - 1) ∧ Hid (Mine .u8 5 w2 wq v (q ++ Sh.lbytes ((n : Int) * 8) (8 - t)))) (fun _ i _ => (intOf i + 1).toNat)
      case atStart => exact ⟨8, Nat.le_refl _, rfl, by rw [← HLEN.out, show q ++ Sh.lbytes ((n : Int) * 8) (8 - 8) = q by simp [Sh.lbytes]]; exact MZ.out⟩
      case round =>
        clear MZ
        obtain ⟨t, ht, rfl, MT⟩ := hrel
        obtain ⟨a6, c6, rfl⟩ := MT.out.form
        cases t with
        | succ t =>
          rw [show ((t + 1 : Nat) : Int) - 1 = (t : Int) by omega]
          have hb : Sh.lbytes ((n : Int) * 8) (8 - t) = Sh.lbytes ((n : Int) * 8) (8 - (t + 1)) ++ [(n : Int) * 8 / 2 ^ (8 * t) % 256] := by
            rw [show 8 - t = (8 - (t + 1)) + 1 by omega, Sh.lbytes_succ]
            unfold Sh.lbyte
            rw [show 56 - 8 * (8 - (t + 1)) = 8 * t by omega]
          have hlq : (q ++ Sh.lbytes ((n : Int) * 8) (8 - (t + 1))).length ≤ 10000000000000 := by
            have := HLEN.out; have := HNL.out; have := HZ2.out; simp [Sh.lbytes]; omega
          have HB := Lib.hid hb
          have HLQ := Lib.hid hlq
          clear hb hlq
          generalize Sh.lbytes ((n : Int) * 8) (8 - (t + 1)) = lb at *
          generalize hnq : (q ++ lb).length = nq at *
          have HNQ := Lib.hid hnq
          clear hnq
          go_wp2_with ((with_reducible refine append_byte (o := ⟨some 63, _, _, _, _, _⟩) rfl (.tmp 56) (.tmp 62) rfl w2 (.slice a6 nq c6) (q ++ lb) rfl ?_ ((n : Int) * 8 / 2 ^ (8 * t) % 256) rfl ?_ ?_ ?_); exact MT.out; exact (by unfold Sh.W8; omega); exact (by rw [HNQ.out]; exact HLQ.out); intro u6 w5 hp2; have HP3 := Lib.hid hp2; clear hp2)
          go_roundw
          case rel => exact ⟨t, by omega, by go_num, by rw [HB.out, ← List.append_assoc]; exact HP3.out⟩
          case measure => simp [intOf]
        | zero =>
          rw [show ((0 : Nat) : Int) - 1 = -1 from rfl]
          have MF := MT.out
          rw [show 8 - 0 = 8 from rfl, HC.out] at MF ⊢
          obtain ⟨b, hfl, hfb⟩ := Sh.length_full m
          have h8 := Sh.full_W m H8.out
          have hsha := Sh.sha_full m b hfl
          have H8F := Lib.hid h8
          have HSHA := Lib.hid hsha
          have HFL := Lib.hid hfl
          have MF := Lib.hid MF
          have h9 : m.length + 9 ≤ (Sh.full m).length := by simp [Sh.full, Sh.pad, Sh.lbytes]
          have hb1 : 1 ≤ b := by omega
          obtain ⟨gp, cp, hv, hgp0, hgp1⟩ := MF.out.form2 (by omega)
          rw [hv] at MF ⊢
          have hpp := at_of_own MF.out.1
          have hbw : Below w.heap.size w wr := HB1.out.trans ((HB2.out.trans (MF.out.2.mono HB2.out.size)).mono HB1.out.size)
          have hkw := own_kept HK.out (HB2.out.trans (MF.out.2.mono HB2.out.size))
          have hS := Lib.hid (Sits.mk (w := w) (base := w1.heap.size) (gk := gk) (gh := gh) (ch := ch) (gp := gp) (L := Sh.full m) (s := Sh.H0.cells) (at_of_own hkw) (by have := hbw.size; have := HB2.out.size; have := MF.out.2.size; omega) hpp hgp1 (own_kept HH.out MF.out.2) hbw)
          have hne1 : gk ≠ gh := by omega
          have hne2 : gp ≠ gh := by omega
          have hne3 : w.heap.size ≤ gh := by have := HB1.out.size; omega
          clear h8 h9 hsha H8 HC MT HN HM HP1 HP2 HSUCC HLEN hv hpp hbw hkw MF HB1 HB2 HK HH HR H1 H2
          generalize Sh.full m = L at *
          rw [hfl]
          go_wp2
          obtain ⟨wf, hwf⟩ : ∃ wf, wf = wr := ⟨_, rfl⟩
          rw [← hwf] at hS
          rw [← hwf]
          clear hwf
          clear hgp1
          have hbm : b ≤ 20000 := by have := HL.out; omega
          clear hfb
          go_loopw [8] (fun i wq => ∃ t : Nat, t ≤ b ∧ i = .int .i64 (64 * (t : Int)) ∧ Hid (Sits w w1.heap.size gk gh ch gp L (Sh.blocks t Sh.H0 L).cells wq)) (fun i _ => 64 * b - (intOf i).toNat)
          case atStart => exact ⟨0, Nat.zero_le _, rfl, hS⟩
          case round =>
            clear hS
            obtain ⟨t, ht, rfl, SI⟩ := hrel
            by_cases hlt : t < b
            · have hmore := Lib.hid (Sh.blocks_more t Sh.H0 L)
              have hp8 := Sh.blockOf_W L t H8F.out
              have hpg := Lib.hid (Sh.blockOf_get L t)
              have hP8 := Lib.hid hp8
              clear hp8
              have hok := Sh.blocks_ok t Sh.H0 L Sh.H0_ok
              generalize Sh.blocks t Sh.H0 L = st at *
              generalize Sh.blockOf L t = p at *
              go_wp2
              obtain ⟨wo, hwo⟩ : ∃ wo, wo = wr := ⟨_, rfl⟩
              rw [← hwo] at SI
              rw [← hwo]
              clear hwo
              go_loopw [9, 10] (fun v i wq => ∃ k : Nat, k ≤ 64 ∧ i = .int .i64 k ∧ Hid (Mine .u32 61 wo wq v (Sh.words p k))) (fun _ i _ => 64 - (intOf i).toNat)
              case atStart => exact ⟨0, Nat.zero_le _, rfl, Mine.nil _ _ _⟩
              case round =>
                obtain ⟨k, hk, rfl, MW⟩ := hrel
                obtain ⟨a9, c9, rfl⟩ := MW.out.form
                have hlw := Lib.hid (Sh.length_words p k)
                rw [hlw.out] at MW ⊢
                have SW := Lib.hid (SI.out.below MW.out.2)
                by_cases hk64 : k < 64
                · by_cases hk16 : k < 16
                  · as_aux_lemma =>
                      have hsw := Sh.words_low p k hk16 hP8.out
                      have HSW := Lib.hid hsw
                      clear hsw
                      generalize Sh.words p k = ws at *
                      go_wp2
                      go_loop [11, 12] (fun x j => ∃ j' : Nat, j' ≤ 4 ∧ x = .int .u32 (Sh.acc p (4 * k) j') ∧ j = .int .i64 j') (fun _ j => 4 - (intOf j).toNat)
                      case atStart => exact ⟨0, Nat.zero_le _, rfl, rfl⟩
                      case round =>
                        obtain ⟨j, hj, rfl, rfl⟩ := hrel
                        by_cases hj4 : j < 4
                        · have hcell := SW.out.pcell (64 * t + 4 * k + j) (by rw [HFL.out]; omega)
                          rw [show 64 * t + 4 * k + j = 64 * t + (4 * k + j) by omega, ← hpg.out (4 * k + j) (by omega), show 64 * t + (4 * k + j) = 64 * t + 4 * k + j by omega] at hcell
                          obtain ⟨hx0, hx1⟩ := Sh.acc_low p (4 * k) j hP8.out (by omega)
                          obtain ⟨hy0, hy1⟩ := W8_getD hP8.out (4 * k + j)
                          have HAC := Lib.hid (show Sh.acc p (4 * k) (j + 1) = Sh.acc p (4 * k) j * 256 + p.getD (4 * k + j) 0 from rfl)
                          generalize Sh.acc p (4 * k) j = x at *
                          generalize p.getD (4 * k + j) 0 = y at *
                          go_wp2
                          go_round
                          case rel => exact ⟨j + 1, by omega, by rw [HAC.out], by go_num⟩
                          case measure => simp [intOf]; omega
                        · obtain rfl : j = 4 := by omega
                          generalize Sh.acc p (4 * k) 4 = x at *
                          go_wp2_with ((with_reducible refine append_word (o := ⟨some 96, _, _, _, _, _⟩) rfl (.tmp 93) (.tmp 95) rfl wo (.slice a9 k c9) ws rfl ?_ x rfl ?_ ?_); exact MW.out; exact (by rw [hlw.out]; omega); intro u6 w5 hp2; have HP3 := Lib.hid hp2; clear hp2)
                          go_roundw
                          case rel => exact ⟨k + 1, by omega, by go_num, by rw [HSW.out]; exact HP3.out⟩
                          case measure => simp [intOf]; omega
                  · obtain ⟨g9, c9', hv9, hg9, hg9'⟩ := MW.out.form2 (by rw [hlw.out]; omega)
                    rw [hlw.out] at hv9
                    simp only [Value.slice.injEq, true_and] at hv9
                    obtain ⟨rfl, rfl⟩ := hv9
                    have hw8 := Sh.words_W p k
                    have h16 := MW.out.cell hlw.out.symm (k - 16) (by rw [hlw.out]; omega)
                    have h15 := MW.out.cell hlw.out.symm (k - 15) (by rw [hlw.out]; omega)
                    have h7 := MW.out.cell hlw.out.symm (k - 7) (by rw [hlw.out]; omega)
                    have h2 := MW.out.cell hlw.out.symm (k - 2) (by rw [hlw.out]; omega)
                    have b16 := W32_getD hw8 (k - 16)
                    have b15 := W32_getD hw8 (k - 15)
                    have b7 := W32_getD hw8 (k - 7)
                    have b2 := W32_getD hw8 (k - 2)
                    have hsw := Sh.words_high p k (by omega)
                    have HSW := Lib.hid hsw
                    clear hsw hw8
                    generalize Sh.words p k = ws at *
                    generalize ws.getD (k - 16) 0 = x16 at *
                    generalize ws.getD (k - 15) 0 = x15 at *
                    generalize ws.getD (k - 7) 0 = x7 at *
                    generalize ws.getD (k - 2) 0 = x2 at *
                    go_wp2
                    go_quiet (first | (go_at_call_of 59 (Value.int IntKind.i64 7); exact rturn_q _ 7 7 rfl _ _ b15 (by decide) (by decide)) | (go_at_call_of 59 (Value.int IntKind.i64 18); exact rturn_q _ 18 18 rfl _ _ b15 (by decide) (by decide)))
                    obtain ⟨w5, hw5⟩ : ∃ w5, w5 = wr.drewN nq := ⟨_, rfl⟩
                    have MW5 : Hid (Mine .u32 61 wo w5 (.slice (some ⟨g9, 0, none⟩) k c9) ws) := by rw [hw5]; exact MW.out.drewN nq
                    have j16 : w5.cell? ⟨g9, k - 16, none⟩ = some (.int .u32 x16) := by rw [hw5]; exact h16
                    have j7 : w5.cell? ⟨g9, k - 7, none⟩ = some (.int .u32 x7) := by rw [hw5]; exact h7
                    have j2 : w5.cell? ⟨g9, k - 2, none⟩ = some (.int .u32 x2) := by rw [hw5]; exact h2
                    rw [← hw5]
                    clear hw5 MW SW h16 h15 h7 h2
                    go_wp2
                    go_quiet (first | (go_at_call_of 59 (Value.int IntKind.i64 17); exact rturn_q _ 17 17 rfl _ _ b2 (by decide) (by decide)) | (go_at_call_of 59 (Value.int IntKind.i64 19); exact rturn_q _ 19 19 rfl _ _ b2 (by decide) (by decide)))
                    obtain ⟨w6, hw6⟩ : ∃ w6, w6 = w5.drewN nq := ⟨_, rfl⟩
                    have MW6 : Hid (Mine .u32 61 wo w6 (.slice (some ⟨g9, 0, none⟩) k c9) ws) := by rw [hw6]; exact MW5.out.drewN nq
                    have l16 : w6.cell? ⟨g9, k - 16, none⟩ = some (.int .u32 x16) := by rw [hw6]; exact j16
                    have l7 : w6.cell? ⟨g9, k - 7, none⟩ = some (.int .u32 x7) := by rw [hw6]; exact j7
                    rw [← hw6]
                    clear hw6 MW5 j16 j7 j2
                    go_wp2
                    have HX := Lib.hid (MW6.out.drewN 1)
                    have e16 : IntKind.i64.wrap ((k : Int) - 16) = ((k - 16 : Nat) : Int) := by rw [IntKind.wrap_i64]; omega
                    have e7 : IntKind.i64.wrap ((k : Int) - 7) = ((k - 7 : Nat) : Int) := by rw [IntKind.wrap_i64]; omega
                    have q16 : ((k - 16 : Nat) : Int) < (k : Int) := by omega
                    have q7 : ((k - 7 : Nat) : Int) < (k : Int) := by omega
                    go_region_law ((refine step_append_word rfl (.tmp 137) (.tmp 153) rfl wo (w6.drewN 1) (.slice (some ⟨g9, 0, none⟩) k c9) ws ?_ HX.out _ rfl ?_ ?_ ?_); exact (by simp [Act.eval]); exact (by simp [Act.eval]); exact (by rw [hlw.out]; omega); intro v' w8 hp3; have HP3 := Lib.hid hp3; clear hp3)
                    all_goals (clear HX MW6 l16 l7 e16 e7 q16 q7; go_wp2; go_roundw)
                    all_goals first
                      | exact ⟨k + 1, by omega, by go_num, by rw [HSW.out]; exact HP3.out⟩
                      | (simp [intOf]; omega)
                · have hk6 : ((k : Nat) : Int) = 64 := by omega
                  rw [hk6]
                  clear hk6
                  obtain rfl : k = 64 := by omega
                  rw [Sh.words_all] at MW
                  have SW2 := SW.out
                  have ML := MW.out
                  obtain ⟨g9, c9', hv9, hg9, hg9'⟩ := ML.form2 (by rw [Sh.length_sched]; decide)
                  rw [Sh.length_sched] at hv9
                  simp only [Value.slice.injEq, true_and] at hv9
                  obtain ⟨rfl, rfl⟩ := hv9
                  have hl8 : st.cells.length = 8 := rfl
                  have c0 := SW2.hcell hl8 0 (by omega)
                  have c1 := SW2.hcell hl8 1 (by omega)
                  have c2 := SW2.hcell hl8 2 (by omega)
                  have c3 := SW2.hcell hl8 3 (by omega)
                  have c4 := SW2.hcell hl8 4 (by omega)
                  have c5 := SW2.hcell hl8 5 (by omega)
                  have c6 := SW2.hcell hl8 6 (by omega)
                  have c7 := SW2.hcell hl8 7 (by omega)
                  rw [show st.cells.getD 0 0 = st.a from rfl] at c0
                  rw [show st.cells.getD 1 0 = st.b from rfl] at c1
                  rw [show st.cells.getD 2 0 = st.c from rfl] at c2
                  rw [show st.cells.getD 3 0 = st.d from rfl] at c3
                  rw [show st.cells.getD 4 0 = st.e from rfl] at c4
                  rw [show st.cells.getD 5 0 = st.f from rfl] at c5
                  rw [show st.cells.getD 6 0 = st.g from rfl] at c6
                  rw [show st.cells.getD 7 0 = st.h from rfl] at c7
                  have MS := Lib.hid ML
                  clear SW2 ML MW SI hl8 hlw
                  go_wp2
                  go_quiet (fail)
                  obtain ⟨w5, hw5⟩ : ∃ w5, w5 = wr.drewN nq := ⟨_, rfl⟩
                  have SV : Hid (Sits w w1.heap.size gk gh ch gp L st.cells w5) := by rw [hw5]; exact SW.out.drewN nq
                  have MV : Hid (Mine .u32 61 wo w5 (.slice (some ⟨g9, 0, none⟩) 64 c9) (Sh.sched p)) := by rw [hw5]; exact MS.out.drewN nq
                  rw [← hw5]
                  clear hw5 MS SW c0 c1 c2 c3 c4 c5 c6 c7
                  go_wp2
                  obtain ⟨RF, hRF⟩ : ∃ RF : Nat → Sh.S, RF = Sh.rounds KK (Sh.sched p) st := ⟨_, rfl⟩
                  have hmo := hmore.out
                  rw [← hRF] at hmo
                  have HR0 := Lib.hid (show RF 0 = st by rw [hRF]; rfl)
                  have HRS := Lib.hid (show ∀ k, RF (k + 1) = Sh.step (RF k) (KK.getD k 0) ((Sh.sched p).getD k 0) by intro k; rw [hRF]; rfl)
                  have HRO := Lib.hid (show ∀ k, (RF k).ok by intro k; rw [hRF]; exact Sh.rounds_ok _ _ _ hok k)
                  have HMO := Lib.hid hmo
                  clear hRF hmo hmore
                  go_loopw [15, 16, 17, 18, 19, 20, 21, 22, 23] (fun a b c d e f g x i wq => ∃ k : Nat, k ≤ 64 ∧ i = .int .i64 k ∧ a = .int .u32 (RF k).a ∧ b = .int .u32 (RF k).b ∧ c = .int .u32 (RF k).c ∧ d = .int .u32 (RF k).d ∧ e = .int .u32 (RF k).e ∧ f = .int .u32 (RF k).f ∧ g = .int .u32 (RF k).g ∧ x = .int .u32 (RF k).h ∧ Hid (Drew w5 wq)) (fun _ _ _ _ _ _ _ _ i _ => 64 - (intOf i).toNat)
                  case atStart => exact ⟨0, by omega, rfl, by rw [HR0.out], by rw [HR0.out], by rw [HR0.out], by rw [HR0.out], by rw [HR0.out], by rw [HR0.out], by rw [HR0.out], by rw [HR0.out], Drew.refl _⟩
                  case round =>
                    obtain ⟨k, hk, rfl, rfl, rfl, rfl, rfl, rfl, rfl, rfl, rfl, HD⟩ := hrel
                    have hrok := HRO.out k
                    by_cases hlt64 : k < 64
                    · as_aux_lemma =>
                        have hck := SV.out.kcell k hlt64
                        have hcw := MV.out.cell (Sh.length_sched p).symm k (by rw [Sh.length_sched]; exact hlt64)
                        have HS := Lib.hid (HRS.out k)
                        have HCK := Lib.hid hck
                        have HCW := Lib.hid hcw
                        clear hck hcw
                        clear HRS HRO HR0
                        generalize RF k = r at *
                        generalize KK.getD k 0 = kk at *
                        generalize (Sh.sched p).getD k 0 = ww at *
                        obtain ⟨ha, hbb, hcc, hdd, he, hff, hgg, hxx⟩ := hrok
                        clear hbb hcc hdd hff hgg hxx hok
                        go_wp2_with (first | (go_at_call_of 59 (Value.int IntKind.i64 6); refine (rturn_d _ 6 6 rfl _ he (by decide) (by decide)).mono ?_; rintro e w8 ⟨rfl, hd⟩; have HD := Lib.hid (Drew.trans HD.out hd); clear hd) | (go_at_call_of 59 (Value.int IntKind.i64 11); refine (rturn_d _ 11 11 rfl _ he (by decide) (by decide)).mono ?_; rintro e w8 ⟨rfl, hd⟩; have HD := Lib.hid (Drew.trans HD.out hd); clear hd) | (go_at_call_of 59 (Value.int IntKind.i64 25); refine (rturn_d _ 25 25 rfl _ he (by decide) (by decide)).mono ?_; rintro e w8 ⟨rfl, hd⟩; have HD := Lib.hid (Drew.trans HD.out hd); clear hd))
                        have hk7 := (Drew.cell HD.out ⟨gk, k, none⟩).trans HCK.out
                        have hc7 := (Drew.cell HD.out ⟨g9, k, none⟩).trans HCW.out
                        go_quiet (fail)
                        obtain ⟨w9, hw9⟩ : ∃ w9, w9 = w8.drewN nq := ⟨_, rfl⟩
                        rw [← hw9]
                        have HD := Lib.hid (Drew.trans HD.out ⟨_, hw9⟩)
                        clear hk7 hc7 hw9
                        have eU : (((r.h + bits BinOp.xor .u32 (bits BinOp.xor .u32 (Sh.rot r.e 6) (Sh.rot r.e 11)) (Sh.rot r.e 25) + bits BinOp.xor .u32 (bits BinOp.and .u32 r.e r.f) (bits BinOp.and .u32 (bits BinOp.xor .u32 (if IntKind.u32.signed = true then -1 else IntKind.u32.max) r.e) r.g) + kk) % 4294967296 + ww) % 4294967296) = Sh.t1 r kk ww := by
                          simp only [Sh.t1, Sh.ad_eq, Sh.xr, Sh.an, Sh.nt, show (if IntKind.u32.signed = true then (-1 : Int) else IntKind.u32.max) = IntKind.u32.max from rfl]
                          omega
                        rw [eU]
                        clear eU
                        have hu0 : Sh.W32 (Sh.t1 r kk ww) := Sh.wrap_W _
                        generalize hu1 : Sh.t1 r kk ww = uu at *
                        have HU := Lib.hid hu1
                        clear hu1
                        go_wp2_with (first | (go_at_call_of 59 (Value.int IntKind.i64 2); refine (rturn_d _ 2 2 rfl _ ha (by decide) (by decide)).mono ?_; rintro e w8 ⟨rfl, hd⟩; have HD := Lib.hid (Drew.trans HD.out hd); clear hd) | (go_at_call_of 59 (Value.int IntKind.i64 13); refine (rturn_d _ 13 13 rfl _ ha (by decide) (by decide)).mono ?_; rintro e w8 ⟨rfl, hd⟩; have HD := Lib.hid (Drew.trans HD.out hd); clear hd) | (go_at_call_of 59 (Value.int IntKind.i64 22); refine (rturn_d _ 22 22 rfl _ ha (by decide) (by decide)).mono ?_; rintro e w8 ⟨rfl, hd⟩; have HD := Lib.hid (Drew.trans HD.out hd); clear hd))
                        go_roundw
                        case rel =>
                          refine ⟨k + 1, by omega, by go_num, ?_, ?_, ?_, ?_, ?_, ?_, ?_, ?_, HD⟩ <;> rw [HS.out]
                          · refine congrArg _ ?_
                            simp only [Sh.step, HU.out, Sh.t2, Sh.ad_eq, Sh.xr, Sh.an]
                          all_goals first | rfl | skip
                          · refine congrArg _ ?_
                            simp only [Sh.step, HU.out, Sh.ad_eq]
                        case measure => simp [intOf]; omega
                    · obtain rfl : k = 64 := by omega
                      have hro := hrok
                      have SVW := Lib.hid (Sits.drew SV.out HD.out)
                      clear hrok SV MV HD hlt64 hk HRS HRO HR0
                      generalize RF 64 = r at *
                      have hgl : gh < wr.heap.size := by
                        have h1 := own_lt SVW.out.hh gh rfl
                        exact h1.2
                      have HGL := Lib.hid hgl
                      clear hgl
                      go_wp2
                      have SB : Hid (Sits w w1.heap.size gk gh ch gp L (plusAt st r 0) (wr.alloc (.cells #[.int .u32 r.a, .int .u32 r.b, .int .u32 r.c, .int .u32 r.d, .int .u32 r.e, .int .u32 r.f, .int .u32 r.g, .int .u32 r.h] 61))) := SVW.out.below ((Below.refl _ _).alloc (Nat.le_refl _) _)
                      have BB : Hid (Blk (wr.alloc (.cells #[.int .u32 r.a, .int .u32 r.b, .int .u32 r.c, .int .u32 r.d, .int .u32 r.e, .int .u32 r.f, .int .u32 r.g, .int .u32 r.h] 61)) wr.heap.size .u32 61 r.cells) := heap_alloc_new wr _
                      clear SVW
                      generalize wr.alloc (.cells #[.int .u32 r.a, .int .u32 r.b, .int .u32 r.c, .int .u32 r.d, .int .u32 r.e, .int .u32 r.f, .int .u32 r.g, .int .u32 r.h] 61) = wl at *
                      generalize wr.heap.size = gl at *
                      have hgl : gh < gl := HGL.out
                      have hgn : gl ≠ gh := by omega
                      go_loopw [29] (fun i wq => ∃ k : Nat, k ≤ 8 ∧ i = .int .i64 k ∧ Hid (Sits w w1.heap.size gk gh ch gp L (plusAt st r k) wq) ∧ Hid (Blk wq gl .u32 61 r.cells)) (fun i _ => 8 - (intOf i).toNat)
                      case atStart => exact ⟨0, by omega, rfl, SB, BB⟩
                      case round =>
                        clear SB BB
                        obtain ⟨k, hk, rfl, SB, BB⟩ := hrel
                        by_cases hlt8 : k < 8
                        · have c1 := SB.out.hcell rfl k hlt8
                          have f1 := SB.out.hfree k
                          have c2 := BB.out.cell k hlt8
                          rw [plusAt_get st r k hlt8] at c1
                          have hset := SB.out.put hne1 hne2 hne3 k (Sh.ad (st.cells.getD k 0) (r.cells.getD k 0))
                          rw [plusAt_set st r k hlt8] at hset
                          have hoth := fun x => BB.out.other (heap_setCell_other wr ⟨gh, k, none⟩ gl (.int .u32 x) hgn)
                          have HSET := Lib.hid hset
                          have HOTH := Lib.hid hoth
                          have HAD := Lib.hid (Sh.ad_eq (st.cells.getD k 0) (r.cells.getD k 0))
                          have b1 := cells_W st hok k
                          have b2 := cells_W r hro k
                          clear hset hoth hok hro
                          generalize st.cells.getD k 0 = x at *
                          generalize r.cells.getD k 0 = y at *
                          go_wp2
                          go_region
                          all_goals go_wp2
                          all_goals go_roundw
                          case rel => exact ⟨k + 1, by omega, by go_num, by rw [← HAD.out]; exact HSET.out.drewN 1, HOTH.out _⟩
                          case measure => simp [intOf]; omega
                        · obtain rfl : k = 8 := by omega
                          have HF : Hid (Sits w w1.heap.size gk gh ch gp L (Sh.blocks (t + 1) Sh.H0 L).cells wr) := by
                            rw [HMO.out]; exact SB
                          clear SB BB
                          go_wp2
                          go_roundw
                          case rel => exact ⟨t + 1, by omega, by go_num, HF⟩
                          case measure => simp [intOf]; omega
            · as_aux_lemma =>
                obtain rfl : t = b := by omega
                have hsh := HSHA.out
                have hok := Sh.blocks_ok t Sh.H0 L Sh.H0_ok
                have hsz : w.heap.size ≤ wr.heap.size := SI.out.bb.size
                generalize Sh.blocks t Sh.H0 L = st at *
                have HSH := Lib.hid hsh
                have HSZ := Lib.hid hsz
                clear hsh HSHA hsz
                go_wp2
                obtain ⟨wo, hwo⟩ : ∃ wo, wo = wr := ⟨_, rfl⟩
                rw [← hwo] at SI HSZ
                rw [← hwo]
                clear hwo
                go_loopw [30, 31] (fun v i wq => ∃ k : Nat, k ≤ 8 ∧ i = .int .i64 k ∧ Hid (Mine .u8 5 wo wq v ((st.cells.take k).flatMap Sh.outW))) (fun _ i _ => 8 - (intOf i).toNat)
                case atStart => exact ⟨0, Nat.zero_le _, rfl, Mine.nil _ _ _⟩
                case round =>
                  obtain ⟨k, hk, rfl, MO⟩ := hrel
                  by_cases hk8 : k < 8
                  · have htk := Lib.hid (take_out st k hk8)
                    have hx := cells_W st hok k
                    have HC8 := Lib.hid (fun wq (hb : Below wo.heap.size wo wq) => (SI.out.below hb).hcell rfl k hk8)
                    have hl8 : ((st.cells.take k).flatMap Sh.outW).length ≤ 32 := by
                      have h4 : ∀ l : List Int, (l.flatMap Sh.outW).length = 4 * l.length := by
                        intro l
                        induction l with
                        | nil => rfl
                        | cons a l ih => rw [List.flatMap_cons, List.length_append, ih]; simp [Sh.outW]; omega
                      rw [h4, List.length_take]; omega
                    have HL8 := Lib.hid hl8
                    clear hl8 hok
                    generalize (st.cells.take k).flatMap Sh.outW = ol at *
                    generalize st.cells.getD k 0 = x at *
                    go_wp2
                    rw [show decide ((k : Int) < 8) = true from decide_eq_true (by omega)]
                    obtain ⟨wp, hwp⟩ : ∃ wp, wp = wr := ⟨_, rfl⟩
                    rw [← hwp] at MO
                    rw [← hwp]
                    clear hwp
                    go_loopw [30, 32] (fun v i wq => ∃ t : Nat, t ≤ 4 ∧ i = .int .i64 ((t : Int) - 1) ∧ Hid (Mine .u8 5 wo wq v (ol ++ (Sh.outW x).take (4 - t)))) (fun _ i _ => (intOf i + 1).toNat)
                    case atStart => exact ⟨4, Nat.le_refl _, rfl, by rw [show ol ++ (Sh.outW x).take (4 - 4) = ol by simp]; exact MO⟩
                    case round =>
                      clear MO
                      obtain ⟨t, ht, rfl, MT⟩ := hrel
                      obtain ⟨a6, c6, rfl⟩ := MT.out.form
                      cases t with
                      | succ t =>
                        rw [show ((t + 1 : Nat) : Int) - 1 = (t : Int) by omega]
                        have hb := Sh.outW_take x hx (4 - (t + 1)) (by omega)
                        rw [show 3 - (4 - (t + 1)) = t by omega, show 4 - (t + 1) + 1 = 4 - t by omega] at hb
                        have HB := Lib.hid hb
                        have hlq : (ol ++ (Sh.outW x).take (4 - (t + 1))).length ≤ 10000000000000 := by
                          have := HL8.out
                          rw [List.length_append, List.length_take]
                          simp only [Sh.outW, List.length_cons, List.length_nil]
                          omega
                        have HLQ := Lib.hid hlq
                        have hc8 := HC8.out wr MT.out.2
                        obtain ⟨hx0, hx1⟩ := hx
                        clear hb hlq
                        generalize (Sh.outW x).take (4 - (t + 1)) = lb at *
                        generalize hnq : (ol ++ lb).length = nq at *
                        have HNQ := Lib.hid hnq
                        clear hnq
                        go_wp2_with ((with_reducible refine append_byte (o := ⟨some 287, _, _, _, _, _⟩) rfl (.tmp 277) (.tmp 286) rfl wo (.slice a6 nq c6) (ol ++ lb) rfl ?_ (x / 2 ^ (8 * t) % 256) rfl ?_ ?_ ?_); exact MT.out; exact (by unfold Sh.W8; omega); exact (by rw [HNQ.out]; exact HLQ.out); intro u6 w5 hp2; have HP3 := Lib.hid hp2; clear hp2)
                        go_roundw
                        case rel => exact ⟨t, by omega, by go_num, by rw [HB.out, ← List.append_assoc]; exact HP3⟩
                        case measure => simp [intOf]
                      | zero =>
                        rw [show ((0 : Nat) : Int) - 1 = -1 from rfl]
                        have MF := MT.out
                        rw [show (Sh.outW x).take (4 - 0) = Sh.outW x from rfl, ← htk.out] at MF
                        rw [show (Sh.outW x).take (4 - 0) = Sh.outW x from rfl, ← htk.out]
                        have HMF := Lib.hid MF
                        clear MF MT
                        generalize ((st.cells.take (k + 1)).flatMap Sh.outW).length = nq at *
                        go_wp2
                        go_roundw
                        case rel => exact ⟨k + 1, by omega, by go_num, HMF⟩
                        case measure => simp [intOf]; omega
                  · obtain rfl : k = 8 := by omega
                    have hfin : Hid (wr.ownsRow w.heap.size 5 1 u30 32 ((Sh.sha m).map (Value.int .u8))) := by
                      have h := MO.out.1
                      rw [show st.cells.take 8 = st.cells from rfl, show (st.cells.flatMap Sh.outW).length = 32 by simp [Sh.S.cells, Sh.outW]] at h
                      rw [HSH.out]
                      exact own_mono h HSZ.out
                    have hbf : Hid (Below w.heap.size w wr) := SI.out.bb.trans (MO.out.2.mono HSZ.out)
                    obtain ⟨a30, c30, rfl⟩ := MO.out.form
                    clear MO
                    go_wp2
                    go_ret
                    exact ⟨_, rfl, hfin.out, hbf.out⟩

theorem rsum : RSum := by
  intro w v m hM hl
  obtain ⟨a, c, rfl, -⟩ := id hM
  refine (rsum_probe w a _ c m hM hl).mono ?_
  rintro e w' ⟨v', rfl, h1, h2⟩
  obtain ⟨a', c', rfl, h3⟩ := slc_own h1 (Sh.sha_W m)
  refine ⟨a', 32, c', rfl, h3, h2, fun p hp => ?_⟩
  subst hp
  exact (own_lt h1 p.block rfl).1
end Go.Proofs.YtiinmdleechcgaaDoor.Sha
