/- Layer 3, part 4 of the proof. -/
import Derived.Test.YtgebangnhgmmoaaDoorG3
/- The reference's numbers, the walks: a bit. -/
namespace Go.Proofs.YtgebangnhgmmoaaDoor
open Go.RowKit

namespace Nt
def bit (a : List Int) (n : Nat) : Int := a.getD (n / 32) 0 / 2 ^ (n % 32) % 2
theorem pw_two (q r : Nat) : (2 : Int) ^ (32 * q + r) = pw q * 2 ^ r := by
  rw [Int.pow_add, Int.pow_mul]; rfl
theorem bit_word (x y : Int) (r : Nat) (hr : r < 32) : (x + B * y) / 2 ^ r % 2 = x / 2 ^ r % 2 := by
  have e : B = 2 ^ r * (2 * 2 ^ (31 - r)) := by
    rw [show (2 : Int) * 2 ^ (31 - r) = 2 ^ (32 - r) by rw [show 32 - r = (31 - r) + 1 by omega, Int.pow_succ, Int.mul_comm], ← Int.pow_add, show r + (32 - r) = 32 by omega]
    rfl
  rw [e, Int.mul_assoc, Int.add_mul_ediv_left _ _ (Int.ne_of_gt (Int.pow_pos (by decide))), Int.mul_assoc, Int.add_mul_emod_self_left]
theorem val_high {a : List Int} (ha : Ws a) (q : Nat) : val a / pw q = val (a.drop q) := by
  by_cases h : q ≤ a.length
  · rw [val_split a q h, Int.add_mul_ediv_left _ _ (Int.ne_of_gt (pw_pos q)), Int.ediv_eq_zero_of_lt (val_nonneg (ha.take q))]
    · omega
    · have := val_lt (ha.take q)
      rw [List.length_take, Nat.min_eq_left h] at this
      exact this
  · rw [List.drop_of_length_le (by omega), Int.ediv_eq_zero_of_lt (val_nonneg ha) (Int.lt_of_lt_of_le (val_lt ha) (pw_le (by omega)))]
    rfl
theorem bit_val {a : List Int} (ha : Ws a) (n : Nat) : bit a n = val a / 2 ^ n % 2 := by
  have e : (2 : Int) ^ n = pw (n / 32) * 2 ^ (n % 32) := by rw [← pw_two, Nat.div_add_mod]
  unfold bit
  rw [e, ← Int.ediv_ediv_of_nonneg (Int.le_of_lt (pw_pos _)), val_high ha]
  by_cases h : n / 32 < a.length
  · rw [val_drop a _ h, bit_word _ _ _ (by omega)]
  · rw [List.drop_of_length_le (by omega), show a.getD (n / 32) 0 = 0 by simp [List.getD_eq_getElem?_getD, List.getElem?_eq_none (show a.length ≤ n / 32 by omega)]]
    rfl
end Nt

theorem and1_32 (v : Int) (h0 : 0 ≤ v) (h1 : v ≤ 4294967295) : bits BinOp.and IntKind.u32 v 1 = v % 2 := by
  obtain ⟨n, rfl⟩ := Int.eq_ofNat_of_zero_le h0
  have h := u32_and_nat n 1 (by omega) (by decide)
  rw [nat_mask1, Int.natCast_emod] at h
  exact h

set_option maxRecDepth 100000 in
set_option maxHeartbeats 1000000 in
theorem bit_any (w : World) (va : Value) (a : List Int) (n : Nat) (ha : Num w va a) (hla : a.length ≤ 100000) (hn : n ≤ 10000000) :
    Calls Tryd.prog 16 #[va, .int .i64 n] w fun e w' => e = .returned (.int .u32 (Nt.bit a n)) ∧ w' = w := by
  obtain ⟨aa, ca, rfl⟩ := num_form ha
  have hwa : Hid (Nt.Ws a) := by obtain ⟨_, _, _, _, h, _⟩ := ha; exact h
  have hda : 0 ≤ a.getD (n / 32) 0 ∧ a.getD (n / 32) 0 ≤ 4294967295 := hwa.out.getD _
  obtain ⟨da0, da1⟩ := hda
  have hbit : Hid (Nt.bit a n = a.getD (n / 32) 0 / 2 ^ (n % 32) % 2) := rfl
  by_cases hlq : n / 32 < a.length
  · obtain ⟨b1, o1, rfl, hb1, hc1, hcap1⟩ := num_cell ha _ hlq
    clear ha hwa
    generalize a.getD (n / 32) 0 = xa at *
    have hm := and1_32 (xa / 2 ^ (n % 32)) (Int.ediv_nonneg (by omega) (Int.le_of_lt (Int.pow_pos (by decide)))) (Int.le_trans (Int.ediv_le_self _ (by omega)) (by omega))
    go_enter Tryd.func16, Tryd.ntmps16
    go_wp2_with fail
    go_ret
    exact ⟨by rw [hbit.out]; rfl, rfl⟩
  · clear hwa
    have hz : a.getD (n / 32) 0 = 0 := by simp [List.getD_eq_getElem?_getD, List.getElem?_eq_none (show a.length ≤ n / 32 by omega)]
    have hb : Hid (Nt.bit a n = 0) := by show _ = _; rw [hbit.out, hz]; simp
    clear hbit da0 da1 hz ha
    go_enter Tryd.func16, Tryd.ntmps16
    go_wp2_with fail
    go_ret
    exact ⟨by rw [hb.out]; rfl, rfl⟩
end Go.Proofs.YtgebangnhgmmoaaDoor

/- The reference's numbers, the walks: the length. -/
namespace Go.Proofs.YtgebangnhgmmoaaDoor
open Go.RowKit

theorem bit_at (w : World) (va : Value) (a : List Int) (n : Nat) (i : Int) (hi : i = n) (ha : Num w va a) (hla : a.length ≤ 100000) (hn : n ≤ 10000000) :
    Calls Tryd.prog 16 #[va, .int .i64 i] w fun e w' => e = .returned (.int .u32 (Nt.bit a n)) ∧ w' = w := by
  subst hi
  exact bit_any w va a n ha hla hn
namespace Nt
theorem pow_step (j : Nat) : (2 : Int) ^ (j + 1) = 2 * 2 ^ j := by rw [Int.pow_succ, Int.mul_comm]
theorem bit_down {a : List Int} (ha : Ws a) {j : Nat} (h : val a < 2 ^ (j + 1)) (hb : bit a j = 0) : val a < 2 ^ j := by
  have hp : (0 : Int) < 2 ^ j := Int.pow_pos (by decide)
  rw [bit_val ha] at hb
  rw [pow_step] at h
  have h1 : val a / 2 ^ j < 2 := Int.ediv_lt_of_lt_mul hp h
  have h2 : 0 ≤ val a / 2 ^ j := Int.ediv_nonneg (val_nonneg ha) (Int.le_of_lt hp)
  have h3 : val a / 2 ^ j < 1 := by omega
  have := Int.lt_mul_of_ediv_lt hp h3
  omega
theorem bit_up {a : List Int} (ha : Ws a) {j : Nat} (hb : bit a j ≠ 0) : 2 ^ j ≤ val a := by
  apply Decidable.byContradiction
  intro h
  apply hb
  rw [bit_val ha, Int.ediv_eq_zero_of_lt (val_nonneg ha) (by omega)]
  rfl
theorem val_lt_two {a : List Int} (ha : Ws a) : val a < 2 ^ (32 * a.length) := by
  have := val_lt ha
  rw [show (2 : Int) ^ (32 * a.length) = pw a.length by rw [Int.pow_mul]; rfl]
  exact this
end Nt

set_option maxRecDepth 100000 in
set_option maxHeartbeats 1000000 in
theorem len_any (w : World) (va : Value) (a : List Int) (ha : Num w va a) (hla : a.length ≤ 100000) :
    Calls Tryd.prog 49 #[va] w fun e w' => ∃ m : Nat, e = .returned (.int .i64 m) ∧ Nt.val a < 2 ^ m ∧ (0 < m → 2 ^ (m - 1) ≤ Nt.val a) ∧ m ≤ 32 * a.length ∧ w' = w := by
  obtain ⟨aa, ca, rfl⟩ := num_form ha
  have hwa : Hid (Nt.Ws a) := by obtain ⟨_, _, _, _, h, _⟩ := ha; exact h
  have HA := Lib.hid ha
  clear ha
  go_enter Tryd.func49, Tryd.ntmps49
  go_wp2_with fail
  go_loopw [3] (fun i wr => ∃ k : Nat, k ≤ 32 * a.length ∧ i = .int .i64 k ∧ wr = w ∧ Hid (Nt.val a < 2 ^ k)) (fun i _ => (intOf i).toNat)
  case atStart => exact ⟨32 * a.length, Nat.le_refl _, by simp, rfl, Nt.val_lt_two hwa.out⟩
  case round =>
    obtain ⟨k, hk, rfl, rfl, HV⟩ := hrel
    by_cases hk0 : 0 < k
    · by_cases hb : Nt.bit a (k - 1) = 0
      · have hd : Hid (Nt.val a < 2 ^ (k - 1)) := Nt.bit_down hwa.out (by rw [show k - 1 + 1 = k by omega]; exact HV.out) hb
        have HBT := Lib.hid (bit_at wr _ a (k - 1) ((k : Int) - 1) (by omega) HA.out hla (by omega))
        rw [hb] at HBT
        clear hb
        go_wp2_with (go_at_call 16; refine HBT.out.mono ?_; rintro e w1 ⟨rfl, rfl⟩)
        refine ⟨⟨k - 1, by omega, ?_, trivial, hd⟩, ?_⟩
        · rw [show ((k - 1 : Nat) : Int) = (k : Int) - 1 by omega]
        · simp [intOf]; omega
      · have hu : Hid (2 ^ (k - 1) ≤ Nt.val a) := Nt.bit_up hwa.out hb
        have HBT := Lib.hid (bit_at wr _ a (k - 1) ((k : Int) - 1) (by omega) HA.out hla (by omega))
        generalize Nt.bit a (k - 1) = bv at *
        go_wp2_with (go_at_call 16; refine HBT.out.mono ?_; rintro e w1 ⟨rfl, rfl⟩)
        go_ret
        exact ⟨k, rfl, HV.out, fun _ => hu.out, hk, rfl⟩
    · obtain rfl : k = 0 := by omega
      go_wp2_with fail
      go_ret
      exact ⟨0, rfl, HV.out, fun h => absurd h (by omega), hk, rfl⟩
end Go.Proofs.YtgebangnhgmmoaaDoor

/- The reference's prime. -/
namespace Go.Proofs.YtgebangnhgmmoaaDoor
open Go.RowKit

namespace Nt
def prime : List Int := [4294967277, 4294967295, 4294967295, 4294967295, 4294967295, 4294967295, 4294967295, 2147483647]
theorem prime_val : val prime = 2 ^ 255 - 19 := by decide
theorem prime_ws : Ws prime := by
  intro x hx
  simp only [prime, List.mem_cons, List.not_mem_nil, or_false] at hx
  rcases hx with rfl | rfl | rfl | rfl | rfl | rfl | rfl | rfl <;> (unfold W32; decide)
end Nt

set_option maxRecDepth 100000 in
set_option maxHeartbeats 400000 in
theorem p_any (w : World) : Calls Tryd.prog 43 #[] w fun e w' => ∃ v', e = .returned v' ∧ Num w' v' Nt.prime ∧ Below w.heap.size w w' := by
  have hb0 : Hid (Blk (w.alloc (.cells (Nt.prime.map (Value.int .u32)).toArray 36)) w.heap.size .u32 36 Nt.prime) := heap_alloc_new w _
  have ho0 : Hid (Below w.heap.size w (w.alloc (.cells (Nt.prime.map (Value.int .u32)).toArray 36))) := (Below.refl _ _).alloc (Nat.le_refl _) _
  go_enter Tryd.func43, Tryd.ntmps43
  go_wp2_with fail
  go_ret
  exact ⟨_, rfl, num_blk hb0.out rfl Nt.prime_ws, ho0.out⟩
end Go.Proofs.YtgebangnhgmmoaaDoor

/- The reference's numbers, the walks: down by 255 bits. -/
namespace Go.Proofs.YtgebangnhgmmoaaDoor
open Go.RowKit

namespace Nt
theorem drop_word (a : List Int) (n : Nat) : val (a.drop n) = a.getD n 0 + B * val (a.drop (n + 1)) := by
  by_cases h : n < a.length
  · exact val_drop a n h
  · rw [List.drop_of_length_le (by omega), List.drop_of_length_le (by omega), show a.getD n 0 = 0 by simp [List.getD_eq_getElem?_getD, List.getElem?_eq_none (show a.length ≤ n by omega)]]
    rfl
theorem down_two (x y z : Int) : (x + B * (y + B * z)) / 2147483648 % B = (x + y * 4294967296) / 2147483648 % B := by
  unfold B; omega
theorem emod_two (x p : Int) (hp : 0 < p) : x % (p * B) = x % p + p * (x / p % B) := by
  have h1 : p * (x / p) + x % p = x := Int.mul_ediv_add_emod x p
  have h2 : B * (x / p / B) + x / p % B = x / p := Int.mul_ediv_add_emod (x / p) B
  have h3 := Int.emod_nonneg x (Int.ne_of_gt hp)
  have h4 := Int.emod_lt_of_pos x hp
  have h5 : 0 ≤ x / p % B := Int.emod_nonneg _ (by decide)
  have h6 : x / p % B < B := Int.emod_lt_of_pos _ (by decide)
  generalize x % p = r at *
  generalize x / p % B = t at *
  generalize x / p / B = s at *
  rw [← h2] at h1
  have e : x = (r + p * t) + (p * B) * s := by rw [← h1]; grind
  have h7 : p * t ≤ p * (B - 1) := Int.mul_le_mul_of_nonneg_left (by omega) (Int.le_of_lt hp)
  have h8 : 0 ≤ p * t := Int.mul_nonneg (Int.le_of_lt hp) h5
  rw [Int.mul_sub, Int.mul_one] at h7
  rw [e, Int.add_mul_emod_self_left, Int.emod_eq_of_lt (by omega) (by omega)]
theorem down_more {a O : List Int} {k : Nat} {t : Int} (ha : Ws a) (hO : O.length = k) (ht : t = (a.getD (k + 7) 0 + a.getD (k + 8) 0 * 4294967296) / 2147483648 % B) (h : val O = val (a.drop 7) / 2147483648 % pw k) :
    val (O ++ [t]) = val (a.drop 7) / 2147483648 % pw (k + 1) := by
  have e : val [t] = t := by simp [val]
  have e2 : val (a.drop 7) / 2147483648 / pw k = val (a.drop (k + 7)) / 2147483648 := by
    rw [Int.ediv_ediv_of_nonneg (by decide), Int.mul_comm, ← Int.ediv_ediv_of_nonneg (Int.le_of_lt (pw_pos k)), val_high (ha.drop 7), List.drop_drop, Nat.add_comm]
  rw [val_append, hO, e, h, ht, ← down_two _ _ (val (a.drop (k + 9))), ← drop_word, ← drop_word, ← e2, pw_succ, Int.mul_comm B, emod_two _ _ (pw_pos k)]
theorem down_end {a O : List Int} {k : Nat} (ha : Ws a) (hk : a.length ≤ k + 7) (h : val O = val (a.drop 7) / 2147483648 % pw k) : val O = val a / 2 ^ 255 := by
  rw [show (2 : Int) ^ 255 = pw 7 * 2147483648 by decide, ← Int.ediv_ediv_of_nonneg (Int.le_of_lt (pw_pos 7)), val_high ha, h]
  have h0 := val_nonneg (ha.drop 7)
  refine Int.emod_eq_of_lt (Int.ediv_nonneg h0 (by decide)) (Int.lt_of_le_of_lt (Int.ediv_le_self _ h0) (Int.lt_of_lt_of_le (val_lt (ha.drop 7)) (pw_le (by rw [List.length_drop]; omega))))
theorem or_words {x y : Int} (x0 : 0 ≤ x) (x1 : x ≤ 4294967295) (y0 : 0 ≤ y) (y1 : y ≤ 4294967295) : bits BinOp.or IntKind.u64 x (y * 4294967296) = x + y * 4294967296 := by
  obtain ⟨n, rfl⟩ := Int.eq_ofNat_of_zero_le x0
  obtain ⟨m, rfl⟩ := Int.eq_ofNat_of_zero_le y0
  rw [show (m : Int) * 4294967296 = ((m * 2 ^ 32 : Nat) : Int) by omega, u64_or_nat _ _ (by omega) (by omega), Nat.or_comm, nat_join 32 _ _ (Nat.mul_mod_left _ _) (by omega)]
  omega
end Nt

set_option maxRecDepth 100000 in
set_option maxHeartbeats 1000000 in
theorem down_any (w : World) (va : Value) (a : List Int) (ha : Num w va a) (hla : a.length ≤ 100000) :
    Calls Tryd.prog 50 #[va, .int .i64 255] w fun e w' => ∃ v' l, e = .returned v' ∧ Num w' v' l ∧ Nt.val l = Nt.val a / 2 ^ 255 ∧ Nt.Neat l ∧ l.length ≤ a.length - 7 ∧ Below w.heap.size w w' := by
  obtain ⟨aa, ca, rfl⟩ := num_form ha
  have HA := Lib.hid ha
  have hwa : Hid (Nt.Ws a) := by obtain ⟨_, _, _, _, h, _⟩ := ha; exact h
  clear ha
  go_enter Tryd.func50, Tryd.ntmps50
  go_wp2_with fail
  go_loopw [5, 6] (fun v i wr => ∃ (k : Nat) (O : List Int), k ≤ a.length - 7 ∧ i = .int .i64 (k + 7) ∧ O.length = k ∧ Hid (Nt.Ws O) ∧ Hid (Mine .u32 36 w wr v O) ∧ Hid (Nt.val O = Nt.val (a.drop 7) / 2147483648 % Nt.pw k)) (fun _ i _ => a.length + 7 - (intOf i).toNat)
  case atStart => exact ⟨0, [], Nat.zero_le _, rfl, rfl, Nt.Ws.nil, Mine.nil _ _ _, by show _ = _; rw [Nt.pw_zero]; simp [Nt.val, Int.emod_one]⟩
  case round =>
    obtain ⟨k, O, hk, rfl, hO, WO, MO, VO⟩ := hrel
    obtain ⟨a5, c5, rfl⟩ := MO.out.form
    rw [hO]
    have hda : 0 ≤ a.getD (k + 7) 0 ∧ a.getD (k + 7) 0 ≤ 4294967295 := hwa.out.getD _
    have hdb : 0 ≤ a.getD (k + 8) 0 ∧ a.getD (k + 8) 0 ≤ 4294967295 := hwa.out.getD _
    have MO2 : Hid (Mine .u32 36 w wr (.slice a5 k c5) O) := by have := MO.out; rw [hO] at this; exact this
    have HOL := Lib.hid hO
    by_cases hla2 : k + 7 < a.length
    · have hmore := fun t ht => Nt.down_more (t := t) hwa.out hO ht VO.out
      unfold Nt.B at hmore
      have HMORE := Lib.hid hmore
      clear hmore hO MO VO
      obtain ⟨da0, da1⟩ := hda
      obtain ⟨db0, db1⟩ := hdb
      by_cases hlb2 : k + 8 < a.length
      · obtain ⟨b1, o1, he, hb1, hc1, hcap1⟩ := num_cell HA.out _ hla2
        obtain ⟨b2, o2, he2, hb2, hc2, hcap2⟩ := num_cell HA.out _ hlb2
        obtain rfl := he
        injection he2 with he3
        injection he3 with he4 he5
        subst he4
        subst he5
        have hc1' := (MO2.out.2.cell (p := ⟨b1, o1 + (k + 7), none⟩) hb1).trans hc1
        have hc2' := (MO2.out.2.cell (p := ⟨b1, o1 + (k + 8), none⟩) hb2).trans hc2
        clear hc1 hc2 HA
        have hor := Nt.or_words da0 da1 db0 db1
        generalize a.getD (k + 7) 0 = xa at *
        generalize a.getD (k + 8) 0 = xb at *
        have hws : Hid (Nt.Ws (O ++ [(xa + xb * 4294967296) / 2147483648 % 4294967296])) := WO.out.snoc (x := (xa + xb * 4294967296) / 2147483648 % 4294967296) (by unfold W32; omega)
        have hol : Hid ((O ++ [(xa + xb * 4294967296) / 2147483648 % 4294967296]).length = k + 1) := by show _ = _; rw [List.length_append, HOL.out]; rfl
        have HV := Lib.hid (HMORE.out _ rfl)
        clear HMORE WO
        go_wp2_with ((with_reducible refine append_word (o := ⟨some 42, _, _, _, _, _⟩) rfl (.tmp 35) (.tmp 41) rfl w (.slice a5 k c5) O rfl ?_ ((xa + xb * 4294967296) / 2147483648 % 4294967296) rfl ?_ ?_); exact MO2.out; exact (by have := HOL.out; omega); intro u6 w5 hp2; have HP3 := Lib.hid hp2; clear hp2)
        go_roundw
        case rel => exact ⟨k + 1, O ++ [(xa + xb * 4294967296) / 2147483648 % 4294967296], by omega, by go_num, hol.out, hws, HP3, HV⟩
        case measure => simp [intOf]; omega
      · obtain ⟨b1, o1, rfl, hb1, hc1, hcap1⟩ := num_cell HA.out _ hla2
        have hc1' := (MO2.out.2.cell (p := ⟨b1, o1 + (k + 7), none⟩) hb1).trans hc1
        have hz : a.getD (k + 8) 0 = 0 := by simp [List.getD_eq_getElem?_getD, List.getElem?_eq_none (show a.length ≤ k + 8 by omega)]
        rw [hz, Int.zero_mul, Int.add_zero] at HMORE
        clear hc1 HA hz db0 db1
        generalize a.getD (k + 7) 0 = xa at *
        have hws : Hid (Nt.Ws (O ++ [xa / 2147483648])) := WO.out.snoc (x := xa / 2147483648) (by unfold W32; omega)
        have hol : Hid ((O ++ [xa / 2147483648]).length = k + 1) := by show _ = _; rw [List.length_append, HOL.out]; rfl
        have HV := Lib.hid (HMORE.out (xa / 2147483648) (by omega))
        clear HMORE WO
        go_wp2_with ((with_reducible refine append_word (o := ⟨some 42, _, _, _, _, _⟩) rfl (.tmp 35) (.tmp 41) rfl w (.slice a5 k c5) O rfl ?_ (xa / 2147483648) rfl ?_ ?_); exact MO2.out; exact (by have := HOL.out; omega); intro u6 w5 hp2; have HP3 := Lib.hid hp2; clear hp2)
        go_roundw
        case rel => exact ⟨k + 1, O ++ [xa / 2147483648], by omega, by go_num, hol.out, hws, HP3, HV⟩
        case measure => simp [intOf]; omega
    · have HVC := Lib.hid (Nt.down_end hwa.out (show a.length ≤ k + 7 by omega) VO.out)
      have HLC : Hid (O.length ≤ 1000000) := by show _ ≤ _; omega
      clear VO hda hdb HA hO
      go_wp2_with (go_at_call 44; refine (trim_any _ _ _ (MO2.out.num WO.out) HLC.out).mono ?_; rintro e w1 ⟨v1, rfl, h2, h3⟩; have H2 := Lib.hid h2; have H3 := Lib.hid h3; clear h2 h3)
      go_ret
      refine ⟨_, _, rfl, H2.out, ?_, Nt.neat_trim _, ?_, MO2.out.2.trans (H3.out.mono MO2.out.2.size)⟩
      · rw [Nt.val_trim]; exact HVC.out
      · rw [Nt.length_trim]
        refine Nat.le_trans (Nt.cut_le _ _) ?_
        rw [HOL.out]
        exact hk
end Go.Proofs.YtgebangnhgmmoaaDoor

/- The reference's numbers, pure: bytes laid into words, the lowest first. -/
namespace Go.Proofs.YtgebangnhgmmoaaDoor
open Go.RowKit

namespace Nt
theorem word_small {O : List Int} (hw : Ws O) {q r : Nat} (hq : q < O.length) (h : val O < 2 ^ (32 * q + r)) : O.getD q 0 < 2 ^ r := by
  rw [pw_two, val_split O q (by omega), val_drop O q hq] at h
  have h1 := val_nonneg (hw.take q)
  have h2 := val_nonneg (hw.drop (q + 1))
  have h3 : pw q * O.getD q 0 ≤ pw q * (O.getD q 0 + B * val (O.drop (q + 1))) := Int.mul_le_mul_of_nonneg_left (by unfold B; omega) (Int.le_of_lt (pw_pos q))
  exact Int.lt_of_mul_lt_mul_left (show pw q * O.getD q 0 < pw q * 2 ^ r by omega) (Int.le_of_lt (pw_pos q))
theorem or32 (o s b : Nat) (hs : s ≤ 24) (hb : b ≤ 255) (ho : o < 2 ^ s) : bits BinOp.or IntKind.u32 (o : Int) ((b * 2 ^ s : Nat) : Int) = ((o + b * 2 ^ s : Nat) : Int) := by
  have h1 : 2 ^ s ≤ 2 ^ 24 := Nat.pow_le_pow_right (by decide) hs
  simp only [Nat.reducePow] at h1
  have h2 : b * 2 ^ s ≤ 255 * 2 ^ s := Nat.mul_le_mul_right _ hb
  rw [u32_or_nat _ _ (by omega) (by omega), Nat.or_comm, nat_join s _ _ (Nat.mul_mod_left _ _) ho, Nat.add_comm]
theorem low_more : ∀ (p : List Int) (k : Nat), k < p.length → Bt.low (p.take (k + 1)) = Bt.low (p.take k) + 256 ^ k * (p.getD k 0).toNat
  | [], k, h => by simp at h
  | x :: r, 0, _ => by simp [Bt.low]
  | x :: r, k + 1, h => by
    have ih := low_more r k (by simpa using h)
    show x.toNat + 256 * Bt.low (r.take (k + 1)) = x.toNat + 256 * Bt.low (r.take k) + 256 ^ (k + 1) * (r.getD k 0).toNat
    rw [ih, Nat.pow_succ]
    grind
/-- One byte more. -/
theorem low_word {O p : List Int} {k : Nat} {x : Int} (hk : k < p.length) (hO : k / 4 < O.length) (hp : 0 ≤ p.getD k 0) (hx : x = O.getD (k / 4) 0 + p.getD k 0 * 2 ^ (8 * (k % 4))) (h : val O = (Bt.low (p.take k) : Nat)) : val (O.set (k / 4) x) = (Bt.low (p.take (k + 1)) : Nat) := by
  rw [val_set O _ _ hO, h, low_more p k hk, hx]
  have e : ((256 ^ k : Nat) : Int) = pw (k / 4) * 2 ^ (8 * (k % 4)) := by
    rw [← pw_two, show 32 * (k / 4) + 8 * (k % 4) = 8 * k by omega, Int.pow_mul]
    simp
  rw [Int.natCast_add, Int.natCast_mul, e, Int.toNat_of_nonneg hp]
  grind
end Nt
end Go.Proofs.YtgebangnhgmmoaaDoor

/- The reference's numbers, the walks: a number out of bytes. -/
namespace Go.Proofs.YtgebangnhgmmoaaDoor
open Go.RowKit

theorem slc_form {w : World} {v : Value} {l : List Int} (h : Slc w v l) : ∃ a c, v = .slice a l.length c := by
  obtain ⟨a, c, hv, _⟩ := h; exact ⟨a, c, hv⟩
theorem slc_cell {w : World} {a : Option Addr} {c : Nat} {l : List Int} (h : Slc w (.slice a l.length c) l) (j : Nat) (hj : j < l.length) : ∃ b o, a = some ⟨b, o, none⟩ ∧ b < w.heap.size ∧ w.cell? ⟨b, o + j, none⟩ = some (.int .u8 (l.getD j 0)) ∧ l.length ≤ c := by
  obtain ⟨a', c', hv, h0, _, hm⟩ := h
  simp only [Value.slice.injEq] at hv
  obtain ⟨rfl, -, rfl⟩ := hv
  rcases hm with hm | ⟨b, off, rfl, h2, h3⟩
  · rw [hm] at hj; simp at hj
  · exact ⟨b, off, rfl, h2, h3 j hj, h0⟩

set_option maxRecDepth 100000 in
set_option maxHeartbeats 1000000 in
theorem low_any (w : World) (va : Value) (p : List Int) (hp : Slc w va p) (hla : p.length ≤ 100000) :
    Calls Tryd.prog 33 #[va] w fun e w' => ∃ v' l, e = .returned v' ∧ Num w' v' l ∧ Nt.val l = (Bt.low p : Nat) ∧ Nt.Neat l ∧ l.length ≤ (p.length + 3) / 4 ∧ Below w.heap.size w w' := by
  obtain ⟨aa, ca, rfl⟩ := slc_form hp
  have HP := Lib.hid hp
  have h8 : Hid (∀ x ∈ p, W8 x) := by obtain ⟨_, _, _, _, h, _⟩ := hp; exact h
  clear hp
  have hmk := fun w => run_mk w ((p.length + 3) / 4) (((p.length : Int) + 3) / 4) (by omega) (by omega)
  have hb0 : Hid (Blk (w.alloc (.cells ((zs ((p.length + 3) / 4)).map (Value.int .u32)).toArray 36)) w.heap.size .u32 36 (zs ((p.length + 3) / 4))) := heap_alloc_new w _
  have ho0 : Hid (Below w.heap.size w (w.alloc (.cells ((zs ((p.length + 3) / 4)).map (Value.int .u32)).toArray 36))) := (Below.refl _ _).alloc (Nat.le_refl _) _
  go_enter Tryd.func33, Tryd.ntmps33
  go_wp2_with fail
  clear hmk
  go_loopw [4] (fun i wr => ∃ (k : Nat) (O : List Int), k ≤ p.length ∧ i = .int .i64 k ∧ Hid (Blk wr w.heap.size .u32 36 O) ∧ O.length = (p.length + 3) / 4 ∧ Hid (Nt.Ws O) ∧ Hid (Nt.val O = (Bt.low (p.take k) : Nat)) ∧ Hid (Below w.heap.size w wr)) (fun i _ => p.length - (intOf i).toNat)
  case atStart =>
    refine ⟨0, zs ((p.length + 3) / 4), Nat.zero_le _, rfl, hb0, by simp [zs], ?_, ?_, ho0⟩
    · intro x hx
      simp only [zs, List.mem_replicate] at hx
      rw [hx.2]; unfold W32; omega
    · show Nt.val (zs _) = _
      unfold zs
      rw [Nt.val_zeros]; rfl
  case round =>
    clear hb0 ho0
    obtain ⟨k, O, hk, rfl, BK, hlO, WO, VO, BW⟩ := hrel
    by_cases hlt : k < p.length
    · obtain ⟨b1, o1, rfl, hb1, hc1, hcap1⟩ := slc_cell HP.out k hlt
      have hcb := (BW.out.cell (p := ⟨b1, o1 + k, none⟩) hb1).trans hc1
      have hco := BK.out.cell (k / 4) (by omega)
      have hfo := BK.out.free (k / 4)
      have hx8 : 0 ≤ p.getD k 0 ∧ p.getD k 0 ≤ 255 := by
        have hm : p.getD k 0 ∈ p := by rw [List.getD_eq_getElem?_getD, List.getElem?_eq_getElem hlt]; exact List.getElem_mem hlt
        have := h8.out _ hm
        unfold W8 at this; omega
      have hlow : Nt.val O < 2 ^ (32 * (k / 4) + 8 * (k % 4)) := by
        have h1 := Bt.low_lt (p.take k) (fun x hx => h8.out x (List.mem_of_mem_take hx))
        rw [List.length_take, Nat.min_eq_left hk] at h1
        rw [VO.out, show 32 * (k / 4) + 8 * (k % 4) = 8 * k by omega]
        exact_mod_cast h1
      have hsm := Nt.word_small WO.out (by omega : k / 4 < O.length) hlow
      have ho32 := WO.out.getD (k / 4)
      obtain ⟨x0, x1⟩ := hx8
      obtain ⟨o0, o1'⟩ := ho32
      have hmore := fun x hx => Nt.low_word (x := x) hlt (by omega : k / 4 < O.length) x0 hx VO.out
      have hset := fun x => BK.out.set (k / 4) x
      have HMORE := Lib.hid hmore
      have HSET := Lib.hid hset
      clear hlow hmore hset hc1
      generalize p.getD k 0 = x at *
      generalize O.getD (k / 4) 0 = o at *
      obtain ⟨on, rfl⟩ := Int.eq_ofNat_of_zero_le o0
      obtain ⟨xn, rfl⟩ := Int.eq_ofNat_of_zero_le x0
      have hsn : on < 2 ^ (8 * (k % 4)) := by exact_mod_cast hsm
      have hor := Nt.or32 on (8 * (k % 4)) xn (by omega) (by omega) hsn
      have h2p : 2 ^ (8 * (k % 4)) ≤ 2 ^ 24 := Nat.pow_le_pow_right (by decide) (by omega)
      have hbp : xn * 2 ^ (8 * (k % 4)) ≤ 255 * 2 ^ (8 * (k % 4)) := Nat.mul_le_mul_right _ (by omega)
      have hcast : (xn : Int) * 2 ^ (8 * (k % 4)) % 4294967296 = ((xn * 2 ^ (8 * (k % 4)) : Nat) : Int) := by
        rw [show (xn : Int) * 2 ^ (8 * (k % 4)) = ((xn * 2 ^ (8 * (k % 4)) : Nat) : Int) by simp]
        exact Int.emod_eq_of_lt (by omega) (by omega)
      have hval : bits BinOp.or IntKind.u32 (on : Int) ((xn : Int) * 2 ^ (8 * (k % 4)) % 4294967296) = ((on + xn * 2 ^ (8 * (k % 4)) : Nat) : Int) := by rw [hcast]; exact hor
      have hvn : Hid (Nt.val (O.set (k / 4) ((on + xn * 2 ^ (8 * (k % 4)) : Nat) : Int)) = (Bt.low (p.take (k + 1)) : Nat)) := HMORE.out _ (by simp)
      have hws : Hid (Nt.Ws (O.set (k / 4) ((on + xn * 2 ^ (8 * (k % 4)) : Nat) : Int))) := WO.out.set _ (by unfold W32; simp only [Nat.reducePow] at h2p; omega)
      have hlen : Hid ((O.set (k / 4) ((on + xn * 2 ^ (8 * (k % 4)) : Nat) : Int)).length = (p.length + 3) / 4) := by show _ = _; rw [List.length_set]; exact hlO
      have HVAL := Lib.hid hval
      clear hor hval hcast h2p hbp hsn hsm HMORE VO
      go_wp2
      go_region
      all_goals go_wp2
      all_goals go_roundw
      case rel => exact ⟨k + 1, _, by omega, by go_num, by rw [HVAL.out]; exact HSET.out _, hlen.out, hws, hvn, (BW.out.setCell (by simp) _).drew⟩
      case measure => simp [intOf]; omega
    · obtain rfl : k = p.length := by omega
      have hv := VO.out
      rw [List.take_length] at hv
      have HV := Lib.hid hv
      have ht := trim_any wr _ O (num_blk BK.out hlO WO.out) (by omega)
      have HT := Lib.hid ht
      clear ht hv VO WO HP h8
      go_wp2_with (go_at_call 44; refine HT.out.mono ?_; rintro e w1 ⟨v1, rfl, h2, h3⟩; have H2 := Lib.hid h2; have H3 := Lib.hid h3; clear h2 h3)
      go_ret
      refine ⟨_, _, rfl, H2.out, ?_, Nt.neat_trim _, ?_, BW.out.trans (H3.out.mono BW.out.size)⟩
      · rw [Nt.val_trim]; exact HV.out
      · rw [Nt.length_trim, ← hlO]; exact Nt.cut_le _ _
end Go.Proofs.YtgebangnhgmmoaaDoor

/- The reference's numbers, the walks: the bytes of a number. -/
namespace Go.Proofs.YtgebangnhgmmoaaDoor
open Go.RowKit

theorem info5b : (Tryd.prog.info? 5).map (fun i => (i.zero, i.size, i.bytes)) = some (some (.int .u8 0), 1, 1) := by kernel_rfl
theorem run_mk8 (w : World) (n : Nat) (i : Int) (hi : i = n) (hn : n ≤ 1000000) : (Instr.makeSlice 22 (.int .i64 i) (.int .i64 i)).run Tryd.prog w = .ok (.slice (some ⟨w.heap.size, 0, none⟩) n n) (w.alloc (.cells ((zs n).map (Value.int .u8)).toArray 5)) := by
  subst hi
  obtain ⟨i0, hi, hz0, hz1, hz2⟩ := info_parts info5b
  have h := run_make w 22 5 i0 (.int .u8 0) Tryd.underlying22 hi hz0 .i64 .i64 n n (by omega) (by omega) (by rw [hz2]; omega) (by omega)
  rw [h]
  have e : madeCells (Value.int .u8 0).cells ((n : Int).toNat * i0.size) = ((zs n).map (Value.int .u8)).toArray := by
    apply Array.toList_inj.1
    rw [hz1, Nat.mul_one]
    show (madeCells #[Value.int .u8 0] _).toList = _
    rw [toList_madeCells_one]
    simp [zs]
  rw [e]
  rfl
namespace Nt
def byte (a : List Int) (j : Nat) : Int := a.getD (j / 4) 0 / 2 ^ (8 * (j % 4)) % 256
def upto (a : List Int) (n k : Nat) : List Int := (List.range n).map fun j => if j < k then byte a j else 0
theorem upto_length (a : List Int) (n k : Nat) : (upto a n k).length = n := by simp [upto]
theorem upto_zero (a : List Int) (n : Nat) : upto a n 0 = zs n := by
  apply List.ext_getElem
  · simp [upto, zs]
  · intro i h1 h2; simp [upto, zs]
theorem upto_more (a : List Int) (n k : Nat) : (upto a n k).set k (byte a k) = upto a n (k + 1) := by
  apply List.ext_getElem
  · simp [upto]
  · intro i h1 h2
    simp only [upto, List.getElem_set, List.getElem_map, List.getElem_range]
    by_cases h : k = i
    · subst h; simp
    · rw [if_neg h]
      by_cases h3 : i < k
      · rw [if_pos h3, if_pos (by omega)]
      · rw [if_neg h3, if_neg (by omega)]
theorem upto_all (a : List Int) (n k : Nat) (h : n ≤ k ∨ a.length ≤ k / 4) : upto a n k = (List.range n).map (byte a) := by
  apply List.ext_getElem
  · simp [upto]
  · intro i h1 h2
    have hi : i < n := by simpa using h2
    simp only [upto, List.getElem_map, List.getElem_range]
    by_cases h3 : i < k
    · rw [if_pos h3]
    · rw [if_neg h3]
      unfold byte
      rw [show a.getD (i / 4) 0 = 0 by simp [List.getD_eq_getElem?_getD, List.getElem?_eq_none (show a.length ≤ i / 4 by omega)]]
      simp
end Nt

set_option maxRecDepth 100000 in
set_option maxHeartbeats 1000000 in
theorem outb_any (w : World) (va : Value) (a : List Int) (n : Nat) (ha : Num w va a) (hla : a.length ≤ 100000) (hn : n ≤ 100000) :
    Calls Tryd.prog 14 #[va, .int .i64 n] w fun e w' => e = .returned (.slice (some ⟨w.heap.size, 0, none⟩) n n) ∧ Blk w' w.heap.size .u8 5 ((List.range n).map (Nt.byte a)) ∧ Below w.heap.size w w' := by
  obtain ⟨aa, ca, rfl⟩ := num_form ha
  have HA := Lib.hid ha
  have hwa : Hid (Nt.Ws a) := by obtain ⟨_, _, _, _, h, _⟩ := ha; exact h
  clear ha
  have hmk := fun w => run_mk8 w n n rfl (by omega)
  have hb0 : Hid (Blk (w.alloc (.cells ((zs n).map (Value.int .u8)).toArray 5)) w.heap.size .u8 5 (zs n)) := heap_alloc_new w _
  have ho0 : Hid (Below w.heap.size w (w.alloc (.cells ((zs n).map (Value.int .u8)).toArray 5))) := (Below.refl _ _).alloc (Nat.le_refl _) _
  go_enter Tryd.func14, Tryd.ntmps14
  go_wp2_with fail
  clear hmk
  go_loopw [6] (fun i wr => ∃ k : Nat, k ≤ n ∧ i = .int .i64 k ∧ Hid (Blk wr w.heap.size .u8 5 (Nt.upto a n k)) ∧ Hid (Below w.heap.size w wr)) (fun i _ => n - (intOf i).toNat)
  case atStart =>
    exact ⟨0, Nat.zero_le _, rfl, by rw [Nt.upto_zero]; exact hb0, ho0⟩
  case round =>
    clear hb0 ho0
    obtain ⟨k, hk, rfl, BK, BW⟩ := hrel
    by_cases hlt : k < n
    · by_cases hla2 : k / 4 < a.length
      · obtain ⟨b1, o1, rfl, hb1, hc1, hcap1⟩ := num_cell HA.out _ hla2
        have hca := (BW.out.cell (p := ⟨b1, o1 + k / 4, none⟩) hb1).trans hc1
        have hco := BK.out.cell k (by rw [Nt.upto_length]; exact hlt)
        have hfo := BK.out.free k
        have hset := BK.out.set k (Nt.byte a k)
        rw [Nt.upto_more] at hset
        have hby : Hid (Nt.byte a k = a.getD (k / 4) 0 / 2 ^ (8 * (k % 4)) % 256) := rfl
        have hda : 0 ≤ a.getD (k / 4) 0 ∧ a.getD (k / 4) 0 ≤ 4294967295 := hwa.out.getD _
        obtain ⟨da0, da1⟩ := hda
        have HSET := Lib.hid hset
        clear hset hc1 HA hwa
        generalize a.getD (k / 4) 0 = xa at *
        generalize (Nt.upto a n k).getD k 0 = xo at *
        go_wp2
        go_roundw
        case rel => exact ⟨k + 1, by omega, by go_num, by rw [← hby.out]; exact HSET.out, BW.out.setCell (Nat.le_refl _) _⟩
        case measure => simp [intOf]; omega
      · have HF := Lib.hid (Nt.upto_all a n k (Or.inr (by omega)))
        clear HA hwa
        go_wp2_with fail
        go_ret
        exact ⟨rfl, by rw [← HF.out]; exact BK.out, BW.out⟩
    · have HF := Lib.hid (Nt.upto_all a n k (Or.inl (by omega)))
      clear HA hwa
      go_wp2_with fail
      go_ret
      exact ⟨rfl, by rw [← HF.out]; exact BK.out, BW.out⟩
end Go.Proofs.YtgebangnhgmmoaaDoor

/- Powers modulo a prime, pure: Fermat's theorem; Pocklington's; that 2^255 - 19 is prime. -/
namespace Go.Proofs.YtgebangnhgmmoaaDoor
namespace Nm
/-- A prime. -/
def Pr (p : Nat) : Prop := 1 < p ∧ ∀ d, d ∣ p → d = 1 ∨ d = p
theorem Pr.co {p : Nat} (h : Pr p) {k : Nat} (hk : k % p ≠ 0) : Nat.Coprime p k := by
  rcases h.2 (Nat.gcd p k) (Nat.gcd_dvd_left p k) with h1 | h1
  · exact h1
  · exact absurd (Nat.mod_eq_zero_of_dvd (h1 ▸ Nat.gcd_dvd_right p k)) hk
theorem Pr.of_mul {p : Nat} (h : Pr p) {a b : Nat} (hd : p ∣ a * b) : p ∣ a ∨ p ∣ b := by
  by_cases ha : a % p = 0
  · exact Or.inl (Nat.dvd_of_mod_eq_zero ha)
  · exact Or.inr ((h.co ha).dvd_of_dvd_mul_left hd)
/-- How many ways to choose. -/
def ch : Nat → Nat → Nat
  | _, 0 => 1
  | 0, _ + 1 => 0
  | n + 1, k + 1 => ch n k + ch n (k + 1)
theorem ch_zero (n : Nat) : ch n 0 = 1 := by cases n <;> rfl
theorem ch_none (k : Nat) : ch 0 (k + 1) = 0 := rfl
theorem ch_succ (n k : Nat) : ch (n + 1) (k + 1) = ch n k + ch n (k + 1) := rfl
theorem ch_beyond : ∀ (n m : Nat), ch n (n + m + 1) = 0
  | 0, m => by rw [Nat.zero_add]; rfl
  | n + 1, m => by
    rw [show n + 1 + m + 1 = (n + m + 1) + 1 by omega, ch_succ, ch_beyond n m, show n + m + 1 + 1 = n + (m + 1) + 1 by omega, ch_beyond n (m + 1)]
theorem ch_all : ∀ n : Nat, ch n n = 1
  | 0 => rfl
  | n + 1 => by rw [ch_succ, ch_all n, show n + 1 = n + 0 + 1 by omega, ch_beyond n 0]
theorem ch_mul : ∀ n k : Nat, (k + 1) * ch (n + 1) (k + 1) = (n + 1) * ch n k
  | 0, 0 => rfl
  | 0, k + 1 => by rw [ch_succ, ch_none, ch_none]; omega
  | n + 1, 0 => by
    have h := ch_mul n 0
    rw [ch_zero] at h
    rw [ch_succ, ch_zero]
    omega
  | n + 1, k + 1 => by
    have h1 := ch_mul n k
    have h2 := ch_mul n (k + 1)
    rw [ch_succ (n + 1) (k + 1), ch_succ n k]
    rw [ch_succ n k] at h1
    grind
/-- A sum. -/
def S (f : Nat → Nat) : Nat → Nat
  | 0 => 0
  | m + 1 => S f m + f m
theorem S_shift (f : Nat → Nat) : ∀ m, S f (m + 1) = f 0 + S (fun k => f (k + 1)) m
  | 0 => by simp [S]
  | m + 1 => by
    show S f (m + 1) + f (m + 1) = _
    rw [S_shift f m]
    show _ = f 0 + (S _ m + f (m + 1))
    omega
theorem S_add (f g : Nat → Nat) : ∀ m, S (fun k => f k + g k) m = S f m + S g m
  | 0 => rfl
  | m + 1 => by
    show S _ m + (f m + g m) = S f m + f m + (S g m + g m)
    rw [S_add f g m]; omega
theorem S_mul (c : Nat) (f : Nat → Nat) : ∀ m, S (fun k => c * f k) m = c * S f m
  | 0 => rfl
  | m + 1 => by
    show S _ m + c * f m = c * (S f m + f m)
    rw [S_mul c f m, Nat.mul_add]
theorem S_eq {f g : Nat → Nat} (h : ∀ k, f k = g k) (m : Nat) : S f m = S g m := by
  rw [show f = g from funext h]
theorem S_dvd {p : Nat} {f : Nat → Nat} : ∀ m, (∀ k, k < m → p ∣ f k) → p ∣ S f m
  | 0, _ => Nat.dvd_zero p
  | m + 1, h => Nat.dvd_add (S_dvd m fun k hk => h k (by omega)) (h m (by omega))
theorem binomial (a : Nat) : ∀ n, (a + 1) ^ n = S (fun k => ch n k * a ^ k) (n + 1)
  | 0 => by simp [S, ch]
  | n + 1 => by
    rw [S_shift, Nat.pow_succ, binomial a n]
    have e : S (fun k => ch (n + 1) (k + 1) * a ^ (k + 1)) (n + 1) = a * S (fun k => ch n k * a ^ k) (n + 1) + S (fun k => ch n (k + 1) * a ^ (k + 1)) (n + 1) := by
      rw [← S_mul, ← S_add]
      refine S_eq (fun k => ?_) _
      rw [ch_succ, Nat.pow_succ]
      grind
    rw [e]
    have e2 := S_shift (fun k => ch n k * a ^ k) (n + 1)
    have e3 : S (fun k => ch n k * a ^ k) (n + 1 + 1) = S (fun k => ch n k * a ^ k) (n + 1) + ch n (n + 1) * a ^ (n + 1) := rfl
    rw [show ch n (n + 1) = 0 from ch_beyond n 0, Nat.zero_mul, Nat.add_zero] at e3
    rw [e3] at e2
    simp only [ch_zero, Nat.pow_zero, Nat.mul_one] at e2 ⊢
    grind
theorem Pr.ch {p : Nat} (h : Pr p) {k : Nat} (h0 : 0 < k) (hk : k < p) : p ∣ Nm.ch p k := by
  obtain ⟨n, rfl⟩ : ∃ n, p = n + 1 := ⟨p - 1, by have := h.1; omega⟩
  obtain ⟨j, rfl⟩ : ∃ j, k = j + 1 := ⟨k - 1, by omega⟩
  have hc : Nat.Coprime (n + 1) (j + 1) := h.co (by rw [Nat.mod_eq_of_lt hk]; omega)
  refine hc.dvd_of_dvd_mul_left (?_ : n + 1 ∣ (j + 1) * _)
  rw [ch_mul]
  exact Nat.dvd_mul_right _ _
theorem fermat_add {p : Nat} (h : Pr p) (a : Nat) : (a + 1) ^ p % p = (a ^ p + 1) % p := by
  obtain ⟨n, rfl⟩ : ∃ n, p = n + 1 := ⟨p - 1, by have := h.1; omega⟩
  have e : (a + 1) ^ (n + 1) = S (fun k => Nm.ch (n + 1) k * a ^ k) (n + 1) + Nm.ch (n + 1) (n + 1) * a ^ (n + 1) := binomial a (n + 1)
  rw [ch_all, Nat.one_mul, S_shift, ch_zero, Nat.pow_zero, Nat.mul_one] at e
  obtain ⟨c, hc⟩ : n + 1 ∣ S (fun k => Nm.ch (n + 1) (k + 1) * a ^ (k + 1)) n := S_dvd n fun k hk => Nat.dvd_trans (h.ch (by omega) (by omega)) (Nat.dvd_mul_right _ _)
  rw [e, hc, show 1 + (n + 1) * c + a ^ (n + 1) = a ^ (n + 1) + 1 + (n + 1) * c by omega, Nat.add_mul_mod_self_left]
theorem fermat {p : Nat} (h : Pr p) : ∀ a, a ^ p % p = a % p
  | 0 => by rw [Nat.zero_pow (by have := h.1; omega)]
  | a + 1 => by rw [fermat_add h, Nat.add_mod, fermat h a, ← Nat.add_mod]
theorem fermat_one {p : Nat} (h : Pr p) {a : Nat} (ha : a % p ≠ 0) : a ^ (p - 1) % p = 1 := by
  have h1 := h.1
  have e := fermat h a
  obtain ⟨n, rfl⟩ : ∃ n, p = n + 1 := ⟨p - 1, by omega⟩
  rw [Nat.add_sub_cancel]
  rw [Nat.pow_succ] at e
  have hpos : 0 < a ^ n := Nat.pow_pos (Nat.pos_of_ne_zero fun h => by rw [h] at ha; simp at ha)
  have hd : n + 1 ∣ a ^ n * a - a := Nat.dvd_of_mod_eq_zero (Nat.sub_mod_eq_zero_of_mod_eq e)
  have hd2 : n + 1 ∣ (a ^ n - 1) * a := by rw [Nat.sub_mul, Nat.one_mul]; exact hd
  obtain ⟨c, hc⟩ := (h.co ha).dvd_of_dvd_mul_right hd2
  rw [show a ^ n = 1 + (n + 1) * c by omega, Nat.add_mul_mod_self_left]
  exact Nat.mod_eq_of_lt h1
theorem one_pow_mod {n b : Nat} (hn : 1 < n) (hb : b % n = 1) (k : Nat) : b ^ k % n = 1 := by
  rw [Nat.pow_mod, hb, Nat.one_pow]; exact Nat.mod_eq_of_lt hn
theorem pow_gcd {n b : Nat} (hn : 1 < n) (m k : Nat) : b ^ m % n = 1 → b ^ k % n = 1 → b ^ Nat.gcd m k % n = 1 := by
  induction m, k using Nat.gcd.induction with
  | H0 k => intro _ h; rw [Nat.gcd_zero_left]; exact h
  | H1 m k hm ih =>
    intro h1 h2
    rw [Nat.gcd_rec]
    refine ih ?_ h1
    have e : b ^ k = (b ^ m) ^ (k / m) * b ^ (k % m) := by rw [← Nat.pow_mul, ← Nat.pow_add, Nat.div_add_mod]
    rw [e, Nat.mul_mod, one_pow_mod hn h1, Nat.one_mul, Nat.mod_mod] at h2
    exact h2
/-- A prime factor is one more than a multiple of q. -/
theorem pockling {n q a p : Nat} (hn0 : 0 < n) (hq : Pr q) (hd : q ∣ n - 1) (h1 : a ^ (n - 1) % n = 1) (hg : Nat.gcd (a ^ ((n - 1) / q) % n + n - 1) n = 1) (hp : Pr p) (hpn : p ∣ n) : q ∣ p - 1 := by
  have hp1 := hp.1
  have g1 : a ^ (n - 1) % p = 1 := by rw [← Nat.mod_mod_of_dvd _ hpn, h1]; exact Nat.mod_eq_of_lt hp1
  obtain ⟨b, hb⟩ : ∃ b, b = a ^ ((n - 1) / q) := ⟨_, rfl⟩
  have g2 : b ^ q % p = 1 := by rw [hb, ← Nat.pow_mul, Nat.div_mul_cancel hd]; exact g1
  have hb0 : b % p ≠ 0 := by
    intro h
    rw [Nat.pow_mod, h, Nat.zero_pow (by have := hq.1; omega), Nat.zero_mod] at g2
    exact absurd g2 (by decide)
  have g3 := pow_gcd hp1 q (p - 1) g2 (fermat_one hp hb0)
  rcases hq.2 _ (Nat.gcd_dvd_left q (p - 1)) with h | h
  · rw [h, Nat.pow_one] at g3
    have g4 : (b % n) % p = 1 := by rw [Nat.mod_mod_of_dvd _ hpn]; exact g3
    have g5 : p ∣ b % n + n - 1 := by
      have e1 := Nat.div_add_mod (b % n) p
      rw [g4] at e1
      obtain ⟨c, hc⟩ := hpn
      refine ⟨(b % n) / p + c, ?_⟩
      rw [Nat.mul_add, ← hc]
      omega
    rw [← hb] at hg
    have := Nat.dvd_gcd g5 hpn
    rw [hg] at this
    exact absurd (Nat.le_of_dvd (by decide) this) (by omega)
  · exact h ▸ Nat.gcd_dvd_right q (p - 1)
theorem prime_factor : ∀ n : Nat, 1 < n → ∃ p, Pr p ∧ p ∣ n := by
  intro n
  induction n using Nat.strongRecOn with
  | ind n ih =>
    intro hn
    by_cases h : Pr n
    · exact ⟨n, h, Nat.dvd_refl n⟩
    · have h2 : ∃ d, d ∣ n ∧ d ≠ 1 ∧ d ≠ n := by
        refine Classical.byContradiction fun hh => h ⟨hn, fun d hd => ?_⟩
        refine Classical.byContradiction fun h3 => hh ⟨d, hd, fun e => h3 (Or.inl e), fun e => h3 (Or.inr e)⟩
      obtain ⟨d, hd, h3, h4⟩ := h2
      have h5 := Nat.le_of_dvd (by omega) hd
      have h6 := Nat.pos_of_dvd_of_pos hd (by omega)
      obtain ⟨p, hp, hpd⟩ := ih d (by omega) (by omega)
      exact ⟨p, hp, Nat.dvd_trans hpd hd⟩
theorem prime_of_big {n : Nat} (hn : 1 < n) (F : Nat) (hF : n < F * F) (h : ∀ p, Pr p → p ∣ n → F < p) : Pr n := by
  refine ⟨hn, fun d hd => ?_⟩
  refine Classical.byContradiction fun hh => ?_
  obtain ⟨e, he⟩ := hd
  have h1 : 1 < d := by
    rcases Nat.lt_or_ge 1 d with h | h
    · exact h
    · have : d = 0 ∨ d = 1 := by omega
      rcases this with h | h
      · rw [h] at he; omega
      · exact absurd (Or.inl h) hh
  have h2 : 1 < e := by
    rcases Nat.lt_or_ge 1 e with h | h
    · exact h
    · have : e = 0 ∨ e = 1 := by omega
      rcases this with h | h
      · rw [h] at he; omega
      · rw [h, Nat.mul_one] at he; exact absurd (Or.inr he.symm) hh
  obtain ⟨p, hp, hpd⟩ := prime_factor d h1
  obtain ⟨r, hr, hre⟩ := prime_factor e h2
  have g1 := h p hp (he ▸ Nat.dvd_trans hpd (Nat.dvd_mul_right _ _))
  have g2 := h r hr (he ▸ Nat.dvd_trans hre (Nat.dvd_mul_left _ _))
  have g3 := Nat.le_of_dvd (by omega) hpd
  have g4 := Nat.le_of_dvd (by omega) hre
  have g5 : F * F ≤ d * e := Nat.mul_le_mul (by omega) (by omega)
  omega
/-- Two at once. -/
theorem prime_of_two {n q r a b : Nat} (hn : 1 < n) (hq : Pr q) (hr : Pr r) (hqr : Nat.Coprime q r) (hdq : q ∣ n - 1) (hdr : r ∣ n - 1) (h1 : a ^ (n - 1) % n = 1) (h2 : b ^ (n - 1) % n = 1)
    (g1 : Nat.gcd (a ^ ((n - 1) / q) % n + n - 1) n = 1) (g2 : Nat.gcd (b ^ ((n - 1) / r) % n + n - 1) n = 1) (hF : n < (q * r) * (q * r)) : Pr n := by
  refine prime_of_big hn (q * r) hF fun p hp hpn => ?_
  have e := Nat.Coprime.mul_dvd_of_dvd_of_dvd hqr (pockling (by omega) hq hdq h1 g1 hp hpn) (pockling (by omega) hr hdr h2 g2 hp hpn)
  have := Nat.le_of_dvd (by have := hp.1; omega) e
  have := hp.1
  omega
theorem prime_of_one {n q a : Nat} (hn : 1 < n) (hq : Pr q) (hdq : q ∣ n - 1) (h1 : a ^ (n - 1) % n = 1)
    (g1 : Nat.gcd (a ^ ((n - 1) / q) % n + n - 1) n = 1) (hF : n < q * q) : Pr n := by
  refine prime_of_big hn q hF fun p hp hpn => ?_
  have := Nat.le_of_dvd (by have := hp.1; omega) (pockling (by omega) hq hdq h1 g1 hp hpn)
  have := hp.1
  omega
/-- A power, reckoned. -/
def pm (n : Nat) : Nat → Nat → Nat → Nat
  | 0, _, _ => 1 % n
  | f + 1, a, e => bif e % 2 == 1 then a * pm n f (a * a % n) (e / 2) % n else pm n f (a * a % n) (e / 2)
theorem pm_eq (n : Nat) : ∀ f a e : Nat, e < 2 ^ f → pm n f a e = a ^ e % n
  | 0, a, e, h => by
    obtain rfl : e = 0 := by simpa using h
    simp [pm]
  | f + 1, a, e, h => by
    have h2 : e / 2 < 2 ^ f := by rw [Nat.pow_succ] at h; omega
    have ih := pm_eq n f (a * a % n) (e / 2) h2
    have e3 : (a * a % n) ^ (e / 2) % n = a ^ (2 * (e / 2)) % n := by rw [← Nat.pow_mod, Nat.pow_mul, Nat.pow_two]
    rw [pm, ih, e3]
    rcases Nat.mod_two_eq_zero_or_one e with h0 | h0
    · rw [h0]; simp only [show ((0 : Nat) == 1) = false from rfl, cond_false]
      rw [show 2 * (e / 2) = e by omega]
    · rw [h0]; simp only [show ((1 : Nat) == 1) = true from rfl, cond_true]
      rw [Nat.mul_mod, Nat.mod_mod, ← Nat.mul_mod, Nat.mul_comm, ← Nat.pow_succ, show (2 * (e / 2)).succ = e by omega]
/-- No divisor up to a bound. -/
def none (n : Nat) : Nat → Bool
  | 0 => true
  | 1 => true
  | k + 2 => n % (k + 2) != 0 && none n (k + 1)
theorem none_get {n : Nat} : ∀ {k : Nat}, none n k = true → ∀ d, 1 < d → d ≤ k → n % d ≠ 0
  | 0, _, d, h1, h2 => by omega
  | 1, _, d, h1, h2 => by omega
  | k + 2, h, d, h1, h2 => by
    unfold none at h
    rw [Bool.and_eq_true] at h
    by_cases hd : d = k + 2
    · rw [hd]; simpa using h.1
    · exact none_get h.2 d h1 (by omega)
theorem prime_by {n k : Nat} (hn : 1 < n) (hk : n < (k + 1) * (k + 1)) (h : none n k = true) : Pr n := by
  refine ⟨hn, fun d hd => ?_⟩
  refine Classical.byContradiction fun hh => ?_
  obtain ⟨e, he⟩ := hd
  have hd0 : d ≠ 0 := by intro h0; rw [h0] at he; omega
  have he0 : e ≠ 0 := by intro h0; rw [h0] at he; omega
  have hd1 : d ≠ 1 := fun h1 => hh (Or.inl h1)
  have he1 : e ≠ 1 := fun h1 => hh (Or.inr (by rw [he, h1, Nat.mul_one]))
  have g1 : n % d = 0 := by rw [he, Nat.mul_mod_right]
  have g2 : n % e = 0 := by rw [he, Nat.mul_mod_left]
  have g3 : k < d := by
    rcases Nat.lt_or_ge k d with h3 | h3
    · exact h3
    · exact absurd g1 (none_get h d (by omega) h3)
  have g4 : k < e := by
    rcases Nat.lt_or_ge k e with h3 | h3
    · exact h3
    · exact absurd g2 (none_get h e (by omega) h3)
  have := Nat.mul_le_mul (show k + 1 ≤ d by omega) (show k + 1 ≤ e by omega)
  omega
def two (n q r f : Nat) : Bool :=
  Nat.ble 2 n && ((n - 1) % q == 0 && ((n - 1) % r == 0 && (pm n f 2 (n - 1) == 1 && (Nat.gcd (pm n f 2 ((n - 1) / q) + n - 1) n == 1 && (Nat.gcd (pm n f 2 ((n - 1) / r) + n - 1) n == 1 && (Nat.ble (n + 1) (q * r * (q * r)) && (Nat.gcd q r == 1 && Nat.ble n (2 ^ f))))))))
def one (n q f : Nat) : Bool :=
  Nat.ble 2 n && ((n - 1) % q == 0 && (pm n f 2 (n - 1) == 1 && (Nat.gcd (pm n f 2 ((n - 1) / q) + n - 1) n == 1 && (Nat.ble (n + 1) (q * q) && Nat.ble n (2 ^ f)))))
theorem prime_two {n q r f : Nat} (hq : Pr q) (hr : Pr r) (h : two n q r f = true) : Pr n := by
  unfold two at h
  simp only [Bool.and_eq_true, beq_iff_eq] at h
  obtain ⟨h0, h1, h2, h3, h4, h5, h6, h7, h8⟩ := h
  have g0 := Nat.le_of_ble_eq_true h0
  have g6 := Nat.le_of_ble_eq_true h6
  have g8 := Nat.le_of_ble_eq_true h8
  have d1 : (n - 1) / q ≤ n - 1 := Nat.div_le_self _ _
  have d2 : (n - 1) / r ≤ n - 1 := Nat.div_le_self _ _
  rw [pm_eq _ _ _ _ (by omega)] at h3 h4 h5
  exact prime_of_two g0 hq hr h7 (Nat.dvd_of_mod_eq_zero h1) (Nat.dvd_of_mod_eq_zero h2) h3 h3 h4 h5 g6
theorem prime_one {n q f : Nat} (hq : Pr q) (h : one n q f = true) : Pr n := by
  unfold one at h
  simp only [Bool.and_eq_true, beq_iff_eq] at h
  obtain ⟨h0, h1, h3, h4, h6, h8⟩ := h
  have g0 := Nat.le_of_ble_eq_true h0
  have g6 := Nat.le_of_ble_eq_true h6
  have g8 := Nat.le_of_ble_eq_true h8
  have d1 : (n - 1) / q ≤ n - 1 := Nat.div_le_self _ _
  rw [pm_eq _ _ _ _ (by omega)] at h3 h4
  exact prime_of_one g0 hq (Nat.dvd_of_mod_eq_zero h1) h3 h4 g6
theorem pr_127 : Pr 127 := prime_by (k := 11) (by decide) (by decide) (by decide +kernel)
theorem pr_57467 : Pr 57467 := prime_by (k := 240) (by decide) (by decide) (by decide +kernel)
theorem pr_75707 : Pr 75707 := prime_by (k := 276) (by decide) (by decide) (by decide +kernel)
theorem pr_t : Pr 8574133 := prime_by (k := 2928) (by decide) (by decide) (by decide +kernel)
theorem pr_s : Pr 1919519569386763 := prime_two (f := 52) pr_t pr_127 (by decide +kernel)
theorem pr_r : Pr 75445702479781427272750846543864801 := prime_two (f := 116) pr_s pr_75707 (by decide +kernel)
theorem pr_q : Pr 74058212732561358302231226437062788676166966415465897661863160754340907 := prime_two (f := 236) pr_r pr_57467 (by decide +kernel)
/-- 2^255 - 19. -/
def PN : Nat := 57896044618658097711785492504343953926634992332820282019728792003956564819949
theorem pr_P : Pr PN := prime_one (f := 255) pr_q (by decide +kernel)
end Nm
end Go.Proofs.YtgebangnhgmmoaaDoor

/- Powers modulo 2^255 - 19, pure: inverses, roots. -/
namespace Go.Proofs.YtgebangnhgmmoaaDoor
namespace Nm
theorem PN_pos : 1 < PN := by decide
theorem int_mod (n : Nat) : ((n : Int)) % (PN : Int) = ((n % PN : Nat) : Int) := (Int.natCast_emod n PN).symm
theorem pow_mod_congr {a b m : Int} (h : a % m = b % m) : ∀ k : Nat, a ^ k % m = b ^ k % m
  | 0 => by rw [Int.pow_zero, Int.pow_zero]
  | k + 1 => by rw [Int.pow_succ, Int.pow_succ, Int.mul_emod, pow_mod_congr h k, h, ← Int.mul_emod]
/-- What times a number is 1. -/
theorem inv_one {x : Int} (h0 : 0 ≤ x) (hx : x % (PN : Int) ≠ 0) : x * x ^ (PN - 2) % (PN : Int) = 1 := by
  obtain ⟨n, rfl⟩ := Int.eq_ofNat_of_zero_le h0
  have hn : n % PN ≠ 0 := by
    intro h; apply hx; rw [int_mod, h]; rfl
  have e := fermat_one pr_P hn
  rw [show PN - 1 = (PN - 2) + 1 from rfl, Nat.pow_succ, Nat.mul_comm] at e
  rw [show (n : Int) * (n : Int) ^ (PN - 2) = ((n * n ^ (PN - 2) : Nat) : Int) by simp, int_mod, e]
  rfl
theorem inv_zero {x : Int} (hx : x % (PN : Int) = 0) (k : Nat) : x * x ^ k % (PN : Int) = 0 := by
  rw [Int.mul_emod, hx, Int.zero_mul]; rfl
theorem fermat_half {x : Int} (h0 : 0 ≤ x) (hx : x % (PN : Int) ≠ 0) : (x * x) ^ ((PN - 1) / 2) % (PN : Int) = 1 := by
  obtain ⟨n, rfl⟩ := Int.eq_ofNat_of_zero_le h0
  have hn : n % PN ≠ 0 := by
    intro h; apply hx; rw [int_mod, h]; rfl
  have e := fermat_one pr_P hn
  have e2 : (n * n) ^ ((PN - 1) / 2) = n ^ (PN - 1) := by
    rw [show PN - 1 = 2 * ((PN - 1) / 2) from rfl, Nat.pow_mul, Nat.pow_two]
    rfl
  rw [show ((n : Int) * (n : Int)) ^ ((PN - 1) / 2) = (((n * n) ^ ((PN - 1) / 2) : Nat) : Int) by simp, int_mod, e2, e]
  rfl
theorem prime_int {x y : Int} (h : (PN : Int) ∣ x * y) : (PN : Int) ∣ x ∨ (PN : Int) ∣ y := by
  have h1 : PN ∣ x.natAbs * y.natAbs := by
    rw [← Int.natAbs_mul]
    exact Int.ofNat_dvd_left.1 h
  rcases pr_P.of_mul h1 with h | h
  · exact Or.inl (Int.ofNat_dvd_left.2 h)
  · exact Or.inr (Int.ofNat_dvd_left.2 h)
theorem mod_of_dvd {m x y : Int} (h : m ∣ x - y) : x % m = y % m := (Int.emod_eq_emod_iff_emod_sub_eq_zero).2 (Int.emod_eq_zero_of_dvd h)
theorem dvd_of_mod {m x y : Int} (h : x % m = y % m) : m ∣ x - y := Int.dvd_of_emod_eq_zero ((Int.emod_eq_emod_iff_emod_sub_eq_zero).1 h)
theorem two_cast (k : Nat) : (2 : Int) ^ k = ((2 ^ k : Nat) : Int) := by simp
/-- A root of -1. -/
theorem turn_sq {t : Int} (h : t % (PN : Int) = (2 : Int) ^ ((PN - 1) / 4) % (PN : Int)) : (PN : Int) ∣ t * t + 1 := by
  have e : pm PN 255 2 ((PN - 1) / 4) * pm PN 255 2 ((PN - 1) / 4) % PN = PN - 1 := by decide +kernel
  rw [pm_eq _ _ _ _ (by decide +kernel), ← Nat.mul_mod] at e
  have e2 : t * t % (PN : Int) = ((PN - 1 : Nat) : Int) := by
    rw [Int.mul_emod, h, ← Int.mul_emod, two_cast ((PN - 1) / 4), ← Int.natCast_mul, int_mod, e]
  have e3 : (t * t) % (PN : Int) = (-1) % (PN : Int) := e2
  have := dvd_of_mod e3
  rwa [Int.sub_neg] at this
/-- Which numbers have a root, and which it is. -/
theorem roots {a b t : Int} (hb0 : 0 ≤ b) (ht0 : 0 ≤ t) (hb : b % (PN : Int) = a ^ ((PN + 3) / 8) % (PN : Int)) (ht : t % (PN : Int) = (2 : Int) ^ ((PN - 1) / 4) % (PN : Int)) :
    (b * b % (PN : Int) = a % (PN : Int) ∨ (b * t) * (b * t) % (PN : Int) = a % (PN : Int)) ↔ (a % (PN : Int) = 0 ∨ a ^ ((PN - 1) / 2) % (PN : Int) = 1) := by
  have hts := turn_sq ht
  constructor
  · intro h
    by_cases hz : a % (PN : Int) = 0
    · exact Or.inl hz
    · refine Or.inr ?_
      rcases h with h | h
      · rw [← pow_mod_congr h]
        refine fermat_half hb0 fun hh => hz ?_
        rw [← h, Int.mul_emod, hh, Int.zero_mul]; rfl
      · rw [← pow_mod_congr h]
        refine fermat_half (Int.mul_nonneg hb0 ht0) fun hh => hz ?_
        rw [← h, Int.mul_emod, hh, Int.zero_mul]; rfl
  · intro h
    by_cases hz : a % (PN : Int) = 0
    · left
      rw [Int.mul_emod, hb, show (PN + 3) / 8 = (PN + 3) / 8 - 1 + 1 from rfl, Int.pow_succ, ← Int.mul_emod]
      have hd := Int.dvd_of_emod_eq_zero hz
      rw [hz]
      exact Int.emod_eq_zero_of_dvd (Int.dvd_trans (Int.dvd_trans hd (Int.dvd_mul_left _ _)) (Int.dvd_mul_left _ _))
    · have h1 : a ^ ((PN - 1) / 2) % (PN : Int) = 1 := by
        rcases h with h | h
        · exact absurd h hz
        · exact h
      have h4 : (b * b) * (b * b) % (PN : Int) = a * a % (PN : Int) := by
        have e1 : (b * b) * (b * b) = b ^ 4 := by grind
        have e2 : (a ^ ((PN + 3) / 8)) ^ 4 = a ^ ((PN - 1) / 2) * (a * a) := by
          rw [← Int.pow_mul, show (PN + 3) / 8 * 4 = (PN - 1) / 2 + 1 + 1 from rfl, Int.pow_succ, Int.pow_succ, Int.mul_assoc]
        rw [e1, pow_mod_congr hb, e2, Int.mul_emod, h1, Int.one_mul, Int.emod_emod]
      have h5 : (PN : Int) ∣ (b * b - a) * (b * b + a) := by
        have := dvd_of_mod h4
        rwa [show b * b * (b * b) - a * a = (b * b - a) * (b * b + a) by grind] at this
      rcases prime_int h5 with h6 | h6
      · exact Or.inl (mod_of_dvd h6)
      · right
        refine mod_of_dvd ?_
        have e : b * t * (b * t) - a = (b * b) * (t * t + 1) - (b * b + a) := by grind
        rw [e]
        exact Int.dvd_sub (Int.dvd_trans hts (Int.dvd_mul_left _ _)) h6
theorem roots_square {a : Int} (h0 : 0 ≤ a) : (a * a) % (PN : Int) = 0 ∨ (a * a) ^ ((PN - 1) / 2) % (PN : Int) = 1 := by
  by_cases hz : a % (PN : Int) = 0
  · left
    rw [Int.mul_emod, hz, Int.zero_mul]; rfl
  · exact Or.inr (fermat_half h0 hz)
end Nm
end Go.Proofs.YtgebangnhgmmoaaDoor
