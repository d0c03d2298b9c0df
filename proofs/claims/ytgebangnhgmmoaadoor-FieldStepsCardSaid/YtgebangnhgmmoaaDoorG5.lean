/- Layer 3, part 5 of the proof. -/
import Derived.Test.YtgebangnhgmmoaaDoorG4
import Derived.Deep.WholeRow
/- The reference's numbers: modulo 2^255 - 19, pure; a copy; noughts cut off, by the letter. -/
namespace Go.Proofs.YtgebangnhgmmoaaDoor
open Go.RowKit

namespace Nt
theorem len_le {a l : List Int} (ha : Ws a) (hl : Ws l) (hn : Neat l) (h : val l ≤ val a) : l.length ≤ a.length := by
  rcases Nat.lt_or_ge a.length l.length with h1 | h1
  · have := val_lt_of_length ha hl hn h1
    omega
  · exact h1
theorem cut_neat {l : List Int} (h : Neat l) : cut l l.length = l.length := by
  rcases Nat.eq_zero_or_pos l.length with h0 | h0
  · rw [h0]; rfl
  · have h1 := h h0
    obtain ⟨n, hn⟩ : ∃ n, l.length = n + 1 := ⟨l.length - 1, by omega⟩
    rw [hn, Nat.add_sub_cancel] at h1
    rw [hn]
    unfold cut
    rw [if_neg h1]
theorem mod_low {u y p m : Int} (h0 : 0 ≤ u) (h1 : u < p) (hm : 0 < m) : (u + p * y) % (p * m) = u + p * (y % m) := by
  have e : y = m * (y / m) + y % m := (Int.mul_ediv_add_emod y m).symm
  have h2 := Int.emod_nonneg y (Int.ne_of_gt hm)
  have h3 := Int.emod_lt_of_pos y hm
  generalize y % m = r at *
  generalize y / m = q at *
  subst e
  have h4 : p * r ≤ p * (m - 1) := Int.mul_le_mul_of_nonneg_left (by omega) (by omega)
  have h5 : 0 ≤ p * r := Int.mul_nonneg (by omega) h2
  rw [Int.mul_sub, Int.mul_one] at h4
  rw [show u + p * (m * q + r) = (u + p * r) + (p * m) * q by grind, Int.add_mul_emod_self_left, Int.emod_eq_of_lt (by omega) (by omega)]
/-- The lowest 255 bits. -/
def low255 (a : List Int) : List Int := (a.take 8).set 7 (a.getD 7 0 % 2147483648)
theorem low255_val {a : List Int} (ha : Ws a) (h : 8 ≤ a.length) : val (low255 a) = val a % 2 ^ 255 := by
  have e : low255 a = a.take 7 ++ [a.getD 7 0 % 2147483648] := by
    have e1 : a.take 8 = a.take 7 ++ [a.getD 7 0] := by
      rw [List.take_succ_eq_append_getElem (show 7 < a.length by omega)]
      simp [show 7 < a.length by omega]
    unfold low255
    rw [e1, List.set_append]
    have e2 : (a.take 7).length = 7 := by rw [List.length_take]; omega
    rw [e2]
    simp
  have e3 : (a.take 7).length = 7 := by rw [List.length_take]; omega
  have e4 : val [a.getD 7 0 % 2147483648] = a.getD 7 0 % 2147483648 := by simp [val]
  have h1 := val_lt (ha.take 7)
  rw [e3] at h1
  rw [e, val_append, e3, e4, val_split a 7 (by omega), val_drop a 7 (by omega), show (2 : Int) ^ 255 = pw 7 * 2147483648 by decide, mod_low (val_nonneg (ha.take 7)) h1 (by decide)]
  rw [show (a.getD 7 0 + B * val (a.drop (7 + 1))) % 2147483648 = a.getD 7 0 % 2147483648 by unfold B; omega]
theorem low255_len {a : List Int} (h : 8 ≤ a.length) : (low255 a).length = 8 := by
  unfold low255
  rw [List.length_set, List.length_take]; omega
theorem low255_ws {a : List Int} (ha : Ws a) : Ws (low255 a) := by
  refine (ha.take 8).set 7 ?_
  have := (ha.getD 7)
  unfold W32 at *
  omega
/-- What stands above 255 bits counts nineteen times. -/
theorem fold_mod {x y : Int} (h : y = x % 2 ^ 255 + x / 2 ^ 255 * 19) : y % Fe.P = x % Fe.P := by
  have e : x = 2 ^ 255 * (x / 2 ^ 255) + x % 2 ^ 255 := (Int.mul_ediv_add_emod x _).symm
  have e2 : (2 : Int) ^ 255 = Fe.P + 19 := by decide
  have e3 : x = y + Fe.P * (x / 2 ^ 255) := by
    rw [h]
    generalize x / 2 ^ 255 = q at *
    generalize x % 2 ^ 255 = r at *
    rw [e2] at e
    rw [e, Int.add_mul]
    omega
  conv => rhs; rw [e3]
  rw [Int.add_mul_emod_self_left]
theorem fold_lt {x y : Int} (hx : 2 ^ 255 ≤ x) (h : y = x % 2 ^ 255 + x / 2 ^ 255 * 19) : y < x := by
  have e : x = 2 ^ 255 * (x / 2 ^ 255) + x % 2 ^ 255 := (Int.mul_ediv_add_emod x _).symm
  have h1 : 0 < x / 2 ^ 255 := by
    have := Int.emod_lt_of_pos x (show (0 : Int) < 2 ^ 255 by decide)
    have h57 : (2 : Int) ^ 255 = 57896044618658097711785492504343953926634992332820282019728792003956564819968 := by decide
    rw [h57] at *
    omega
  rw [h]
  generalize x / 2 ^ 255 = q at *
  generalize x % 2 ^ 255 = r at *
  rw [e]
  have : (2 : Int) ^ 255 = 57896044618658097711785492504343953926634992332820282019728792003956564819968 := by decide
  rw [this]
  omega
end Nt

/-- What a slice reads. -/
def rdn (w : World) : Value → List Int
  | .slice (some ad) n _ => (List.range n).map fun j => match w.cell? ⟨ad.block, ad.off + j, none⟩ with
    | some (.int _ x) => x
    | _ => 0
  | _ => []
theorem rdn_num {w : World} {v : Value} {l : List Int} (h : Num w v l) : rdn w v = l := by
  obtain ⟨a, cap, rfl, _, _, hm⟩ := h
  rcases hm with rfl | ⟨b, off, rfl, _, h3⟩
  · cases a <;> rfl
  · refine List.ext_getElem (by simp [rdn]) fun j h1 h2 => ?_
    simp only [rdn, List.getElem_map, List.getElem_range]
    rw [h3 j h2]
    simp [h2]
theorem src_of_at {w : World} {k : IntKind} {b off : Nat} {l : List Int} (h : At w k b off l) : ∀ (j : Nat) (u : Value), (l.map (Value.int k))[j]? = some u → w.cell? ((⟨b, off, none⟩ : Addr).add j) = some u := by
  intro j u hu
  have hj : j < l.length := by
    rcases Nat.lt_or_ge j l.length with h | h
    · exact h
    · rw [List.getElem?_eq_none (by simpa using h)] at hu; cases hu
  have e := h j hj
  rw [Addr.add_mid, e]
  simp [hj] at hu
  simp [hj, hu]
/-- A copy. -/
theorem append_copy {w : World} {ops : Array Oper} {rest : List Oper} {o : Oper} {a : Act} {Q : Exit → Act → World → Prop} (hgd : o.guard = none) (s x : Operand)
    (ho : o.op = .call { callee := .builtin .append, args := #[s, x], argTypes := #[26, 26] })
    (hs : a.eval s = .slice none 0 0) (b off c : Nat) (l : List Int) (hx : a.eval x = .slice (some ⟨b, off, none⟩) l.length c) (hl : At w .u32 b off l) (hlen : l.length ≤ 100000000)
    (h : ∀ v' w', Mine .u32 36 w w' v' l → wpList Tryd.prog ops Q rest (a.put o.dst v') w') :
    wpList Tryd.prog ops Q (o :: rest) a w := by
  obtain ⟨i0, hi, hz0, hz1, hz2⟩ := info_parts info36
  refine wpList_append_own_at w hgd s x 26 ho w.heap.size 36 i0 (.int .u32 0) 1 4 Tryd.underlying26 hi hz0 hz1 hz2 rfl (by decide) (.slice none 0 0) 0 [] hs ⟨rfl, Or.inl ⟨rfl, rfl⟩⟩ ⟨b, off, none⟩ l.length c (l.map (Value.int .u32)) hx (by rw [List.length_map, Nat.mul_one]) (src_of_at hl) ?_ (by unfold maxLen; omega) (by omega) (Nat.le_refl _) ?_
  · intro u hu
    simp only [List.mem_map] at hu
    obtain ⟨y, _, rfl⟩ := hu; rfl
  · intro v' w' h1 h2 _ _
    rw [Nat.zero_add, List.nil_append] at h1
    exact h v' w' ⟨h1, own_below (Below.refl _ _) (xs := []) (e := 36) (k := 0) ⟨rfl, Or.inl ⟨rfl, rfl⟩⟩ h2⟩
theorem Mine.block {e : TypeId} {k : IntKind} {w0 w : World} {v : Value} {xs : List Int} (h : Mine k e w0 w v xs) (h0 : 0 < xs.length) : ∃ g cap cur, v = .slice (some ⟨g, 0, none⟩) xs.length cap ∧ w0.heap.size ≤ g ∧ w.heap[g]? = some (.cells cur e (0, 0)) ∧ xs.length ≤ cap ∧ xs.length ≤ cur.size ∧ cur.toList.take xs.length = xs.map (Value.int k) := by
  rcases h.1.2 with ⟨_, h2⟩ | ⟨g, cap, cur, h1, h2, h3, h4, _, h6, h7⟩
  · omega
  · rw [Nat.mul_one] at h6 h7
    exact ⟨g, cap, cur, h1, h2, h3, h4, by omega, h7⟩
theorem sliced_whole (g m cap : Nat) (h : 0 < cap) : sliced (some ⟨g, 0, none⟩) 0 m cap 1 = .slice (some ⟨g, 0, none⟩) m cap := by
  unfold sliced
  rw [if_neg (by omega)]
  simp [Addr.add]

set_option maxRecDepth 100000 in
set_option maxHeartbeats 400000 in
theorem trim_at (w : World) (a : Option Addr) (cap : Nat) (l : List Int) (h : Num w (.slice a l.length cap) l) (hl : l.length ≤ 1000000) :
    Calls Tryd.prog 44 #[.slice a l.length cap] w fun e w' => e = .returned (sliced a 0 (Nt.cut l l.length) cap 1) ∧ Below w.heap.size w w' := by
  obtain ⟨a', cap', hv, hc, hw, hm⟩ := id h
  simp only [Value.slice.injEq] at hv
  obtain ⟨rfl, -, rfl⟩ := hv
  have HM := Lib.hid hm
  clear h hm hw
  go_enter Tryd.func44, Tryd.ntmps44
  go_wp2_with fail
  go_loopw [3] (fun i wr => ∃ n : Nat, n ≤ l.length ∧ i = .int .i64 n ∧ Hid (Nt.cut l n = Nt.cut l l.length) ∧ Hid (Below w.heap.size w wr)) (fun i _ => (intOf i).toNat)
  case atStart => exact ⟨l.length, Nat.le_refl _, rfl, rfl, Below.refl _ _⟩
  case round =>
    obtain ⟨n, hn, rfl, CU, B⟩ := hrel
    cases n with
    | zero =>
      have h0 : Nt.cut l l.length = 0 := CU.out.symm
      have hcut := run_cut26 a l.length cap 0 (Nat.zero_le _) 0 rfl
      obtain ⟨sv, hsv⟩ : ∃ sv, sv = sliced a 0 0 cap 1 := ⟨_, rfl⟩
      rw [← hsv] at hcut
      have HSV : Hid (sv = sliced a 0 (Nt.cut l l.length) cap 1) := by show _ = _; rw [h0]; exact hsv
      clear h0 hsv
      go_wp2
      go_ret
      exact ⟨congrArg Ending.returned HSV.out, B.out⟩
    | succ n =>
      obtain ⟨b, off, rfl, hbw, hAt⟩ : ∃ b off, a = some ⟨b, off, none⟩ ∧ b < w.heap.size ∧ At w .u32 b off l := by
        rcases HM.out with h | h
        · rw [h] at hn; simp at hn
        · exact h
      have hcell : wr.cell? ⟨b, off + n, none⟩ = some (.int .u32 (l.getD n 0)) := (hAt.below B.out hbw) n (by omega)
      by_cases hz : l.getD n 0 = 0
      · have hcu : Nt.cut l n = Nt.cut l l.length := by rw [← CU.out]; conv => rhs; unfold Nt.cut; rw [if_pos hz]
        have HCU := Lib.hid hcu
        rw [hz] at hcell
        clear hcu CU hAt HM hz
        go_wp2
        go_roundw
        case rel => exact ⟨n, by omega, by go_num, HCU, B⟩
        case measure => simp [intOf]
      · have h1 : Nt.cut l l.length = n + 1 := by rw [← CU.out]; unfold Nt.cut; rw [if_neg hz]
        have hcut := run_cut26 (some ⟨b, off, none⟩) l.length cap (n + 1) (by omega) ((n : Int) + 1) (by omega)
        obtain ⟨sv, hsv⟩ : ∃ sv, sv = sliced (some ⟨b, off, none⟩) 0 (n + 1) cap 1 := ⟨_, rfl⟩
        rw [← hsv] at hcut
        have HSV : Hid (sv = sliced (some ⟨b, off, none⟩) 0 (Nt.cut l l.length) cap 1) := by show _ = _; rw [h1]; exact hsv
        clear h1 CU hAt HM hsv
        generalize l.getD n 0 = x at *
        go_wp2
        go_ret
        exact ⟨congrArg Ending.returned HSV.out, B.out⟩
end Go.Proofs.YtgebangnhgmmoaaDoor

/- The reference's numbers, the walks: modulo 2^255 - 19. -/
namespace Go.Proofs.YtgebangnhgmmoaaDoor
open Go.RowKit

namespace Nt
theorem len8 {l : List Int} (hw : Ws l) (hn : Neat l) (h : val l < 2 ^ 255) : l.length ≤ 8 := by
  rcases Nat.lt_or_ge 8 l.length with h1 | h1
  · have h2 := neat_le hn hw (by omega)
    have h3 := pw_le (show 8 ≤ l.length - 1 by omega)
    have h4 : (2 : Int) ^ 255 ≤ pw 8 := by decide
    omega
  · exact h1
theorem len_big {l : List Int} (hw : Ws l) (h : 2 ^ 255 ≤ val l) : 8 ≤ l.length := by
  rcases Nat.lt_or_ge l.length 8 with h1 | h1
  · have h2 := val_lt hw
    have h3 := pw_le (show l.length ≤ 7 by omega)
    have h4 : pw 7 ≤ (2 : Int) ^ 255 := by decide
    omega
  · exact h1
theorem bits_big {x : Int} {m : Nat} (hx : 2 ^ 255 ≤ x) (h1 : x < 2 ^ m) : 255 < (m : Int) := by
  rcases Nat.lt_or_ge 255 m with h | h
  · omega
  · have h2 : (2 : Int) ^ m ≤ 2 ^ 255 := by
      exact_mod_cast Nat.pow_le_pow_right (by decide) h
    omega
theorem bits_small {x : Int} {m : Nat} (hx : x < 2 ^ 255) (h1 : 0 < m → 2 ^ (m - 1) ≤ x) : (m : Int) ≤ 255 := by
  rcases Nat.lt_or_ge 255 m with h | h
  · have h2 : (2 : Int) ^ 255 ≤ 2 ^ (m - 1) := by
      exact_mod_cast Nat.pow_le_pow_right (by decide) (show 255 ≤ m - 1 by omega)
    have := h1 (by omega)
    omega
  · omega
theorem last_big {x : Int} (h0 : Fe.P ≤ x) (h1 : x < 2 ^ 255) : x - Fe.P = x % Fe.P := by
  have e : (2 : Int) ^ 255 = Fe.P + 19 := by decide
  rw [e] at h1
  unfold Fe.P at *
  omega
theorem last_small {x : Int} (h0 : 0 ≤ x) (h1 : ¬ Fe.P ≤ x) : x = x % Fe.P := (Int.emod_eq_of_lt h0 (by omega)).symm
theorem prime_P : val prime = Fe.P := by decide
end Nt
theorem mask31 (v : Int) (h0 : 0 ≤ v) (h1 : v ≤ 4294967295) : bits BinOp.and IntKind.u32 v 2147483647 = v % 2147483648 := by
  obtain ⟨n, rfl⟩ := Int.eq_ofNat_of_zero_le h0
  have h := u32_and_nat n 2147483647 (by omega) (by decide)
  have h2 : n &&& 2147483647 = n % 2147483648 := Nat.and_two_pow_sub_one_eq_mod n 31
  rw [h2] at h
  rw [Int.natCast_emod] at h
  exact h
theorem own_mask {w : World} {g cap : Nat} {cur : Array Value} {l : List Int} (hw : Nt.Ws l) (h8 : 8 ≤ l.length) (hg : w.heap[g]? = some (.cells cur 36 (0, 0))) (ht : cur.toList.take l.length = l.map (Value.int .u32)) (hc : l.length ≤ cap) (hs : l.length ≤ cur.size) :
    w.cell? ⟨g, 7, none⟩ = some (.int .u32 (l.getD 7 0)) ∧ w.frozen? ⟨g, 7, none⟩ = false ∧ Num (w.setCell ⟨g, 7, none⟩ (.int .u32 (l.getD 7 0 % 2147483648))) (.slice (some ⟨g, 0, none⟩) 8 cap) (Nt.low255 l) := by
  have hcell : ∀ j, j < l.length → cur[j]? = some (.int .u32 (l.getD j 0)) := by
    intro j hj
    have e : (cur.toList.take l.length)[j]? = some (.int .u32 (l.getD j 0)) := by rw [ht]; simp [hj]
    rw [List.getElem?_take_of_lt hj] at e
    simpa using e
  refine ⟨?_, frozen_of_row w g 7 _ 36 hg, ?_⟩
  · rw [cell_of_row w g 7 _ 36 (0, 0) hg]
    exact hcell 7 (by omega)
  · have hg2 := heap_setCell_same w g 7 _ 36 (.int .u32 (l.getD 7 0 % 2147483648)) hg
    have e8 := Nt.low255_len h8
    refine ⟨_, cap, by rw [e8], by rw [e8]; omega, Nt.low255_ws hw, Or.inr ⟨g, 0, rfl, lt_of_block hg2, fun j hj => ?_⟩⟩
    rw [e8] at hj
    rw [Nat.zero_add, cell_of_row _ g j _ 36 (0, 0) hg2]
    unfold Nt.low255
    rcases Nat.lt_or_ge j 7 with h7 | h7
    · rw [Array.getElem?_setIfInBounds_ne (by omega), hcell j (by omega)]
      simp [List.getD_eq_getElem?_getD, List.getElem?_set_ne (show 7 ≠ j by omega), List.getElem?_take_of_lt (show j < 8 by omega)]
    · obtain rfl : j = 7 := by omega
      rw [Array.getElem?_setIfInBounds_self_of_lt (by omega)]
      simp [show 7 < l.length by omega, List.getElem?_set_self (show 7 < (l.take 8).length by rw [List.length_take]; omega)]

theorem run_cut8 (g n cap : Nat) (hm : 8 ≤ cap) (w : World) : (Instr.slice 26 (.slice (some ⟨g, 0, none⟩) n cap) none (some (.int .i64 8)) none).run Tryd.prog w = .ok (.slice (some ⟨g, 0, none⟩) 8 cap) w := by
  rw [run_cut26 (some ⟨g, 0, none⟩) n cap 8 hm 8 rfl w, sliced_whole _ _ _ (by omega)]

set_option maxRecDepth 100000 in
set_option maxHeartbeats 1000000 in
theorem mod_any (w : World) (va : Value) (a : List Int) (ha : Num w va a) (hn : Nt.Neat a) (hla : a.length ≤ 50000) :
    Calls Tryd.prog 37 #[va] w fun e w' => ∃ v' l, e = .returned v' ∧ Num w' v' l ∧ Nt.val l = Nt.val a % Fe.P ∧ Nt.Neat l ∧ l.length ≤ 8 ∧ Below w.heap.size w w' := by
  obtain ⟨aa, ca, rfl⟩ := num_form ha
  have HA := Lib.hid ha
  have HNA := Lib.hid hn
  clear ha hn
  go_enter Tryd.func37, Tryd.ntmps37
  go_wp2_with fail
  go_loopw [0] (fun v wr => ∃ l, Hid (Num wr v l) ∧ Hid (Nt.Neat l) ∧ l.length ≤ a.length ∧ Hid (Nt.val l % Fe.P = Nt.val a % Fe.P) ∧ Hid (Below w.heap.size w wr)) (fun v wr => (Nt.val (rdn wr v)).toNat)
  case atStart => exact ⟨a, HA, HNA, Nat.le_refl _, rfl, Below.refl _ _⟩
  case round =>
    obtain ⟨l, HL, HN, hll, HV, BW⟩ := hrel
    obtain ⟨ab, cb, rfl⟩ := num_form HL.out
    have hwl : Hid (Nt.Ws l) := by obtain ⟨_, _, _, _, h, _⟩ := HL.out; exact h
    clear HA HNA
    by_cases hbig : 2 ^ 255 ≤ Nt.val l
    · have h8 := Nt.len_big hwl.out hbig
      have HBIG := Lib.hid hbig
      clear hbig
      obtain ⟨b, off, rfl, hbw, hAt⟩ : ∃ b off, ab = some ⟨b, off, none⟩ ∧ b < wr.heap.size ∧ At wr .u32 b off l := by
        obtain ⟨a', c', hv, _, _, hm⟩ := HL.out
        simp only [Value.slice.injEq] at hv
        obtain ⟨rfl, -, -⟩ := hv
        rcases hm with h | h
        · rw [h] at h8; simp at h8
        · exact h
      have HAT := Lib.hid hAt
      have HMEAS : Hid (Nt.val (rdn wr (.slice (some ⟨b, off, none⟩) l.length cb)) = Nt.val l) := by show _ = _; rw [rdn_num HL.out]
      have hx := hwl.out.getD 7
      have HX31 : Hid (bits BinOp.and IntKind.u32 (l.getD 7 0) 2147483647 = l.getD 7 0 % 2147483648) := mask31 _ hx.1 hx.2
      clear hAt hx
      have hl1 : l.length ≤ 100000 := by omega
      have HLEN := Lib.hid (len_any _ _ _ HL.out hl1)
      by_cases h9 : l.length = 8
      · have H9 := Lib.hid h9
        clear h9
        go_wp2_with (first
          | (go_at_call 41; refine (plusn_any _ _ _ _ _ HT7.out HX7.out (by rw [Nt.length_trim]; refine Nat.le_trans (Nt.cut_le _ _) ?_; rw [Nt.low255_len h8]; decide) (by have := HX7L.out; have := HDL.out; have e1 : ([19] : List Int).length = 1 := rfl; omega)).mono ?_; rintro e w8 ⟨v8, l8, rfl, hp1, hp2, hp3, hp4, hp5⟩; have HP1 := Lib.hid hp1; have HP2 := Lib.hid hp2; have HP3' := Lib.hid hp3; have HB8 := Lib.hid (HB7.out.trans (hp5.mono HB7.out.size)); clear hp1 hp2 hp3 hp4 hp5)
          | (go_at_call 47; refine (times_probe _ _ _ _ _ _ [19] (HD6.out.below ((Below.refl _ _).alloc (Nat.le_refl _) _) (Nat.le_refl _)) (num_blk (heap_alloc_new w6 _) rfl (by intro x hx; rw [List.mem_singleton] at hx; rw [hx]; unfold W32; decide)) (by have := HDL.out; omega) (by decide)).mono ?_; rintro e w7 ⟨v7, l7, rfl, hp1, hp2, hp3, hp4, hp5⟩; have HX7 := Lib.hid hp1; have HX7V := Lib.hid hp2; have HX7L := Lib.hid hp4; have HT7 := Lib.hid (HT6.out.below (((Below.refl w6.heap.size w6).alloc (Nat.le_refl _) _).trans (hp5.mono (by simp))) (Nat.le_refl _)); have HB7 := Lib.hid ((HB6.out.alloc HB6.out.size _).trans (hp5.mono (HB6.out.alloc HB6.out.size _).size)); clear hp1 hp2 hp3 hp4 hp5)
          | (go_at_call 44; refine (trim_any _ _ _ HNUM.out (by rw [Nt.low255_len h8]; decide)).mono ?_; rintro e w6 ⟨v6, rfl, hp1, hp2⟩; have HT6 := Lib.hid hp1; have HD6 := Lib.hid (HD1.out.below (HC5.out.trans (hp2.mono HC5.out.size)) (Nat.le_refl _)); have HB6 := Lib.hid (HB2.out.trans ((HC5.out.trans (hp2.mono HC5.out.size)).mono HB2.out.size)); have HTV := Lib.hid (Nt.val_trim (Nt.low255 l)); clear hp1 hp2)
          | (go_at_call 44; refine (trim_at _ _ _ _ (HP3.out.num hwl.out) (by omega)).mono ?_; rintro e w4 ⟨rfl, hb4⟩; rw [Nt.cut_neat HN.out, sliced_whole _ _ _ hcap0, H9.out]; obtain ⟨q1, q2, q3⟩ := own_mask hwl.out h8 ((hb4.block g (lt_of_block hg2)).trans hg2) hg5 hg3 hg4; have HNUM := Lib.hid q3; have HC5 := Lib.hid (((HP3.out.2.trans (hb4.mono HP3.out.2.size)).setCell (p := ⟨g, 7, none⟩) hg1 (.int .u32 (l.getD 7 0 % 2147483648)))); have hx31 := HX31.out; generalize l.getD 7 0 = x at *; clear hb4 q3 hg1 hg2 hg3 hg4 hg5)
          | ((with_reducible refine append_copy (o := ⟨some 11, _, _, _, _, _⟩) rfl (.const (.slice none 0 0)) (.tmp 10) rfl rfl b off cb l rfl ?_ ?_ ?_); exact HAT2.out; exact (by omega); intro v3 w3 hp3; obtain ⟨g, cap, cur, rfl, hg1, hg2, hg3, hg4, hg5⟩ := hp3.block (by omega); have HP3 := Lib.hid hp3; have hcap0 : 0 < cap := by omega)
          | (go_at_call 50; refine (down_any _ _ _ HL.out (by omega)).mono ?_; rintro e w2 ⟨vh, lh, rfl, hd1, hd2, hd3, hd4, hd5⟩; obtain ⟨ah, ch, rfl⟩ := num_form hd1; have HD1 := Lib.hid hd1; have HD2 := Lib.hid hd2; have HDL := Lib.hid hd4; have HB2 := Lib.hid (BW.out.trans (hd5.mono BW.out.size)); have HAT2 := Lib.hid (HAT.out.below hd5 hbw); clear hd1 hd2 hd3 hd4 hd5)
          | (go_at_call 49; refine HLEN.out.mono ?_; rintro e w1 ⟨m, rfl, h1, h2, h3, rfl⟩; have hm := Nt.bits_big HBIG.out h1; clear h1 h2 h3))
        have he : Nt.val l8 = Nt.val l % 2 ^ 255 + Nt.val l / 2 ^ 255 * 19 := by
          rw [HP2.out, HTV.out, HX7V.out, HD2.out, Nt.low255_val hwl.out h8]
          rfl
        have hlt := Nt.fold_lt HBIG.out he
        have hmo := (Nt.fold_mod he).trans HV.out
        have hw8 : Nt.Ws l8 := by obtain ⟨_, _, _, _, h, _⟩ := HP1.out; exact h
        have hle := Nt.len_le hwl.out hw8 HP3'.out (Int.le_of_lt hlt)
        have h08 := Nt.val_nonneg hw8
        go_roundw
        case rel => exact ⟨l8, HP1, HP3', by omega, hmo, HB8⟩
        case measure => rw [rdn_num HP1.out, rdn_num HL.out]; omega
      · have h9' : 8 < l.length := by omega
        clear h9
        go_wp2_with (first
          | (go_at_call 41; refine (plusn_any _ _ _ _ _ HT7.out HX7.out (by rw [Nt.length_trim]; refine Nat.le_trans (Nt.cut_le _ _) ?_; rw [Nt.low255_len h8]; decide) (by have := HX7L.out; have := HDL.out; have e1 : ([19] : List Int).length = 1 := rfl; omega)).mono ?_; rintro e w8 ⟨v8, l8, rfl, hp1, hp2, hp3, hp4, hp5⟩; have HP1 := Lib.hid hp1; have HP2 := Lib.hid hp2; have HP3' := Lib.hid hp3; have HB8 := Lib.hid (HB7.out.trans (hp5.mono HB7.out.size)); clear hp1 hp2 hp3 hp4 hp5)
          | (go_at_call 47; refine (times_probe _ _ _ _ _ _ [19] (HD6.out.below ((Below.refl _ _).alloc (Nat.le_refl _) _) (Nat.le_refl _)) (num_blk (heap_alloc_new w6 _) rfl (by intro x hx; rw [List.mem_singleton] at hx; rw [hx]; unfold W32; decide)) (by have := HDL.out; omega) (by decide)).mono ?_; rintro e w7 ⟨v7, l7, rfl, hp1, hp2, hp3, hp4, hp5⟩; have HX7 := Lib.hid hp1; have HX7V := Lib.hid hp2; have HX7L := Lib.hid hp4; have HT7 := Lib.hid (HT6.out.below (((Below.refl w6.heap.size w6).alloc (Nat.le_refl _) _).trans (hp5.mono (by simp))) (Nat.le_refl _)); have HB7 := Lib.hid ((HB6.out.alloc HB6.out.size _).trans (hp5.mono (HB6.out.alloc HB6.out.size _).size)); clear hp1 hp2 hp3 hp4 hp5)
          | (go_at_call 44; refine (trim_any _ _ _ HNUM.out (by rw [Nt.low255_len h8]; decide)).mono ?_; rintro e w6 ⟨v6, rfl, hp1, hp2⟩; have HT6 := Lib.hid hp1; have HD6 := Lib.hid (HD1.out.below (HC5.out.trans (hp2.mono HC5.out.size)) (Nat.le_refl _)); have HB6 := Lib.hid (HB2.out.trans ((HC5.out.trans (hp2.mono HC5.out.size)).mono HB2.out.size)); have HTV := Lib.hid (Nt.val_trim (Nt.low255 l)); clear hp1 hp2)
          | (go_at_call 44; refine (trim_at _ _ _ _ (HP3.out.num hwl.out) (by omega)).mono ?_; rintro e w4 ⟨rfl, hb4⟩; rw [Nt.cut_neat HN.out, sliced_whole _ _ _ hcap0]; have hcut := run_cut8 g l.length cap (by omega); obtain ⟨q1, q2, q3⟩ := own_mask hwl.out h8 ((hb4.block g (lt_of_block hg2)).trans hg2) hg5 hg3 hg4; have HNUM := Lib.hid q3; have HC5 := Lib.hid (((HP3.out.2.trans (hb4.mono HP3.out.2.size)).setCell (p := ⟨g, 7, none⟩) hg1 (.int .u32 (l.getD 7 0 % 2147483648)))); have hx31 := HX31.out; generalize l.getD 7 0 = x at *; clear hb4 q3 hg1 hg2 hg3 hg4 hg5)
          | ((with_reducible refine append_copy (o := ⟨some 11, _, _, _, _, _⟩) rfl (.const (.slice none 0 0)) (.tmp 10) rfl rfl b off cb l rfl ?_ ?_ ?_); exact HAT2.out; exact (by omega); intro v3 w3 hp3; obtain ⟨g, cap, cur, rfl, hg1, hg2, hg3, hg4, hg5⟩ := hp3.block (by omega); have HP3 := Lib.hid hp3; have hcap0 : 0 < cap := by omega)
          | (go_at_call 50; refine (down_any _ _ _ HL.out (by omega)).mono ?_; rintro e w2 ⟨vh, lh, rfl, hd1, hd2, hd3, hd4, hd5⟩; obtain ⟨ah, ch, rfl⟩ := num_form hd1; have HD1 := Lib.hid hd1; have HD2 := Lib.hid hd2; have HDL := Lib.hid hd4; have HB2 := Lib.hid (BW.out.trans (hd5.mono BW.out.size)); have HAT2 := Lib.hid (HAT.out.below hd5 hbw); clear hd1 hd2 hd3 hd4 hd5)
          | (go_at_call 49; refine HLEN.out.mono ?_; rintro e w1 ⟨m, rfl, h1, h2, h3, rfl⟩; have hm := Nt.bits_big HBIG.out h1; clear h1 h2 h3))
        have he : Nt.val l8 = Nt.val l % 2 ^ 255 + Nt.val l / 2 ^ 255 * 19 := by
          rw [HP2.out, HTV.out, HX7V.out, HD2.out, Nt.low255_val hwl.out h8]
          rfl
        have hlt := Nt.fold_lt HBIG.out he
        have hmo := (Nt.fold_mod he).trans HV.out
        have hw8 : Nt.Ws l8 := by obtain ⟨_, _, _, _, h, _⟩ := HP1.out; exact h
        have hle := Nt.len_le hwl.out hw8 HP3'.out (Int.le_of_lt hlt)
        have h08 := Nt.val_nonneg hw8
        go_roundw
        case rel => exact ⟨l8, HP1, HP3', by omega, hmo, HB8⟩
        case measure => rw [rdn_num HP1.out, rdn_num HL.out]; omega
    · have hsm : Nt.val l < 2 ^ 255 := by omega
      have HSM := Lib.hid hsm
      have hl1 : l.length ≤ 100000 := by omega
      have hl8 := Nt.len8 hwl.out HN.out hsm
      have HLEN := Lib.hid (len_any _ _ _ HL.out hl1)
      have h0 := Nt.val_nonneg hwl.out
      clear hbig
      by_cases hP : Fe.P ≤ Nt.val l
      · have HP := Lib.hid hP
        have HFIN := Lib.hid (Nt.last_big hP hsm)
        clear hP hsm h0
        go_wp2_with (first
          | (go_at_call 42; refine (lessn_any _ _ _ _ _ HL4.out HP5.out (by omega) (by rw [Nt.prime_P]; exact HP.out)).mono ?_; rintro e w6 ⟨v6, l6, rfl, hp1, hp2, hp3, hp4, hp5⟩; have HR1 := Lib.hid hp1; have HR2 := Lib.hid hp2; have HR3 := Lib.hid hp3; have HR4 := Lib.hid hp4; have HB6 := Lib.hid (HB5.out.trans (hp5.mono HB5.out.size)); clear hp1 hp2 hp3 hp4 hp5)
          | (go_at_call 43; refine (p_any w4).mono ?_; rintro e w5 ⟨v5, rfl, hp1, hp2⟩; have HP5 := Lib.hid hp1; have HL4 := Lib.hid (HL3.out.below hp2 (Nat.le_refl _)); have HB5 := Lib.hid (HB4.out.trans (hp2.mono HB4.out.size)); clear hp1 hp2)
          | (go_at_call 24; refine (cmp_any _ _ _ _ _ HL2.out HP2.out (by omega) (by decide)).mono ?_; rintro e w4 ⟨r, rfl, hr1, hr2, hr3⟩; have hr : 0 ≤ r := Int.not_lt.1 (fun h => absurd (hr2.1 h) (Int.not_lt.2 (Nt.prime_P ▸ HP.out))); have HB4 := Lib.hid (HB3.out.trans (hr3.mono HB3.out.size)); have HL3 := Lib.hid (HL2.out.below hr3 (Nat.le_refl _)); clear hr1 hr2 hr3)
          | (go_at_call 43; refine (p_any _).mono ?_; rintro e w3 ⟨v3, rfl, hp1, hp2⟩; have HP2 := Lib.hid hp1; have HL2 := Lib.hid (HL.out.below hp2 (Nat.le_refl _)); have HB3 := Lib.hid (BW.out.trans (hp2.mono BW.out.size)); clear hp1 hp2)
          | (go_at_call 49; refine HLEN.out.mono ?_; rintro e w1 ⟨m, rfl, h1, h2, h3, rfl⟩; have hm := Nt.bits_small HSM.out h2; clear h1 h2 h3))
        go_ret
        refine ⟨_, _, rfl, HR1.out, ?_, HR3.out, Nat.le_trans HR4.out hl8, HB6.out⟩
        rw [HR2.out, Nt.prime_P, HFIN.out]
        exact HV.out
      · have HP := Lib.hid (Int.not_le.1 hP)
        have HFIN := Lib.hid (Nt.last_small h0 hP)
        clear hP hsm h0
        go_wp2_with (first
          | (go_at_call 24; refine (cmp_any _ _ _ _ _ HL2.out HP2.out (by omega) (by decide)).mono ?_; rintro e w4 ⟨r, rfl, hr1, hr2, hr3⟩; have hr : r < 0 := hr2.2 (Nt.prime_P ▸ HP.out); have HB4 := Lib.hid (HB3.out.trans (hr3.mono HB3.out.size)); have HL3 := Lib.hid (HL2.out.below hr3 (Nat.le_refl _)); clear hr1 hr2 hr3)
          | (go_at_call 43; refine (p_any _).mono ?_; rintro e w3 ⟨v3, rfl, hp1, hp2⟩; have HP2 := Lib.hid hp1; have HL2 := Lib.hid (HL.out.below hp2 (Nat.le_refl _)); have HB3 := Lib.hid (BW.out.trans (hp2.mono BW.out.size)); clear hp1 hp2)
          | (go_at_call 49; refine HLEN.out.mono ?_; rintro e w1 ⟨m, rfl, h1, h2, h3, rfl⟩; have hm := Nt.bits_small HSM.out h2; clear h1 h2 h3))
        go_ret
        exact ⟨_, _, rfl, HL3.out, HFIN.out.trans HV.out, HN.out, hl8, HB4.out⟩
end Go.Proofs.YtgebangnhgmmoaaDoor

/- The reference's arithmetic, the walks: sums, differences, products modulo 2^255 - 19. -/
namespace Go.Proofs.YtgebangnhgmmoaaDoor
open Go.RowKit

set_option maxRecDepth 100000 in
set_option maxHeartbeats 400000 in
theorem radd_any (w : World) (va vb : Value) (a b : List Int) (ha : Num w va a) (hb : Num w vb b) (hla : a.length ≤ 20000) (hlb : b.length ≤ 20000) :
    Calls Tryd.prog 19 #[va, vb] w fun e w' => ∃ v' l, e = .returned v' ∧ Num w' v' l ∧ Nt.val l = (Nt.val a + Nt.val b) % Fe.P ∧ Nt.Neat l ∧ l.length ≤ 8 ∧ Below w.heap.size w w' := by
  have H1 := Lib.hid (plusn_any w va vb a b ha hb (by omega) (by omega))
  clear ha hb
  go_enter Tryd.func19, Tryd.ntmps19
  go_wp2_with (first
    | (go_at_call 37; refine (mod_any _ _ _ HP1.out HP3.out (by have := HP4.out; omega)).mono ?_; rintro e w2 ⟨v2, l2, rfl, hp1, hp2, hp3, hp4, hp5⟩; have HQ1 := Lib.hid hp1; have HQ2 := Lib.hid hp2; have HQ3 := Lib.hid hp3; have HQ4 := Lib.hid hp4; have HB2 := Lib.hid (HB1.out.trans (hp5.mono HB1.out.size)); clear hp1 hp2 hp3 hp4 hp5)
    | (go_at_call 41; refine H1.out.mono ?_; rintro e w1 ⟨v1, l1, rfl, hp1, hp2, hp3, hp4, hp5⟩; have HP1 := Lib.hid hp1; have HP2 := Lib.hid hp2; have HP3 := Lib.hid hp3; have HP4 := Lib.hid hp4; have HB1 := Lib.hid hp5; clear hp1 hp2 hp3 hp4 hp5))
  go_ret
  exact ⟨_, _, rfl, HQ1.out, by rw [HQ2.out, HP2.out], HQ3.out, HQ4.out, HB2.out⟩

set_option maxRecDepth 100000 in
set_option maxHeartbeats 400000 in
theorem rmul_any (w : World) (va vb : Value) (a b : List Int) (ha : Num w va a) (hb : Num w vb b) (hla : a.length ≤ 20000) (hlb : b.length ≤ 20000) :
    Calls Tryd.prog 26 #[va, vb] w fun e w' => ∃ v' l, e = .returned v' ∧ Num w' v' l ∧ Nt.val l = (Nt.val a * Nt.val b) % Fe.P ∧ Nt.Neat l ∧ l.length ≤ 8 ∧ Below w.heap.size w w' := by
  obtain ⟨aa, ca, rfl⟩ := num_form ha
  obtain ⟨ab, cb, rfl⟩ := num_form hb
  have H1 := Lib.hid (times_probe w aa ab ca cb a b ha hb (by omega) (by omega))
  clear ha hb
  go_enter Tryd.func26, Tryd.ntmps26
  go_wp2_with (first
    | (go_at_call 37; refine (mod_any _ _ _ HP1.out HP3.out (by have := HP4.out; omega)).mono ?_; rintro e w2 ⟨v2, l2, rfl, hp1, hp2, hp3, hp4, hp5⟩; have HQ1 := Lib.hid hp1; have HQ2 := Lib.hid hp2; have HQ3 := Lib.hid hp3; have HQ4 := Lib.hid hp4; have HB2 := Lib.hid (HB1.out.trans (hp5.mono HB1.out.size)); clear hp1 hp2 hp3 hp4 hp5)
    | (go_at_call 47; refine H1.out.mono ?_; rintro e w1 ⟨v1, l1, rfl, hp1, hp2, hp3, hp4, hp5⟩; have HP1 := Lib.hid hp1; have HP2 := Lib.hid hp2; have HP3 := Lib.hid hp3; have HP4 := Lib.hid hp4; have HB1 := Lib.hid hp5; clear hp1 hp2 hp3 hp4 hp5))
  go_ret
  exact ⟨_, _, rfl, HQ1.out, by rw [HQ2.out, HP2.out], HQ3.out, HQ4.out, HB2.out⟩

set_option maxRecDepth 100000 in
set_option maxHeartbeats 400000 in
theorem rsub_any (w : World) (va vb : Value) (a b : List Int) (ha : Num w va a) (hb : Num w vb b) (hla : a.length ≤ 20000) (hle : Nt.val b ≤ Fe.P) :
    Calls Tryd.prog 21 #[va, vb] w fun e w' => ∃ v' l, e = .returned v' ∧ Num w' v' l ∧ Nt.val l = (Nt.val a - Nt.val b) % Fe.P ∧ Nt.Neat l ∧ l.length ≤ 8 ∧ Below w.heap.size w w' := by
  have hwa : Nt.Ws a := by obtain ⟨_, _, _, _, h, _⟩ := ha; exact h
  have h0 := Nt.val_nonneg hwa
  have HLE := Lib.hid (show Nt.val b ≤ Nt.val a + Nt.val Nt.prime by rw [Nt.prime_P]; omega)
  have HA := Lib.hid ha
  have HB := Lib.hid hb
  clear ha hb h0 hwa hle
  go_enter Tryd.func21, Tryd.ntmps21
  go_wp2_with (first
    | (go_at_call 37; refine (mod_any _ _ _ HS1.out HS3.out (by have := HS4.out; omega)).mono ?_; rintro e w4 ⟨v4, l4, rfl, hp1, hp2, hp3, hp4, hp5⟩; have HQ1 := Lib.hid hp1; have HQ2 := Lib.hid hp2; have HQ3 := Lib.hid hp3; have HQ4 := Lib.hid hp4; have HB4 := Lib.hid (HB3.out.trans (hp5.mono HB3.out.size)); clear hp1 hp2 hp3 hp4 hp5)
    | (go_at_call 42; refine (lessn_any _ _ _ _ _ HR1.out (HB.out.below HB2.out (Nat.le_refl _)) (by have := HR4.out; omega) (by rw [HR2.out]; exact HLE.out)).mono ?_; rintro e w3 ⟨v3, l3, rfl, hp1, hp2, hp3, hp4, hp5⟩; have HS1 := Lib.hid hp1; have HS2 := Lib.hid hp2; have HS3 := Lib.hid hp3; have HS4 : Hid (l3.length ≤ 40000) := (by have := HR4.out; show _ ≤ _; omega); have HB3 := Lib.hid (HB2.out.trans (hp5.mono HB2.out.size)); clear hp1 hp2 hp3 hp4 hp5)
    | (go_at_call 41; refine (plusn_any _ _ _ _ _ (HA.out.below HB1.out (Nat.le_refl _)) HP1.out (by omega) (by decide)).mono ?_; rintro e w2 ⟨v2, l2, rfl, hp1, hp2, hp3, hp4, hp5⟩; have HR1 := Lib.hid hp1; have HR2 := Lib.hid hp2; have HR4 : Hid (l2.length ≤ 40000) := (by have e8 : Nt.prime.length = 8 := rfl; show _ ≤ _; omega); have HB2 := Lib.hid (HB1.out.trans (hp5.mono HB1.out.size)); clear hp1 hp2 hp3 hp4 hp5)
    | (go_at_call 43; refine (p_any _).mono ?_; rintro e w1 ⟨v1, rfl, hp1, hp2⟩; have HP1 := Lib.hid hp1; have HB1 := Lib.hid hp2; clear hp1 hp2))
  go_ret
  refine ⟨_, _, rfl, HQ1.out, ?_, HQ3.out, HQ4.out, HB4.out⟩
  rw [HQ2.out, HS2.out, HR2.out, Nt.prime_P, show Nt.val a + Fe.P - Nt.val b = Nt.val a - Nt.val b + Fe.P by omega, Int.add_emod_right]
end Go.Proofs.YtgebangnhgmmoaaDoor

/- The reference's arithmetic, the walks: the number of 32 bytes. -/
namespace Go.Proofs.YtgebangnhgmmoaaDoor
open Go.RowKit

theorem mask7 (v : Int) (h0 : 0 ≤ v) (h1 : v ≤ 255) : bits BinOp.and IntKind.u8 v 127 = v % 128 := by
  obtain ⟨n, rfl⟩ := Int.eq_ofNat_of_zero_le h0
  have h := u8_and_nat n 127 (by omega) (by decide)
  have h2 : n &&& 127 = n % 128 := Nat.and_two_pow_sub_one_eq_mod n 7
  rw [h2] at h
  rw [Int.natCast_emod] at h
  exact h
theorem append_bytes {w : World} {ops : Array Oper} {rest : List Oper} {o : Oper} {a : Act} {Q : Exit → Act → World → Prop} (hgd : o.guard = none) (s x : Operand)
    (ho : o.op = .call { callee := .builtin .append, args := #[s, x], argTypes := #[22, 22] })
    (hs : a.eval s = .slice none 0 0) (b off c : Nat) (l : List Int) (hx : a.eval x = .slice (some ⟨b, off, none⟩) l.length c) (hl : At w .u8 b off l) (hlen : l.length ≤ 100000000)
    (h : ∀ v' w', Mine .u8 5 w w' v' l → wpList Tryd.prog ops Q rest (a.put o.dst v') w') :
    wpList Tryd.prog ops Q (o :: rest) a w := by
  obtain ⟨i0, hi, hz0, hz1, hz2⟩ := info_parts info5b
  refine wpList_append_own_at w hgd s x 22 ho w.heap.size 5 i0 (.int .u8 0) 1 1 Tryd.underlying22 hi hz0 hz1 hz2 rfl (by decide) (.slice none 0 0) 0 [] hs ⟨rfl, Or.inl ⟨rfl, rfl⟩⟩ ⟨b, off, none⟩ l.length c (l.map (Value.int .u8)) hx (by rw [List.length_map, Nat.mul_one]) (src_of_at hl) ?_ (by unfold maxLen; omega) (by omega) (Nat.le_refl _) ?_
  · intro u hu
    simp only [List.mem_map] at hu
    obtain ⟨y, _, rfl⟩ := hu; rfl
  · intro v' w' h1 h2 _ _
    rw [Nat.zero_add, List.nil_append] at h1
    exact h v' w' ⟨h1, own_below (Below.refl _ _) (xs := []) (e := 5) (k := 0) ⟨rfl, Or.inl ⟨rfl, rfl⟩⟩ h2⟩
/-- A word of what was made since is another one. -/
theorem own_set {k : IntKind} {e : TypeId} {bd : Int → Prop} {w : World} {g cap j : Nat} {cur : Array Value} {l : List Int} {x : Int} (hw : ∀ y ∈ l, bd y) (hx : bd x) (hj : j < l.length) (hg : w.heap[g]? = some (.cells cur e (0, 0))) (ht : cur.toList.take l.length = l.map (Value.int k)) (hc : l.length ≤ cap) (hs : l.length ≤ cur.size) :
    w.cell? ⟨g, j, none⟩ = some (.int k (l.getD j 0)) ∧ w.frozen? ⟨g, j, none⟩ = false ∧ Sl k bd (w.setCell ⟨g, j, none⟩ (.int k x)) (.slice (some ⟨g, 0, none⟩) l.length cap) (l.set j x) := by
  have hcell : ∀ j, j < l.length → cur[j]? = some (.int k (l.getD j 0)) := by
    intro j hj
    have e : (cur.toList.take l.length)[j]? = some (.int k (l.getD j 0)) := by rw [ht]; simp [hj]
    rw [List.getElem?_take_of_lt hj] at e
    simpa using e
  refine ⟨?_, frozen_of_row w g j _ e hg, ?_⟩
  · rw [cell_of_row w g j _ e (0, 0) hg]
    exact hcell j hj
  · have hg2 := heap_setCell_same w g j _ e (.int k x) hg
    refine ⟨_, cap, by rw [List.length_set], by rw [List.length_set]; omega, ?_, Or.inr ⟨g, 0, rfl, lt_of_block hg2, fun i hi => ?_⟩⟩
    · intro y hy
      rcases List.mem_or_eq_of_mem_set hy with h | h
      · exact hw y h
      · rw [h]; exact hx
    rw [List.length_set] at hi
    rw [Nat.zero_add, cell_of_row _ g i _ e (0, 0) hg2]
    by_cases h7 : i = j
    · subst h7
      rw [Array.getElem?_setIfInBounds_self_of_lt (by omega)]
      simp [hi]
    · rw [Array.getElem?_setIfInBounds_ne (by omega), hcell i hi]
      simp [List.getD_eq_getElem?_getD, List.getElem?_set_ne (show j ≠ i by omega)]

namespace Bt
/-- Without the highest bit. -/
theorem low_top {p : List Int} (h8 : ∀ x ∈ p, W8 x) (hl : p.length = 32) : low (p.set 31 (p.getD 31 0 % 128)) = low p % 2 ^ 255 := by
  have hm := Nt.low_more p 31 (by omega)
  rw [List.take_of_length_le (by omega)] at hm
  have hm2 := Nt.low_more (p.set 31 (p.getD 31 0 % 128)) 31 (by rw [List.length_set]; omega)
  rw [List.take_of_length_le (by rw [List.length_set]; omega)] at hm2
  have e1 : (p.set 31 (p.getD 31 0 % 128)).take 31 = p.take 31 := by
    rw [List.take_set, List.set_eq_of_length_le (by rw [List.length_take]; omega)]
  have e2 : (p.set 31 (p.getD 31 0 % 128)).getD 31 0 = p.getD 31 0 % 128 := by
    rw [List.getD_eq_getElem?_getD, List.getElem?_set_self (by omega)]; rfl
  rw [e1, e2] at hm2
  have h3 := low_lt (p.take 31) (fun x hx => h8 x (List.mem_of_mem_take hx))
  rw [List.length_take, Nat.min_eq_left (by omega)] at h3
  have h4 : 0 ≤ p.getD 31 0 ∧ p.getD 31 0 ≤ 255 := by
    have hmm : p.getD 31 0 ∈ p := by rw [List.getD_eq_getElem?_getD, List.getElem?_eq_getElem (show 31 < p.length by omega)]; exact List.getElem_mem (show 31 < p.length by omega)
    have := h8 _ hmm
    unfold W8 at this; omega
  rw [hm, hm2]
  obtain ⟨n, hn⟩ := Int.eq_ofNat_of_zero_le h4.1
  rw [hn] at *
  rw [show ((n : Int) % 128).toNat = n % 128 by omega, show ((n : Int)).toNat = n by omega]
  generalize low (p.take 31) = u at *
  simp only [Nat.reducePow, Nat.reduceMul] at *
  omega
end Bt

set_option maxRecDepth 100000 in
set_option maxHeartbeats 400000 in
theorem of_none (w : World) (a : Option Addr) (n c : Nat) (hn : n ≠ 32) :
    Calls Tryd.prog 10 #[.slice a n c] w fun e w' => e = .returned (.slice none 0 0) ∧ Below w.heap.size w w' := by
  go_enter Tryd.func10, Tryd.ntmps10
  go_wp2_with fail
  go_ret
  exact ⟨rfl, Below.refl _ _⟩

set_option maxRecDepth 100000 in
set_option maxHeartbeats 400000 in
theorem of_32 (w : World) (a : Option Addr) (c : Nat) (p : List Int) (hl : p.length = 32) (hp : Slc w (.slice a 32 c) p) :
    Calls Tryd.prog 10 #[.slice a 32 c] w fun e w' => ∃ v' l, e = .returned v' ∧ Num w' v' l ∧ Nt.val l = ((Bt.low p % 2 ^ 255 : Nat) : Int) % Fe.P ∧ Nt.Neat l ∧ l.length ≤ 8 ∧ Below w.heap.size w w' := by
  obtain ⟨b, off, rfl, hbw, hAt, h8⟩ : ∃ b off, a = some ⟨b, off, none⟩ ∧ b < w.heap.size ∧ At w .u8 b off p ∧ ∀ x ∈ p, W8 x := by
    obtain ⟨a', c', hv, _, h8, hm⟩ := hp
    simp only [Value.slice.injEq] at hv
    obtain ⟨rfl, -, -⟩ := hv
    rcases hm with h | ⟨b, off, h1, h2, h3⟩
    · rw [h] at hl; simp at hl
    · exact ⟨b, off, h1, h2, h3, h8⟩
  have HAT := Lib.hid hAt
  have H8 := Lib.hid h8
  have HL := Lib.hid hl
  have hx : W8 (p.getD 31 0) := by
    have hmm : p.getD 31 0 ∈ p := by rw [List.getD_eq_getElem?_getD, List.getElem?_eq_getElem (show 31 < p.length by omega)]; exact List.getElem_mem (show 31 < p.length by omega)
    exact h8 _ hmm
  have HX := Lib.hid hx
  have HM := Lib.hid (mask7 _ hx.1 hx.2)
  have HLOW := Lib.hid (Bt.low_top h8 hl)
  clear hp hAt h8 hx hl
  go_enter Tryd.func10, Tryd.ntmps10
  go_wp2_with (first
    | (go_at_call 37; refine (mod_any _ _ _ HP1.out HP3.out (by have := HP4.out; omega)).mono ?_; rintro e w2 ⟨v2, l2, rfl, hp1, hp2, hp3, hp4, hp5⟩; have HQ1 := Lib.hid hp1; have HQ2 := Lib.hid hp2; have HQ3 := Lib.hid hp3; have HQ4 := Lib.hid hp4; have HB2 := Lib.hid (HB1.out.trans (hp5.mono HB1.out.size)); clear hp1 hp2 hp3 hp4 hp5)
    | (go_at_call 33; refine (low_any _ _ _ HNUM.out (by rw [List.length_set, HL.out]; decide)).mono ?_; rintro e w1 ⟨v1, l1, rfl, hp1, hp2, hp3, hp4, hp5⟩; have HP1 := Lib.hid hp1; have HP2 := Lib.hid hp2; have HP3 := Lib.hid hp3; have HP4 : Hid (l1.length ≤ 100) := (by rw [List.length_set, HL.out] at hp4; show _ ≤ _; omega); have HB1 := Lib.hid (HC5.out.trans (hp5.mono HC5.out.size)); clear hp1 hp2 hp3 hp4 hp5)
    | ((with_reducible refine append_bytes (o := ⟨some 9, _, _, _, _, _⟩) rfl (.tmp 7) (.tmp 8) rfl rfl b off c p ?_ ?_ ?_ ?_); exact (by rw [HL.out]; rfl); exact HAT.out; exact (by rw [HL.out]; decide); intro v3 w3 hp3; obtain ⟨g, cap, cur, rfl, hg1, hg2, hg3, hg4, hg5⟩ := hp3.block (by rw [HL.out]; decide); obtain ⟨q1, q2, q3⟩ := own_set (bd := W8) (j := 31) (x := p.getD 31 0 % 128) H8.out (by have := HX.out; unfold W8 at *; omega) (by rw [HL.out]; decide) hg2 hg5 hg3 hg4; rw [HL.out] at q3; rw [HL.out]; have HNUM := Lib.hid q3; have HC5 := Lib.hid (hp3.2.setCell (p := ⟨g, 31, none⟩) hg1 (.int .u8 (p.getD 31 0 % 128))); have hm7 := HM.out; generalize p.getD 31 0 = x at *; clear q3 hg1 hg2 hg3 hg4 hg5 hp3))
  go_ret
  exact ⟨_, _, rfl, HQ1.out, by rw [HQ2.out, HP2.out, HLOW.out], HQ3.out, HQ4.out, HB2.out⟩
end Go.Proofs.YtgebangnhgmmoaaDoor

/- The laws' own helpers, the walks: an element's number; is an element a number? -/
namespace Go.Proofs.YtgebangnhgmmoaaDoor
open Go.RowKit

namespace Bt
theorem low_append : ∀ (l : List Int) (x : Int), low (l ++ [x]) = low l + 256 ^ l.length * x.toNat
  | [], x => by simp [low]
  | y :: r, x => by
    show y.toNat + 256 * low (r ++ [x]) = y.toNat + 256 * low r + 256 ^ (r.length + 1) * x.toNat
    rw [low_append r x, Nat.pow_succ]
    grind
theorem low_range (N : Nat) : ∀ n, low ((List.range n).map fun j => ((N / 2 ^ (8 * j) % 2 ^ 8 : Nat) : Int)) = N % 2 ^ (8 * n)
  | 0 => by simp [low, Nat.mod_one]
  | n + 1 => by
    rw [List.range_succ, List.map_append, List.map_cons, List.map_nil, low_append, low_range N n, List.length_map, List.length_range, Int.toNat_natCast]
    rw [show 8 * (n + 1) = 8 * n + 8 by omega, Nat.pow_add 2 (8 * n) 8, Nat.mod_mul, Nat.pow_mul]
theorem low_row {N : Nat} (h : N < 2 ^ 255) : low (row 8 32 N 255) = N := by
  have e := low_range (N % 2 ^ 255) 32
  show low ((List.range 32).map fun j => ((N % 2 ^ 255 / 2 ^ (8 * j) % 2 ^ 8 : Nat) : Int)) = N
  rw [e, Nat.mod_eq_of_lt h, Nat.mod_eq_of_lt (Nat.lt_of_lt_of_le h (Nat.pow_le_pow_right (by decide) (by decide)))]
theorem row_W8 (N : Nat) : ∀ x ∈ row 8 32 N 255, W8 x := by
  intro x hx
  unfold row at hx
  rw [List.mem_map] at hx
  obtain ⟨j, _, rfl⟩ := hx
  have := place_lt 8 N 255 j
  unfold W8
  omega
end Bt
theorem Fe.P_two : Fe.P < 2 ^ 255 := by decide
theorem Fe.mod_nat (x : Int) : ∃ N : Nat, x % Fe.P = (N : Int) ∧ N < 2 ^ 255 := by
  have h1 := Int.emod_nonneg x (show Fe.P ≠ 0 by decide)
  have h2 := Int.emod_lt_of_pos x (show 0 < Fe.P by decide)
  have h3 := Fe.P_two
  obtain ⟨N, hN⟩ := Int.eq_ofNat_of_zero_le h1
  refine ⟨N, hN, ?_⟩
  have h4 : (N : Int) < 2 ^ 255 := by omega
  exact_mod_cast h4
theorem slc_blk {w : World} {g : Nat} {l : List Int} {n : Nat} {t : TypeId} (h : Blk w g .u8 t l) (hl : l.length = n) (hw : ∀ x ∈ l, W8 x) : Slc w (.slice (some ⟨g, 0, none⟩) n n) l :=
  ⟨_, n, by rw [hl], by omega, hw, Or.inr ⟨g, 0, rfl, h.lt, h.at⟩⟩

set_option maxRecDepth 100000 in
set_option maxHeartbeats 400000 in
theorem rnum_any (w : World) (x : Fe.E) (hx : Fe.Ok x) :
    Calls Tryd.prog 38 #[.agg (ec x)] w fun e w' => ∃ v' l, e = .returned v' ∧ Num w' v' l ∧ Nt.val l = Fe.val x % Fe.P ∧ Nt.Neat l ∧ l.length ≤ 8 ∧ Below w.heap.size w w' := by
  obtain ⟨N, hN, hN2⟩ := Fe.mod_nat (Fe.val x)
  have h1 := heap_alloc_new w (.cells (ec x) 30)
  have HB := Lib.hid ((Below.refl w.heap.size w).alloc (Nat.le_refl _) (.cells (ec x) 30))
  have HS := Lib.hid (bytes_any (w.alloc (.cells (ec x) 30)) x hx N hN)
  have HN := Lib.hid hN
  have HL := Lib.hid (Bt.low_row hN2)
  clear hx hN hN2
  go_enter Tryd.func38, Tryd.ntmps38
  go_wp2_with (first
    | (go_at_call 33; refine (low_any _ _ _ HSL.out (by rw [Bt.row_length]; decide)).mono ?_; rintro e w6 ⟨v6, l6, rfl, hp1, hp2, hp3, hp4, hp5⟩; have HP1 := Lib.hid hp1; have HP2 := Lib.hid hp2; have HP3 := Lib.hid hp3; have HP4 : Hid (l6.length ≤ 8) := (by rw [Bt.row_length] at hp4; show _ ≤ _; omega); have HB6 := Lib.hid (HB5.out.trans (hp5.mono HB5.out.size)); clear hp1 hp2 hp3 hp4 hp5)
    | (go_at_call 13; refine HS.out.mono ?_; rintro e w5 ⟨g, rfl, hb1, hb2⟩; have HSL := Lib.hid (slc_blk hb1 (Bt.row_length _ _ _ _) (Bt.row_W8 N)); have HB5 := Lib.hid (HB.out.trans (hb2.mono HB.out.size)); clear hb1 hb2)
    | ((with_reducible refine wpList_load_row (o := ⟨some 3, _, _, _, _, _⟩) rfl 30 (.tmp 1) rfl w.heap.size rfl 30 _ (0, 0) _ h1 Tryd.underlying30 rfl ?_ ?_); exact i30))
  go_ret
  exact ⟨_, _, rfl, HP1.out, by rw [HP2.out, HL.out, HN.out], HP3.out, HP4.out, HB6.out⟩

set_option maxRecDepth 100000 in
set_option maxHeartbeats 400000 in
theorem is_any (w : World) (x : Fe.E) (hx : Fe.Ok x) (vn : Value) (n : List Int) (hn : Num w vn n) (hl : n.length ≤ 20000) :
    Calls Tryd.prog 12 #[.agg (ec x), vn] w fun e w' => e = .returned (.bool (decide (Fe.val x % Fe.P = Nt.val n))) ∧ Below w.heap.size w w' := by
  have h1 := heap_alloc_new w (.cells (ec x) 30)
  have HB := Lib.hid ((Below.refl w.heap.size w).alloc (Nat.le_refl _) (.cells (ec x) 30))
  have HS := Lib.hid (rnum_any (w.alloc (.cells (ec x) 30)) x hx)
  have HN := Lib.hid hn
  clear hx hn
  go_enter Tryd.func12, Tryd.ntmps12
  go_wp2_with (first
    | (go_at_call 24; refine (cmp_any _ _ _ _ _ HP1.out (HN.out.below HB5.out (Nat.le_refl _)) (by have := HP4.out; omega) (by omega)).mono ?_; rintro e w6 ⟨r, rfl, hr1, hr2, hr3⟩; have HR : Hid ((r = 0) ↔ (Fe.val x % Fe.P = Nt.val n)) := (by rw [HP2.out] at hr1 hr2; show _ ↔ _; omega); have HB6 := Lib.hid (HB5.out.trans (hr3.mono HB5.out.size)); clear hr1 hr2 hr3)
    | (go_at_call 38; refine HS.out.mono ?_; rintro e w5 ⟨v5, l5, rfl, hp1, hp2, hp3, hp4, hp5⟩; have HP1 := Lib.hid hp1; have HP2 := Lib.hid hp2; have HP4 := Lib.hid hp4; have HB5 := Lib.hid (HB.out.trans (hp5.mono HB.out.size)); clear hp1 hp2 hp3 hp4 hp5)
    | ((with_reducible refine wpList_load_row (o := ⟨some 5, _, _, _, _, _⟩) rfl 30 (.tmp 2) rfl w.heap.size rfl 30 _ (0, 0) _ h1 Tryd.underlying30 rfl ?_ ?_); exact i30))
  go_ret
  exact ⟨congrArg (fun b => Ending.returned (.bool b)) (by first | exact decide_eq_decide.2 HR.out | (rw [show (r == 0) = decide (r = 0) from rfl]; exact decide_eq_decide.2 HR.out)), HB6.out⟩
end Go.Proofs.YtgebangnhgmmoaaDoor

/- Powers, the walks: an exponent by its ends. -/
namespace Go.Proofs.YtgebangnhgmmoaaDoor
open Go.RowKit

def fillk (k : Nat) : List Int := (List.range 32).map fun j => if j < k then 255 else 0
theorem fillk_length (k : Nat) : (fillk k).length = 32 := by simp [fillk]
theorem fillk_set (k : Nat) (_ : k < 32) : (fillk k).set k 255 = fillk (k + 1) := by
  refine List.ext_getElem (by simp [fillk]) fun j h1 h2 => ?_
  simp only [fillk, List.getElem_set, List.getElem_map, List.getElem_range]
  by_cases hj : k = j
  · rw [if_pos hj, if_pos (by omega)]
  · rw [if_neg hj]
    by_cases h3 : j < k
    · rw [if_pos h3, if_pos (by omega)]
    · rw [if_neg h3, if_neg (by omega)]
/-- 32 bytes: all but the first and the last are 255. -/
def ends (lo hi : Int) : List Int := ((fillk 32).set 0 lo).set 31 hi
theorem ends_length (lo hi : Int) : (ends lo hi).length = 32 := by simp [ends, fillk]
def bv (l : List Int) : Value := .agg (l.map (Value.int .u8)).toArray
theorem i23 : (Tryd.prog.info? 23).map (·.size) = some 32 := by kernel_rfl
theorem bytes_one (l : List Int) : (l.map (Value.int .u8)).toArray.all (·.oneCell') = true := by simp [Value.oneCell']

set_option maxRecDepth 100000 in
set_option maxHeartbeats 400000 in
theorem exponent_any (w : World) (lo hi : Int) :
    Calls Tryd.prog 48 #[.int .u8 lo, .int .u8 hi] w fun e w' => e = .returned (bv (ends lo hi)) ∧ Below w.heap.size w w' := by
  have q1 := heap_alloc2_old w (.cells ((fillk 0).map (Value.int .u8)).toArray 23) (.cells ((fillk 0).map (Value.int .u8)).toArray 23)
  have q2 := heap_alloc2_new w (.cells ((fillk 0).map (Value.int .u8)).toArray 23) (.cells ((fillk 0).map (Value.int .u8)).toArray 23)
  have q3 : Below w.heap.size w ((w.alloc (.cells ((fillk 0).map (Value.int .u8)).toArray 23)).alloc (.cells ((fillk 0).map (Value.int .u8)).toArray 23)) := ((Below.refl _ _).alloc (Nat.le_refl _) _).alloc (by simp) _
  have ZB := Lib.hid q1
  have EB : Hid (Blk ((w.alloc (.cells ((fillk 0).map (Value.int .u8)).toArray 23)).alloc (.cells ((fillk 0).map (Value.int .u8)).toArray 23)) (w.heap.size + 1) .u8 23 (fillk 0)) := q2
  have BW := Lib.hid q3
  clear q1 q2 q3
  go_enter Tryd.func48, Tryd.ntmps48
  go_wp2_with fail
  change Code.wp _ _ _ _ ((w.alloc (.cells ((fillk 0).map (Value.int .u8)).toArray 23)).alloc (.cells ((fillk 0).map (Value.int .u8)).toArray 23))
  generalize ((w.alloc (.cells ((fillk 0).map (Value.int .u8)).toArray 23)).alloc (.cells ((fillk 0).map (Value.int .u8)).toArray 23)) = w7 at *
  go_loopw [7] (fun i wr => ∃ k : Nat, k ≤ 32 ∧ i = .int .i64 k ∧ Hid (Blk wr (w.heap.size + 1) .u8 23 (fillk k)) ∧ Hid (wr.heap[w.heap.size]? = some (.cells ((fillk 0).map (Value.int .u8)).toArray 23 (0, 0))) ∧ Hid (Below w.heap.size w wr)) (fun i _ => 32 - (intOf i).toNat)
  case atStart => exact ⟨0, by omega, rfl, EB, ZB, BW⟩
  case round =>
    clear EB ZB BW
    obtain ⟨k, hk, rfl, EB, ZB, BW⟩ := hrel
    by_cases hlt : k < 32
    · have c1 := EB.out.cell k (by rw [fillk_length]; omega)
      have f1 := EB.out.free k
      have hset := EB.out.set k 255
      rw [fillk_set k hlt] at hset
      have hoth := fun v => heap_setCell_other wr ⟨w.heap.size + 1, k, none⟩ w.heap.size v (by simp)
      have HSET := Lib.hid hset
      have HOTH := Lib.hid hoth
      clear hset hoth
      generalize (fillk k).getD k 0 = o at *
      go_wp2
      go_roundw
      case rel => exact ⟨k + 1, by omega, by go_num, HSET.out, (HOTH.out _).trans ZB.out, BW.out.setCell (by simp) _⟩
      case measure => simp [intOf]; omega
    · have hk5 : ((k : Nat) : Int) = 32 := by omega
      rw [hk5]
      clear hk5
      obtain rfl : k = 32 := by omega
      have c1 := EB.out.cell 0 (by rw [fillk_length]; omega)
      have f1 := EB.out.free 0
      have hs1 := EB.out.set 0 lo
      have c2 := hs1.cell 31 (by rw [List.length_set, fillk_length]; omega)
      have f2 := hs1.free 31
      have hs2 := hs1.set 31 hi
      have hz := (heap_setCell_other (wr.setCell ⟨w.heap.size + 1, 0, none⟩ (.int .u8 lo)) ⟨w.heap.size + 1, 31, none⟩ w.heap.size (.int .u8 hi) (by simp)).trans ((heap_setCell_other wr ⟨w.heap.size + 1, 0, none⟩ w.heap.size (.int .u8 lo) (by simp)).trans ZB.out)
      have HB2 := Lib.hid ((BW.out.setCell (p := ⟨w.heap.size + 1, 0, none⟩) (by simp) (.int .u8 lo)).setCell (p := ⟨w.heap.size + 1, 31, none⟩) (by simp) (.int .u8 hi))
      have HS2 : Hid (((wr.setCell ⟨w.heap.size + 1, 0, none⟩ (.int .u8 lo)).setCell ⟨w.heap.size + 1, 31, none⟩ (.int .u8 hi)).heap[w.heap.size + 1]? = some (.cells ((ends lo hi).map (Value.int .u8)).toArray 23 (0, 0))) := hs2
      have HZ := Lib.hid hz
      clear hs1 hs2 hz
      generalize (fillk 32).getD 0 0 = o at *
      generalize ((fillk 32).set 0 lo).getD 31 0 = o2 at *
      go_wp2_with (first
        | ((with_reducible refine wpList_load_row (o := ⟨some 17, _, _, _, _, _⟩) rfl 23 (.tmp 5) rfl (w.heap.size + 1) rfl 23 _ (0, 0) _ HS2.out Tryd.underlying23 rfl ?_ ?_); exact i23)
        | ((with_reducible refine wpList_store_row (o := ⟨none, _, _, _, _, _⟩) rfl 23 (.tmp 4) (.tmp 17) rfl w.heap.size ((ends lo hi).map (Value.int .u8)).toArray rfl rfl 23 _ HZ.out ?_ ?_ ?_ ?_); exact i23; exact rfl; exact bytes_one _))
      exact bodyPost_ret (results_cell_row Tryd.results48 _ _ w.heap.size 23 _ (0, 0) _ rfl (setRow_heap _ w.heap.size _ ((ends lo hi).map (Value.int .u8)).toArray 23 _ HZ.out) Tryd.underlying23 rfl i23) rfl ⟨rfl, below_setRow HB2.out (Nat.le_refl _) _⟩
end Go.Proofs.YtgebangnhgmmoaaDoor

/- Powers, the walks: an element raised to a number. -/
namespace Go.Proofs.YtgebangnhgmmoaaDoor
open Go.RowKit

namespace Fe
theorem P_PN : P = (Nm.PN : Int) := by decide
/-- An element that is a number. -/
structure Re (x : E) (n : Int) : Prop where
  ok : Ok x
  eq : val x % P = n % P
theorem Re.mul {x y : E} {n m : Int} (hx : Re x n) (hy : Re y m) : Re (mul x y) (n * m) := by
  refine ⟨mul_ok hx.ok hy.ok, ?_⟩
  obtain ⟨k, hk⟩ := mul_val x y
  rw [hk, Int.sub_eq_add_neg, ← Int.mul_neg, Int.add_mul_emod_self_left, Int.mul_emod, hx.eq, hy.eq, ← Int.mul_emod]
theorem Re.add {x y : E} {n m : Int} (hx : Re x n) (hy : Re y m) : Re (add x y) (n + m) := by
  refine ⟨add_ok hx.ok hy.ok, ?_⟩
  obtain ⟨k, hk⟩ := add_val x y
  rw [hk, Int.sub_eq_add_neg, ← Int.mul_neg, Int.add_mul_emod_self_left, Int.add_emod, hx.eq, hy.eq, ← Int.add_emod]
theorem Re.sub {x y : E} {n m : Int} (hx : Re x n) (hy : Re y m) : Re (sub x y) (n - m) := by
  refine ⟨sub_ok hx.ok hy.ok, ?_⟩
  obtain ⟨k, hk⟩ := sub_val x y
  rw [hk, Int.sub_eq_add_neg, ← Int.mul_neg, Int.add_mul_emod_self_left, Int.sub_emod, hx.eq, hy.eq, ← Int.sub_emod]
theorem Re.neg {x : E} {n : Int} (hx : Re x n) : Re (neg x) (-n) := by
  have h : Re z 0 := ⟨z_ok, rfl⟩
  have := h.sub hx
  rwa [Int.zero_sub] at this
theorem Re.num {n : Int} (h0 : 0 ≤ n) (h1 : n ≤ 4294967295) : Re (num n) n := ⟨num_ok n h0 h1, by rw [num_val]⟩
theorem Re.self {x : E} (h : Ok x) : Re x (val x) := ⟨h, rfl⟩
theorem Re.to {x : E} {n m : Int} (hx : Re x n) (h : n % P = m % P) : Re x m := ⟨hx.ok, hx.eq.trans h⟩
end Fe

/-- What lies where while a power is made. -/
structure PLay (w : World) (go : Nat) (x : Int) (e : List Int) (ka ko : Nat) (a o : Fe.E) (wr : World) : Prop where
  aa : wr.heap[w.heap.size]? = some (.cells (ec a) 30 (0, 0))
  ee : Blk wr (w.heap.size + 1) .u8 23 e
  zz : wr.heap[w.heap.size + 1 + 1]? = some (.cells (ec Fe.z) 30 (0, 0))
  oo : wr.heap[go]? = some (.cells (ec o) 30 (0, 0))
  ra : Fe.Re a (x ^ (2 ^ ka))
  ro : Fe.Re o (x ^ (Bt.low e % 2 ^ ko))
  bb : Below w.heap.size w wr
theorem PLay.setO {w wr w6 : World} {go ka ko kn : Nat} {x : Int} {e : List Int} {a o o' : Fe.E} (h : PLay w go x e ka ko a o wr) (hgo : w.heap.size + 1 + 1 < go) (hb : Below wr.heap.size wr w6) (hr : Fe.Re o' (x ^ (Bt.low e % 2 ^ kn))) : PLay w go x e ka kn a o' (w6.setRow go (ec o')) := by
  refine ⟨?_, ?_, ?_, ?_, h.ra, hr, below_setRow (h.bb.trans (hb.mono h.bb.size)) (by omega) _⟩
  · rw [setRow_other _ _ _ _ (by omega)]
    exact (hb.block _ (lt_of_block h.aa)).trans h.aa
  · refine Blk.other ?_ (setRow_other _ _ _ _ (by omega))
    exact h.ee.other (hb.block _ h.ee.lt)
  · rw [setRow_other _ _ _ _ (by omega)]
    exact (hb.block _ (lt_of_block h.zz)).trans h.zz
  · exact setRow_heap w6 go _ (ec o') 30 _ ((hb.block _ (lt_of_block h.oo)).trans h.oo)
theorem PLay.setA {w wr w6 : World} {go ka ko kn : Nat} {x : Int} {e : List Int} {a o a' : Fe.E} (h : PLay w go x e ka ko a o wr) (hgo : w.heap.size + 1 + 1 < go) (hb : Below wr.heap.size wr w6) (hr : Fe.Re a' (x ^ (2 ^ kn))) : PLay w go x e kn ko a' o (w6.setRow w.heap.size (ec a')) := by
  refine ⟨?_, ?_, ?_, ?_, hr, h.ro, below_setRow (h.bb.trans (hb.mono h.bb.size)) (by omega) _⟩
  · exact setRow_heap w6 w.heap.size _ (ec a') 30 _ ((hb.block _ (lt_of_block h.aa)).trans h.aa)
  · refine Blk.other ?_ (setRow_other _ _ _ _ (by omega))
    exact h.ee.other (hb.block _ h.ee.lt)
  · rw [setRow_other _ _ _ _ (by omega)]
    exact (hb.block _ (lt_of_block h.zz)).trans h.zz
  · rw [setRow_other _ _ _ _ (by omega)]
    exact (hb.block _ (lt_of_block h.oo)).trans h.oo
theorem pow_more (x : Int) (N k : Nat) : x ^ (N % 2 ^ (k + 1)) = if Bt.bit N k = 1 then x ^ (N % 2 ^ k) * x ^ (2 ^ k) else x ^ (N % 2 ^ k) := by
  rw [Bt.mod_more]
  have := Bt.bit_le N k
  split
  · next h => rw [h, Nat.mul_one, Int.pow_add]
  · next h => rw [show Bt.bit N k = 0 by omega, Nat.mul_zero, Nat.add_zero]
theorem pow_twice (x : Int) (k : Nat) : x ^ (2 ^ (k + 1)) = x ^ (2 ^ k) * x ^ (2 ^ k) := by
  rw [Nat.pow_succ, Nat.mul_two, Int.pow_add]

set_option maxRecDepth 100000 in
set_option maxHeartbeats 1000000 in
theorem power_any (w : World) (x : Fe.E) (n : Int) (hx : Fe.Re x n) (e : List Int) (he : e.length = 32) (h8 : ∀ b ∈ e, W8 b) :
    Calls Tryd.prog 31 #[.agg (ec x), bv e] w fun r w' => ∃ y, r = .returned (.agg (ec y)) ∧ Fe.Re y (n ^ Bt.low e) ∧ Below w.heap.size w w' := by
  obtain ⟨⟨h1, h2, h3⟩, h4⟩ := heap_alloc3 w (.cells (ec x) 30) (.cells (e.map (Value.int .u8)).toArray 23) (.cells (ec Fe.z) 30)
  have hgo : w.heap.size + 1 + 1 < (((w.alloc (.cells (ec x) 30)).alloc (.cells (e.map (Value.int .u8)).toArray 23)).alloc (.cells (ec Fe.z) 30)).heap.size := lt_of_block h3
  have H1 := Lib.hid h1
  have H2 : Hid (Blk (((w.alloc (.cells (ec x) 30)).alloc (.cells (e.map (Value.int .u8)).toArray 23)).alloc (.cells (ec Fe.z) 30)) (w.heap.size + 1) .u8 23 e) := h2
  have H3 := Lib.hid h3
  have H4 := Lib.hid h4
  have HX := Lib.hid hx
  have H8 := Lib.hid h8
  have HE := Lib.hid he
  have HPL := Lib.hid (fun j hj => Bt.place_low e j h8 hj)
  have HNP := Lib.hid (Bt.low_lt e h8)
  clear h1 h2 h3 h4 hx h8 he
  unfold bv
  go_enter Tryd.func31, Tryd.ntmps31
  generalize hw3 : (((w.alloc (.cells (ec x) 30)).alloc (.cells (e.map (Value.int .u8)).toArray 23)).alloc (.cells (ec Fe.z) 30)) = w3 at *
  go_wp2_with (first
    | ((with_reducible refine wpList_store_row (o := ⟨none, _, _, _, _, _⟩) rfl 30 (.tmp 5) (.tmp 7) rfl w4.heap.size (ec (Fe.num 1)) rfl rfl 30 _ HZ4.out ?_ ?_ ?_ ?_); exact i30; exact rfl; exact ec_one _)
    | (go_at_call 28; rw [show (((w.alloc (.cells (ec x) 30)).alloc (.cells (e.map (Value.int .u8)).toArray 23)).alloc (.cells #[.int .u64 0, .int .u64 0, .int .u64 0, .int .u64 0, .int .u64 0] 30)) = w3 from hw3]; refine (num_any w3 1 (by decide) (by decide)).mono ?_; rintro r w4 ⟨rfl, hb⟩; have HB4 := Lib.hid hb; have HZ4 : Hid ((w4.alloc (.cells #[.int .u64 0, .int .u64 0, .int .u64 0, .int .u64 0, .int .u64 0] 30)).heap[w4.heap.size]? = some (.cells (ec Fe.z) 30 (0, 0))) := heap_alloc_new w4 (.cells (ec Fe.z) 30); clear hb))
  have HB5 := Lib.hid (H4.out.trans (HB4.out.mono H4.out.size))
  have hgo4 : w.heap.size + 1 + 1 < w4.heap.size := Nat.lt_of_lt_of_le hgo HB4.out.size
  have PL : Hid (PLay w w4.heap.size n e 0 0 x (Fe.num 1) (w4.alloc (.cells (ec (Fe.num 1)) 30))) := by
    refine ⟨?_, ?_, ?_, ?_, ?_, ?_, ?_⟩
    · exact (Below.heap_alloc _ _ _ (by omega)).trans ((HB4.out.block _ (lt_of_block H1.out)).trans H1.out)
    · exact (Below.heap_alloc _ _ _ (by omega)).trans ((HB4.out.block _ H2.out.lt).trans H2.out)
    · exact (Below.heap_alloc _ _ _ (by omega)).trans ((HB4.out.block _ (lt_of_block H3.out)).trans H3.out)
    · exact heap_alloc_new w4 _
    · rw [Nat.pow_zero, Int.pow_succ, Int.pow_zero, Int.one_mul]; exact HX.out
    · rw [Nat.pow_zero, Nat.mod_one, Int.pow_zero]; exact Fe.Re.num (by decide) (by decide)
    · exact HB5.out.alloc HB5.out.size _
  clear H1 H2 H3 H4 hw3 HB4 HB5 hgo HX
  rw [World.setRow_alloc_new]
  generalize (w4.alloc (.cells (ec (Fe.num 1)) 30)) = w5 at *
  generalize w4.heap.size = go at *
  go_loopw [8] (fun i wr => ∃ (k : Nat) (a o : Fe.E), k ≤ 256 ∧ i = .int .i64 k ∧ Hid (PLay w go n e k k a o wr)) (fun i _ => 256 - (intOf i).toNat)
  case atStart => exact ⟨0, x, Fe.num 1, by omega, rfl, PL⟩
  case round =>
    clear PL
    obtain ⟨k, a, o, hk, rfl, PL⟩ := hrel
    by_cases hlt : k < 256
    · have c1 := PL.out.ee.cell (k / 8) (by rw [HE.out]; omega)
      have hpl := HPL.out (k / 8) (by rw [HE.out]; omega)
      rw [← hpl] at c1
      have hbit := Bt.bit_place 8 32 (Bt.low e) k (by decide) (by have := HNP.out; rwa [HE.out] at this)
      rw [HE.out] at c1
      have hp8 := Bt.place_lt 8 (Bt.low e) (8 * 32) (k / 8)
      have hb1 := Bt.bit_le (Bt.low e) k
      have hmore := pow_more n (Bt.low e) k
      have htw := pow_twice n k
      have ha := PL.out.aa
      have ho := PL.out.oo
      have HMORE := Lib.hid hmore
      have HTW := Lib.hid htw
      generalize Bt.place 8 (Bt.low e) (8 * 32) (k / 8) = v at *
      have hm := and1_8 ((v : Int) / 2 ^ (k % 8)) (Int.ediv_nonneg (by omega) (Int.le_of_lt (Int.pow_pos (by decide)))) (Int.le_trans (Int.ediv_le_self _ (by omega)) (by simp only [Nat.reducePow] at hp8; omega))
      have hvb : ((v : Int) / 2 ^ (k % 8)) % 2 = ((Bt.bit (Bt.low e) k : Nat) : Int) := by
        rw [← hbit]
        simp
      rw [hvb] at hm
      clear hbit hmore htw hpl hvb HPL HNP
      by_cases hb : Bt.bit (Bt.low e) k = 1
      · rw [if_pos hb] at HMORE
        rw [hb] at hm
        clear hb hb1 hp8
        go_wp2_with (first
          | ((with_reducible refine wpList_store_row (o := ⟨none, _, _, _, _, _⟩) rfl 30 (.tmp 2) (.tmp 24) rfl w.heap.size (ec (Fe.mul a a)) rfl rfl 30 _ HA7.out ?_ ?_ ?_ ?_); exact i30; exact rfl; exact ec_one _)
          | (go_at_call 27; refine (square_any _ a PL.out.ra.ok).mono ?_; rintro e1 w7 ⟨rfl, hb7⟩; have HB7 := Lib.hid hb7; have HA7 := Lib.hid ((hb7.block _ (lt_of_block PL6.out.aa)).trans PL6.out.aa); clear hb7)
          | ((with_reducible refine wpList_load_row (o := ⟨some 23, _, _, _, _, _⟩) rfl 30 (.tmp 2) rfl w.heap.size rfl 30 _ (0, 0) _ PL6.out.aa Tryd.underlying30 rfl ?_ ?_); exact i30)
          | ((with_reducible refine wpList_store_row (o := ⟨none, _, _, _, _, _⟩) rfl 30 (.tmp 5) (.tmp 22) rfl go (ec (Fe.mul o a)) rfl rfl 30 _ HO6.out ?_ ?_ ?_ ?_); exact i30; exact rfl; exact ec_one _)
          | (go_at_call 25; refine (mul_any _ o a PL.out.ro.ok PL.out.ra.ok).mono ?_; rintro e1 w6 ⟨rfl, hb6⟩; have HO6 := Lib.hid ((hb6.block _ (lt_of_block ho)).trans ho); have PL6 := Lib.hid (PL.out.setO (kn := k + 1) (o' := Fe.mul o a) hgo4 hb6 (by rw [HMORE.out]; exact PL.out.ro.mul PL.out.ra)); clear hb6)
          | ((with_reducible refine wpList_load_row (o := ⟨some 20, _, _, _, _, _⟩) rfl 30 (.tmp 5) rfl go rfl 30 _ (0, 0) _ ho Tryd.underlying30 rfl ?_ ?_); exact i30)
          | ((with_reducible refine wpList_load_row (o := ⟨some 21, _, _, _, _, _⟩) rfl 30 (.tmp 2) rfl w.heap.size rfl 30 _ (0, 0) _ ha Tryd.underlying30 rfl ?_ ?_); exact i30))
        have PL7 := Lib.hid (PL6.out.setA (kn := k + 1) (a' := Fe.mul a a) hgo4 HB7.out (by rw [HTW.out]; exact PL.out.ra.mul PL.out.ra))
        go_roundw
        case rel => exact ⟨k + 1, Fe.mul a a, Fe.mul o a, by omega, by go_num, PL7⟩
        case measure => simp [intOf]; omega
      · rw [if_neg hb] at HMORE
        have hb0 : Bt.bit (Bt.low e) k = 0 := by omega
        rw [hb0] at hm
        clear hb hb0 hb1 hp8
        go_wp2_with (first
          | ((with_reducible refine wpList_store_row (o := ⟨none, _, _, _, _, _⟩) rfl 30 (.tmp 2) (.tmp 24) rfl w.heap.size (ec (Fe.mul a a)) rfl rfl 30 _ HA7.out ?_ ?_ ?_ ?_); exact i30; exact rfl; exact ec_one _)
          | (go_at_call 27; refine (square_any _ a PL.out.ra.ok).mono ?_; rintro e1 w7 ⟨rfl, hb7⟩; have HB7 := Lib.hid hb7; have HA7 := Lib.hid ((hb7.block _ (lt_of_block ha)).trans ha); clear hb7)
          | ((with_reducible refine wpList_load_row (o := ⟨some 23, _, _, _, _, _⟩) rfl 30 (.tmp 2) rfl w.heap.size rfl 30 _ (0, 0) _ ha Tryd.underlying30 rfl ?_ ?_); exact i30))
        have PL7 := Lib.hid (PL.out.setA (kn := k + 1) (a' := Fe.mul a a) hgo4 HB7.out (by rw [HTW.out]; exact PL.out.ra.mul PL.out.ra))
        have PL8 : Hid (PLay w go n e (k + 1) (k + 1) (Fe.mul a a) o (w7.setRow w.heap.size (ec (Fe.mul a a)))) := ⟨PL7.out.aa, PL7.out.ee, PL7.out.zz, PL7.out.oo, PL7.out.ra, by rw [HMORE.out]; exact PL7.out.ro, PL7.out.bb⟩
        go_roundw
        case rel => exact ⟨k + 1, Fe.mul a a, o, by omega, by go_num, PL8⟩
        case measure => simp [intOf]; omega
    · have hk5 : ((k : Nat) : Int) = 256 := by omega
      rw [hk5]
      clear hk5
      obtain rfl : k = 256 := by omega
      have ho := PL.out.oo
      have hz := PL.out.zz
      have HR : Hid (Fe.Re o (n ^ Bt.low e)) := by
        have h1 := PL.out.ro
        have h2 := HNP.out
        rw [HE.out] at h2
        rwa [Nat.mod_eq_of_lt h2] at h1
      go_wp2_with (first
        | ((with_reducible refine wpList_load_row (o := ⟨some 26, _, _, _, _, _⟩) rfl 30 (.tmp 5) rfl go rfl 30 _ (0, 0) _ ho Tryd.underlying30 rfl ?_ ?_); exact i30)
        | ((with_reducible refine wpList_store_row (o := ⟨none, _, _, _, _, _⟩) rfl 30 (.tmp 4) (.tmp 26) rfl (w.heap.size + 1 + 1) (ec o) rfl rfl 30 _ hz ?_ ?_ ?_ ?_); exact i30; exact rfl; exact ec_one _))
      exact bodyPost_ret (results_cell_row Tryd.results31 _ _ (w.heap.size + 1 + 1) 30 _ (0, 0) _ rfl (setRow_heap wr (w.heap.size + 1 + 1) _ (ec o) 30 _ hz) Tryd.underlying30 rfl i30) rfl ⟨o, rfl, HR.out, below_setRow PL.out.bb (by omega) _⟩
end Go.Proofs.YtgebangnhgmmoaaDoor
