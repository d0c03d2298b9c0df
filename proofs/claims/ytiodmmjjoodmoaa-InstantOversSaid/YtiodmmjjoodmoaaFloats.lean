/- Two numbers of binary64, ordered: by the signed rung alone. -/
import Ieee.Arith
namespace Go.Proofs.Ytiodmmjjoodmoaa.Fl

def nan (a : Nat) : Bool := decide (9218868437227405312 < a % 9223372036854775808)
def sg (a : Nat) : Int := if a / 9223372036854775808 % 2 = 1 then -((a % 9223372036854775808 : Nat) : Int) else ((a % 9223372036854775808 : Nat) : Int)

/-- The value of a rung, in units of the least one. -/
def val (r : Nat) : Nat := if r < 4503599627370496 then r else (4503599627370496 + r % 4503599627370496) * 2 ^ (r / 4503599627370496 - 1)

theorem val_lt_succ (r : Nat) : val r < val (r + 1) := by
  unfold val
  by_cases h1 : r + 1 < 4503599627370496
  · rw [if_pos h1, if_pos (by omega)]; omega
  · rw [if_neg h1]
    by_cases h2 : r < 4503599627370496
    · rw [if_pos h2]
      have e : r = 4503599627370495 := by omega
      subst e; decide
    · rw [if_neg h2]
      by_cases h3 : r % 4503599627370496 = 4503599627370495
      · have a1 : (r + 1) % 4503599627370496 = 0 := by omega
        have a2 : (r + 1) / 4503599627370496 = r / 4503599627370496 + 1 := by omega
        rw [a1, a2, h3]
        have hq : 1 ≤ r / 4503599627370496 := by omega
        obtain ⟨q, hq⟩ : ∃ q, r / 4503599627370496 = q + 1 := ⟨r / 4503599627370496 - 1, by omega⟩
        rw [hq]
        simp only [Nat.add_sub_cancel, Nat.pow_succ]
        have := Nat.two_pow_pos q
        omega
      · have a1 : (r + 1) % 4503599627370496 = r % 4503599627370496 + 1 := by omega
        have a2 : (r + 1) / 4503599627370496 = r / 4503599627370496 := by omega
        rw [a1, a2]
        exact Nat.mul_lt_mul_of_pos_right (by omega) (Nat.two_pow_pos _)

theorem val_lt {r s : Nat} (h : r < s) : val r < val s := by
  induction s with
  | zero => omega
  | succ s ih =>
    by_cases e : r = s
    · subst e; exact val_lt_succ r
    · exact Nat.lt_trans (ih (by omega)) (val_lt_succ s)

theorem val_zero : val 0 = 0 := rfl

theorem val_lt_iff {r s : Nat} : val r < val s ↔ r < s := by
  refine ⟨fun h => ?_, val_lt⟩
  by_cases e : r < s
  · exact e
  · exfalso
    by_cases e2 : r = s
    · subst e2; omega
    · have := val_lt (r := s) (s := r) (by omega); omega

theorem val_eq_iff {r s : Nat} : val r = val s ↔ r = s := by
  refine ⟨fun h => ?_, fun h => by rw [h]⟩
  have a := val_lt_iff (r := r) (s := s)
  have b := val_lt_iff (r := s) (s := r)
  omega

/-- What a finite word reads as. -/
theorem read_fin (a : Nat) (h : a % 9223372036854775808 < 9218868437227405312) :
    ∃ m p : Nat, Ieee.double.read a = .number (a / 9223372036854775808 % 2 == 1) m (-1074 + (p : Int)) ∧ m * 2 ^ p = val (a % 9223372036854775808) := by
  have hs : Ieee.double.signWeight = 9223372036854775808 := by decide
  have hb : Ieee.double.binade = 4503599627370496 := by decide
  have hi : Ieee.double.infRung = 9218868437227405312 := by decide
  have hl : Ieee.double.leastPlace = -1074 := by decide
  unfold Ieee.Format.read
  simp only [hs, hb, hi, hl]
  by_cases h1 : a % 9223372036854775808 < 4503599627370496
  · rw [if_pos h1]
    exact ⟨_, 0, rfl, by simp [val, h1]⟩
  · rw [if_neg h1, if_pos h]
    exact ⟨_, _, rfl, by simp [val, h1]⟩

theorem read_inf (a : Nat) (h : a % 9223372036854775808 = 9218868437227405312) : Ieee.double.read a = .infinity (a / 9223372036854775808 % 2 == 1) := by
  have hs : Ieee.double.signWeight = 9223372036854775808 := by decide
  have hb : Ieee.double.binade = 4503599627370496 := by decide
  have hi : Ieee.double.infRung = 9218868437227405312 := by decide
  unfold Ieee.Format.read
  simp only [hs, hb, hi, h]
  rw [if_neg (by decide), if_neg (by decide), if_pos trivial]

theorem read_nan (a : Nat) (h : 9218868437227405312 < a % 9223372036854775808) : ∃ t, Ieee.double.read a = .nan (a / 9223372036854775808 % 2 == 1) t := by
  have hs : Ieee.double.signWeight = 9223372036854775808 := by decide
  have hb : Ieee.double.binade = 4503599627370496 := by decide
  have hi : Ieee.double.infRung = 9218868437227405312 := by decide
  unfold Ieee.Format.read
  simp only [hs, hb, hi]
  rw [if_neg (by omega), if_neg (by omega), if_neg (by omega)]
  exact ⟨_, rfl⟩

theorem cmp_mul (x y : Int) (p : Nat) : compare (x * (2 : Int) ^ p) (y * (2 : Int) ^ p) = compare x y := by
  have h : (0 : Int) < (2 : Int) ^ p := Int.pow_pos (by decide)
  have a : x * (2 : Int) ^ p < y * (2 : Int) ^ p ↔ x < y := Int.mul_lt_mul_right h
  have b : x * (2 : Int) ^ p = y * (2 : Int) ^ p ↔ x = y := ⟨fun e => Int.eq_of_mul_eq_mul_right (by omega) e, fun e => by rw [e]⟩
  show compareOfLessAndEq _ _ = compareOfLessAndEq _ _
  unfold compareOfLessAndEq
  simp only [a, b]

theorem signed_mul (s : Bool) (m p q : Nat) : Ieee.signed s m p * (2 : Int) ^ q = if s then -((m * 2 ^ (p + q) : Nat) : Int) else ((m * 2 ^ (p + q) : Nat) : Int) := by
  unfold Ieee.signed
  have e : ((m <<< p : Nat) : Int) * (2 : Int) ^ q = ((m * 2 ^ (p + q) : Nat) : Int) := by
    rw [Nat.shiftLeft_eq, Nat.pow_add, ← Nat.mul_assoc]
    push_cast
    rfl
  cases s
  · simpa using e
  · simp only [if_true]
    rw [Int.neg_mul, e]

/-- The sign of a value. -/
def sv (a : Nat) : Int := if a / 9223372036854775808 % 2 = 1 then -((val (a % 9223372036854775808) : Nat) : Int) else ((val (a % 9223372036854775808) : Nat) : Int)

theorem cmp_sv (a b : Nat) : compare (sv a) (sv b) = compare (sg a) (sg b) := by
  have l1 := val_lt_iff (r := a % 9223372036854775808) (s := b % 9223372036854775808)
  have l2 := val_lt_iff (r := b % 9223372036854775808) (s := a % 9223372036854775808)
  have z1 := val_lt_iff (r := 0) (s := a % 9223372036854775808)
  have z2 := val_lt_iff (r := 0) (s := b % 9223372036854775808)
  rw [val_zero] at z1 z2
  show compareOfLessAndEq _ _ = compareOfLessAndEq _ _
  unfold compareOfLessAndEq sv sg
  generalize val (a % 9223372036854775808) = x at *
  generalize val (b % 9223372036854775808) = y at *
  generalize a % 9223372036854775808 = r at *
  generalize b % 9223372036854775808 = s at *
  by_cases h1 : a / 9223372036854775808 % 2 = 1 <;> by_cases h2 : b / 9223372036854775808 % 2 = 1 <;> simp only [h1, h2, if_true, if_false] <;> (repeat' split) <;> first | rfl | omega

theorem sgn_of (a : Nat) : (a / 9223372036854775808 % 2 == 1) = decide (a / 9223372036854775808 % 2 = 1) := rfl

theorem order_eq (a b : Nat) : Ieee.double.order a b = if nan a || nan b then none else some (compare (sg a) (sg b)) := by
  unfold Ieee.Format.order
  by_cases ha : 9218868437227405312 < a % 9223372036854775808
  · obtain ⟨t, ht⟩ := read_nan a ha
    rw [ht, if_pos (by simp [nan, ha])]
    rfl
  by_cases hb : 9218868437227405312 < b % 9223372036854775808
  · obtain ⟨t, ht⟩ := read_nan b hb
    rw [ht, if_pos (by simp [nan, hb])]
    cases Ieee.double.read a <;> rfl
  rw [if_neg (by simp [nan, ha, hb])]
  by_cases ia : a % 9223372036854775808 = 9218868437227405312
  · rw [read_inf a ia]
    by_cases ib : b % 9223372036854775808 = 9218868437227405312
    · rw [read_inf b ib]
      unfold Ieee.Datum.order sg
      simp only [ia, ib]
      by_cases h1 : a / 9223372036854775808 % 2 = 1 <;> by_cases h2 : b / 9223372036854775808 % 2 = 1 <;> rw [sgn_of, sgn_of] <;> simp only [h1, h2, decide_true, decide_false, if_true, if_false] <;> decide
    · obtain ⟨m, p, hm, -⟩ := read_fin b (by omega)
      rw [hm]
      unfold Ieee.Datum.order sg
      simp only [ia]
      congr 1
      show _ = compareOfLessAndEq _ _
      unfold compareOfLessAndEq
      rw [sgn_of]
      by_cases h1 : a / 9223372036854775808 % 2 = 1 <;> simp only [h1, decide_true, decide_false, reduceIte, Bool.false_eq_true] <;> (repeat' split) <;> first | rfl | omega
  · obtain ⟨m, p, hm, em⟩ := read_fin a (by omega)
    rw [hm]
    by_cases ib : b % 9223372036854775808 = 9218868437227405312
    · rw [read_inf b ib]
      unfold Ieee.Datum.order sg
      simp only [ib]
      congr 1
      show _ = compareOfLessAndEq _ _
      unfold compareOfLessAndEq
      rw [sgn_of]
      by_cases h2 : b / 9223372036854775808 % 2 = 1 <;> simp only [h2, decide_true, decide_false, reduceIte, Bool.false_eq_true] <;> (repeat' split) <;> first | rfl | omega
    · obtain ⟨n, q, hn, en⟩ := read_fin b (by omega)
      rw [hn]
      unfold Ieee.Datum.order
      simp only []
      congr 1
      rw [← cmp_sv]
      have e1 : (-1074 + (p : Int) - min (-1074 + (p : Int)) (-1074 + (q : Int))).toNat = p - min p q := by omega
      have e2 : (-1074 + (q : Int) - min (-1074 + (p : Int)) (-1074 + (q : Int))).toNat = q - min p q := by omega
      rw [e1, e2, ← cmp_mul _ _ (min p q), signed_mul, signed_mul]
      rw [show p - min p q + min p q = p by omega, show q - min p q + min p q = q by omega, em, en]
      unfold sv
      by_cases h1 : a / 9223372036854775808 % 2 = 1 <;> by_cases h2 : b / 9223372036854775808 % 2 = 1 <;> simp [h1, h2]

/-! ### Rounding, in units of the least number -/

def rnd (X q : Nat) : Nat := X / q + (if q < 2 * (X % q) ∨ (q = 2 * (X % q) ∧ X / q % 2 = 1) then 1 else 0)
def F (X : Nat) : Nat := (X.log2 - 52) * 4503599627370496 + rnd X (2 ^ (X.log2 - 52))
def R (X : Nat) : Nat := min (F X) 9218868437227405312

theorem rnd_mono {X Y q : Nat} (h0 : 0 < q) (h : X ≤ Y) : rnd X q ≤ rnd Y q := by
  unfold rnd
  have e1 := Nat.div_add_mod X q
  have e2 := Nat.div_add_mod Y q
  have m1 := Nat.mod_lt X h0
  have m2 := Nat.mod_lt Y h0
  have d := Nat.div_le_div_right (c := q) h
  generalize X / q = a at *
  generalize Y / q = b at *
  generalize X % q = r at *
  generalize Y % q = s at *
  by_cases hab : a < b
  · split <;> split <;> omega
  · obtain rfl : a = b := by omega
    generalize q * a = z at *
    split <;> split <;> omega

theorem rnd_le {X q n : Nat} (h : X < q * n) : rnd X q ≤ n := by
  unfold rnd
  have : X / q < n := Nat.div_lt_of_lt_mul h
  split <;> omega

theorem rnd_ge {X q n : Nat} (h0 : 0 < q) (h : q * n ≤ X) : n ≤ rnd X q := by
  unfold rnd
  have : n ≤ X / q := (Nat.le_div_iff_mul_le h0).2 (by rw [Nat.mul_comm]; exact h)
  omega

theorem lt_log2 (X : Nat) : X < 2 ^ (X.log2 + 1) := Nat.lt_log2_self
theorem log2_le {X : Nat} (h : X ≠ 0) : 2 ^ X.log2 ≤ X := Nat.log2_self_le h

theorem log2_mono {X Y : Nat} (h : X ≤ Y) : X.log2 ≤ Y.log2 := by
  by_cases h0 : X = 0
  · subst h0; simp
  · exact (Nat.le_log2 (by omega)).2 (Nat.le_trans (log2_le h0) h)

theorem F_mono {X Y : Nat} (h : X ≤ Y) : F X ≤ F Y := by
  unfold F
  have hl := log2_mono h
  have py := Nat.two_pow_pos (Y.log2 - 52)
  by_cases e : X.log2 - 52 = Y.log2 - 52
  · rw [e]
    have := rnd_mono py h
    omega
  · have hlt : X.log2 - 52 < Y.log2 - 52 := by omega
    have a : rnd X (2 ^ (X.log2 - 52)) ≤ 9007199254740992 := by
      refine rnd_le (Nat.lt_of_lt_of_le (lt_log2 X) ?_)
      rw [show (9007199254740992 : Nat) = 2 ^ 53 by decide, ← Nat.pow_add]
      exact Nat.pow_le_pow_right (by decide) (by omega)
    have b : 4503599627370496 ≤ rnd Y (2 ^ (Y.log2 - 52)) := by
      refine rnd_ge py (Nat.le_trans ?_ (log2_le (X := Y) ?_))
      · rw [show (4503599627370496 : Nat) = 2 ^ 52 by decide, ← Nat.pow_add]
        exact Nat.pow_le_pow_right (by decide) (by omega)
      · intro h0; subst h0; simp at hlt
    omega

theorem R_mono {X Y : Nat} (h : X ≤ Y) : R X ≤ R Y := by
  have := F_mono h
  unfold R
  omega

theorem log2_eq {X k : Nat} (h1 : 2 ^ k ≤ X) (h2 : X < 2 ^ (k + 1)) : X.log2 = k := by
  have h0 : X ≠ 0 := by have := Nat.two_pow_pos k; omega
  have a := (Nat.le_log2 h0).2 h1
  have b := (Nat.log2_lt h0).2 h2
  omega

theorem rnd_exact (n q : Nat) (h0 : 0 < q) : rnd (n * q) q = n := by
  unfold rnd
  rw [Nat.mul_mod_left, Nat.mul_div_cancel _ h0, if_neg (by omega)]
  omega

theorem F_val (r : Nat) : F (val r) = r := by
  unfold F val
  by_cases h : r < 4503599627370496
  · rw [if_pos h]
    have : r.log2 < 52 ∨ r = 0 := by
      by_cases h0 : r = 0
      · exact .inr h0
      · exact .inl ((Nat.log2_lt h0).2 (by simpa using h))
    have e : r.log2 - 52 = 0 := by
      rcases this with h | h
      · omega
      · subst h; simp
    rw [e]
    have := rnd_exact r 1 (by decide)
    simpa using this
  · rw [if_neg h]
    generalize hk : r / 4503599627370496 - 1 = k
    have hm : r % 4503599627370496 < 4503599627370496 := Nat.mod_lt _ (by decide)
    have e : ((4503599627370496 + r % 4503599627370496) * 2 ^ k).log2 = 52 + k := by
      refine log2_eq ?_ ?_
      · rw [Nat.pow_add]; exact Nat.mul_le_mul_right _ (by simp)
      · rw [show 52 + k + 1 = 53 + k by omega, Nat.pow_add]
        exact Nat.mul_lt_mul_of_pos_right (by simp; omega) (Nat.two_pow_pos _)
    rw [e, show 52 + k - 52 = k by omega, rnd_exact _ _ (Nat.two_pow_pos _)]
    omega

theorem R_val {r : Nat} (h : r ≤ 9218868437227405312) : R (val r) = r := by
  unfold R; rw [F_val]; omega

theorem cut_eq (neg : Bool) (n drop : Nat) (h : drop ≤ n.log2 + 2) : Ieee.Toward.even.cut neg n drop = rnd n (2 ^ drop) := by
  unfold Ieee.Toward.cut rnd
  rw [Nat.min_eq_left h]
  simp only [Nat.one_shiftLeft]
  congr 1
  by_cases c : 2 ^ drop < 2 * (n % 2 ^ drop) ∨ (2 ^ drop = 2 * (n % 2 ^ drop) ∧ n / 2 ^ drop % 2 = 1)
  · rw [if_pos c]
    rcases c with c | ⟨c, d⟩
    · simp [c]
    · rw [← c, d]; simp
  · rw [if_neg c]
    have c1 : ¬ 2 ^ drop < 2 * (n % 2 ^ drop) := fun h => c (.inl h)
    have c2 : ¬ (2 ^ drop = 2 * (n % 2 ^ drop) ∧ n / 2 ^ drop % 2 = 1) := fun h => c (.inr h)
    have c3 : (2 ^ drop == 2 * (n % 2 ^ drop) && n / 2 ^ drop % 2 == 1) = false := by
      cases hb : (2 ^ drop == 2 * (n % 2 ^ drop) && n / 2 ^ drop % 2 == 1)
      · rfl
      · exfalso; apply c2
        simp only [Bool.and_eq_true, beq_iff_eq] at hb
        exact hb
    rw [c3]; simp [c1]

theorem rnd_scale (n q c : Nat) (hc : 0 < c) : rnd (n * c) (q * c) = rnd n q := by
  unfold rnd
  rw [Nat.mul_div_mul_right _ _ hc, Nat.mul_mod_mul_right]
  have e1 : q * c < 2 * (n % q * c) ↔ q < 2 * (n % q) := by rw [← Nat.mul_assoc]; exact Nat.mul_lt_mul_right hc
  have e2 : q * c = 2 * (n % q * c) ↔ q = 2 * (n % q) := by rw [← Nat.mul_assoc]; exact Nat.mul_left_inj (by omega)
  simp only [e1, e2]

theorem log2_mul_pow {m : Nat} (h : m ≠ 0) (p : Nat) : (m * 2 ^ p).log2 = m.log2 + p := by
  refine log2_eq ?_ ?_
  · rw [Nat.pow_add]; exact Nat.mul_le_mul_right _ (log2_le h)
  · rw [show m.log2 + p + 1 = m.log2 + 1 + p by omega, Nat.pow_add]
    exact Nat.mul_lt_mul_of_pos_right (lt_log2 m) (Nat.two_pow_pos _)

theorem nearest_eq (neg : Bool) (mag p : Nat) : Ieee.double.nearest neg mag (-1074 + (p : Int)) = Ieee.double.word neg (R (mag * 2 ^ p)) := by
  have hb : Ieee.double.binade = 4503599627370496 := by decide
  have hi : Ieee.double.infRung = 9218868437227405312 := by decide
  have hl : Ieee.double.leastPlace = -1074 := by decide
  have hf : Ieee.double.fractionBits = 52 := by decide
  unfold Ieee.Format.nearest
  by_cases h0 : mag = 0
  · subst h0
    rw [if_pos rfl, Nat.zero_mul]
    rfl
  rw [if_neg h0]
  simp only [hb, hi, hl, hf]
  unfold R F
  rw [log2_mul_pow h0]
  generalize hL : mag.log2 + p - 52 = L
  have e1 : max (-1074 + (p : Int) + (mag.log2 : Int) - (52 : Nat)) (-1074) = -1074 + (L : Int) := by omega
  rw [e1]
  have e2 : (-1074 + (L : Int) - -1074).toNat = L := by omega
  rw [e2]
  congr 3
  have e3 : (-1074 + (p : Int) - (-1074 + (L : Int))).toNat = p - L := by omega
  have e4 : (-1074 + (L : Int) - (-1074 + (p : Int))).toNat = L - p := by omega
  rw [e3, e4]
  by_cases hp : L ≤ p
  · rw [show L - p = 0 by omega, cut_eq _ _ _ (by omega), Nat.shiftLeft_eq]
    have a := rnd_exact (mag * 2 ^ (p - L)) 1 (by decide)
    rw [Nat.mul_one] at a
    rw [Nat.pow_zero, a]
    have e : mag * 2 ^ p = mag * 2 ^ (p - L) * 2 ^ L := by rw [Nat.mul_assoc, ← Nat.pow_add]; congr 2; omega
    rw [e, rnd_exact _ _ (Nat.two_pow_pos _)]
  · rw [show p - L = 0 by omega, Nat.shiftLeft_zero, cut_eq _ _ _ (by omega)]
    have e : 2 ^ L = 2 ^ (L - p) * 2 ^ p := by rw [← Nat.pow_add]; congr 1; omega
    rw [e, rnd_scale _ _ _ (Nat.two_pow_pos _)]

/-- The signed rung of the rounded number. -/
def sR (Z : Int) : Int := if Z < 0 then -(R Z.natAbs : Int) else (R Z.natAbs : Int)

theorem sR_mono {Y Z : Int} (h : Y ≤ Z) : sR Y ≤ sR Z := by
  unfold sR
  by_cases h1 : Y < 0 <;> by_cases h2 : Z < 0
  · have := R_mono (X := Z.natAbs) (Y := Y.natAbs) (by omega)
    rw [if_pos h1, if_pos h2]; omega
  · rw [if_pos h1, if_neg h2]; omega
  · omega
  · have := R_mono (X := Y.natAbs) (Y := Z.natAbs) (by omega)
    rw [if_neg h1, if_neg h2]; omega

theorem word_spec (neg : Bool) (r : Nat) (h : r ≤ 9218868437227405312) :
    Ieee.double.word neg r < 18446744073709551616 ∧ nan (Ieee.double.word neg r) = false ∧ sg (Ieee.double.word neg r) = if neg then -(r : Int) else (r : Int) := by
  have hs : Ieee.double.signWeight = 9223372036854775808 := by decide
  unfold Ieee.Format.word nan sg
  rw [hs]
  cases neg
  · simp only [Bool.false_eq_true, if_false]
    refine ⟨by omega, by simp; omega, ?_⟩
    rw [if_neg (by omega)]; omega
  · simp only [if_true]
    refine ⟨by omega, by simp; omega, ?_⟩
    rw [if_pos (by omega)]; omega

theorem R_le (X : Nat) : R X ≤ 9218868437227405312 := by unfold R; omega

def fin (a : Nat) : Bool := decide (a % 9223372036854775808 < 9218868437227405312)

theorem R_zero : R 0 = 0 := by decide +kernel

/-- The sum of two finite numbers, one perhaps negated: never a NaN; its rung is that of the exact sum, rounded. -/
theorem write_sum (s t : Bool) (m n p q : Nat) :
    ∃ r, ((Ieee.Datum.number s m (-1074 + (p : Int))).sum (.number t n (-1074 + (q : Int)))).map Ieee.double.write = some r ∧ r < 18446744073709551616 ∧ nan r = false ∧
      sg r = sR ((if s then -((m * 2 ^ p : Nat) : Int) else ((m * 2 ^ p : Nat) : Int)) + (if t then -((n * 2 ^ q : Nat) : Int) else ((n * 2 ^ q : Nat) : Int))) := by
  unfold Ieee.Datum.sum
  simp only [Option.map_some]
  have e1 : (-1074 + (p : Int) - min (-1074 + (p : Int)) (-1074 + (q : Int))).toNat = p - min p q := by omega
  have e2 : (-1074 + (q : Int) - min (-1074 + (p : Int)) (-1074 + (q : Int))).toNat = q - min p q := by omega
  have e3 : min (-1074 + (p : Int)) (-1074 + (q : Int)) = -1074 + ((min p q : Nat) : Int) := by omega
  rw [e1, e2, e3]
  have f1 := signed_mul s m (p - min p q) (min p q)
  have f2 := signed_mul t n (q - min p q) (min p q)
  rw [show p - min p q + min p q = p by omega] at f1
  rw [show q - min p q + min p q = q by omega] at f2
  rw [← f1, ← f2, ← Int.add_mul]
  generalize Ieee.signed s m (p - min p q) + Ieee.signed t n (q - min p q) = T
  generalize min p q = k
  have hk : (0 : Int) < (2 : Int) ^ k := Int.pow_pos (by decide)
  have ha : (T * (2 : Int) ^ k).natAbs = T.natAbs * 2 ^ k := by
    rw [Int.natAbs_mul, Int.natAbs_pow]; rfl
  have hn : T * (2 : Int) ^ k < 0 ↔ T < 0 := by
    constructor
    · intro h
      by_cases c : T < 0
      · exact c
      · have := Int.mul_nonneg (show 0 ≤ T by omega) (show (0 : Int) ≤ 2 ^ k by omega); omega
    · intro h; exact Int.mul_neg_of_neg_of_pos h hk
  refine ⟨_, rfl, ?_⟩
  show Ieee.double.nearest _ _ _ < _ ∧ nan (Ieee.double.nearest _ _ _) = false ∧ sg (Ieee.double.nearest _ _ _) = _
  rw [nearest_eq, ← ha]
  have w := word_spec (if T = 0 then s && t else decide (T < 0)) (R (T * (2 : Int) ^ k).natAbs) (R_le _)
  refine ⟨w.1, w.2.1, w.2.2.trans ?_⟩
  unfold sR
  by_cases hz : T = 0
  · subst hz
    simp only [Int.zero_mul, Int.natAbs_zero, R_zero]
    simp
  · rw [if_neg hz]
    simp only [hn, decide_eq_true_eq]

theorem fin_iff {a : Nat} : fin a = true ↔ a % 9223372036854775808 < 9218868437227405312 := by unfold fin; simp

theorem add_spec {x y : Nat} (hx : fin x = true) (hy : fin y = true) :
    ∃ r, Ieee.double.add x y = some r ∧ r < 18446744073709551616 ∧ nan r = false ∧ sg r = sR (sv x + sv y) := by
  obtain ⟨m, p, hm, em⟩ := read_fin x (fin_iff.1 hx)
  obtain ⟨n, q, hn, en⟩ := read_fin y (fin_iff.1 hy)
  unfold Ieee.Format.add
  rw [hm, hn]
  obtain ⟨r, h1, h2, h3, h4⟩ := write_sum (x / 9223372036854775808 % 2 == 1) (y / 9223372036854775808 % 2 == 1) m n p q
  refine ⟨r, h1, h2, h3, h4.trans ?_⟩
  rw [em, en]
  unfold sv
  simp only [beq_iff_eq]

theorem sub_spec {x y : Nat} (hx : fin x = true) (hy : fin y = true) :
    ∃ r, Ieee.double.sub x y = some r ∧ r < 18446744073709551616 ∧ nan r = false ∧ sg r = sR (sv x - sv y) := by
  obtain ⟨m, p, hm, em⟩ := read_fin x (fin_iff.1 hx)
  obtain ⟨n, q, hn, en⟩ := read_fin y (fin_iff.1 hy)
  unfold Ieee.Format.sub
  rw [hm, hn]
  obtain ⟨r, h1, h2, h3, h4⟩ := write_sum (x / 9223372036854775808 % 2 == 1) (!(y / 9223372036854775808 % 2 == 1)) m n p q
  refine ⟨r, h1, h2, h3, h4.trans ?_⟩
  rw [em, en]
  unfold sv
  congr 1
  by_cases h : y / 9223372036854775808 % 2 = 1 <;> simp [h] <;> omega

theorem sR_sv {a : Nat} (h : nan a = false) : sR (sv a) = sg a := by
  have hr : a % 9223372036854775808 ≤ 9218868437227405312 := by unfold nan at h; simp at h; omega
  have e := R_val hr
  have z := val_eq_iff (r := a % 9223372036854775808) (s := 0)
  rw [val_zero] at z
  unfold sR sv sg
  by_cases h1 : a / 9223372036854775808 % 2 = 1
  · simp only [h1, if_true]
    by_cases h2 : -(val (a % 9223372036854775808) : Int) < 0
    · rw [if_pos h2, Int.natAbs_neg, Int.natAbs_natCast, e]
    · rw [if_neg h2, Int.natAbs_neg, Int.natAbs_natCast, e]
      have : a % 9223372036854775808 = 0 := z.1 (by omega)
      omega
  · simp only [h1, if_false]
    rw [if_neg (by omega), Int.natAbs_natCast, e]

theorem sg_le_sv {a b : Nat} : sg a ≤ sg b ↔ sv a ≤ sv b := by
  have c := cmp_sv a b
  change compareOfLessAndEq _ _ = compareOfLessAndEq _ _ at c
  unfold compareOfLessAndEq at c
  constructor <;> intro h <;> (repeat' split at c) <;> first | omega | cases c

theorem add_inf (x : Nat) (hx : fin x = true) : Ieee.double.add x 9218868437227405312 = some 9218868437227405312 := by
  obtain ⟨m, p, hm, em⟩ := read_fin x (fin_iff.1 hx)
  unfold Ieee.Format.add
  rw [hm, read_inf 9218868437227405312 (by decide)]
  rfl

end Go.Proofs.Ytiodmmjjoodmoaa.Fl
