/- Numbers modulo 2^130 - 5 by five parts of 26 bits: plain functions, and what they are worth. -/
import Derived.Test.YticoefnojgaplaaD
namespace Go.Proofs.Yticoefnojgaplaa
namespace Po
/-- 2^26. -/
def M : Int := 67108864
/-- 2^130 - 5. -/
def P : Int := 1361129467683753853853498429727072845819
structure E where
  a : Int
  b : Int
  c : Int
  d : Int
  e : Int
def E.cells (x : E) : List Int := [x.a, x.b, x.c, x.d, x.e]
def z : E := ⟨0, 0, 0, 0, 0⟩
def val (x : E) : Int := x.a + M * (x.b + M * (x.c + M * (x.d + M * x.e)))
/-- Every part is below a bound. -/
def Le (n : Int) (x : E) : Prop := (0 ≤ x.a ∧ x.a ≤ n) ∧ (0 ≤ x.b ∧ x.b ≤ n) ∧ (0 ≤ x.c ∧ x.c ≤ n) ∧ (0 ≤ x.d ∧ x.d ≤ n) ∧ (0 ≤ x.e ∧ x.e ≤ n)
/-- What a product is. -/
def Ok (x : E) : Prop := (0 ≤ x.a ∧ x.a ≤ 67108868) ∧ (0 ≤ x.b ∧ x.b ≤ 67108863) ∧ (0 ≤ x.c ∧ x.c ≤ 67108863) ∧ (0 ≤ x.d ∧ x.d ≤ 67108863) ∧ (0 ≤ x.e ∧ x.e ≤ 67108863)
def Can (x : E) : Prop := Le 67108863 x
theorem Can.ok {x : E} (h : Can x) : Ok x := by unfold Can Le at h; unfold Ok; omega
theorem Le.get {n : Int} {x : E} (h : Le n x) (k : Nat) (hk : k < 5) : 0 ≤ x.cells.getD k 0 ∧ x.cells.getD k 0 ≤ n := by
  obtain ⟨h0, h1, h2, h3, h4⟩ := h
  match k, hk with
  | 0, _ => exact h0
  | 1, _ => exact h1
  | 2, _ => exact h2
  | 3, _ => exact h3
  | 4, _ => exact h4
theorem Le.mono {n m : Int} {x : E} (h : Le n x) (hm : n ≤ m) : Le m x := by unfold Le at *; omega
theorem z_can : Can z := by unfold Can Le z; simp only; omega
/-- Three words. -/
def split (lo hi top : Int) : E := ⟨lo % M, lo / 67108864 % M, (lo / 4503599627370496 + hi % 16384 * 4096) % M, hi / 16384 % M, hi / 1099511627776 + top * 16777216⟩
theorem split_val {lo hi top : Int} (l0 : 0 ≤ lo) (l1 : lo ≤ 18446744073709551615) : val (split lo hi top) = lo + 18446744073709551616 * hi + 340282366920938463463374607431768211456 * top := by
  unfold val split M; simp only; omega
theorem split_can {lo hi top : Int} (h0 : 0 ≤ hi) (h1 : hi ≤ 18446744073709551615) (t0 : 0 ≤ top) (t1 : top ≤ 1) : Can (split lo hi top) := by
  unfold Can Le split M; simp only; omega
def plus (x y : E) : E := ⟨x.a + y.a, x.b + y.b, x.c + y.c, x.d + y.d, x.e + y.e⟩
theorem plus_val (x y : E) : val (plus x y) = val x + val y := by unfold val plus M; simp only; omega
theorem plus_le {n m : Int} {x y : E} (hx : Le n x) (hy : Le m y) : Le (n + m) (plus x y) := by unfold Le plus at *; simp only; omega
theorem Ok.le {x : E} (h : Ok x) : Le 67108868 x := by unfold Ok at h; unfold Le; omega
/-- What is handed on. -/
def cc (x : E) : Nat → Int
  | 0 => 0
  | k + 1 => (x.cells.getD k 0 + cc x k) / M
def rest (x : E) : E := ⟨(x.a + cc x 0) % M, (x.b + cc x 1) % M, (x.c + cc x 2) % M, (x.d + cc x 3) % M, (x.e + cc x 4) % M⟩
def beyond (x : E) : Int := cc x 5
theorem cc_eqs (x : E) : cc x 0 = 0 ∧ cc x 1 = (x.a + cc x 0) / 67108864 ∧ cc x 2 = (x.b + cc x 1) / 67108864 ∧ cc x 3 = (x.c + cc x 2) / 67108864 ∧ cc x 4 = (x.d + cc x 3) / 67108864 ∧ cc x 5 = (x.e + cc x 4) / 67108864 := ⟨rfl, rfl, rfl, rfl, rfl, rfl⟩
theorem rest_val (x : E) : val (rest x) = val x - 1361129467683753853853498429727072845824 * beyond x := by
  obtain ⟨h0, h1, h2, h3, h4, h5⟩ := cc_eqs x
  unfold val rest beyond M
  simp only
  generalize cc x 0 = c0 at *
  generalize cc x 1 = c1 at *
  generalize cc x 2 = c2 at *
  generalize cc x 3 = c3 at *
  generalize cc x 4 = c4 at *
  generalize cc x 5 = c5 at *
  omega
theorem rest_can (x : E) : Can (rest x) := by
  unfold Can Le rest M; simp only; omega
theorem cc_le {n : Int} {x : E} (h : Le n x) (hn : n ≤ 9223372036854775807) : ∀ k, k ≤ 5 → 0 ≤ cc x k ∧ cc x k ≤ 137438957568 := by
  unfold Le at h
  obtain ⟨h0, h1, h2, h3, h4, h5⟩ := cc_eqs x
  have k1 : 0 ≤ cc x 1 ∧ cc x 1 ≤ 137438957568 := by omega
  have k2 : 0 ≤ cc x 2 ∧ cc x 2 ≤ 137438957568 := by omega
  have k3 : 0 ≤ cc x 3 ∧ cc x 3 ≤ 137438957568 := by omega
  have k4 : 0 ≤ cc x 4 ∧ cc x 4 ≤ 137438957568 := by omega
  have k5 : 0 ≤ cc x 5 ∧ cc x 5 ≤ 137438957568 := by omega
  intro k hk
  match k, hk with
  | 0, _ => rw [h0]; omega
  | 1, _ => exact k1
  | 2, _ => exact k2
  | 3, _ => exact k3
  | 4, _ => exact k4
  | 5, _ => exact k5
/-- One round of folding back. -/
def red (x : E) : E := plus (rest x) ⟨5 * beyond x, 0, 0, 0, 0⟩
theorem red_val (x : E) : val (red x) = val x - P * beyond x := by
  unfold red
  rw [plus_val, rest_val]
  unfold val P M
  simp only
  omega
theorem red_ok {x : E} (h : Le 9223372036854775807 x) : Ok (red (red x)) := by
  have hb := cc_le h (Int.le_refl _) 5 (Nat.le_refl _)
  have hr := rest_can x
  have hr2 := rest_can (red x)
  obtain ⟨h0, h1, h2, h3, h4, h5⟩ := cc_eqs (red x)
  have hbx : beyond x = cc x 5 := rfl
  have hby : beyond (red x) = cc (red x) 5 := rfl
  unfold Can Le at hr hr2
  have ea : (red x).a = (rest x).a + 5 * beyond x := rfl
  have eb : (red x).b = (rest x).b + 0 := rfl
  have ec : (red x).c = (rest x).c + 0 := rfl
  have ed : (red x).d = (rest x).d + 0 := rfl
  have ee : (red x).e = (rest x).e + 0 := rfl
  rw [ea] at h1
  rw [eb] at h2
  rw [ec] at h3
  rw [ed] at h4
  rw [ee] at h5
  have k1 : 0 ≤ cc (red x) 1 ∧ cc (red x) 1 ≤ 10241 := by omega
  have k2 : 0 ≤ cc (red x) 2 ∧ cc (red x) 2 ≤ 1 := by omega
  have k3 : 0 ≤ cc (red x) 3 ∧ cc (red x) 3 ≤ 1 := by omega
  have k4 : 0 ≤ cc (red x) 4 ∧ cc (red x) 4 ≤ 1 := by omega
  have k5 : 0 ≤ cc (red x) 5 ∧ cc (red x) 5 ≤ 1 := by omega
  unfold Ok
  have fa : (red (red x)).a = (rest (red x)).a + 5 * beyond (red x) := rfl
  have fb : (red (red x)).b = (rest (red x)).b + 0 := rfl
  have fc : (red (red x)).c = (rest (red x)).c + 0 := rfl
  have fd : (red (red x)).d = (rest (red x)).d + 0 := rfl
  have fe : (red (red x)).e = (rest (red x)).e + 0 := rfl
  rw [fa, fb, fc, fd, fe]
  omega
/-- The columns of a product. -/
def col (x y : E) : E := ⟨x.a * y.a + 5 * (x.b * y.e) + 5 * (x.c * y.d) + 5 * (x.d * y.c) + 5 * (x.e * y.b), x.a * y.b + x.b * y.a + 5 * (x.c * y.e) + 5 * (x.d * y.d) + 5 * (x.e * y.c),
  x.a * y.c + x.b * y.b + x.c * y.a + 5 * (x.d * y.e) + 5 * (x.e * y.d), x.a * y.d + x.b * y.c + x.c * y.b + x.d * y.a + 5 * (x.e * y.e), x.a * y.e + x.b * y.d + x.c * y.c + x.d * y.b + x.e * y.a⟩
theorem P_eq : P = M * (M * (M * (M * M))) - 5 := by decide
theorem col_val (x y : E) : val (col x y) = val x * val y - P * ((x.b * y.e + x.c * y.d + x.d * y.c + x.e * y.b) + M * ((x.c * y.e + x.d * y.d + x.e * y.c) + M * ((x.d * y.e + x.e * y.d) + M * (x.e * y.e)))) := by
  rw [P_eq]
  unfold val col
  simp only
  generalize M = m
  grind
def mul (x y : E) : E := red (red (col x y))
theorem mul_val (x y : E) : val (mul x y) % P = val x * val y % P := by
  unfold mul
  rw [red_val, red_val, col_val]
  generalize beyond (red (col x y)) = u
  generalize beyond (col x y) = v
  generalize ((x.b * y.e + x.c * y.d + x.d * y.c + x.e * y.b) + M * ((x.c * y.e + x.d * y.d + x.e * y.c) + M * ((x.d * y.e + x.e * y.d) + M * (x.e * y.e)))) = t
  rw [show val x * val y - P * t - P * v - P * u = val x * val y + P * (-(t + v + u)) by grind, Int.add_mul_emod_self_left]
/-- What a part of a sum and a part of a factor give. -/
theorem part_mul {x y : Int} (h1 : 0 ≤ x) (h2 : x ≤ 135266304) (h3 : 0 ≤ y) (h4 : y ≤ 67108863) : 0 ≤ x * y ∧ x * y ≤ 9077567998918656 := by
  refine ⟨Int.mul_nonneg h1 h3, ?_⟩
  have h5 : x * y ≤ 135266304 * 67108863 := Int.mul_le_mul h2 h4 h3 (by decide)
  omega
/-- The least form. -/
def least (x : E) : E := if 0 < beyond (plus x ⟨5, 0, 0, 0, 0⟩) then rest (plus x ⟨5, 0, 0, 0, 0⟩) else rest x
theorem Ok.lt {x : E} (h : Ok x) : 0 ≤ val x ∧ val x < 2 * P := by
  unfold Ok at h; unfold val P M; omega
theorem Can.lt {x : E} (h : Can x) : 0 ≤ val x ∧ val x < 1361129467683753853853498429727072845824 := by
  unfold Can Le at h; unfold val M; omega
theorem least_val {x : E} (h : Ok x) : val (least x) = val x % P ∧ Can (least x) := by
  have h1 := rest_val (plus x ⟨5, 0, 0, 0, 0⟩)
  have h2 := (rest_can (plus x ⟨5, 0, 0, 0, 0⟩)).lt
  have h3 := rest_val x
  have h4 := (rest_can x).lt
  rw [plus_val] at h1
  have h5 : val ⟨5, 0, 0, 0, 0⟩ = 5 := by decide
  rw [h5] at h1
  have h6 := h.lt
  unfold least
  split
  · next hb =>
    refine ⟨?_, rest_can _⟩
    have ha : beyond (plus x ⟨5, 0, 0, 0, 0⟩) = 1 := by unfold P at h6; omega
    rw [ha] at h1
    have e : val x = (val x - P) + P := by omega
    rw [e, Int.add_emod_right, Int.emod_eq_of_lt (by unfold P; omega) (by omega)]
    unfold P
    omega
  · next hb =>
    refine ⟨?_, rest_can _⟩
    have hlt : val x < P := by unfold P; omega
    have ha : beyond x = 0 := by unfold P at hlt; omega
    rw [ha] at h3
    rw [Int.emod_eq_of_lt h6.1 hlt]
    omega
/-- 128 bits of a number. -/
def joinLo (x : E) : Int := (x.a + 67108864 * x.b + 4503599627370496 * x.c) % 18446744073709551616
def joinHi (x : E) : Int := (x.c / 4096 + 16384 * x.d + 1099511627776 * x.e) % 18446744073709551616
theorem join_val {x : E} (h : Can x) : joinLo x + 18446744073709551616 * joinHi x = val x % 340282366920938463463374607431768211456 := by
  unfold Can Le at h; unfold joinLo joinHi val M; omega
end Po
end Go.Proofs.Yticoefnojgaplaa
