/- A number by its worth; what each of the reference's functions makes of it. -/
import Derived.Test.YticoefnojgaplaaZ
namespace Go.Proofs.Yticoefnojgaplaa
open Go.RowKit

/-- A number in so many words. -/
def Nv (w : World) (v : Value) (x : Int) (L : Nat) : Prop := ∃ l, Num w v l ∧ Nt.val l = x ∧ Nt.Neat l ∧ l.length ≤ L
theorem Nv.below {w w' : World} {v : Value} {x : Int} {L B : Nat} (h : Nv w v x L) (hb : Below B w w') (hB : w.heap.size ≤ B) : Nv w' v x L := by
  obtain ⟨l, h1, h2⟩ := h
  exact ⟨l, h1.below hb hB, h2⟩
theorem Nv.nonneg {w : World} {v : Value} {x : Int} {L : Nat} (h : Nv w v x L) : 0 ≤ x := by
  obtain ⟨l, ⟨_, _, _, _, h8, _⟩, rfl, _⟩ := h
  exact Nt.val_nonneg h8
theorem Nv.lt {w : World} {v : Value} {x : Int} {L : Nat} (h : Nv w v x L) : x < Nt.pw L := by
  obtain ⟨l, ⟨_, _, _, _, h8, _⟩, rfl, _, hl⟩ := h
  exact Int.lt_of_lt_of_le (Nt.val_lt h8) (Nt.pw_le hl)
theorem Nv.shrink {w : World} {v : Value} {x : Int} {L K : Nat} (h : Nv w v x L) (hx : x < Nt.pw K) : Nv w v x K := by
  obtain ⟨l, h1, rfl, hn, _⟩ := h
  obtain ⟨_, _, _, _, h8, _⟩ := id h1
  refine ⟨l, h1, rfl, hn, ?_⟩
  apply Decidable.byContradiction
  intro hk
  have h2 := Nt.neat_le hn h8 (by omega)
  have h3 := Nt.pw_le (m := K) (n := l.length - 1) (by omega)
  omega
theorem Nv.zero (w : World) : Nv w (.slice none 0 0) 0 0 := ⟨[], ⟨none, 0, rfl, Nat.le_refl _, Nt.Ws.nil, Or.inl rfl⟩, rfl, fun h => (Nat.lt_irrefl _ h).elim, Nat.le_refl _⟩
theorem plus_nv (w : World) (u v : Value) (x y : Int) (L M : Nat) (hu : Nv w u x L) (hv : Nv w v y M) (hL : L ≤ 100000) (hM : M ≤ 100000) : Calls Try.prog 34 #[u, v] w fun e w' => ∃ v', e = .returned v' ∧ Nv w' v' (x + y) (L + M + 1) ∧ Below w.heap.size w w' := by
  obtain ⟨a, h1, rfl, _, h2⟩ := hu
  obtain ⟨b, h3, rfl, _, h4⟩ := hv
  refine (plusn_any w u v a b h1 h3 (by omega) (by omega)).mono ?_
  rintro e w' ⟨v', l, rfl, hn, hv, hne, hl, hb⟩
  exact ⟨v', rfl, ⟨l, hn, hv, hne, by omega⟩, hb⟩
theorem times_nv (w : World) (u v : Value) (x y : Int) (L M : Nat) (hu : Nv w u x L) (hv : Nv w v y M) (hL : L ≤ 100000) (hM : M ≤ 100000) : Calls Try.prog 33 #[u, v] w fun e w' => ∃ v', e = .returned v' ∧ Nv w' v' (x * y) (L + M) ∧ Below w.heap.size w w' := by
  obtain ⟨a, h1, rfl, _, h2⟩ := hu
  obtain ⟨b, h3, rfl, _, h4⟩ := hv
  obtain ⟨aa, ca, rfl⟩ := num_form h1
  obtain ⟨ab, cb, rfl⟩ := num_form h3
  refine (times_probe w aa ab ca cb a b h1 h3 (by omega) (by omega)).mono ?_
  rintro e w' ⟨v', l, rfl, hn, hv, hne, hl, hb⟩
  exact ⟨v', rfl, ⟨l, hn, hv, hne, by omega⟩, hb⟩
theorem less_nv (w : World) (u v : Value) (x y : Int) (L M : Nat) (hu : Nv w u x L) (hv : Nv w v y M) (hL : L ≤ 100000) (hle : y ≤ x) : Calls Try.prog 45 #[u, v] w fun e w' => ∃ v', e = .returned v' ∧ Nv w' v' (x - y) L ∧ Below w.heap.size w w' := by
  obtain ⟨a, h1, rfl, _, h2⟩ := hu
  obtain ⟨b, h3, rfl, _, h4⟩ := hv
  refine (lessn_any w u v a b h1 h3 (by omega) hle).mono ?_
  rintro e w' ⟨v', l, rfl, hn, hv, hne, hl, hb⟩
  exact ⟨v', rfl, ⟨l, hn, hv, hne, by omega⟩, hb⟩
theorem cmp_nv (w : World) (u v : Value) (x y : Int) (L M : Nat) (hu : Nv w u x L) (hv : Nv w v y M) (hL : L ≤ 1000000) (hM : M ≤ 1000000) : Calls Try.prog 44 #[u, v] w fun e w' => ∃ r : Int, e = .returned (.int .i64 r) ∧ (r < 0 ↔ x < y) ∧ Below w.heap.size w w' := by
  obtain ⟨a, h1, rfl, _, h2⟩ := hu
  obtain ⟨b, h3, rfl, _, h4⟩ := hv
  refine (cmp_any w u v a b h1 h3 (by omega) (by omega)).mono ?_
  rintro e w' ⟨r, rfl, _, h, hb⟩
  exact ⟨r, rfl, h, hb⟩
theorem bit_nv (w : World) (u : Value) (x : Int) (L n : Nat) (i : Int) (hi : i = n) (hu : Nv w u x L) (hL : L ≤ 100000) (hn : n ≤ 10000000) : Calls Try.prog 43 #[u, .int .i64 i] w fun e w' => e = .returned (.int .u32 (x / 2 ^ n % 2)) ∧ w' = w := by
  obtain ⟨a, h1, rfl, _, h2⟩ := hu
  obtain ⟨_, _, _, _, h8, _⟩ := id h1
  rw [← Nt.bit_val h8]
  exact bit_at w u a n i hi h1 (by omega) hn
theorem len_nv (w : World) (u : Value) (x : Int) (L : Nat) (hu : Nv w u x L) (hL : L ≤ 100000) : Calls Try.prog 42 #[u] w fun e w' => ∃ m : Nat, e = .returned (.int .i64 m) ∧ x < 2 ^ m ∧ m ≤ 32 * L ∧ w' = w := by
  obtain ⟨a, h1, rfl, _, h2⟩ := hu
  refine (len_any w u a h1 (by omega)).mono ?_
  rintro e w' ⟨m, rfl, h3, _, h4, rfl⟩
  exact ⟨m, rfl, h3, by omega, rfl⟩
theorem low_nv (w : World) (u : Value) (p : List Int) (h : Slc w u p) (L : Nat) (hL : (p.length + 3) / 4 ≤ L) (hp : p.length ≤ 100000) : Calls Try.prog 35 #[u] w fun e w' => ∃ v', e = .returned v' ∧ Nv w' v' (Bt.low p : Nat) L ∧ Below w.heap.size w w' := by
  refine (nlow_any w u p h hp).mono ?_
  rintro e w' ⟨v', l, rfl, hn, hv, hne, hl, hb⟩
  exact ⟨v', rfl, ⟨l, hn, hv, hne, by omega⟩, hb⟩

/-- One bit more of a remainder. -/
theorem mod_step {x m q s b : Int} (h0 : 0 < m) (hx : x = 2 * q + b) (hs : s = q % m) (hb : 0 ≤ b) (hb1 : b ≤ 1) : 0 ≤ s ∧ s < m ∧ (s + s + b < m → s + s + b = x % m) ∧ (m ≤ s + s + b → s + s + b - m = x % m ∧ s + s + b - m < m) := by
  have h1 := Int.emod_nonneg q (Int.ne_of_gt h0)
  have h2 := Int.emod_lt_of_pos q h0
  have h3 := Int.mul_ediv_add_emod q m
  rw [← hs] at h1 h2 h3
  have e : x = s + s + b + m * (2 * (q / m)) := by rw [hx, Int.mul_left_comm]; omega
  have e2 : x % m = (s + s + b) % m := by rw [e, Int.add_mul_emod_self_left]
  refine ⟨h1, h2, fun h => ?_, fun h => ⟨?_, by omega⟩⟩
  · rw [e2, Int.emod_eq_of_lt (by omega) h]
  · rw [e2, ← Int.sub_emod_right, Int.emod_eq_of_lt (by omega) (by omega)]
end Go.Proofs.Yticoefnojgaplaa
