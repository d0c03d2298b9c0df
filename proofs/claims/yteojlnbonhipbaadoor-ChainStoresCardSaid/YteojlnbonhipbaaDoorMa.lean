/- A term, and the text that no other term has for its name. -/
import Derived.Lib.AtoiAll
import Derived.Lib.ItoaNum
import Derived.Lib.ItoaMem
import Derived.Lib.ItoaLen
namespace Go.Proofs.YteojlnbonhipbaaDoor
namespace Mk
theorem dig_all (u : Nat) : ∀ b ∈ Lib.decDigits u, 48 ≤ b.toNat ∧ b.toNat ≤ 57 := by
  induction u using Nat.strongRecOn with
  | ind u ih =>
    intro b hb
    rw [Lib.decDigits] at hb
    split at hb
    · rename_i h
      simp only [List.mem_singleton] at hb
      subst hb
      rw [UInt8.toNat_ofNat']
      omega
    · rename_i h
      rw [List.mem_append, List.mem_singleton] at hb
      rcases hb with hb | hb
      · exact ih (u / 10) (by omega) b hb
      · subst hb
        rw [UInt8.toNat_ofNat']
        omega
theorem parse_app : ∀ (l r : List UInt8) (acc v : Nat), Lib.parseUint10 acc l = .ok v → Lib.parseUint10 acc (l ++ r) = Lib.parseUint10 v r
  | [], r, acc, v, h => by
    simp only [Lib.parseUint10] at h
    injection h with h
    subst h; rfl
  | c :: l, r, acc, v, h => by
    simp only [Lib.parseUint10] at h
    simp only [List.cons_append, Lib.parseUint10]
    split at h
    · rename_i h1
      rw [if_pos h1]
      split at h
      · cases h
      · rename_i h2
        rw [if_neg h2]
        split at h
        · cases h
        · rename_i h3
          rw [if_neg h3]
          exact parse_app l r _ v h
    · cases h
end Mk
/-- A term: its kind, what it is made of, its bytes, a number. -/
structure Tm where
  k : Int
  of : List Int
  tx : List UInt8
  n : Int
  deriving DecidableEq
namespace Tm
theorem parse64 (u : Nat) (hu : u < 18446744073709551616) : Lib.parseUint10 0 (Lib.decDigits u) = .ok u := by
  induction u using Nat.strongRecOn with
  | ind u ih =>
    rw [Lib.decDigits]
    split
    · rename_i h
      have e : (UInt8.ofNat (48 + u)).toNat = 48 + u := by rw [UInt8.toNat_ofNat']; omega
      simp only [Lib.parseUint10, e]
      rw [if_pos (by omega), if_neg (by omega), if_neg (by omega)]
      congr 1
      omega
    · rename_i h
      have e : (UInt8.ofNat (48 + u % 10)).toNat = 48 + u % 10 := by rw [UInt8.toNat_ofNat']; omega
      rw [Mk.parse_app _ _ _ _ (ih (u / 10) (by omega) (by omega))]
      simp only [Lib.parseUint10, e]
      rw [if_pos (by omega), if_neg (by omega), if_neg (by omega)]
      congr 1
      omega
theorem dec_inj {u v : Nat} (hu : u < 18446744073709551616) (hv : v < 18446744073709551616) (h : Lib.decDigits u = Lib.decDigits v) : u = v := by
  have h1 := parse64 u hu
  rw [h, parse64 v hv] at h1
  injection h1 with h1
  exact h1.symm
/-- A small number: one or two digits. -/
def I64 (n : Int) : Prop := 0 ≤ n ∧ n < 100
theorem itoa_cases (n : Int) : (0 ≤ n ∧ Lib.itoa n = Lib.decDigits n.toNat) ∨ (n < 0 ∧ Lib.itoa n = 45 :: Lib.decDigits n.natAbs) := by
  unfold Lib.itoa
  by_cases h : n < 0
  · right; exact ⟨h, if_pos h⟩
  · left; exact ⟨by omega, if_neg h⟩
theorem itoa_chars (n : Int) : ∀ b ∈ Lib.itoa n, b ≠ 44 ∧ b ≠ 58 := by
  intro b hb
  rcases itoa_cases n with ⟨-, h⟩ | ⟨-, h⟩
  · rw [h] at hb
    have := Mk.dig_all _ b hb
    constructor
    · intro e; subst e; simp at this
    · intro e; subst e; simp at this
  · rw [h, List.mem_cons] at hb
    rcases hb with rfl | hb
    · decide
    · have := Mk.dig_all _ b hb
      constructor
      · intro e; subst e; simp at this
      · intro e; subst e; simp at this
theorem dec_head (u : Nat) : ∀ r, Lib.decDigits u ≠ 45 :: r := by
  intro r h
  have := Mk.dig_all u 45 (by rw [h]; exact List.mem_cons_self ..)
  simp at this
theorem itoa_inj {n m : Int} (hn : I64 n) (hm : I64 m) (h : Lib.itoa n = Lib.itoa m) : n = m := by
  obtain ⟨n1, n2⟩ := hn
  obtain ⟨m1, m2⟩ := hm
  rcases itoa_cases n with ⟨a1, a2⟩ | ⟨a1, a2⟩ <;> rcases itoa_cases m with ⟨b1, b2⟩ | ⟨b1, b2⟩ <;> rw [a2, b2] at h
  · have := dec_inj (by omega) (by omega) h
    omega
  · exact absurd h (dec_head _ _)
  · exact absurd h.symm (dec_head _ _)
  · injection h with _ h
    have := dec_inj (by omega) (by omega) h
    omega
theorem cut_sep : ∀ (a b x y : List UInt8) (s t : UInt8), (∀ c ∈ a, c ≠ 44 ∧ c ≠ 58) → (∀ c ∈ b, c ≠ 44 ∧ c ≠ 58) → (s = 44 ∨ s = 58) → (t = 44 ∨ t = 58) → a ++ s :: x = b ++ t :: y → a = b ∧ s = t ∧ x = y
  | [], [], x, y, s, t, _, _, _, _, h => by
    simp only [List.nil_append, List.cons.injEq] at h
    exact ⟨rfl, h.1, h.2⟩
  | [], c :: b, x, y, s, t, _, hb, hs, _, h => by
    simp only [List.nil_append, List.cons_append, List.cons.injEq] at h
    have := hb c (List.mem_cons_self ..)
    rw [← h.1] at this
    rcases hs with rfl | rfl <;> simp at this
  | c :: a, [], x, y, s, t, ha, _, _, ht, h => by
    simp only [List.nil_append, List.cons_append, List.cons.injEq] at h
    have := ha c (List.mem_cons_self ..)
    rw [h.1] at this
    rcases ht with rfl | rfl <;> simp at this
  | c :: a, d :: b, x, y, s, t, ha, hb, hs, ht, h => by
    simp only [List.cons_append, List.cons.injEq] at h
    obtain ⟨h1, h2, h3⟩ := cut_sep a b x y s t (fun e he => ha e (List.mem_cons_of_mem _ he)) (fun e he => hb e (List.mem_cons_of_mem _ he)) hs ht h.2
    exact ⟨by rw [h.1, h1], h2, h3⟩
/-- What follows the number. -/
def body : List Int → List UInt8 → List UInt8
  | [], tx => 58 :: tx
  | i :: r, tx => 44 :: (Lib.itoa i ++ body r tx)
theorem body_head (l : List Int) (tx : List UInt8) : ∃ s x, body l tx = s :: x ∧ (s = 44 ∨ s = 58) := by
  cases l with
  | nil => exact ⟨58, tx, rfl, .inr rfl⟩
  | cons i r => exact ⟨44, _, rfl, .inl rfl⟩
theorem body_inj : ∀ (l m : List Int) (x y : List UInt8), (∀ i ∈ l, I64 i) → (∀ i ∈ m, I64 i) → body l x = body m y → l = m ∧ x = y
  | [], [], x, y, _, _, h => by
    simp only [body, List.cons.injEq, true_and] at h
    exact ⟨rfl, h⟩
  | [], j :: m, x, y, _, _, h => by
    simp only [body, List.cons.injEq] at h
    exact absurd h.1 (by decide)
  | i :: l, [], x, y, _, _, h => by
    simp only [body, List.cons.injEq] at h
    exact absurd h.1 (by decide)
  | i :: l, j :: m, x, y, hl, hm, h => by
    simp only [body, List.cons.injEq, true_and] at h
    obtain ⟨s, a, e1, h1⟩ := body_head l x
    obtain ⟨t, b, e2, h2⟩ := body_head m y
    rw [e1, e2] at h
    obtain ⟨h3, h4, h5⟩ := cut_sep _ _ _ _ _ _ (itoa_chars i) (itoa_chars j) h1 h2 h
    have e : body l x = body m y := by rw [e1, e2, h4, h5]
    obtain ⟨h6, h7⟩ := body_inj l m x y (fun c hc => hl c (List.mem_cons_of_mem _ hc)) (fun c hc => hm c (List.mem_cons_of_mem _ hc)) e
    exact ⟨by rw [itoa_inj (hl i (List.mem_cons_self ..)) (hm j (List.mem_cons_self ..)) h3, h6], h7⟩
/-- What a term may be. -/
structure Ok (t : Tm) : Prop where
  k0 : 0 ≤ t.k
  k1 : t.k ≤ 255
  n : I64 t.n
  of : ∀ i ∈ t.of, I64 i
/-- A term's name. -/
def name (t : Tm) : List UInt8 := UInt8.ofNat t.k.toNat :: (Lib.itoa t.n ++ body t.of t.tx)
/-- Different terms have different names. -/
theorem name_inj {t u : Tm} (ht : t.Ok) (hu : u.Ok) (h : t.name = u.name) : t = u := by
  unfold name at h
  simp only [List.cons.injEq] at h
  obtain ⟨s, a, e1, h1⟩ := body_head t.of t.tx
  obtain ⟨s', b, e2, h2⟩ := body_head u.of u.tx
  obtain ⟨hk, h⟩ := h
  rw [e1, e2] at h
  obtain ⟨h3, h4, h5⟩ := cut_sep _ _ _ _ _ _ (itoa_chars _) (itoa_chars _) h1 h2 h
  have e : body t.of t.tx = body u.of u.tx := by rw [e1, e2, h4, h5]
  obtain ⟨h6, h7⟩ := body_inj _ _ _ _ ht.of hu.of e
  have h8 := itoa_inj ht.n hu.n h3
  have h9 : t.k = u.k := by
    have := congrArg UInt8.toNat hk
    rw [UInt8.toNat_ofNat', UInt8.toNat_ofNat'] at this
    have := ht.k0; have := ht.k1; have := hu.k0; have := hu.k1
    omega
  cases t; cases u
  simp_all
end Tm
end Go.Proofs.YteojlnbonhipbaaDoor
