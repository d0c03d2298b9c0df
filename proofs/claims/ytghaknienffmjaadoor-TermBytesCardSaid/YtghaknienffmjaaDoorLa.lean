/- Marks, as functions on lists of bytes: what is read is what was marked. -/
import Derived.Lib.IndexMore
import Derived.Lib.CutLaws
import Derived.Lib.IndexLaws
import Derived.Lib.IndexBytes
import Derived.Lib.AtoiAll
import Derived.Lib.ItoaNum
namespace Go.Proofs.YtghaknienffmjaaDoor
namespace Mk
/-- A number's digits. -/
theorem dig_all (u : Nat) : ∀ b ∈ Lib.decDigits u, 48 ≤ b.toNat ∧ b.toNat ≤ 57 := by
  induction u using Nat.strongRecOn with
  | ind u ih =>
    intro b hb
    rw [Lib.decDigits] at hb
    split at hb
    · rename_i h
      simp only [List.mem_singleton] at hb
      subst hb
      rw [UInt8.toNat_ofNat']
      omega
    · rename_i h
      rw [List.mem_append, List.mem_singleton] at hb
      rcases hb with hb | hb
      · exact ih (u / 10) (by omega) b hb
      · subst hb
        rw [UInt8.toNat_ofNat']
        omega
theorem dig_ne (u : Nat) : Lib.decDigits u ≠ [] := by
  rw [Lib.decDigits]
  split <;> simp
theorem parse_app : ∀ (l r : List UInt8) (acc v : Nat), Lib.parseUint10 acc l = .ok v → Lib.parseUint10 acc (l ++ r) = Lib.parseUint10 v r
  | [], r, acc, v, h => by
    simp only [Lib.parseUint10] at h
    injection h with h
    subst h; rfl
  | c :: l, r, acc, v, h => by
    simp only [Lib.parseUint10] at h
    simp only [List.cons_append, Lib.parseUint10]
    split at h
    · rename_i h1
      rw [if_pos h1]
      split at h
      · cases h
      · rename_i h2
        rw [if_neg h2]
        split at h
        · cases h
        · rename_i h3
          rw [if_neg h3]
          exact parse_app l r _ v h
    · cases h
theorem parse_dig (u : Nat) (hu : u < 9223372036854775808) : Lib.parseUint10 0 (Lib.decDigits u) = .ok u := by
  induction u using Nat.strongRecOn with
  | ind u ih =>
    rw [Lib.decDigits]
    split
    · rename_i h
      have e : (UInt8.ofNat (48 + u)).toNat = 48 + u := by rw [UInt8.toNat_ofNat']; omega
      simp only [Lib.parseUint10, e]
      rw [if_pos (by omega), if_neg (by omega), if_neg (by omega)]
      congr 1
      omega
    · rename_i h
      have e : (UInt8.ofNat (48 + u % 10)).toNat = 48 + u % 10 := by rw [UInt8.toNat_ofNat']; omega
      rw [parse_app _ _ _ _ (ih (u / 10) (by omega) (by omega))]
      simp only [Lib.parseUint10, e]
      rw [if_pos (by omega), if_neg (by omega), if_neg (by omega)]
      congr 1
      omega
theorem atoi_dig (u : Nat) (hu : u < 9223372036854775808) : Lib.atoiAll (Lib.decDigits u) = .ok (u : Int) := by
  have hne := dig_ne u
  have hall := dig_all u
  have hp := parse_dig u hu
  generalize Lib.decDigits u = l at *
  cases l with
  | nil => exact absurd rfl hne
  | cons c r =>
    have h0 := hall c (List.mem_cons_self ..)
    unfold Lib.atoiAll
    have hc : ¬ (c.toNat = 43 ∨ c.toNat = 45) := by omega
    have hn : ¬ c.toNat = 45 := by omega
    simp only [if_neg hc, Lib.parseMag, if_neg hne, hp]
    rw [if_neg (by omega), if_neg (by simp [hn]), if_neg hn]
theorem index_app : ∀ (d r : List UInt8), (∀ b ∈ d, b ≠ 58) → Lib.indexByte (d ++ 58 :: r) 58 = d.length
  | [], r, _ => by simp [Lib.indexByte]
  | b :: d, r, h => by
    have hb := h b (List.mem_cons_self ..)
    have ih := index_app d r (fun x hx => h x (List.mem_cons_of_mem _ hx))
    simp only [List.cons_append, Lib.indexByte, ih]
    simp [hb]

/-- A part behind its length. -/
def mk (p : List UInt8) : List UInt8 := Lib.decDigits p.length ++ 58 :: p
/-- The first part, and what follows. -/
def cut (s : List UInt8) : Option (List UInt8 × List UInt8) :=
  if (Lib.cut s [58]).2.2 = false then none else
  match Lib.atoiAll (Lib.cut s [58]).1 with
  | .ok n => if n < 0 ∨ ((Lib.cut s [58]).2.1.length : Int) < n then none
    else if Lib.decDigits n.toNat = (Lib.cut s [58]).1 then some ((Lib.cut s [58]).2.1.take n.toNat, (Lib.cut s [58]).2.1.drop n.toNat) else none
  | _ => none
theorem cut_hit {s : List UInt8} (h : (Lib.cut s [58]).2.2 = true) : s = (Lib.cut s [58]).1 ++ 58 :: (Lib.cut s [58]).2.1 := by
  unfold Lib.cut at h ⊢
  split
  · rename_i h0
    rw [Lib.index_one] at h0 ⊢
    have hi : Lib.indexByte s 58 = ((Lib.indexByte s 58).toNat : Nat) := by omega
    obtain ⟨h1, -⟩ := Lib.indexByte_some hi
    generalize (Lib.indexByte s 58).toNat = i at *
    show s = s.take i ++ 58 :: s.drop (i + 1)
    obtain ⟨hl, h1⟩ := List.getElem?_eq_some_iff.1 h1
    conv => lhs; rw [← List.take_append_drop i s, List.drop_eq_getElem_cons hl, h1]
  · rename_i h0
    rw [if_neg h0] at h
    cases h
theorem cut_app (d r : List UInt8) (h : ∀ b ∈ d, b ≠ 58) : Lib.cut (d ++ 58 :: r) [58] = (d, r, true) := by
  unfold Lib.cut
  rw [Lib.index_one, index_app d r h, if_pos (by omega)]
  simp
theorem cut_mk (p r : List UInt8) (hp : p.length < 9223372036854775808) : cut (mk p ++ r) = some (p, r) := by
  have e : mk p ++ r = Lib.decDigits p.length ++ 58 :: (p ++ r) := by unfold mk; simp
  have h := cut_app (Lib.decDigits p.length) (p ++ r) (fun b hb h => by have := (dig_all _ b hb).2; subst h; simp at this)
  unfold cut
  rw [e, h, atoi_dig _ hp]
  simp only [List.length_append]
  rw [if_neg (by decide), if_neg (by omega), if_pos (by simp)]
  simp
theorem cut_some {s p r : List UInt8} (h : cut s = some (p, r)) : s = mk p ++ r := by
  unfold cut at h
  split at h
  · cases h
  · rename_i h0
    have hs := cut_hit (s := s) (by simpa using h0)
    generalize (Lib.cut s [58]).1 = d at *
    generalize (Lib.cut s [58]).2.1 = a at *
    split at h
    · rename_i n hn
      split at h
      · cases h
      · rename_i h1
        split at h
        · rename_i h2
          simp only [Option.some.injEq, Prod.mk.injEq] at h
          obtain ⟨rfl, rfl⟩ := h
          have hl : (a.take n.toNat).length = n.toNat := by rw [List.length_take]; omega
          unfold mk
          rw [hl, h2, hs]
          simp
        · cases h
    · cases h
theorem mk_len (p : List UInt8) : 2 + p.length ≤ (mk p).length := by
  unfold mk
  have := List.length_pos_iff.2 (dig_ne p.length)
  simp
  omega
/-- All parts, with so much breath. -/
def partsF : Nat → List UInt8 → Option (List (List UInt8))
  | 0, s => if s = [] then some [] else none
  | k + 1, s => if s = [] then some [] else match cut s with
    | none => none
    | some (p, r) => (partsF k r).map (p :: ·)
theorem partsF_more : ∀ (k m : Nat) (s : List UInt8), s.length ≤ k → s.length ≤ m → partsF k s = partsF m s
  | 0, 0, s, _, _ => rfl
  | 0, m + 1, s, h, _ => by
    obtain rfl : s = [] := List.length_eq_zero_iff.1 (by omega)
    simp [partsF]
  | k + 1, 0, s, _, h => by
    obtain rfl : s = [] := List.length_eq_zero_iff.1 (by omega)
    simp [partsF]
  | k + 1, m + 1, s, hk, hm => by
    simp only [partsF]
    split
    · rfl
    · cases hc : cut s with
      | none => rfl
      | some x =>
        obtain ⟨p, r⟩ := x
        have := congrArg List.length (cut_some hc)
        have := mk_len p
        simp only [List.length_append] at *
        simp only [partsF_more k m r (by omega) (by omega)]
def parts (s : List UInt8) : Option (List (List UInt8)) := partsF s.length s
theorem parts_nil : parts [] = some [] := rfl
theorem parts_step {s : List UInt8} (h : s ≠ []) : parts s = match cut s with
    | none => none
    | some (p, r) => (parts r).map (p :: ·) := by
  unfold parts
  cases hs : s.length with
  | zero => exact absurd (List.length_eq_zero_iff.1 hs) h
  | succ k =>
    simp only [partsF, if_neg h]
    cases hc : cut s with
    | none => rfl
    | some x =>
      obtain ⟨p, r⟩ := x
      have := congrArg List.length (cut_some hc)
      have := mk_len p
      simp only [List.length_append] at *
      simp only [partsF_more k r.length r (by omega) (Nat.le_refl _)]
theorem parts_marks : ∀ (l : List (List UInt8)), (∀ p ∈ l, p.length < 9223372036854775808) → parts (l.map mk).flatten = some l
  | [], _ => rfl
  | p :: l, h => by
    have ih := parts_marks l (fun q hq => h q (List.mem_cons_of_mem _ hq))
    have hl := mk_len p
    rw [List.map_cons, List.flatten_cons, parts_step (by intro h; have := congrArg List.length h; simp only [List.length_append, List.length_nil] at this; omega), cut_mk p _ (h p (List.mem_cons_self ..))]
    simp [ih]
theorem parts_back : ∀ (n : Nat) (s : List UInt8) (l : List (List UInt8)), s.length ≤ n → parts s = some l → (l.map mk).flatten = s
  | n, s, l, hn, h => by
    by_cases h0 : s = []
    · subst h0
      rw [parts_nil] at h
      injection h with h
      subst h; rfl
    · rw [parts_step h0] at h
      cases hc : cut s with
      | none => rw [hc] at h; cases h
      | some x =>
        obtain ⟨p, r⟩ := x
        rw [hc] at h
        have hs := cut_some hc
        have h1 := congrArg List.length hs
        have h2 := mk_len p
        simp only [List.length_append] at h1
        cases hr : parts r with
        | none => simp [hr] at h
        | some t =>
          simp only [hr, Option.map_some, Option.some.injEq] at h
          subst h
          cases n with
          | zero => omega
          | succ n => rw [List.map_cons, List.flatten_cons, parts_back n r t (by omega) hr, ← hs]
end Mk
end Go.Proofs.YtghaknienffmjaaDoor
