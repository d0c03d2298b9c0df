/- The document's example: 'awake'. -/
import Derived.Test.YteojlnbonhipbaaDoorZb
namespace Go.Proofs.YteojlnbonhipbaaDoor
open Go.RowKit Go.Maps
/-- The keys of so many steps. -/
def ks {σ : Type} (I : PI σ) (of : List UInt8) : Nat → σ → List UInt8 → Nat → List Sk
  | 0, _, _, _ => []
  | j + 1, s, K, n => ⟨of, n, I.k1 s K⟩ :: ks I of j (I.st s K) (I.k2 s K) (n + 1)
theorem ks_len {σ : Type} (I : PI σ) (of : List UInt8) : ∀ j s K n, (ks I of j s K n).length = j
  | 0, _, _, _ => rfl
  | j + 1, s, K, n => by simp [ks, ks_len I of j]
theorem ks_n {σ : Type} (I : PI σ) (of : List UInt8) : ∀ j s K n, ∀ y ∈ ks I of j s K n, n ≤ y.n ∧ y.n < n + j ∧ y.of = of
  | 0, _, _, _ => fun y hy => absurd hy (List.not_mem_nil)
  | j + 1, s, K, n => fun y hy => by
    simp only [ks, List.mem_cons] at hy
    rcases hy with rfl | hy
    · exact ⟨Nat.le_refl _, by show n < _; omega, rfl⟩
    · obtain ⟨h1, h2, h3⟩ := ks_n I of j _ _ _ y hy
      exact ⟨by omega, by omega, h3⟩
theorem putS_new (S : List Sk) (x : Sk) (h : ∀ y ∈ S, hit x.of x.n y = false) (hl : S.length < 32) : putS S x = S ++ [x] := by
  have e : S.findIdx (hit x.of x.n) = S.length := List.findIdx_eq_length.2 (fun y hy => by simpa using h y hy)
  have e2 : ridS S x.of x.n = S := by
    unfold ridS
    rw [e]
    exact List.eraseIdx_of_length_le (Nat.le_refl _)
  unfold putS
  rw [e2, if_neg (by omega)]
theorem go_ks {σ : Type} (I : PI σ) (of : List UInt8) : ∀ (j : Nat) (s : σ) (K : List UInt8) (n : Nat) (S : List Sk), (∀ y ∈ S, y.of = of → y.n < n) → S.length + j ≤ 32 → (go I of j (s, K, n, S)).2.2.2 = S ++ ks I of j s K n ∧ (go I of j (s, K, n, S)).2.2.1 = n + j
  | 0, s, K, n, S, _, _ => by simp [go, ks]
  | j + 1, s, K, n, S, h, hl => by
    have h1 : putS S ⟨of, n, I.k1 s K⟩ = S ++ [⟨of, n, I.k1 s K⟩] := putS_new S _ (fun y hy => by
      unfold hit
      by_cases e : y.of = of
      · have := h y hy e
        have : ¬ y.n = n := by omega
        simp [this]
      · simp [e]) (by omega)
    have h2 := go_ks I of j (I.st s K) (I.k2 s K) (n + 1) (S ++ [⟨of, n, I.k1 s K⟩]) (fun y hy e => by
      rcases List.mem_append.1 hy with hy | hy
      · have := h y hy e; omega
      · rw [List.mem_singleton] at hy; subst hy; show n < _; omega) (by rw [List.length_append, List.length_singleton]; omega)
    simp only [go, ks]
    rw [h1, h2.1, h2.2]
    refine ⟨by simp, by omega⟩
theorem ok_go {σ : Type} (I : PI σ) (of : List UInt8) : ∀ (j i : Nat) (s : σ) (K : List UInt8) (n : Nat) (S : List Sk), I.ok (j + i) s K → I.ok i (go I of j (s, K, n, S)).1 (go I of j (s, K, n, S)).2.1
  | 0, i, s, K, n, S, h => by rw [Nat.zero_add] at h; exact h
  | j + 1, i, s, K, n, S, h => by
    simp only [go]
    exact ok_go I of j i _ _ _ _ (I.next (j + i) s K (by rw [show j + i + 1 = j + 1 + i by omega]; exact h))
/-- A store that was just made. -/
theorem st_new (w : World) (B : Nat) (hB : B ≤ w.heap.size) : St (w.alloc (.cells #[.slice none 0 0] 38)) B w.heap.size [] :=
  ⟨.slice none 0 0, [], ⟨hB, heap_alloc_new w _, World.ownsRow_nil _ _ _ _, fun _ he => absurd he (List.not_mem_nil)⟩, rfl⟩
theorem ks_idx {σ : Type} (I : PI σ) (of : List UInt8) : ∀ (j i : Nat) (s : σ) (K : List UInt8) (n : Nat), i < j → (ks I of j s K n).findIdx (hit of (n + i)) = i
  | 0, _, _, _, _, h => absurd h (Nat.not_lt_zero _)
  | j + 1, 0, s, K, n, _ => by
    simp only [ks, List.findIdx_cons]
    simp [hit]
  | j + 1, i + 1, s, K, n, h => by
    have ih := ks_idx I of j i (I.st s K) (I.k2 s K) (n + 1) (by omega)
    simp only [ks, List.findIdx_cons]
    rw [show n + (i + 1) = n + 1 + i by omega, ih]
    have : ¬ n = n + 1 + i := by omega
    simp [hit, this]
theorem ks_idxS {σ : Type} (I : PI σ) (of : List UInt8) (j i : Nat) (s : σ) (K : List UInt8) (n : Nat) (h : i < j) : idxS (ks I of j s K n) of (n + i) = i := by
  unfold idxS
  rw [ks_idx I of j i s K n h, ks_len, if_pos h]
end Go.Proofs.YteojlnbonhipbaaDoor
