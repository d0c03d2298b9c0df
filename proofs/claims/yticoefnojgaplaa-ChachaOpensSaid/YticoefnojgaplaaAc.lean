/- The reference's tag: its factor, byte by byte. -/
import Derived.Test.YticoefnojgaplaaAb
namespace Go.Proofs.Yticoefnojgaplaa
open Go.RowKit

/-- Masked byte by byte. -/
def cl (R : List Int) (m : List Nat) : List Int := List.zipWith (fun x m => ((x.toNat &&& m : Nat) : Int)) R m
def lown : List Nat → Nat
  | [] => 0
  | x :: r => x + 256 * lown r
theorem and_step (x m a b : Nat) (hx : x < 256) (hm : m < 256) : (x + 256 * a) &&& (m + 256 * b) = (x &&& m) + 256 * (a &&& b) := by
  have h1 := Nat.and_mod_two_pow (a := x + 256 * a) (b := m + 256 * b) (n := 8)
  have h2 := Nat.and_div_two_pow (a := x + 256 * a) (b := m + 256 * b) (n := 8)
  simp only [Nat.reducePow] at h1 h2
  rw [Nat.add_mul_mod_self_left, Nat.add_mul_mod_self_left, Nat.mod_eq_of_lt hx, Nat.mod_eq_of_lt hm] at h1
  rw [Nat.add_mul_div_left _ _ (by decide), Nat.add_mul_div_left _ _ (by decide), Nat.div_eq_of_lt hx, Nat.div_eq_of_lt hm, Nat.zero_add, Nat.zero_add] at h2
  have h3 := Nat.div_add_mod ((x + 256 * a) &&& (m + 256 * b)) 256
  omega
theorem low_and : ∀ (R : List Int) (m : List Nat), (∀ x ∈ R, W8 x) → (∀ x ∈ m, x < 256) → R.length = m.length → Bt.low (cl R m) = Bt.low R &&& lown m
  | [], [], _, _, _ => rfl
  | x :: R, m :: ms, hR, hm, hl => by
    have ih := low_and R ms (fun y hy => hR y (List.mem_cons_of_mem _ hy)) (fun y hy => hm y (List.mem_cons_of_mem _ hy)) (by simpa using hl)
    have hx := hR x (List.mem_cons_self ..)
    have hmm := hm m (List.mem_cons_self ..)
    unfold W8 at hx
    show ((x.toNat &&& m : Nat) : Int).toNat + 256 * Bt.low (cl R ms) = (x.toNat + 256 * Bt.low R) &&& (m + 256 * lown ms)
    rw [and_step _ _ _ _ (by omega) hmm, ih, Int.toNat_natCast]
  | [], _ :: _, _, _, hl => by simp at hl
  | _ :: _, [], _, _, hl => by simp at hl
def ms : List Nat := [255, 255, 255, 15, 252, 255, 255, 15, 252, 255, 255, 15, 252, 255, 255, 15]
theorem cl_length (R : List Int) (hl : R.length = 16) : (cl R ms).length = 16 := by simp [cl, ms, hl]
theorem cl_W8 {R : List Int} (hR : ∀ x ∈ R, W8 x) (m : List Nat) : ∀ x ∈ cl R m, W8 x := by
  intro x hx
  unfold cl at hx
  rw [List.mem_iff_getElem] at hx
  obtain ⟨j, hj, rfl⟩ := hx
  rw [List.getElem_zipWith]
  have hj2 : j < R.length := by simp at hj; omega
  have h := hR _ (List.getElem_mem hj2)
  unfold W8 at h ⊢
  have h2 : R[j].toNat &&& m[j]'(by simp at hj; omega) ≤ R[j].toNat := Nat.and_le_left
  omega
theorem cl_get {R : List Int} (hl : R.length = 16) (k : Nat) (hk : k < 16) : (cl R ms).getD k 0 = (((R.getD k 0).toNat &&& ms.getD k 0 : Nat) : Int) := by
  have h1 : k < (cl R ms).length := by rw [cl_length R hl]; exact hk
  rw [List.getD_eq_getElem?_getD, List.getElem?_eq_getElem h1, List.getD_eq_getElem?_getD (l := R), List.getElem?_eq_getElem (by omega), List.getD_eq_getElem?_getD (l := ms), List.getElem?_eq_getElem (show k < ms.length from hk)]
  have e : (cl R ms)[k]'h1 = ((R[k].toNat &&& ms[k] : Nat) : Int) := by simp [cl]; rfl
  exact e
theorem and_15 {x : Int} (h : W8 x) : ((x.toNat &&& 15 : Nat) : Int) = x % 16 := by
  unfold W8 at h
  have h2 : x.toNat &&& 15 = x.toNat % 16 := Nat.and_two_pow_sub_one_eq_mod x.toNat 4
  omega
theorem and_255 {x : Int} (h : W8 x) : ((x.toNat &&& 255 : Nat) : Int) = x := by
  unfold W8 at h
  have h2 : x.toNat &&& 255 = x.toNat % 256 := Nat.and_two_pow_sub_one_eq_mod x.toNat 8
  omega
set_option maxRecDepth 10000 in
theorem and_252 {x : Int} (h : W8 x) : ((x.toNat &&& 252 : Nat) : Int) = x - x % 4 := by
  unfold W8 at h
  have h1 : ∀ n, n < 256 → n &&& 252 = n - n % 4 := by decide
  have h2 := h1 x.toNat (by omega)
  omega
theorem ms_3 : ∀ k, k < 16 → k % 4 = 3 → ms.getD k 0 = 15 := by decide
theorem ms_0 : ∀ k, k < 16 → k % 4 = 0 → 0 < k → ms.getD k 0 = 252 := by decide
theorem ms_e : ∀ k, k < 16 → k % 4 ≠ 3 → ¬ (k % 4 = 0 ∧ 0 < k) → ms.getD k 0 = 255 := by decide
/-- So far masked. -/
def clk (R : List Int) (k : Nat) : List Int := (cl R ms).take k ++ R.drop k
theorem clk_length (R : List Int) (hl : R.length = 16) (k : Nat) (hk : k ≤ 16) : (clk R k).length = 16 := by
  have := cl_length R hl
  simp [clk]; omega
theorem clk_get (R : List Int) (hl : R.length = 16) (k : Nat) (hk : k < 16) : (clk R k).getD k 0 = R.getD k 0 := by
  have h := cl_length R hl
  have h2 : ((cl R ms).take k).length = k := by rw [List.length_take]; omega
  unfold clk
  rw [List.getD_eq_getElem?_getD, List.getElem?_append_right (by omega), h2, Nat.sub_self]
  simp [List.getD_eq_getElem?_getD]
theorem clk_more (R : List Int) (hl : R.length = 16) (k : Nat) (hk : k < 16) : (clk R k).set k ((cl R ms).getD k 0) = clk R (k + 1) := by
  have h := cl_length R hl
  have h2 : ((cl R ms).take k).length = k := by rw [List.length_take]; omega
  have e2 : (cl R ms).take (k + 1) = (cl R ms).take k ++ [(cl R ms).getD k 0] := by
    rw [List.take_add_one, List.getElem?_eq_getElem (by omega), List.getD_eq_getElem?_getD, List.getElem?_eq_getElem (by omega)]; rfl
  unfold clk
  rw [List.set_append_right _ _ (by omega), h2, Nat.sub_self, e2, List.append_assoc, List.drop_eq_getElem_cons (by omega)]
  rfl
theorem clk_same (R : List Int) (hl : R.length = 16) (k : Nat) (hk : k < 16) (h : (cl R ms).getD k 0 = R.getD k 0) : clk R k = clk R (k + 1) := by
  rw [← clk_more R hl k hk, h, ← clk_get R hl k hk]
  have hn : k < (clk R k).length := by rw [clk_length R hl k (by omega)]; exact hk
  rw [List.getD_eq_getElem?_getD, List.getElem?_eq_getElem hn]
  simp
theorem clk_all (R : List Int) (hl : R.length = 16) : clk R 16 = cl R ms := by
  unfold clk
  rw [List.take_of_length_le (by rw [cl_length R hl]; exact Nat.le_refl _), List.drop_of_length_le (by omega), List.append_nil]
theorem clk_zero (R : List Int) : clk R 0 = R := by simp [clk]
theorem clk_W8 {R : List Int} (hR : ∀ x ∈ R, W8 x) (k : Nat) : ∀ x ∈ clk R k, W8 x := by
  intro x hx
  unfold clk at hx
  rcases List.mem_append.1 hx with hx | hx
  · exact cl_W8 hR _ x (List.mem_of_mem_take hx)
  · exact hR x (List.mem_of_mem_drop hx)
theorem fac_low {K : List Int} (h8 : ∀ x ∈ K, W8 x) (hl : K.length = 32) : Po.val (Po.fac K) = (Bt.low (cl (K.take 16) ms) : Nat) := by
  have h1 := low8 (l := K.take 8) (fun x hx => h8 x (List.mem_of_mem_take hx)) (by rw [List.length_take]; omega)
  have h2 := low8 (l := (K.drop 8).take 8) (fun x hx => h8 x (List.mem_of_mem_drop (List.mem_of_mem_take hx))) (by rw [List.length_take]; omega)
  have e1 : Po.rlo K = (Bt.low (cl (K.take 8) (ms.take 8)) : Nat) := by
    rw [low_and _ _ (fun x hx => h8 x (List.mem_of_mem_take hx)) (by decide) (by rw [List.length_take, hl]; rfl)]
    exact u64_and_nat _ 1152921487695413247 (by omega) (by decide)
  have e2 : Po.rhi K = (Bt.low (cl ((K.drop 8).take 8) (ms.drop 8)) : Nat) := by
    rw [low_and _ _ (fun x hx => h8 x (List.mem_of_mem_drop (List.mem_of_mem_take hx))) (by decide) (by rw [List.length_take, List.length_drop, hl]; rfl)]
    exact u64_and_nat _ 1152921487695413244 (by omega) (by decide)
  have hs : K.take 16 = K.take 8 ++ (K.drop 8).take 8 := by rw [show (16 : Nat) = 8 + 8 from rfl, List.take_add]
  have hc : cl (K.take 16) ms = cl (K.take 8) (ms.take 8) ++ cl ((K.drop 8).take 8) (ms.drop 8) := by
    rw [hs]
    unfold cl
    rw [← List.zipWith_append (by rw [List.length_take, hl]; rfl), List.take_append_drop]
  unfold Po.fac
  rw [Po.split_val (Po.rlo_le h8).1 (Po.rlo_le h8).2, e1, e2, hc, Bt.low_app, show (cl (K.take 8) (ms.take 8)).length = 8 by unfold cl; rw [List.length_zipWith, List.length_take, hl]; rfl]
  simp only [Nat.reducePow, Int.natCast_add, Int.natCast_mul]
  omega
end Go.Proofs.Yticoefnojgaplaa
