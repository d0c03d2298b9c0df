/- Layer 6, a part of the proof: Na Nb Tl Nc Nd Ne Nf Ng Nh Sk Ni Nj Nk Nl. -/
import Derived.Test.YtiinmdleechcgaaDoorQS1
import Derived.Test.YtiinmdleechcgaaDoorQF1
import Derived.Test.YtiinmdleechcgaaDoorQT1
import Derived.Shelf.Spec.BitsCarry
import Derived.Test.YtiinmdleechcgaaDoorQT2
import Derived.Test.YtiinmdleechcgaaDoorQH1
import Derived.Lib.ConvBytes
import Derived.Great.BuildSlice
import Derived.ArgAppend
set_option maxRecDepth 8000
namespace Go.Proofs.YtiinmdleechcgaaDoor
open Go.RowKit
namespace Sn
/-- A word of a number. -/
def wd (n k : Nat) : Nat := n / 18446744073709551616 ^ k % 18446744073709551616
def wl (n : Nat) : List Int := [((wd n 0 : Nat) : Int), ((wd n 1 : Nat) : Int), ((wd n 2 : Nat) : Int), ((wd n 3 : Nat) : Int)]
def nv (n : Nat) : Array Value := #[.int .u64 ((wd n 0 : Nat) : Int), .int .u64 ((wd n 1 : Nat) : Int), .int .u64 ((wd n 2 : Nat) : Int), .int .u64 ((wd n 3 : Nat) : Int)]
theorem nv_wl (n : Nat) : ((wl n).map (Value.int .u64)).toArray = nv n := rfl
theorem wd_lt (n k : Nat) : wd n k < 18446744073709551616 := Nat.mod_lt _ (by decide)
theorem wl_len (n : Nat) : (wl n).length = 4 := rfl
theorem four {k : Nat} (h : k < 4) : k = 0 ∨ k = 1 ∨ k = 2 ∨ k = 3 := by omega
theorem wl_get (n k : Nat) (h : k < 4) : (wl n).getD k 0 = ((wd n k : Nat) : Int) := by
  rcases four h with rfl | rfl | rfl | rfl <;> rfl
/-- The first words of a number, and noughts. -/
def pt (n k : Nat) : List Int := (List.range 4).map fun j => if j < k then ((wd n j : Nat) : Int) else 0
theorem pt_len (n k : Nat) : (pt n k).length = 4 := by simp [pt]
theorem pt_get (n k : Nat) (h : k < 4) : (pt n k).getD k 0 = 0 := by
  rcases four h with rfl | rfl | rfl | rfl <;> rfl
theorem pt_set (n k : Nat) (h : k < 4) : (pt n k).set k ((wd n k : Nat) : Int) = pt n (k + 1) := by
  rcases four h with rfl | rfl | rfl | rfl <;> rfl
theorem pt_new (n k : Nat) (h : k < 4) : (pt n (k + 1)).getD k 0 = ((wd n k : Nat) : Int) := by
  rcases four h with rfl | rfl | rfl | rfl <;> rfl
theorem pt_zero (n : Nat) : pt n 0 = [0, 0, 0, 0] := rfl
theorem pt_four (n : Nat) : pt n 4 = wl n := rfl
/-- What is carried behind so many words. -/
def cr (n m k : Nat) : Nat := (n % 18446744073709551616 ^ k + m % 18446744073709551616 ^ k) / 18446744073709551616 ^ k
def br (n m k : Nat) : Nat := if n % 18446744073709551616 ^ k < m % 18446744073709551616 ^ k then 1 else 0
theorem cr_zero (n m : Nat) : cr n m 0 = 0 := by simp [cr, Nat.mod_one]
theorem br_zero (n m : Nat) : br n m 0 = 0 := by simp [br, Nat.mod_one]
theorem br_le (n m k : Nat) : br n m k ≤ 1 := by unfold br; split <;> omega
theorem cr_le (n m k : Nat) : cr n m k ≤ 1 := by
  unfold cr
  have hp : 0 < 18446744073709551616 ^ k := Nat.pow_pos (by decide)
  have h1 := Nat.mod_lt n hp
  have h2 := Nat.mod_lt m hp
  generalize 18446744073709551616 ^ k = p at *
  have : (n % p + m % p) / p < 2 := Nat.div_lt_of_lt_mul (by omega)
  omega
theorem top (n p B : Nat) : n % (p * B) = n % p + p * (n / p % B) := Nat.mod_mul
theorem add_step (n m k : Nat) : (wd n k + wd m k + cr n m k) % 18446744073709551616 = wd (n + m) k ∧ (wd n k + wd m k + cr n m k) / 18446744073709551616 = cr n m (k + 1) := by
  have hp : 0 < 18446744073709551616 ^ k := Nat.pow_pos (by decide)
  unfold wd cr
  rw [Nat.pow_succ]
  generalize 18446744073709551616 ^ k = p at *
  have e1 := top n p 18446744073709551616
  have e2 := top m p 18446744073709551616
  have l1 := Nat.mod_lt n hp
  have l2 := Nat.mod_lt m hp
  have h1 : (n + m) / p = n / p + m / p + (n % p + m % p) / p := by
    have := Nat.div_add_mod n p
    have := Nat.div_add_mod m p
    have e : n + m = (n % p + m % p) + p * (n / p + m / p) := by rw [Nat.mul_add]; omega
    rw [e, Nat.add_mul_div_left _ _ hp]
    omega
  constructor
  · rw [h1]
    generalize n / p = a
    generalize m / p = b
    omega
  · rw [e1, e2]
    generalize n / p % 18446744073709551616 = a
    generalize m / p % 18446744073709551616 = b
    rw [show n % p + p * a + (m % p + p * b) = (n % p + m % p) + p * (a + b) by rw [Nat.mul_add]; omega, ← Nat.div_div_eq_div_mul, Nat.add_mul_div_left _ _ hp]
    congr 1
    omega
theorem sub_step (n m k : Nat) (hk : k < 4) (hm : m < 18446744073709551616 ^ 4) : (wd n k + 18446744073709551616 - wd m k - br n m k) % 18446744073709551616 = wd (n + 18446744073709551616 ^ 4 - m) k ∧ (if wd n k < wd m k + br n m k then 1 else 0) = br n m (k + 1) := by
  rcases four hk with rfl | rfl | rfl | rfl <;>
    (unfold wd br; simp only [Nat.reducePow, Nat.reduceAdd, Nat.pow_zero, Nat.div_one, Nat.mod_one, Nat.pow_one] at *; constructor <;> (repeat' split) <;> omega)
/-- The order's words. -/
theorem ord_words : wl Ed.nn = [6346243789798364141, 1503914060200516822, 0, 1152921504606846976] := by decide
theorem nn_lt : Ed.nn < 18446744073709551616 ^ 4 := by decide
theorem wd_cg {n m : Nat} (h : n % 18446744073709551616 ^ 4 = m % 18446744073709551616 ^ 4) : wl n = wl m := by
  unfold wl wd
  simp only [Nat.reducePow, Nat.pow_zero, Nat.div_one, Nat.pow_one] at *
  have h0 : n % 18446744073709551616 = m % 18446744073709551616 := by omega
  have h1 : n / 18446744073709551616 % 18446744073709551616 = m / 18446744073709551616 % 18446744073709551616 := by omega
  have h2 : n / 340282366920938463463374607431768211456 % 18446744073709551616 = m / 340282366920938463463374607431768211456 % 18446744073709551616 := by omega
  have h3 : n / 6277101735386680763835789423207666416102355444464034512896 % 18446744073709551616 = m / 6277101735386680763835789423207666416102355444464034512896 % 18446744073709551616 := by omega
  rw [h0, h1, h2, h3]
/-- The sum modulo the order. -/
def sm (n m : Nat) : Nat := (n + m) % Ed.nn
theorem sm_small {n m : Nat} (hn : n < Ed.nn) (hm : m < Ed.nn) (h : br (n + m) Ed.nn 4 = 1) : sm n m = n + m := by
  unfold sm br at *
  unfold Ed.nn at *
  simp only [Nat.reducePow] at *
  split at h <;> omega
theorem sm_great {n m : Nat} (hn : n < Ed.nn) (hm : m < Ed.nn) (h : br (n + m) Ed.nn 4 ≠ 1) : wl (n + m + 18446744073709551616 ^ 4 - Ed.nn) = wl (sm n m) := by
  refine wd_cg ?_
  unfold sm br at *
  unfold Ed.nn at *
  simp only [Nat.reducePow] at *
  split at h <;> omega
theorem sm_lt (n m : Nat) : sm n m < Ed.nn := Nat.mod_lt _ (by decide)
end Sn
end Go.Proofs.YtiinmdleechcgaaDoor
namespace Go.Proofs.YtiinmdleechcgaaDoor
open Go.RowKit
theorem i42 : (Tryd.prog.info? 42).map (·.size) = some 4 := by kernel_rfl
theorem nv_one (n : Nat) : (Sn.nv n).all (·.oneCell') = true := by simp [Sn.nv, Value.oneCell']
/-- The order lies where it lies. -/
def Ord (w : World) : Prop := 0 < w.heap.size ∧ ∀ j, j < 4 → w.cell? ⟨0, j, none⟩ = some (.int .u64 ((Sn.wd Ed.nn j : Nat) : Int))
theorem Ord.below {w w' : World} {B : Nat} (h : Ord w) (hb : Below B w w') (hB : 0 < B) : Ord w' := ⟨Nat.lt_of_lt_of_le h.1 hb.size, fun j hj => (hb.cell (p := ⟨0, j, none⟩) hB).trans (h.2 j hj)⟩
theorem addc_any (x y c : Nat) (hc1 : c ≤ 1) (w : World) :
    (callFunc 44 #[.int .u64 x, .int .u64 y, .int .u64 c]).run Tryd.prog w = .ok (.value (.tuple #[.int .u64 (((x + y + c) % 18446744073709551616 : Nat) : Int), .int .u64 (((x + y + c) / 18446744073709551616 : Nat) : Int)])) w := by
  rw [run_callFunc_extern Tryd.func44 (by kernel_rfl) (by kernel_rfl) (by kernel_rfl) (e := add64Entry) (by kernel_rfl), run_add64 x y c (by omega) (by omega) (by omega) (by omega)]
  simp only [Result.andThen]
  congr 5 <;> omega
theorem subc_any (x y c : Nat) (hc1 : c ≤ 1) (w : World) :
    (callFunc 45 #[.int .u64 x, .int .u64 y, .int .u64 c]).run Tryd.prog w = .ok (.value (.tuple #[.int .u64 (((x + 18446744073709551616 - y - c) % 18446744073709551616 : Nat) : Int), .int .u64 ((if x < y + c then 1 else 0 : Nat) : Int)])) w := by
  rw [run_callFunc_extern Tryd.func45 (by kernel_rfl) (by kernel_rfl) (by kernel_rfl) (e := sub64Entry) (by kernel_rfl), run_sub64 x y c hc1]
  rfl
namespace Grow
section
variable {m : Nat} {ops : Array Oper} {Q : Exit → Act → World → Prop} {specs : Nat → Spec} {a0 : Act} {w0 : World} {i : Nat} {o : Oper}
theorem h2_idx42 (hr : Runs2 ops specs a0 o) (x : Operand) (j d g k : Nat) (hk4 : k < 4) (ho : o.op = .indexAddr 42 x (.tmp d)) (hx : ∀ a : Act, (∀ t, free2 ops m t = true → a.eval (.tmp t) = a0.eval (.tmp t)) → a.eval x = .pointer (some ⟨g, 0, none⟩)) (hj : deps .any ops o j d = true) (hs : specs j = .is (.int .i64 (k : Int))) (hi : specs i = .is (.pointer (some ⟨g, k, none⟩))) : Hop2 Tryd.prog m ops specs Q a0 w0 i o :=
  h2_val hr fun a w hk => by
    have h1 := hx a hk.rest
    have h2 := hk.deps j d hj
    rw [hs] at h2
    have h2 : a.eval (.tmp d) = .int .i64 (k : Int) := h2
    refine ⟨.pointer (some ⟨g, k, none⟩), w, ?_, by rw [hi]; rfl, Below.refl _ _⟩
    unfold execOp
    rw [ho]
    simp only [h1, h2]
    go_simp
    intro hh
    omega
theorem h2_load40 (hr : Runs2 ops specs a0 o) (j d g k : Nat) (x : Int) (ho : o.op = .load 40 (.tmp d)) (hj : deps .any ops o j d = true) (hs : specs j = .is (.pointer (some ⟨g, k, none⟩))) (hg : g < w0.heap.size) (hc : w0.cell? ⟨g, k, none⟩ = some (.int .u64 x)) (hi : specs i = .is (.int .u64 x)) : Hop2 Tryd.prog m ops specs Q a0 w0 i o :=
  h2_val hr fun a w hk => by
    have h := hk.deps j d hj
    rw [hs] at h
    have h : a.eval (.tmp d) = .pointer (some ⟨g, k, none⟩) := h
    have hcw := (hk.below.cell (p := ⟨g, k, none⟩) hg).trans hc
    refine ⟨.int .u64 x, w, ?_, by rw [hi]; rfl, Below.refl _ _⟩
    unfold execOp
    rw [ho]
    simp only [h]
    have hu := Tryd.underlying40
    go_simp
/-- A call that the model answers at once. -/
theorem h2_ext3 (hr : Runs2 ops specs a0 o) (f j1 d1 j2 d2 j3 d3 : Nat) (ts : Array TypeId) (u1 u2 u3 v : Value) (ho : o.op = .call { callee := .value (.func f), args := #[.tmp d1, .tmp d2, .tmp d3], argTypes := ts }) (h1 : deps .any ops o j1 d1 = true) (h2 : deps .any ops o j2 d2 = true) (h3 : deps .any ops o j3 d3 = true)
    (s1 : specs j1 = .is u1) (s2 : specs j2 = .is u2) (s3 : specs j3 = .is u3) (hc : ∀ w, (callFunc f #[u1, u2, u3]).run Tryd.prog w = .ok (.value v) w) (hi : specs i = .is v) : Hop2 Tryd.prog m ops specs Q a0 w0 i o :=
  h2_val hr fun a w hk => by
    have e1 := hk.deps j1 d1 h1; rw [s1] at e1
    have e2 := hk.deps j2 d2 h2; rw [s2] at e2
    have e3 := hk.deps j3 d3 h3; rw [s3] at e3
    have e1 : a.eval (.tmp d1) = u1 := e1
    have e2 : a.eval (.tmp d2) = u2 := e2
    have e3 : a.eval (.tmp d3) = u3 := e3
    have hcw := hc w
    rw [← e1, ← e2, ← e3] at hcw
    refine ⟨v, w, ?_, by rw [hi]; rfl, Below.refl _ _⟩
    clear e1 e2 e3 s1 s2 s3 hc
    unfold execOp
    rw [ho]
    go_simp
    simpa [Act.eval] using hcw
theorem h2_part0 (hr : Runs2 ops specs a0 o) (j d : Nat) (u v : Value) (ho : o.op = .extract (.tmp d) 0) (hj : deps .any ops o j d = true) (hsj : specs j = .is (.tuple #[u, v])) (hs : specs i = .is u) : Hop2 Tryd.prog m ops specs Q a0 w0 i o :=
  h2_val hr fun a w hk => by
    have h := hk.deps j d hj
    rw [hsj] at h
    have h : a.eval (.tmp d) = .tuple #[u, v] := h
    refine ⟨u, w, ?_, by rw [hs]; rfl, Below.refl _ _⟩
    unfold execOp
    rw [ho]
    simp only [h]
    go_simp
theorem h2_part1 (hr : Runs2 ops specs a0 o) (j d : Nat) (u v : Value) (ho : o.op = .extract (.tmp d) 1) (hj : deps .any ops o j d = true) (hsj : specs j = .is (.tuple #[u, v])) (hs : specs i = .is v) : Hop2 Tryd.prog m ops specs Q a0 w0 i o :=
  h2_val hr fun a w hk => by
    have h := hk.deps j d hj
    rw [hsj] at h
    have h : a.eval (.tmp d) = .tuple #[u, v] := h
    refine ⟨v, w, ?_, by rw [hs]; rfl, Below.refl _ _⟩
    unfold execOp
    rw [ho]
    simp only [h]
    go_simp
theorem h2_free (hr : Runs2 ops specs a0 o) (t : Nat) (v : Value) (ho : o.op = .move (.tmp t)) (hf : free2 ops m t = true) (hv : a0.eval (.tmp t) = v) (hs : specs i = .is v) : Hop2 Tryd.prog m ops specs Q a0 w0 i o :=
  h2_move hr (.tmp t) (Or.inl ho) fun a w hk => by rw [hs]; exact (hk.rest t hf).trans hv
theorem h2_same (hr : Runs2 ops specs a0 o) (j t : Nat) (ho : o.op = .move (.tmp t)) (hj : deps .any ops o j t = true) (hs : specs i = specs j) : Hop2 Tryd.prog m ops specs Q a0 w0 i o :=
  h2_move hr (.tmp t) (Or.inl ho) fun a w hk => by rw [hs]; exact hk.deps j t hj
theorem run_store_cell40 {o : Oper} {a : Act} {w : World} (x y : Operand) (ho : o.op = .store 40 x y) (g k : Nat) (n old : Int) (hx : a.eval x = .pointer (some ⟨g, k, none⟩)) (hy : a.eval y = .int .u64 n) (hc : w.cell? ⟨g, k, none⟩ = some (.int .u64 old)) (hf : w.frozen? ⟨g, k, none⟩ = false) : (execOp a.eval o).run Tryd.prog w = .ok .skip (w.setCell ⟨g, k, none⟩ (.int .u64 n)) := by
  unfold execOp
  rw [ho]
  simp only [hx, hy]
  have hu := Tryd.underlying40
  go_simp
end
end Grow
end Go.Proofs.YtiinmdleechcgaaDoor
namespace Go.Proofs.YtiinmdleechcgaaDoor
open Go.RowKit
theorem run_alloc51 (w : World) : (Instr.alloc 51 true (.tuple #[])).run Tryd.prog w = .ok (.pointer (some ⟨w.heap.size, 0, none⟩)) (w.alloc (.cells (pc pz) 51)) := by kernel_rfl
theorem run_alloc42 (w : World) : (Instr.alloc 42 true (.tuple #[])).run Tryd.prog w = .ok (.pointer (some ⟨w.heap.size, 0, none⟩)) (w.alloc (.cells (Sn.nv 0) 42)) := by kernel_rfl
theorem run_alloc44 (w : World) : (Instr.alloc 44 true (.tuple #[])).run Tryd.prog w = .ok (.pointer (some ⟨w.heap.size, 0, none⟩)) (w.alloc (.cells ((List.replicate 32 (0 : Int)).map (Value.int .u8)).toArray 44)) := by kernel_rfl
namespace Grow
section
variable {P : Program} {m : Nat} {ops : Array Oper} {Q : Exit → Act → World → Prop} {specs : Nat → Spec} {a0 : Act} {w0 : World}
theorem line_any6 {f : Nat} (hf : fits6 ops m f a0.tmps.size = true) (hops : Hops2 P m ops specs Q a0 w0 0 (ops.toList.take m))
    (hend : ∀ a w, Below w0.heap.size w0 w → a.tmps.size = a0.tmps.size → (∀ i d, i < m → dstOf ops i = some d → (specs i).meets (a.eval (.tmp d)) w) → a.defers = a0.defers → (∀ t, free2 ops m t = true → a.eval (.tmp t) = a0.eval (.tmp t)) → wpSeq P ops Q (ops.toList.drop m) a w) :
    ∀ (n k : Nat), n + k = m → ∀ a w, Below w0.heap.size w0 w → a.tmps.size = a0.tmps.size → (∀ i d, i < k → dstOf ops i = some d → (specs i).meets (a.eval (.tmp d)) w) → a.defers = a0.defers → (∀ t, free2 ops m t = true → a.eval (.tmp t) = a0.eval (.tmp t)) → wpList P ops Q (ops.toList.drop k) a w := by
  intro n
  induction n with
  | zero =>
    intro k hk a w hb ht hkn hd hr
    obtain rfl : k = m := by omega
    exact wpSeq_list _ _ _ (hend a w hb ht hkn hd hr)
  | succ n ih =>
    intro k hk a w hb ht hkn hd hr
    have hsz := (fits6_size hf).1
    have hkm : k < m := by omega
    obtain ⟨o, ho⟩ : ∃ o, ops[k]? = some o := ⟨_, Array.getElem?_eq_getElem (by omega)⟩
    obtain ⟨d, hdst, hdn, hne, haf⟩ := fits6_dst hf hkm ho
    have hdk : dstOf ops k = some d := by simp [dstOf, ho, hdst]
    have hdrop : ops.toList.drop k = o :: ops.toList.drop (k + 1) := by
      rw [List.drop_eq_getElem_cons (show k < ops.toList.length by simp; omega)]
      congr 1
      have := (Array.getElem?_eq_some_iff.1 ho).2
      simpa using this
    have hhop := hops.get k o (by rw [List.getElem?_take_of_lt hkm]; simpa using ho)
    rw [Nat.zero_add] at hhop
    have next : ∀ v w', (specs k).meets v w' → Below w.heap.size w w' → wpList P ops Q (ops.toList.drop (k + 1)) (a.put o.dst v) w' := by
      intro v w' hv hb'
      rw [hdst]
      refine ih (k + 1) (by omega) _ w' (hb.trans (hb'.mono hb.size)) (by simp [Act.put, ht]) (fun i e hi he => ?_) (by simp [Act.put, hd]) (fun t hft => ?_)
      · by_cases hik : i = k
        · subst hik
          obtain rfl : d = e := Option.some.inj (hdk.symm.trans he)
          rw [eval_put_eq (by rw [ht]; exact hdn)]
          exact hv
        · have hde : d ≠ e := fun hh => hne i (by omega) hik (hh ▸ he)
          rw [eval_put_ne hde]
          exact (specs i).keeps (hkn i e (by omega) he) hb'
      · have : d ≠ t := by
          intro hh
          subst hh
          unfold free2 at hft
          rw [List.all_eq_true] at hft
          have := hft k (List.mem_range.2 hkm)
          rw [hdk] at this
          simp at this
        rw [eval_put_ne this]
        exact hr t hft
    rw [hdrop]
    unfold wpList
    rcases hhop a w hb ht (fun j e he => by
      unfold deps at he
      simp only [Bool.and_eq_true, beq_iff_eq] at he
      obtain ⟨hd1, hd2⟩ := he
      rw [Array.any_eq_true'] at hd1
      obtain ⟨f, hf1, hf2⟩ := hd1
      simp only [Bool.and_eq_true, beq_iff_eq] at hf2
      obtain ⟨hfb, rfl⟩ := hf2
      exact hkn _ e (haf f hf1 hfb) hd2) hr with ⟨hw, hwp⟩ | ⟨hw, hm⟩
    · rw [if_pos hw]
      refine Or.inl (Oper.wp_mono ?_ hwp)
      rintro a' w' ⟨v, rfl, hv, hb'⟩
      exact next v w' hv hb'
    · rw [if_neg (by rw [hw]; simp)]
      exact next undef w hm (Below.refl _ _)
theorem region_line6 {id : Nat} (m f : Nat) (specs : Nat → Spec) (hf : fits6 ops m f a0.tmps.size = true) (hops : Hops2 P m ops specs Q a0 w0 0 (ops.toList.take m))
    (hend : ∀ a w, Below w0.heap.size w0 w → a.tmps.size = a0.tmps.size → (∀ i d, i < m → dstOf ops i = some d → (specs i).meets (a.eval (.tmp d)) w) → a.defers = a0.defers → (∀ t, free2 ops m t = true → a.eval (.tmp t) = a0.eval (.tmp t)) → wpSeq P ops Q (ops.toList.drop m) a w) :
    (Code.region id ops false).wp P Q a0 w0 :=
  wp_region_list (line_any6 hf hops hend m 0 (Nat.add_zero m) a0 w0 (Below.refl _ _) rfl (fun i _ h => by omega) rfl (fun _ _ => rfl))
end
/-- A new block. -/
def newBlk (cells : Array Value) (ty : TypeId) (w0 : World) : Spec := .held (fun u w => ∃ g, u = .pointer (some ⟨g, 0, none⟩) ∧ w.heap[g]? = some (.cells cells ty (0, 0)) ∧ w0.heap.size ≤ g) (fun _ _ _ h hb => by
  obtain ⟨g, h1, h2, h3⟩ := h
  exact ⟨g, h1, (hb.block g (lt_of_block h2)).trans h2, h3⟩)
/-- A tuple of a point and a truth. -/
def ptT (A : Ed.Pt) : Spec := .held (fun u _ => ∃ P, u = .tuple #[.agg (pc P), .bool true] ∧ Rp P A) (fun _ _ _ h _ => h)
def ptE (A : Ed.Pt) : Spec := .held (fun u _ => ∃ P, u = .agg (pc P) ∧ Rp P A) (fun _ _ _ h _ => h)
section
variable {m : Nat} {ops : Array Oper} {Q : Exit → Act → World → Prop} {specs : Nat → Spec} {a0 : Act} {w0 : World} {i : Nat} {o : Oper}
theorem h2_allocG (hr : Runs2 ops specs a0 o) (ty : TypeId) (cells : Array Value) (ho : o.op = .alloc ty) (hrun : ∀ w : World, (Instr.alloc ty true (.tuple #[])).run Tryd.prog w = .ok (.pointer (some ⟨w.heap.size, 0, none⟩)) (w.alloc (.cells cells ty))) (hs : specs i = newBlk cells ty w0) : Hop2 Tryd.prog m ops specs Q a0 w0 i o :=
  h2_val hr fun a w hk => by
    refine ⟨.pointer (some ⟨w.heap.size, 0, none⟩), w.alloc (.cells cells ty), ?_, ?_, (Below.refl _ _).alloc (Nat.le_refl _) _⟩
    · unfold execOp
      rw [ho]
      simp only [Sem.run_bind, hrun w, Result.andThen_ok, Sem.run_pure]
    · rw [hs]
      exact ⟨_, rfl, heap_alloc_new w _, hk.below.size⟩
theorem h2_ptE (hr : Runs2 ops specs a0 o) (j d : Nat) (A : Ed.Pt) (ho : o.op = .extract (.tmp d) 0) (hj : deps .any ops o j d = true) (hsj : specs j = ptT A) (hs : specs i = ptE A) : Hop2 Tryd.prog m ops specs Q a0 w0 i o :=
  h2_val hr fun a w hk => by
    have h := hk.deps j d hj
    rw [hsj] at h
    obtain ⟨P, e, hP⟩ := h
    refine ⟨.agg (pc P), w, ?_, by rw [hs]; exact ⟨P, rfl, hP⟩, Below.refl _ _⟩
    unfold execOp
    rw [ho]
    simp only [e]
    go_simp
theorem h2_ptB (hr : Runs2 ops specs a0 o) (j d : Nat) (A : Ed.Pt) (ho : o.op = .extract (.tmp d) 1) (hj : deps .any ops o j d = true) (hsj : specs j = ptT A) (hs : specs i = .is (.bool true)) : Hop2 Tryd.prog m ops specs Q a0 w0 i o :=
  h2_val hr fun a w hk => by
    have h := hk.deps j d hj
    rw [hsj] at h
    obtain ⟨P, e, hP⟩ := h
    refine ⟨.bool true, w, ?_, by rw [hs]; rfl, Below.refl _ _⟩
    unfold execOp
    rw [ho]
    simp only [e]
    go_simp
end
theorem enter46 (args : Array Value) (w : World) : (callFunc 46 args).run Tryd.prog w = .ok (.enter 46 args) w := by
  have := Tryd.func46
  go_simp
end Grow
/-- 4 / 5 is the start's y. -/
theorem start_y {v : Fe.E} (hv : Fe.Re v (5 ^ (Nm.PN - 2))) : Fe.Re (Fe.mul (Fe.num 4) v) Ed.B.y := by
  have h4 : Fe.Re (Fe.num 4) 4 := Fe.Re.num (by decide) (by decide)
  refine (h4.mul hv).of_cg ?_
  have h5 : Ed.Cg (5 * 5 ^ (Nm.PN - 2)) 1 := Ed.Cg.of_mod (by show _ % (Nm.PN : Int) = _; rw [Nm.inv_one (by decide) (by decide)]; decide)
  generalize (5 : Int) ^ (Nm.PN - 2) = t at *
  have h6 : Ed.Cg 4 (Ed.B.y * 5) := Ed.Cg.of_mod (by decide)
  exact (h6.mul (Ed.Cg.refl t)).trans ((Ed.Cg.of_eq (Int.mul_assoc _ _ _)).trans (((Ed.Cg.refl _).mul h5).trans (Ed.Cg.of_eq (Int.mul_one _))))
theorem start_even : decide (Ed.B.x % 2 = 1) = false := by decide
set_option maxRecDepth 100000 in
set_option maxHeartbeats 2000000 in
theorem start_any (w : World) (hd : Dbl w) : Calls Tryd.prog 27 #[] w fun e w' => ∃ P, e = .returned (.agg (pc P)) ∧ Rp P Ed.B ∧ Below w.heap.size w w' := by
  have hB : Below w.heap.size w (w.alloc (.cells (pc pz) 51)) := (Below.refl _ _).alloc (Nat.le_refl _) _
  have H0 := Lib.hid (heap_alloc_new w (.cells (pc pz) 51))
  have HB := Lib.hid hB
  have HD := Lib.hid (hd.below hB hd.1)
  clear hB hd
  go_enter Tryd.func27, Tryd.ntmps27
  go_upto_region 1 with fail
  change Code.wp _ _ _ _ (w.alloc (.cells (pc pz) 51))
  generalize w.alloc (.cells (pc pz) 51) = w0 at *
  refine Grow.region_line6 9 7 (fun i => List.getD (Grow.Spec.is (.agg (ec (Fe.num 4))) :: Grow.Spec.is (.agg (ec (Fe.num 5))) :: Grow.elem (5 ^ (Nm.PN - 2)) :: Grow.elem Ed.B.y :: Grow.ptT Ed.B :: Grow.ptT Ed.B :: Grow.ptE Ed.B :: Grow.Spec.is (.bool true) :: Grow.newBlk (pc pz) 51 w0 :: []) i (Grow.Spec.is undef)) (by kernel_rfl) ⟨
    Grow.h2_call1 (Or.inl rfl) 53 Grow.enter53 _ _ rfl (fun a wx hk => by refine (num_any wx 4 (by decide) (by decide)).mono ?_; rintro e w5 ⟨rfl, hb⟩; exact ⟨_, rfl, rfl, hb⟩),
    Grow.h2_call1 (Or.inl rfl) 53 Grow.enter53 _ _ rfl (fun a wx hk => by refine (num_any wx 5 (by decide) (by decide)).mono ?_; rintro e w5 ⟨rfl, hb⟩; exact ⟨_, rfl, rfl, hb⟩),
    Grow.h2_call1 (Or.inl rfl) 54 Grow.enter54 _ _ rfl (fun a wx hk => by have e1 : a.eval (.tmp 5) = .agg (ec (Fe.num 5)) := (hk.deps 1 5 (by kernel_rfl)); rw [e1]; refine (inv_any wx (Fe.num 5) 5 (Fe.Re.num (by decide) (by decide))).mono ?_; rintro e w5 ⟨y, rfl, hy, hb⟩; exact ⟨_, rfl, ⟨y, rfl, hy⟩, hb⟩),
    Grow.h2_call2 (Or.inl rfl) 50 Grow.enter50 _ _ _ rfl (fun a wx hk => by have e1 : a.eval (.tmp 4) = .agg (ec (Fe.num 4)) := (hk.deps 0 4 (by kernel_rfl)); obtain ⟨v, e2, hv⟩ : ∃ y, a.eval (.tmp 6) = .agg (ec y) ∧ Fe.Re y (5 ^ (Nm.PN - 2)) := (hk.deps 2 6 (by kernel_rfl)); rw [e1, e2]; refine (mul_any wx (Fe.num 4) v (Fe.num_ok _ (by decide) (by decide)) hv.ok).mono ?_; rintro e w5 ⟨rfl, hb⟩; exact ⟨_, rfl, ⟨_, rfl, start_y hv⟩, hb⟩),
    Grow.h2_call2 (Or.inl rfl) 46 Grow.enter46 _ _ _ rfl (fun a wx hk => by obtain ⟨v, e2, hv⟩ : ∃ y, a.eval (.tmp 7) = .agg (ec y) ∧ Fe.Re y Ed.B.y := (hk.deps 3 7 (by kernel_rfl)); rw [e2]; refine (at_any wx (HD.out.below hk.below HD.out.1) v _ hv false).mono ?_; rintro e w5 ⟨P, ok, rfl, _, hA, hb⟩; obtain ⟨rfl, hP⟩ := hA Ed.B Ed.B_good rfl start_even; exact ⟨_, rfl, ⟨P, rfl, hP⟩, hb⟩),
    Grow.h2_same (Or.inl rfl) 4 8 rfl (by kernel_rfl) rfl,
    Grow.h2_ptE (Or.inl rfl) 5 3 _ rfl (by kernel_rfl) rfl rfl,
    Grow.h2_ptB (Or.inl rfl) 5 3 _ rfl (by kernel_rfl) rfl rfl,
    Grow.h2_allocG (Or.inl rfl) 51 (pc pz) rfl run_alloc51 rfl,
    trivial⟩ ?_
  intro a w4 hb hts hk hdf hfr
  obtain ⟨P, e9, hP⟩ : ∃ P, a.eval (.tmp 9) = .agg (pc P) ∧ Rp P Ed.B := hk 6 9 (by decide) rfl
  obtain ⟨g1, e1, hz1, hg1⟩ : ∃ g, a.eval (.tmp 1) = .pointer (some ⟨g, 0, none⟩) ∧ w4.heap[g]? = some (.cells (pc pz) 51 (0, 0)) ∧ w0.heap.size ≤ g := hk 8 1 (by decide) rfl
  refine ⟨rfl, wp_store_row 51 (.tmp 1) (.tmp 9) rfl g1 (pc P) e1 e9 51 (pc pz) hz1 i51 rfl (pc_one _) ?_⟩
  refine ⟨rfl, Grow.wp_assign 2 (.tmp 10) rfl rfl ?_⟩
  have hg0 : w.heap.size < g1 := Nat.lt_of_lt_of_le (lt_of_block H0.out) hg1
  have HS := Lib.hid (setRow_heap w4 g1 _ (pc P) 51 _ hz1)
  have HZ : Hid ((w4.setRow g1 (pc P)).heap[w.heap.size]? = some (.cells (pc pz) 51 (0, 0))) := by
    show _ = _
    rw [setRow_other _ _ _ _ (by omega)]
    exact (hb.block _ (lt_of_block H0.out)).trans H0.out
  have HB1 : Hid (Below w.heap.size w (w4.setRow g1 (pc P))) := below_setRow (HB.out.trans (hb.mono HB.out.size)) (by omega) _
  have ha := Grow.act_after hts hdf hfr
  rw [show Grow.dsts _ 9 = [4, 5, 6, 7, 8, 3, 9, 10, 1] from by kernel_rfl] at ha
  simp only [Grow.putAll, e1] at ha
  generalize a.eval (.tmp 4) = u4 at ha
  generalize a.eval (.tmp 5) = u5 at ha
  generalize a.eval (.tmp 6) = u6 at ha
  generalize a.eval (.tmp 7) = u7 at ha
  generalize a.eval (.tmp 8) = u8 at ha
  generalize a.eval (.tmp 3) = u3 at ha
  generalize a.eval (.tmp 9) = u9 at ha
  generalize a.eval (.tmp 10) = u10 at *
  clear hk hts hdf hfr e9 e1 hb hz1 hg1 HB H0 HD
  simp [Act.put] at ha
  subst ha
  generalize w4.setRow g1 (pc P) = w5 at *
  unfold Grow.wpSeq
  go_wp2_with (first
    | ((with_reducible refine wpList_store_row (o := ⟨none, _, _, _, _, _⟩) rfl 51 (.tmp 0) (.tmp 11) rfl w.heap.size (pc P) rfl rfl 51 _ HZ.out ?_ ?_ ?_ ?_); exact i51; exact rfl; exact pc_one _)
    | ((with_reducible refine wpList_load_row (o := ⟨some 11, _, _, _, _, _⟩) rfl 51 (.tmp 1) rfl g1 rfl 51 _ (0, 0) _ HS.out Tryd.underlying51 rfl ?_ ?_); exact i51))
  exact bodyPost_ret (results_cell_row Tryd.results27 _ _ w.heap.size 51 _ (0, 0) _ rfl (setRow_heap w5 w.heap.size _ (pc P) 51 _ HZ.out) Tryd.underlying51 rfl i51) rfl ⟨P, rfl, hP, below_setRow HB1.out (Nat.le_refl _) _⟩
end Go.Proofs.YtiinmdleechcgaaDoor
namespace Go.Proofs.YtiinmdleechcgaaDoor
open Go.RowKit
/-- What lies where while two numbers are summed. -/
structure SLay (w : World) (n m ks kr : Nat) (wr : World) : Prop where
  aa : Blk wr w.heap.size .u64 42 (Sn.wl n)
  bb : Blk wr (w.heap.size + 1) .u64 42 (Sn.wl m)
  zz : wr.heap[w.heap.size + 1 + 1]? = some (.cells (Sn.nv 0) 42 (0, 0))
  ss : Blk wr (w.heap.size + 1 + 1 + 1) .u64 42 (Sn.pt (n + m) ks)
  rr : Blk wr (w.heap.size + 1 + 1 + 1 + 1) .u64 42 (Sn.pt (n + m + 18446744073709551616 ^ 4 - Ed.nn) kr)
  ord : Ord wr
  be : Below w.heap.size w wr
section
variable {w wr w5 : World} {n m ks kr : Nat}
theorem SLay.grow (h : SLay w n m ks kr wr) (hb : Below wr.heap.size wr w5) : SLay w n m ks kr w5 :=
  ⟨h.aa.other (hb.block _ h.aa.lt), h.bb.other (hb.block _ h.bb.lt), (hb.block _ (lt_of_block h.zz)).trans h.zz, h.ss.other (hb.block _ h.ss.lt), h.rr.other (hb.block _ h.rr.lt), h.ord.below hb h.ord.1, h.be.trans (hb.mono h.be.size)⟩
theorem SLay.setS (h : SLay w n m ks kr wr) (ho : Ord w) (hk : ks < 4) : SLay w n m (ks + 1) kr (wr.setCell ⟨w.heap.size + 1 + 1 + 1, ks, none⟩ (.int .u64 ((Sn.wd (n + m) ks : Nat) : Int))) := by
  have hB : Below w.heap.size w (wr.setCell ⟨w.heap.size + 1 + 1 + 1, ks, none⟩ (.int .u64 ((Sn.wd (n + m) ks : Nat) : Int))) := h.be.setCell (by simp; omega) _
  have hoth : ∀ g, g ≠ w.heap.size + 1 + 1 + 1 → (wr.setCell ⟨w.heap.size + 1 + 1 + 1, ks, none⟩ (.int .u64 ((Sn.wd (n + m) ks : Nat) : Int))).heap[g]? = wr.heap[g]? := fun g hg => heap_setCell_other wr ⟨w.heap.size + 1 + 1 + 1, ks, none⟩ g _ hg
  refine ⟨h.aa.other (hoth _ (by omega)), h.bb.other (hoth _ (by omega)), (hoth _ (by omega)).trans h.zz, ?_, h.rr.other (hoth _ (by omega)), ho.below hB ho.1, hB⟩
  have := h.ss.set ks ((Sn.wd (n + m) ks : Nat) : Int)
  rwa [Sn.pt_set _ _ hk] at this
theorem SLay.setR (h : SLay w n m ks kr wr) (ho : Ord w) (hk : kr < 4) : SLay w n m ks (kr + 1) (wr.setCell ⟨w.heap.size + 1 + 1 + 1 + 1, kr, none⟩ (.int .u64 ((Sn.wd (n + m + 18446744073709551616 ^ 4 - Ed.nn) kr : Nat) : Int))) := by
  have hB : Below w.heap.size w (wr.setCell ⟨w.heap.size + 1 + 1 + 1 + 1, kr, none⟩ (.int .u64 ((Sn.wd (n + m + 18446744073709551616 ^ 4 - Ed.nn) kr : Nat) : Int))) := h.be.setCell (by simp; omega) _
  have hoth : ∀ g, g ≠ w.heap.size + 1 + 1 + 1 + 1 → (wr.setCell ⟨w.heap.size + 1 + 1 + 1 + 1, kr, none⟩ (.int .u64 ((Sn.wd (n + m + 18446744073709551616 ^ 4 - Ed.nn) kr : Nat) : Int))).heap[g]? = wr.heap[g]? := fun g hg => heap_setCell_other wr ⟨w.heap.size + 1 + 1 + 1 + 1, kr, none⟩ g _ hg
  refine ⟨h.aa.other (hoth _ (by omega)), h.bb.other (hoth _ (by omega)), (hoth _ (by omega)).trans h.zz, h.ss.other (hoth _ (by omega)), ?_, ho.below hB ho.1, hB⟩
  have := h.rr.set kr ((Sn.wd (n + m + 18446744073709551616 ^ 4 - Ed.nn) kr : Nat) : Int)
  rwa [Sn.pt_set _ _ hk] at this
end
theorem SLay.start {w : World} (ho : Ord w) (n m : Nat) : SLay w n m 0 0 (((((w.alloc (.cells (Sn.nv n) 42)).alloc (.cells (Sn.nv m) 42)).alloc (.cells (Sn.nv 0) 42)).alloc (.cells (Sn.nv 0) 42)).alloc (.cells (Sn.nv 0) 42)) := by
  have h := heap_alloc3 w (.cells (Sn.nv n) 42) (.cells (Sn.nv m) 42) (.cells (Sn.nv 0) 42)
  obtain ⟨⟨h1, h2, h3⟩, h4⟩ := h
  generalize hw3 : ((w.alloc (.cells (Sn.nv n) 42)).alloc (.cells (Sn.nv m) 42)).alloc (.cells (Sn.nv 0) 42) = w3 at *
  have hs : w3.heap.size = w.heap.size + 1 + 1 + 1 := by rw [← hw3]; simp
  have h5 := heap_alloc2_old w3 (.cells (Sn.nv 0) 42) (.cells (Sn.nv 0) 42)
  have h6 := heap_alloc2_new w3 (.cells (Sn.nv 0) 42) (.cells (Sn.nv 0) 42)
  rw [hs] at h5 h6
  have hb : Below w3.heap.size w3 ((w3.alloc (.cells (Sn.nv 0) 42)).alloc (.cells (Sn.nv 0) 42)) := ((Below.refl _ _).alloc (Nat.le_refl _) _).alloc (by simp) _
  have hB := h4.trans (hb.mono h4.size)
  exact ⟨(hb.block _ (lt_of_block h1)).trans h1, (hb.block _ (lt_of_block h2)).trans h2, (hb.block _ (lt_of_block h3)).trans h3, h5, h6, ho.below hB ho.1, hB⟩
set_option maxRecDepth 100000 in
set_option maxHeartbeats 2000000 in
theorem splus_any (w : World) (ho : Ord w) (n m : Nat) (hn : n < Ed.nn) (hm : m < Ed.nn) :
    Calls Tryd.prog 20 #[.agg (Sn.nv n), .agg (Sn.nv m)] w fun e w' => e = .returned (.agg (Sn.nv (Sn.sm n m))) ∧ Below w.heap.size w w' := by
  have PL := Lib.hid (SLay.start ho n m)
  have HO := Lib.hid ho
  have HN := Lib.hid hn
  have HM := Lib.hid hm
  have c0 : Hid (((0 : Int)) = ((Sn.cr n m 0 : Nat) : Int)) := by rw [Sn.cr_zero]; rfl
  have b0 : Hid (((0 : Int)) = ((Sn.br (n + m) Ed.nn 0 : Nat) : Int)) := by rw [Sn.br_zero]; rfl
  clear ho hn hm
  go_enter Tryd.func20, Tryd.ntmps20
  go_wp2_with fail
  change Code.wp _ _ _ _ (((((w.alloc (.cells (Sn.nv n) 42)).alloc (.cells (Sn.nv m) 42)).alloc (.cells (Sn.nv 0) 42)).alloc (.cells (Sn.nv 0) 42)).alloc (.cells (Sn.nv 0) 42))
  generalize (((((w.alloc (.cells (Sn.nv n) 42)).alloc (.cells (Sn.nv m) 42)).alloc (.cells (Sn.nv 0) 42)).alloc (.cells (Sn.nv 0) 42)).alloc (.cells (Sn.nv 0) 42)) = w0 at *
  go_loopw [7, 8, 10] (fun c b i wr => ∃ k : Nat, k ≤ 4 ∧ i = .int .i64 k ∧ c = .int .u64 ((Sn.cr n m k : Nat) : Int) ∧ b = .int .u64 ((Sn.br (n + m) Ed.nn k : Nat) : Int) ∧ Hid (SLay w n m k k wr)) (fun _ _ i _ => 4 - (intOf i).toNat)
  case atStart => exact ⟨0, by omega, rfl, by rw [← c0.out], by rw [← b0.out], PL⟩
  case round =>
    clear PL c0 b0
    obtain ⟨k, hk, rfl, rfl, rfl, PL⟩ := hrel
    by_cases hlt : k < 4
    · have HC := Lib.hid (Sn.cr_le n m k)
      have HB := Lib.hid (Sn.br_le (n + m) Ed.nn k)
      have HA1 := Lib.hid (Sn.add_step n m k)
      have HS1 := Lib.hid (Sn.sub_step (n + m) Ed.nn k hlt Sn.nn_lt)
      have HLT := Lib.hid hlt
      generalize Sn.cr n m k = c at *
      generalize Sn.br (n + m) Ed.nn k = b at *
      go_upto_region 6 with fail
      refine Grow.region_late (by kernel_rfl) 13 11 (s := 13) (d := 24) (fun i => List.getD (Grow.Spec.is (.int .i64 (k : Int)) :: Grow.Spec.is (.int .i64 (k : Int)) :: Grow.Spec.is (.pointer (some ⟨w.heap.size, k, none⟩)) :: Grow.Spec.is (.int .u64 ((Sn.wd (n) k : Nat) : Int)) :: Grow.Spec.is (.int .i64 (k : Int)) :: Grow.Spec.is (.pointer (some ⟨w.heap.size + 1, k, none⟩)) :: Grow.Spec.is (.int .u64 ((Sn.wd (m) k : Nat) : Int)) :: Grow.Spec.is (.int .u64 ((c : Nat) : Int)) :: Grow.Spec.is (.tuple #[.int .u64 ((Sn.wd (n + m) k : Nat) : Int), .int .u64 ((Sn.cr n m (k + 1) : Nat) : Int)]) :: Grow.Spec.is (.tuple #[.int .u64 ((Sn.wd (n + m) k : Nat) : Int), .int .u64 ((Sn.cr n m (k + 1) : Nat) : Int)]) :: Grow.Spec.is (.int .u64 ((Sn.wd (n + m) k : Nat) : Int)) :: Grow.Spec.is (.int .u64 ((Sn.cr n m (k + 1) : Nat) : Int)) :: Grow.Spec.is (.pointer (some ⟨w.heap.size + 1 + 1 + 1, k, none⟩)) :: []) i (Grow.Spec.is undef)) (by kernel_rfl) rfl rfl rfl (Grow.floats_extract (j := 9) 1 rfl (by kernel_rfl) (fun u wx h => ⟨_, h, by simp⟩)) rfl rfl rfl (Grow.store_same 40 25 23 24 rfl (by decide) (by decide)) ⟨
        Grow.h2_free (Or.inl rfl) 9 _ rfl (by kernel_rfl) rfl rfl,
        Grow.h2_free (Or.inl rfl) 9 _ rfl (by kernel_rfl) rfl rfl,
        Grow.h2_idx42 (Or.inl rfl) (.tmp 2) 1 15 (w.heap.size) k HLT.out rfl (fun a hf => (hf 2 (by kernel_rfl)).trans rfl) (by kernel_rfl) rfl rfl,
        Grow.h2_load40 (Or.inl rfl) 2 16 (w.heap.size) k ((Sn.wd (n) k : Nat) : Int) rfl (by kernel_rfl) rfl PL.out.aa.lt (by have h := PL.out.aa.cell k (by exact HLT.out); rw [Sn.wl_get _ _ HLT.out] at h; exact h) rfl,
        Grow.h2_free (Or.inl rfl) 9 _ rfl (by kernel_rfl) rfl rfl,
        Grow.h2_idx42 (Or.inl rfl) (.tmp 3) 4 18 (w.heap.size + 1) k HLT.out rfl (fun a hf => (hf 3 (by kernel_rfl)).trans rfl) (by kernel_rfl) rfl rfl,
        Grow.h2_load40 (Or.inl rfl) 5 19 (w.heap.size + 1) k ((Sn.wd (m) k : Nat) : Int) rfl (by kernel_rfl) rfl PL.out.bb.lt (by have h := PL.out.bb.cell k (by exact HLT.out); rw [Sn.wl_get _ _ HLT.out] at h; exact h) rfl,
        Grow.h2_free (Or.inl rfl) 7 _ rfl (by kernel_rfl) rfl rfl,
        Grow.h2_ext3 (Or.inl rfl) 44 3 17 6 20 7 21 _ _ _ _ (.tuple #[.int .u64 ((Sn.wd (n + m) k : Nat) : Int), .int .u64 ((Sn.cr n m (k + 1) : Nat) : Int)]) rfl (by kernel_rfl) (by kernel_rfl) (by kernel_rfl) rfl rfl rfl (fun wx => by have h := addc_any (Sn.wd n k) (Sn.wd m k) c HC.out wx; rw [HA1.out.1, HA1.out.2] at h; exact h) rfl,
        Grow.h2_same (Or.inl rfl) 8 22 rfl (by kernel_rfl) rfl,
        Grow.h2_part0 (Or.inl rfl) 9 13 _ _ rfl (by kernel_rfl) rfl rfl,
        Grow.h2_part1 (Or.inl rfl) 9 13 _ _ rfl (by kernel_rfl) rfl rfl,
        Grow.h2_idx42 (Or.inl rfl) (.tmp 5) 0 14 (w.heap.size + 1 + 1 + 1) k HLT.out rfl (fun a hf => (hf 5 (by kernel_rfl)).trans rfl) (by kernel_rfl) rfl rfl,
        trivial⟩ ?_
      intro a w4 hb hts hkn hdf hfr
      have ev : a.eval (.tmp 23) = .int .u64 ((Sn.wd (n + m) k : Nat) : Int) := hkn 10 23 (by decide) rfl
      have ec1 : a.eval (.tmp 24) = .int .u64 ((Sn.cr n m (k + 1) : Nat) : Int) := hkn 11 24 (by decide) rfl
      have ep : a.eval (.tmp 25) = .pointer (some ⟨w.heap.size + 1 + 1 + 1, k, none⟩) := hkn 12 25 (by decide) rfl
      have PSg := PL.out.grow hb
      refine ⟨_, Grow.run_store_cell40 (.tmp 25) (.tmp 23) rfl (w.heap.size + 1 + 1 + 1) k ((Sn.wd (n + m) k : Nat) : Int) 0 ep ev (by have h := PSg.ss.cell k (by rw [Sn.pt_len]; exact HLT.out); rw [Sn.pt_get _ _ HLT.out] at h; exact h) (PSg.ss.free k), ?_⟩
      refine ⟨rfl, Grow.wp_assign 7 (.tmp 24) rfl rfl ?_⟩
      rw [ec1]
      have PS := Lib.hid (PSg.setS HO.out HLT.out)
      have ha := Grow.act_after hts hdf hfr
      rw [show Grow.dsts _ 13 = [14, 15, 16, 17, 18, 19, 20, 21, 22, 13, 23, 24, 25] from by kernel_rfl] at ha
      simp only [Grow.putAll] at ha
      generalize a.eval (.tmp 14) = u14 at ha
      generalize a.eval (.tmp 15) = u15 at ha
      generalize a.eval (.tmp 16) = u16 at ha
      generalize a.eval (.tmp 17) = u17 at ha
      generalize a.eval (.tmp 18) = u18 at ha
      generalize a.eval (.tmp 19) = u19 at ha
      generalize a.eval (.tmp 20) = u20 at ha
      generalize a.eval (.tmp 21) = u21 at ha
      generalize a.eval (.tmp 22) = u22 at ha
      generalize a.eval (.tmp 13) = u13 at ha
      generalize a.eval (.tmp 23) = u23 at ha
      generalize a.eval (.tmp 24) = u24 at ha
      generalize a.eval (.tmp 25) = u25 at ha
      clear hkn hts hdf hfr ev ec1 ep hb PL PSg
      simp [Act.put] at ha
      subst ha
      generalize w4.setCell ⟨w.heap.size + 1 + 1 + 1, k, none⟩ (.int .u64 ((Sn.wd (n + m) k : Nat) : Int)) = w5 at *
      unfold Grow.wpSeq
      go_upto_region 7 with fail
      refine Grow.region_late (by kernel_rfl) 13 11 (s := 26) (d := 37) (fun i => List.getD (Grow.Spec.is (.int .i64 (k : Int)) :: Grow.Spec.is (.int .i64 (k : Int)) :: Grow.Spec.is (.pointer (some ⟨w.heap.size + 1 + 1 + 1, k, none⟩)) :: Grow.Spec.is (.int .u64 ((Sn.wd (n + m) k : Nat) : Int)) :: Grow.Spec.is (.int .i64 (k : Int)) :: Grow.Spec.is (.pointer (some ⟨0, k, none⟩)) :: Grow.Spec.is (.int .u64 ((Sn.wd (Ed.nn) k : Nat) : Int)) :: Grow.Spec.is (.int .u64 ((b : Nat) : Int)) :: Grow.Spec.is (.tuple #[.int .u64 ((Sn.wd (n + m + 18446744073709551616 ^ 4 - Ed.nn) k : Nat) : Int), .int .u64 ((Sn.br (n + m) Ed.nn (k + 1) : Nat) : Int)]) :: Grow.Spec.is (.tuple #[.int .u64 ((Sn.wd (n + m + 18446744073709551616 ^ 4 - Ed.nn) k : Nat) : Int), .int .u64 ((Sn.br (n + m) Ed.nn (k + 1) : Nat) : Int)]) :: Grow.Spec.is (.int .u64 ((Sn.wd (n + m + 18446744073709551616 ^ 4 - Ed.nn) k : Nat) : Int)) :: Grow.Spec.is (.int .u64 ((Sn.br (n + m) Ed.nn (k + 1) : Nat) : Int)) :: Grow.Spec.is (.pointer (some ⟨w.heap.size + 1 + 1 + 1 + 1, k, none⟩)) :: []) i (Grow.Spec.is undef)) (by kernel_rfl) rfl rfl rfl (Grow.floats_extract (j := 9) 1 rfl (by kernel_rfl) (fun u wx h => ⟨_, h, by simp⟩)) rfl rfl rfl (Grow.store_same 40 38 36 37 rfl (by decide) (by decide)) ⟨
        Grow.h2_free (Or.inl rfl) 9 _ rfl (by kernel_rfl) rfl rfl,
        Grow.h2_free (Or.inl rfl) 9 _ rfl (by kernel_rfl) rfl rfl,
        Grow.h2_idx42 (Or.inl rfl) (.tmp 5) 1 28 (w.heap.size + 1 + 1 + 1) k HLT.out rfl (fun a hf => (hf 5 (by kernel_rfl)).trans rfl) (by kernel_rfl) rfl rfl,
        Grow.h2_load40 (Or.inl rfl) 2 29 (w.heap.size + 1 + 1 + 1) k ((Sn.wd (n + m) k : Nat) : Int) rfl (by kernel_rfl) rfl PS.out.ss.lt (by have h := PS.out.ss.cell k (by rw [Sn.pt_len]; exact HLT.out); rw [Sn.pt_new _ _ HLT.out] at h; exact h) rfl,
        Grow.h2_free (Or.inl rfl) 9 _ rfl (by kernel_rfl) rfl rfl,
        Grow.h2_idx42 (Or.inl rfl) (.global 0) 4 31 (0) k HLT.out rfl (fun a _ => rfl) (by kernel_rfl) rfl rfl,
        Grow.h2_load40 (Or.inl rfl) 5 32 (0) k ((Sn.wd (Ed.nn) k : Nat) : Int) rfl (by kernel_rfl) rfl PS.out.ord.1 (PS.out.ord.2 k HLT.out) rfl,
        Grow.h2_free (Or.inl rfl) 8 _ rfl (by kernel_rfl) rfl rfl,
        Grow.h2_ext3 (Or.inl rfl) 45 3 30 6 33 7 34 _ _ _ _ (.tuple #[.int .u64 ((Sn.wd (n + m + 18446744073709551616 ^ 4 - Ed.nn) k : Nat) : Int), .int .u64 ((Sn.br (n + m) Ed.nn (k + 1) : Nat) : Int)]) rfl (by kernel_rfl) (by kernel_rfl) (by kernel_rfl) rfl rfl rfl (fun wx => by have h := subc_any (Sn.wd (n + m) k) (Sn.wd Ed.nn k) b HB.out wx; rw [HS1.out.1, HS1.out.2] at h; exact h) rfl,
        Grow.h2_same (Or.inl rfl) 8 35 rfl (by kernel_rfl) rfl,
        Grow.h2_part0 (Or.inl rfl) 9 26 _ _ rfl (by kernel_rfl) rfl rfl,
        Grow.h2_part1 (Or.inl rfl) 9 26 _ _ rfl (by kernel_rfl) rfl rfl,
        Grow.h2_idx42 (Or.inl rfl) (.tmp 6) 0 27 (w.heap.size + 1 + 1 + 1 + 1) k HLT.out rfl (fun a hf => (hf 6 (by kernel_rfl)).trans rfl) (by kernel_rfl) rfl rfl,
        trivial⟩ ?_
      intro a w6 hb hts hkn hdf hfr
      have ev : a.eval (.tmp 36) = .int .u64 ((Sn.wd (n + m + 18446744073709551616 ^ 4 - Ed.nn) k : Nat) : Int) := hkn 10 36 (by decide) rfl
      have ec1 : a.eval (.tmp 37) = .int .u64 ((Sn.br (n + m) Ed.nn (k + 1) : Nat) : Int) := hkn 11 37 (by decide) rfl
      have ep : a.eval (.tmp 38) = .pointer (some ⟨w.heap.size + 1 + 1 + 1 + 1, k, none⟩) := hkn 12 38 (by decide) rfl
      have PRg := PS.out.grow hb
      refine ⟨_, Grow.run_store_cell40 (.tmp 38) (.tmp 36) rfl (w.heap.size + 1 + 1 + 1 + 1) k ((Sn.wd (n + m + 18446744073709551616 ^ 4 - Ed.nn) k : Nat) : Int) 0 ep ev (by have h := PRg.rr.cell k (by rw [Sn.pt_len]; exact HLT.out); rw [Sn.pt_get _ _ HLT.out] at h; exact h) (PRg.rr.free k), ?_⟩
      refine ⟨rfl, Grow.wp_assign 8 (.tmp 37) rfl rfl ?_⟩
      rw [ec1]
      have PR := Lib.hid (PRg.setR HO.out HLT.out)
      have ha := Grow.act_after hts hdf hfr
      rw [show Grow.dsts _ 13 = [27, 28, 29, 30, 31, 32, 33, 34, 35, 26, 36, 37, 38] from by kernel_rfl] at ha
      simp only [Grow.putAll] at ha
      generalize a.eval (.tmp 27) = u27 at ha
      generalize a.eval (.tmp 28) = u28 at ha
      generalize a.eval (.tmp 29) = u29 at ha
      generalize a.eval (.tmp 30) = u30 at ha
      generalize a.eval (.tmp 31) = u31 at ha
      generalize a.eval (.tmp 32) = u32 at ha
      generalize a.eval (.tmp 33) = u33 at ha
      generalize a.eval (.tmp 34) = u34 at ha
      generalize a.eval (.tmp 35) = u35 at ha
      generalize a.eval (.tmp 26) = u26 at ha
      generalize a.eval (.tmp 36) = u36 at ha
      generalize a.eval (.tmp 37) = u37 at ha
      generalize a.eval (.tmp 38) = u38 at ha
      clear hkn hts hdf hfr ev ec1 ep hb PS PRg
      simp [Act.put] at ha
      subst ha
      generalize w6.setCell ⟨w.heap.size + 1 + 1 + 1 + 1, k, none⟩ (.int .u64 ((Sn.wd (n + m + 18446744073709551616 ^ 4 - Ed.nn) k : Nat) : Int)) = w7 at *
      unfold Grow.wpSeq
      go_wp2
      go_roundw
      case rel => exact ⟨k + 1, by omega, by go_num, rfl, rfl, PR⟩
      case measure => simp [intOf]; omega
    · have hk4 : ((k : Nat) : Int) = 4 := by omega
      rw [hk4]
      clear hk4
      obtain rfl : k = 4 := by omega
      by_cases hb : Sn.br (n + m) Ed.nn 4 = 1
      · have e1 : ((Sn.br (n + m) Ed.nn 4 : Nat) : Int) = 1 := by rw [hb]; rfl
        have HQ : Hid (wr.heap[w.heap.size + 1 + 1 + 1]? = some (.cells (Sn.nv (Sn.sm n m)) 42 (0, 0))) := by rw [Sn.sm_small HN.out HM.out hb]; exact PL.out.ss
        rw [e1]
        clear e1 hb hlt hk
        go_wp2_with (first
          | ((with_reducible refine wpList_store_row (o := ⟨none, _, _, _, _, _⟩) rfl 42 (.tmp 4) (.tmp 42) rfl (w.heap.size + 1 + 1) (Sn.nv (Sn.sm n m)) rfl rfl 42 _ PL.out.zz ?_ ?_ ?_ ?_); exact i42; exact rfl; exact nv_one _)
          | ((with_reducible refine wpList_load_row (o := ⟨some 42, _, _, _, _, _⟩) rfl 42 (.tmp 5) rfl (w.heap.size + 1 + 1 + 1) rfl 42 _ (0, 0) _ HQ.out Tryd.underlying42 rfl ?_ ?_); exact i42))
        exact bodyPost_ret (results_cell_row Tryd.results20 _ _ (w.heap.size + 1 + 1) 42 _ (0, 0) _ rfl (setRow_heap wr (w.heap.size + 1 + 1) _ (Sn.nv (Sn.sm n m)) 42 _ PL.out.zz) Tryd.underlying42 rfl i42) rfl ⟨rfl, below_setRow PL.out.be (by omega) _⟩
      · have e1 : ((Sn.br (n + m) Ed.nn 4 : Nat) : Int) = 0 := by have := Sn.br_le (n + m) Ed.nn 4; omega
        have HQ : Hid (wr.heap[w.heap.size + 1 + 1 + 1 + 1]? = some (.cells (Sn.nv (Sn.sm n m)) 42 (0, 0))) := by
          have h := PL.out.rr
          rw [Sn.pt_four, Sn.sm_great HN.out HM.out hb] at h
          exact h
        rw [e1]
        clear e1 hb hlt hk
        go_wp2_with (first
          | ((with_reducible refine wpList_store_row (o := ⟨none, _, _, _, _, _⟩) rfl 42 (.tmp 4) (.tmp 43) rfl (w.heap.size + 1 + 1) (Sn.nv (Sn.sm n m)) rfl rfl 42 _ PL.out.zz ?_ ?_ ?_ ?_); exact i42; exact rfl; exact nv_one _)
          | ((with_reducible refine wpList_load_row (o := ⟨some 43, _, _, _, _, _⟩) rfl 42 (.tmp 6) rfl (w.heap.size + 1 + 1 + 1 + 1) rfl 42 _ (0, 0) _ HQ.out Tryd.underlying42 rfl ?_ ?_); exact i42))
        exact bodyPost_ret (results_cell_row Tryd.results20 _ _ (w.heap.size + 1 + 1) 42 _ (0, 0) _ rfl (setRow_heap wr (w.heap.size + 1 + 1) _ (Sn.nv (Sn.sm n m)) 42 _ PL.out.zz) Tryd.underlying42 rfl i42) rfl ⟨rfl, below_setRow PL.out.be (by omega) _⟩
end Go.Proofs.YtiinmdleechcgaaDoor
namespace Go.Proofs.YtiinmdleechcgaaDoor
namespace Sn
theorem bit_wd (m k : Nat) : wd m (k / 64) / 2 ^ (k % 64) % 2 = Bt.bit m k := by
  have hp : (18446744073709551616 : Nat) = 2 ^ 64 := by decide
  unfold wd Bt.bit
  have hk : k = 64 * (k / 64) + k % 64 := by omega
  have hr : k % 64 < 64 := Nat.mod_lt _ (by decide)
  generalize k / 64 = a at *
  generalize k % 64 = r at *
  subst hk
  rw [Nat.pow_add, ← Nat.div_div_eq_div_mul, Nat.pow_mul, ← hp]
  generalize m / 18446744073709551616 ^ a = x
  have e : 18446744073709551616 = 2 ^ r * 2 ^ (64 - r) := by rw [← Nat.pow_add, show r + (64 - r) = 64 by omega]
  rw [e, Nat.mod_mul_right_div_self, show 64 - r = (63 - r) + 1 by omega, Nat.pow_succ, Nat.mul_comm (2 ^ (63 - r)) 2]
  exact Nat.mod_mul_right_mod _ _ _
/-- So much of the product is made of the highest bits. -/
def tm (n m i : Nat) : Nat := (m / 2 ^ (256 - i)) * n % Ed.nn
theorem tm_lt (n m i : Nat) : tm n m i < Ed.nn := Nat.mod_lt _ (by decide)
theorem tm_zero {n m : Nat} (hm : m < Ed.nn) : tm n m 0 = 0 := by
  unfold tm
  rw [Nat.div_eq_of_lt (Nat.lt_trans hm (by decide)), Nat.zero_mul, Nat.zero_mod]
theorem tm_all (n m : Nat) : tm n m 256 = n * m % Ed.nn := by
  unfold tm
  rw [Nat.sub_self, Nat.pow_zero, Nat.div_one, Nat.mul_comm]
theorem half (m j : Nat) : m / 2 ^ j = 2 * (m / 2 ^ (j + 1)) + Bt.bit m j := by
  unfold Bt.bit
  rw [Nat.pow_succ, ← Nat.div_div_eq_div_mul]
  omega
theorem tm_step0 {n m i : Nat} (hi : i < 256) (h : Bt.bit m (255 - i) = 0) : sm (tm n m i) (tm n m i) = tm n m (i + 1) := by
  unfold tm sm
  rw [show 256 - (i + 1) = 255 - i by omega, half m (255 - i), h, Nat.add_zero, show 255 - i + 1 = 256 - i by omega]
  rw [← Nat.add_mod]
  congr 1
  rw [Nat.mul_assoc, Nat.two_mul]
theorem tm_step1 {n m i : Nat} (hi : i < 256) (h : Bt.bit m (255 - i) = 1) : sm (sm (tm n m i) (tm n m i)) n = tm n m (i + 1) := by
  unfold tm sm
  rw [show 256 - (i + 1) = 255 - i by omega, half m (255 - i), h, show 255 - i + 1 = 256 - i by omega]
  rw [← Nat.add_mod, Nat.mod_add_mod, Nat.add_mul, Nat.one_mul, Nat.mul_assoc 2, Nat.two_mul]
/-- A number of bytes, modulo the order, by its highest bits. -/
def md (N b i : Nat) : Nat := (N / 2 ^ (b - i)) % Ed.nn
theorem md_lt (N b i : Nat) : md N b i < Ed.nn := Nat.mod_lt _ (by decide)
theorem md_zero {N b : Nat} (h : N < 2 ^ b) : md N b 0 = 0 := by
  unfold md
  rw [Nat.sub_zero, Nat.div_eq_of_lt h, Nat.zero_mod]
theorem md_all (N b : Nat) : md N b b = N % Ed.nn := by
  unfold md
  rw [Nat.sub_self, Nat.pow_zero, Nat.div_one]
theorem md_step {N b i : Nat} (hi : i < b) : sm (sm (md N b i) (md N b i)) (Bt.bit N (b - 1 - i)) = md N b (i + 1) := by
  unfold md sm
  rw [show b - (i + 1) = b - 1 - i by omega, half N (b - 1 - i), show b - 1 - i + 1 = b - i by omega]
  rw [← Nat.add_mod, Nat.mod_add_mod, Nat.two_mul]
theorem bit_nn (N k : Nat) : Bt.bit N k < Ed.nn := Nat.lt_of_le_of_lt (Bt.bit_le N k) (by decide)
end Sn
end Go.Proofs.YtiinmdleechcgaaDoor
namespace Go.Proofs.YtiinmdleechcgaaDoor
open Go.RowKit
/-- What lies where while a product is made. -/
structure TmLay (w : World) (n m x : Nat) (wr : World) : Prop where
  aa : wr.heap[w.heap.size]? = some (.cells (Sn.nv n) 42 (0, 0))
  bb : Blk wr (w.heap.size + 1) .u64 42 (Sn.wl m)
  zz : wr.heap[w.heap.size + 1 + 1]? = some (.cells (Sn.nv 0) 42 (0, 0))
  oo : wr.heap[w.heap.size + 1 + 1 + 1]? = some (.cells (Sn.nv x) 42 (0, 0))
  ord : Ord wr
  be : Below w.heap.size w wr
section
variable {w wr w5 : World} {n m x : Nat}
theorem TmLay.grow (h : TmLay w n m x wr) (hb : Below wr.heap.size wr w5) : TmLay w n m x w5 :=
  ⟨(hb.block _ (lt_of_block h.aa)).trans h.aa, h.bb.other (hb.block _ h.bb.lt), (hb.block _ (lt_of_block h.zz)).trans h.zz, (hb.block _ (lt_of_block h.oo)).trans h.oo, h.ord.below hb h.ord.1, h.be.trans (hb.mono h.be.size)⟩
theorem TmLay.put (h : TmLay w n m x wr) (ho : Ord w) (x' : Nat) : TmLay w n m x' (wr.setRow (w.heap.size + 1 + 1 + 1) (Sn.nv x')) := by
  have hB : Below w.heap.size w (wr.setRow (w.heap.size + 1 + 1 + 1) (Sn.nv x')) := below_setRow h.be (by omega) _
  refine ⟨?_, ?_, ?_, setRow_heap wr _ _ (Sn.nv x') 42 _ h.oo, ho.below hB ho.1, hB⟩
  · rw [setRow_other _ _ _ _ (by omega)]; exact h.aa
  · exact h.bb.other (setRow_other _ _ _ _ (by omega))
  · rw [setRow_other _ _ _ _ (by omega)]; exact h.zz
end
theorem TmLay.start {w : World} (ho : Ord w) (n m : Nat) : TmLay w n m 0 ((((w.alloc (.cells (Sn.nv n) 42)).alloc (.cells (Sn.nv m) 42)).alloc (.cells (Sn.nv 0) 42)).alloc (.cells (Sn.nv 0) 42)) := by
  have h := heap_alloc3 w (.cells (Sn.nv n) 42) (.cells (Sn.nv m) 42) (.cells (Sn.nv 0) 42)
  obtain ⟨⟨h1, h2, h3⟩, h4⟩ := h
  generalize hw3 : ((w.alloc (.cells (Sn.nv n) 42)).alloc (.cells (Sn.nv m) 42)).alloc (.cells (Sn.nv 0) 42) = w3 at *
  have hs : w3.heap.size = w.heap.size + 1 + 1 + 1 := by rw [← hw3]; simp
  have h5 := heap_alloc_new w3 (.cells (Sn.nv 0) 42)
  rw [hs] at h5
  have hb : Below w3.heap.size w3 (w3.alloc (.cells (Sn.nv 0) 42)) := (Below.refl _ _).alloc (Nat.le_refl _) _
  have hB := h4.trans (hb.mono h4.size)
  exact ⟨(hb.block _ (lt_of_block h1)).trans h1, (hb.block _ (lt_of_block h2)).trans h2, (hb.block _ (lt_of_block h3)).trans h3, h5, ho.below hB ho.1, hB⟩
set_option maxRecDepth 100000 in
set_option maxHeartbeats 2000000 in
theorem stimes_any (w : World) (ho : Ord w) (n m : Nat) (hn : n < Ed.nn) (hm : m < Ed.nn) :
    Calls Tryd.prog 21 #[.agg (Sn.nv n), .agg (Sn.nv m)] w fun e w' => e = .returned (.agg (Sn.nv (n * m % Ed.nn))) ∧ Below w.heap.size w w' := by
  have TL := Lib.hid (TmLay.start ho n m)
  have HO := Lib.hid ho
  have HN := Lib.hid hn
  have HZ := Lib.hid (Sn.tm_zero (n := n) hm)
  clear ho hn hm
  go_enter Tryd.func21, Tryd.ntmps21
  go_wp2_with fail
  change Code.wp _ _ _ _ ((((w.alloc (.cells (Sn.nv n) 42)).alloc (.cells (Sn.nv m) 42)).alloc (.cells (Sn.nv 0) 42)).alloc (.cells (Sn.nv 0) 42))
  generalize ((((w.alloc (.cells (Sn.nv n) 42)).alloc (.cells (Sn.nv m) 42)).alloc (.cells (Sn.nv 0) 42)).alloc (.cells (Sn.nv 0) 42)) = w0 at *
  go_loopw [8] (fun i wr => ∃ k : Nat, k ≤ 256 ∧ i = .int .i64 k ∧ Hid (TmLay w n m (Sn.tm n m k) wr)) (fun i _ => 256 - (intOf i).toNat)
  case atStart => exact ⟨0, by omega, rfl, by rw [HZ.out]; exact TL⟩
  case round =>
    clear TL HZ
    obtain ⟨k, hk, rfl, TL⟩ := hrel
    by_cases hlt : k < 256
    · have HL := Lib.hid hlt
      obtain ⟨j, hj⟩ : ∃ j, j = 255 - k := ⟨_, rfl⟩
      have hj256 : j < 256 := by omega
      have HX0 := Lib.hid (Sn.tm_step0 (n := n) (m := m) hlt)
      have HX1 := Lib.hid (Sn.tm_step1 (n := n) (m := m) hlt)
      rw [← hj] at HX0 HX1
      have HLT := Lib.hid (Sn.tm_lt n m k)
      generalize Sn.tm n m k = x at *
      go_upto_region 6 with fail
      have hjk : (255 : Int) - (k : Int) = (j : Int) := by have := HL.out; omega
      rw [hjk]
      clear hjk hj
      obtain ⟨x1, hx1⟩ : ∃ x1, x1 = Sn.sm x x := ⟨_, rfl⟩
      rw [← hx1] at HX0 HX1
      have HX1E := Lib.hid hx1
      have HL1 : Hid (x1 < Ed.nn) := by rw [hx1]; exact Sn.sm_lt _ _
      clear hx1
      go_upto_region 7 with (first
        | ((with_reducible refine wpList_store_row (o := ⟨none, _, _, _, _, _⟩) rfl 42 (.tmp 5) (.tmp 15) rfl (w.heap.size + 1 + 1 + 1) (Sn.nv x1) rfl rfl 42 _ TL5.out.oo ?_ ?_ ?_ ?_); exact i42; exact rfl; exact nv_one _)
        | (go_at_call 20; refine (splus_any _ TL.out.ord x x HLT.out HLT.out).mono ?_; rw [← HX1E.out]; rintro e w5 ⟨rfl, hb⟩; have TL5 := Lib.hid (TL.out.grow hb); clear hb)
        | ((with_reducible refine wpList_load_row (o := ⟨some _, _, _, _, _, _⟩) rfl 42 (.tmp 5) rfl (w.heap.size + 1 + 1 + 1) rfl 42 _ (0, 0) _ TL.out.oo Tryd.underlying42 rfl ?_ ?_); exact i42))
      have TL6 := Lib.hid (TL5.out.put HO.out x1)
      generalize w5.setRow (w.heap.size + 1 + 1 + 1) (Sn.nv x1) = w6 at *
      clear TL TL5
      have c1 := TL6.out.bb.cell (j / 64) (by rw [Sn.wl_len]; omega)
      rw [Sn.wl_get _ _ (by omega)] at c1
      have hbit := Sn.bit_wd m j
      have hv := Sn.wd_lt m (j / 64)
      have hb1 := Bt.bit_le m j
      generalize Sn.wd m (j / 64) = v at *
      have hm := and1 ((v : Int) / 2 ^ (j % 64)) (Int.ediv_nonneg (by omega) (Int.le_of_lt (Int.pow_pos (by decide)))) (Int.le_trans (Int.ediv_le_self _ (by omega)) (by omega))
      have hvb : ((v : Int) / 2 ^ (j % 64)) % 2 = ((Bt.bit m j : Nat) : Int) := by
        rw [← hbit]
        simp
      rw [hvb] at hm
      clear hbit hvb
      by_cases hb : Bt.bit m j = 1
      · rw [hb] at hm
        have HXE := Lib.hid (HX1.out hb)
        clear hb hb1 HX0 HX1
        go_wp2_with (first
          | ((with_reducible refine wpList_store_row (o := ⟨none, _, _, _, _, _⟩) rfl 42 (.tmp 5) (.tmp 27) rfl (w.heap.size + 1 + 1 + 1) (Sn.nv (Sn.sm x1 n)) rfl rfl 42 _ TL7.out.oo ?_ ?_ ?_ ?_); exact i42; exact rfl; exact nv_one _)
          | (go_at_call 20; refine (splus_any _ TL6.out.ord x1 n HL1.out HN.out).mono ?_; rintro e w7 ⟨rfl, hb⟩; have TL7 := Lib.hid (TL6.out.grow hb); clear hb)
          | ((with_reducible refine wpList_load_row (o := ⟨some 26, _, _, _, _, _⟩) rfl 42 (.tmp 2) rfl (w.heap.size) rfl 42 _ (0, 0) _ TL6.out.aa Tryd.underlying42 rfl ?_ ?_); exact i42)
          | ((with_reducible refine wpList_load_row (o := ⟨some 25, _, _, _, _, _⟩) rfl 42 (.tmp 5) rfl (w.heap.size + 1 + 1 + 1) rfl 42 _ (0, 0) _ TL6.out.oo Tryd.underlying42 rfl ?_ ?_); exact i42))
        have TL8 := Lib.hid (TL7.out.put HO.out (Sn.sm x1 n))
        rw [HXE.out] at TL8 ⊢
        go_roundw
        case rel => exact ⟨k + 1, by have := HL.out; omega, by go_num, TL8⟩
        case measure => have := HL.out; simp [intOf]; omega
      · have hb0 : Bt.bit m j = 0 := by omega
        rw [hb0] at hm
        have HXE := Lib.hid (HX0.out hb0)
        rw [HXE.out] at TL6
        clear hb hb0 hb1 HX0 HX1
        go_wp2
        go_roundw
        case rel => exact ⟨k + 1, by have := HL.out; omega, by go_num, TL6⟩
        case measure => have := HL.out; simp [intOf]; omega
    · have hk5 : ((k : Nat) : Int) = 256 := by omega
      rw [hk5]
      clear hk5
      obtain rfl : k = 256 := by omega
      rw [Sn.tm_all] at TL
      go_wp2_with (first
        | ((with_reducible refine wpList_store_row (o := ⟨none, _, _, _, _, _⟩) rfl 42 (.tmp 4) (.tmp 29) rfl (w.heap.size + 1 + 1) (Sn.nv (n * m % Ed.nn)) rfl rfl 42 _ TL.out.zz ?_ ?_ ?_ ?_); exact i42; exact rfl; exact nv_one _)
        | ((with_reducible refine wpList_load_row (o := ⟨some 29, _, _, _, _, _⟩) rfl 42 (.tmp 5) rfl (w.heap.size + 1 + 1 + 1) rfl 42 _ (0, 0) _ TL.out.oo Tryd.underlying42 rfl ?_ ?_); exact i42))
      exact bodyPost_ret (results_cell_row Tryd.results21 _ _ (w.heap.size + 1 + 1) 42 _ (0, 0) _ rfl (setRow_heap wr (w.heap.size + 1 + 1) _ (Sn.nv (n * m % Ed.nn)) 42 _ TL.out.zz) Tryd.underlying42 rfl i42) rfl ⟨rfl, below_setRow TL.out.be (by omega) _⟩
end Go.Proofs.YtiinmdleechcgaaDoor
namespace Go.Proofs.YtiinmdleechcgaaDoor
open Go.RowKit
theorem run_build42_0 (w : World) : (Instr.build 42 #[(0, .int .u64 ((0 : Nat) : Int))]).run Tryd.prog w = .ok (.agg (Sn.nv 0)) w := by kernel_rfl
theorem run_build42_1 (w : World) : (Instr.build 42 #[(0, .int .u64 ((1 : Nat) : Int))]).run Tryd.prog w = .ok (.agg (Sn.nv 1)) w := by kernel_rfl
theorem run_build42 (b : Nat) (hb : b ≤ 1) (w : World) : (Instr.build 42 #[(0, .int .u64 (b : Int))]).run Tryd.prog w = .ok (.agg (Sn.nv b)) w := by
  have h : b = 0 ∨ b = 1 := by omega
  rcases h with rfl | rfl
  · exact run_build42_0 w
  · exact run_build42_1 w
namespace Grow
theorem enter20 (args : Array Value) (w : World) : (callFunc 20 args).run Tryd.prog w = .ok (.enter 20 args) w := by
  have := Tryd.func20
  go_simp
section
variable {m : Nat} {ops : Array Oper} {Q : Exit → Act → World → Prop} {specs : Nat → Spec} {a0 : Act} {w0 : World} {i : Nat} {o : Oper}
theorem h2_idx22 (hr : Runs2 ops specs a0 o) (j1 d1 j2 d2 g n c k : Nat) (hkn : k < n) (ho : o.op = .indexAddr 22 (.tmp d1) (.tmp d2)) (hj1 : deps .any ops o j1 d1 = true) (hj2 : deps .any ops o j2 d2 = true) (hs1 : specs j1 = .is (.slice (some ⟨g, 0, none⟩) n c)) (hs2 : specs j2 = .is (.int .i64 (k : Int))) (hi : specs i = .is (.pointer (some ⟨g, k, none⟩))) : Hop2 Tryd.prog m ops specs Q a0 w0 i o :=
  h2_val hr fun a w hk => by
    have h1 := hk.deps j1 d1 hj1
    have h2 := hk.deps j2 d2 hj2
    rw [hs1] at h1
    rw [hs2] at h2
    have h1 : a.eval (.tmp d1) = .slice (some ⟨g, 0, none⟩) n c := h1
    have h2 : a.eval (.tmp d2) = .int .i64 (k : Int) := h2
    refine ⟨.pointer (some ⟨g, k, none⟩), w, ?_, by rw [hi]; rfl, Below.refl _ _⟩
    unfold execOp
    rw [ho]
    simp only [h1, h2]
    have hu := Tryd.underlying22
    go_simp
theorem h2_idx22c (hr : Runs2 ops specs a0 o) (j1 d1 g n c k : Nat) (hkn : k < n) (ho : o.op = .indexAddr 22 (.tmp d1) (.const (.int .i64 (k : Int)))) (hj1 : deps .any ops o j1 d1 = true) (hs1 : specs j1 = .is (.slice (some ⟨g, 0, none⟩) n c)) (hi : specs i = .is (.pointer (some ⟨g, k, none⟩))) : Hop2 Tryd.prog m ops specs Q a0 w0 i o :=
  h2_val hr fun a w hk => by
    have h1 := hk.deps j1 d1 hj1
    rw [hs1] at h1
    have h1 : a.eval (.tmp d1) = .slice (some ⟨g, 0, none⟩) n c := h1
    refine ⟨.pointer (some ⟨g, k, none⟩), w, ?_, by rw [hi]; rfl, Below.refl _ _⟩
    unfold execOp
    rw [ho]
    simp only [h1]
    have hu := Tryd.underlying22
    go_simp
theorem h2_load5 (hr : Runs2 ops specs a0 o) (j d g k : Nat) (x : Int) (ho : o.op = .load 5 (.tmp d)) (hj : deps .any ops o j d = true) (hs : specs j = .is (.pointer (some ⟨g, k, none⟩))) (hg : g < w0.heap.size) (hc : w0.cell? ⟨g, k, none⟩ = some (.int .u8 x)) (hi : specs i = .is (.int .u8 x)) : Hop2 Tryd.prog m ops specs Q a0 w0 i o :=
  h2_val hr fun a w hk => by
    have h := hk.deps j d hj
    rw [hs] at h
    have h : a.eval (.tmp d) = .pointer (some ⟨g, k, none⟩) := h
    have hcw := (hk.below.cell (p := ⟨g, k, none⟩) hg).trans hc
    refine ⟨.int .u8 x, w, ?_, by rw [hi]; rfl, Below.refl _ _⟩
    unfold execOp
    rw [ho]
    simp only [h]
    have hu := Tryd.underlying5
    go_simp
theorem h2_quo8 (hr : Runs2 ops specs a0 o) (j d k : Nat) (ho : o.op = .binOp .quo 3 (.tmp d) (.const (.int .i64 8)) 3) (hj : deps .any ops o j d = true) (hs : specs j = .is (.int .i64 (k : Int))) (hi : specs i = .is (.int .i64 ((k / 8 : Nat) : Int))) (hk2 : k ≤ 1000000) : Hop2 Tryd.prog m ops specs Q a0 w0 i o :=
  h2_val hr fun a w hk => by
    have h := hk.deps j d hj
    rw [hs] at h
    have h : a.eval (.tmp d) = .int .i64 (k : Int) := h
    refine ⟨.int .i64 ((k / 8 : Nat) : Int), w, ?_, by rw [hi]; rfl, Below.refl _ _⟩
    unfold execOp
    rw [ho]
    simp only [h]
    have hu := Tryd.underlying3
    go_simp
    rw [IntKind.wrap_i64]
    omega
theorem h2_rem8 (hr : Runs2 ops specs a0 o) (j d k : Nat) (ho : o.op = .binOp .rem 3 (.tmp d) (.const (.int .i64 8)) 3) (hj : deps .any ops o j d = true) (hs : specs j = .is (.int .i64 (k : Int))) (hi : specs i = .is (.int .i64 ((k % 8 : Nat) : Int))) : Hop2 Tryd.prog m ops specs Q a0 w0 i o :=
  h2_val hr fun a w hk => by
    have h := hk.deps j d hj
    rw [hs] at h
    have h : a.eval (.tmp d) = .int .i64 (k : Int) := h
    refine ⟨.int .i64 ((k % 8 : Nat) : Int), w, ?_, by rw [hi]; rfl, Below.refl _ _⟩
    unfold execOp
    rw [ho]
    simp only [h]
    have hu := Tryd.underlying3
    go_simp
    exact Int.tmod_eq_emod_of_nonneg (Int.natCast_nonneg _)
theorem h2_shr5 (hr : Runs2 ops specs a0 o) (j1 d1 j2 d2 v r : Nat) (ho : o.op = .binOp .shr 5 (.tmp d1) (.tmp d2) 3) (hj1 : deps .any ops o j1 d1 = true) (hj2 : deps .any ops o j2 d2 = true) (hs1 : specs j1 = .is (.int .u8 (v : Int))) (hs2 : specs j2 = .is (.int .i64 (r : Int))) (hi : specs i = .is (.int .u8 ((v / 2 ^ r : Nat) : Int))) (hr8 : r < 8) : Hop2 Tryd.prog m ops specs Q a0 w0 i o :=
  h2_val hr fun a w hk => by
    have h1 := hk.deps j1 d1 hj1
    have h2 := hk.deps j2 d2 hj2
    rw [hs1] at h1
    rw [hs2] at h2
    have h1 : a.eval (.tmp d1) = .int .u8 (v : Int) := h1
    have h2 : a.eval (.tmp d2) = .int .i64 (r : Int) := h2
    refine ⟨.int .u8 ((v / 2 ^ r : Nat) : Int), w, ?_, by rw [hi]; rfl, Below.refl _ _⟩
    unfold execOp
    rw [ho]
    simp only [h1, h2]
    have hu := Tryd.underlying5
    have hu3 := Tryd.underlying3
    go_simp
theorem h2_bit5 (hr : Runs2 ops specs a0 o) (j d v : Nat) (ho : o.op = .binOp .and 5 (.tmp d) (.const (.int .u8 1)) 5) (hj : deps .any ops o j d = true) (hs : specs j = .is (.int .u8 (v : Int))) (hi : specs i = .is (.int .u8 ((v % 2 : Nat) : Int))) (hv : v < 256) : Hop2 Tryd.prog m ops specs Q a0 w0 i o :=
  h2_val hr fun a w hk => by
    have h := hk.deps j d hj
    rw [hs] at h
    have h : a.eval (.tmp d) = .int .u8 (v : Int) := h
    have hm := and1_8 (v : Int) (by omega) (by omega)
    refine ⟨.int .u8 ((v % 2 : Nat) : Int), w, ?_, by rw [hi]; rfl, Below.refl _ _⟩
    unfold execOp
    rw [ho]
    simp only [h]
    have hu := Tryd.underlying5
    go_simp
theorem h2_conv540 (hr : Runs2 ops specs a0 o) (j d v : Nat) (ho : o.op = .convert 5 40 (.tmp d)) (hj : deps .any ops o j d = true) (hs : specs j = .is (.int .u8 (v : Int))) (hi : specs i = .is (.int .u64 (v : Int))) (hv : v < 256) : Hop2 Tryd.prog m ops specs Q a0 w0 i o :=
  h2_val hr fun a w hk => by
    have h := hk.deps j d hj
    rw [hs] at h
    have h : a.eval (.tmp d) = .int .u8 (v : Int) := h
    refine ⟨.int .u64 (v : Int), w, ?_, by rw [hi]; rfl, Below.refl _ _⟩
    unfold execOp
    rw [ho]
    simp only [h]
    have hu := Tryd.underlying5
    have hu2 := Tryd.underlying40
    go_simp
    rw [IntKind.wrap_u64]
    omega
theorem h2_build42 (hr : Runs2 ops specs a0 o) (j d b : Nat) (hb : b ≤ 1) (ho : o.op = .build 42 #[(0, .tmp d)]) (hj : deps .any ops o j d = true) (hs : specs j = .is (.int .u64 (b : Int))) (hi : specs i = .is (.agg (Sn.nv b))) : Hop2 Tryd.prog m ops specs Q a0 w0 i o :=
  h2_val hr fun a w hk => by
    have h := hk.deps j d hj
    rw [hs] at h
    have h : a.eval (.tmp d) = .int .u64 (b : Int) := h
    have hrun := run_build42 b hb w
    refine ⟨.agg (Sn.nv b), w, ?_, by rw [hi]; rfl, Below.refl _ _⟩
    unfold execOp
    rw [ho]
    simp only [List.map_toArray, List.map_cons, List.map_nil, h, Sem.run_bind, hrun, Result.andThen_ok, Sem.run_pure]
end
end Grow
end Go.Proofs.YtiinmdleechcgaaDoor
namespace Go.Proofs.YtiinmdleechcgaaDoor
open Go.RowKit
/-- What lies where while bytes are read. -/
structure MdLay (w : World) (g : Nat) (p : List Int) (x : Nat) (wr : World) : Prop where
  pp : At wr .u8 g 0 p
  gl : g < w.heap.size
  zz : wr.heap[w.heap.size]? = some (.cells (Sn.nv 0) 42 (0, 0))
  oo : wr.heap[w.heap.size + 1]? = some (.cells (Sn.nv x) 42 (0, 0))
  ord : Ord wr
  be : Below w.heap.size w wr
section
variable {w wr w5 : World} {g x : Nat} {p : List Int}
theorem MdLay.grow (h : MdLay w g p x wr) (hb : Below wr.heap.size wr w5) : MdLay w g p x w5 :=
  ⟨h.pp.below hb (Nat.lt_of_lt_of_le h.gl h.be.size), h.gl, (hb.block _ (lt_of_block h.zz)).trans h.zz, (hb.block _ (lt_of_block h.oo)).trans h.oo, h.ord.below hb h.ord.1, h.be.trans (hb.mono h.be.size)⟩
theorem MdLay.put (h : MdLay w g p x wr) (hp : At w .u8 g 0 p) (ho : Ord w) (x' : Nat) : MdLay w g p x' (wr.setRow (w.heap.size + 1) (Sn.nv x')) := by
  have hB : Below w.heap.size w (wr.setRow (w.heap.size + 1) (Sn.nv x')) := below_setRow h.be (by omega) _
  refine ⟨hp.below hB h.gl, h.gl, ?_, setRow_heap wr _ _ (Sn.nv x') 42 _ h.oo, ho.below hB ho.1, hB⟩
  rw [setRow_other _ _ _ _ (by omega)]; exact h.zz
end
theorem MdLay.start {w : World} {g : Nat} {p : List Int} (hp : At w .u8 g 0 p) (hg : g < w.heap.size) (ho : Ord w) : MdLay w g p 0 ((w.alloc (.cells (Sn.nv 0) 42)).alloc (.cells (Sn.nv 0) 42)) := by
  have hB : Below w.heap.size w ((w.alloc (.cells (Sn.nv 0) 42)).alloc (.cells (Sn.nv 0) 42)) := ((Below.refl _ _).alloc (Nat.le_refl _) _).alloc (by simp) _
  exact ⟨hp.below hB hg, hg, heap_alloc2_old w _ _, heap_alloc2_new w _ _, ho.below hB ho.1, hB⟩
set_option maxRecDepth 100000 in
set_option maxHeartbeats 2000000 in
theorem modulo_any (w : World) (ho : Ord w) (g n c : Nat) (p : List Int) (hp : At w .u8 g 0 p) (hg : g < w.heap.size) (hl : p.length = n) (hn : n ≤ 10000) (h8 : ∀ b ∈ p, W8 b) :
    Calls Tryd.prog 23 #[.slice (some ⟨g, 0, none⟩) n c] w fun e w' => e = .returned (.agg (Sn.nv (Bt.low p % Ed.nn))) ∧ Below w.heap.size w w' := by
  have TL := Lib.hid (MdLay.start hp hg ho)
  have HO := Lib.hid ho
  have HP := Lib.hid hp
  have H8 := Lib.hid h8
  have HLN := Lib.hid hl
  have hlow := Bt.low_lt p h8
  rw [hl] at hlow
  have HLOW := Lib.hid hlow
  have HZ := Lib.hid (Sn.md_zero hlow)
  clear ho hp hg h8 hl hlow
  go_enter Tryd.func23, Tryd.ntmps23
  go_wp2_with fail
  change Code.wp _ _ _ _ ((w.alloc (.cells (Sn.nv 0) 42)).alloc (.cells (Sn.nv 0) 42))
  generalize (w.alloc (.cells (Sn.nv 0) 42)).alloc (.cells (Sn.nv 0) 42) = w0 at *
  go_loopw [9] (fun i wr => ∃ k : Nat, k ≤ 8 * n ∧ i = .int .i64 k ∧ Hid (MdLay w g p (Sn.md (Bt.low p) (8 * n) k) wr)) (fun i _ => 8 * n - (intOf i).toNat)
  case atStart => exact ⟨0, by omega, rfl, by rw [HZ.out]; exact TL⟩
  case round =>
    clear TL HZ
    obtain ⟨k, hk, rfl, TL⟩ := hrel
    by_cases hlt : k < 8 * n
    · have HL := Lib.hid hlt
      obtain ⟨j, hj⟩ : ∃ j, j = 8 * n - 1 - k := ⟨_, rfl⟩
      have hjl : j < 8 * n := by omega
      have HSTEP := Lib.hid (Sn.md_step (N := Bt.low p) hlt)
      rw [← hj] at HSTEP
      have HLT := Lib.hid (Sn.md_lt (Bt.low p) (8 * n) k)
      generalize Sn.md (Bt.low p) (8 * n) k = x at *
      have hjk : (8 : Int) * (n : Int) - 1 - (k : Int) = (j : Int) := by omega
      have HJK := Lib.hid hjk
      clear hj hjk
      go_upto_region 6 with fail
      rw [HJK.out]
      have HJN : Hid (j / 8 < n) := by show _ < _; omega
      have HJB : Hid (j ≤ 1000000) := by show _ ≤ _; omega
      have hpl := Bt.place_low p (j / 8) H8.out (by rw [HLN.out]; exact HJN.out)
      have hbit := Bt.bit_place 8 n (Bt.low p) j (by decide) HLOW.out
      have c1 := TL.out.pp (j / 8) (by rw [HLN.out]; exact HJN.out)
      rw [Nat.zero_add, ← hpl, HLN.out] at c1
      have hv := Bt.place_lt 8 (Bt.low p) (8 * n) (j / 8)
      generalize Bt.place 8 (Bt.low p) (8 * n) (j / 8) = v at *
      have C1 := Lib.hid c1
      have HV : Hid (v < 256) := hv
      have HBIT := Lib.hid hbit
      have HVS : Hid (v / 2 ^ (j % 8) < 256) := Nat.lt_of_le_of_lt (Nat.div_le_self _ _) HV.out
      have HJ8 : Hid (j % 8 < 8) := Nat.mod_lt _ (by decide)
      have HB1 := Lib.hid (Bt.bit_le (Bt.low p) j)
      have HBN := Lib.hid (Sn.bit_nn (Bt.low p) j)
      clear hpl c1 hv hbit hlt hk hjl
      generalize Bt.bit (Bt.low p) j = b at *
      obtain ⟨x1, hx1⟩ : ∃ x1, x1 = Sn.sm x x := ⟨_, rfl⟩
      rw [← hx1] at HSTEP
      have HX1 := Lib.hid hx1
      have HL1 : Hid (x1 < Ed.nn) := by rw [hx1]; exact Sn.sm_lt _ _
      clear hx1
      refine Grow.region_rest (by kernel_rfl) 15 (fun i => List.getD (Grow.Spec.is (.agg (Sn.nv x)) :: Grow.Spec.is (.agg (Sn.nv x)) :: Grow.Spec.is (.agg (Sn.nv x1)) :: Grow.Spec.is (.slice (some ⟨g, 0, none⟩) n c) :: Grow.Spec.is (.int .i64 (j : Int)) :: Grow.Spec.is (.int .i64 ((j / 8 : Nat) : Int)) :: Grow.Spec.is (.pointer (some ⟨g, j / 8, none⟩)) :: Grow.Spec.is (.int .u8 (v : Int)) :: Grow.Spec.is (.int .i64 (j : Int)) :: Grow.Spec.is (.int .i64 ((j % 8 : Nat) : Int)) :: Grow.Spec.is (.int .u8 ((v / 2 ^ (j % 8) : Nat) : Int)) :: Grow.Spec.is (.int .u8 ((v / 2 ^ (j % 8) % 2 : Nat) : Int)) :: Grow.Spec.is (.int .u64 ((v / 2 ^ (j % 8) % 2 : Nat) : Int)) :: Grow.Spec.is (.agg (Sn.nv b)) :: Grow.Spec.is (.agg (Sn.nv (Sn.sm x1 b))) :: []) i (Grow.Spec.is undef)) (by kernel_rfl) ⟨
        Grow.h2_row (Or.inl rfl) 3 (w.heap.size + 1) 42 (Sn.nv x) _ rfl Tryd.underlying42 i42 rfl (by kernel_rfl) rfl TL.out.oo rfl,
        Grow.h2_row (Or.inl rfl) 3 (w.heap.size + 1) 42 (Sn.nv x) _ rfl Tryd.underlying42 i42 rfl (by kernel_rfl) rfl TL.out.oo rfl,
        Grow.h2_call2 (Or.inl rfl) 20 Grow.enter20 _ _ _ rfl (fun a wx hk => by have e1 : a.eval (.tmp 18) = .agg (Sn.nv x) := (hk.deps 0 18 (by kernel_rfl)); have e2 : a.eval (.tmp 19) = .agg (Sn.nv x) := (hk.deps 1 19 (by kernel_rfl)); rw [e1, e2]; refine (splus_any wx (TL.out.ord.below hk.below TL.out.ord.1) x x HLT.out HLT.out).mono ?_; rw [← HX1.out]; rintro e w5 ⟨rfl, hb⟩; exact ⟨_, rfl, rfl, hb⟩),
        Grow.h2_free (Or.inl rfl) 0 _ rfl (by kernel_rfl) rfl rfl,
        Grow.h2_free (Or.inl rfl) 5 _ rfl (by kernel_rfl) rfl rfl,
        Grow.h2_quo8 (Or.inl rfl) 4 22 j rfl (by kernel_rfl) rfl rfl HJB.out,
        Grow.h2_idx22 (Or.inl rfl) 3 21 5 23 g n c (j / 8) HJN.out rfl (by kernel_rfl) (by kernel_rfl) rfl rfl rfl,
        Grow.h2_load5 (Or.inl rfl) 6 24 g (j / 8) (v : Int) rfl (by kernel_rfl) rfl (Nat.lt_of_lt_of_le TL.out.gl TL.out.be.size) C1.out rfl,
        Grow.h2_free (Or.inl rfl) 5 _ rfl (by kernel_rfl) rfl rfl,
        Grow.h2_rem8 (Or.inl rfl) 8 26 j rfl (by kernel_rfl) rfl rfl,
        Grow.h2_shr5 (Or.inl rfl) 7 25 9 27 v (j % 8) rfl (by kernel_rfl) (by kernel_rfl) rfl rfl rfl HJ8.out,
        Grow.h2_bit5 (Or.inl rfl) 10 28 _ rfl (by kernel_rfl) rfl rfl HVS.out,
        Grow.h2_conv540 (Or.inl rfl) 11 29 _ rfl (by kernel_rfl) rfl rfl (by have := Nat.mod_lt (v / 2 ^ (j % 8)) (show 0 < 2 by decide); omega),
        Grow.h2_build42 (Or.inl rfl) 12 30 b HB1.out rfl (by kernel_rfl) (by rw [← HBIT.out]; rfl) rfl,
        Grow.h2_call2 (Or.inl rfl) 20 Grow.enter20 _ _ _ rfl (fun a wx hk => by have e1 : a.eval (.tmp 20) = .agg (Sn.nv x1) := (hk.deps 2 20 (by kernel_rfl)); have e2 : a.eval (.tmp 31) = .agg (Sn.nv b) := (hk.deps 13 31 (by kernel_rfl)); rw [e1, e2]; refine (splus_any wx (TL.out.ord.below hk.below TL.out.ord.1) x1 b HL1.out HBN.out).mono ?_; rintro e w5 ⟨rfl, hb⟩; exact ⟨_, rfl, rfl, hb⟩),
        trivial⟩ ?_
      intro a w4 hb hts hkn hdf hfr
      have ev : a.eval (.tmp 32) = .agg (Sn.nv (Sn.sm x1 b)) := hkn 14 32 (by decide) rfl
      have eg : a.eval (.tmp 3) = .pointer (some ⟨w.heap.size + 1, 0, none⟩) := hfr 3 (by kernel_rfl)
      have TL4 := TL.out.grow hb
      refine ⟨rfl, wp_store_row 42 (.tmp 3) (.tmp 32) rfl (w.heap.size + 1) (Sn.nv (Sn.sm x1 b)) eg ev 42 (Sn.nv x) TL4.oo i42 rfl (nv_one _) ?_⟩
      have TL5 := Lib.hid (TL4.put HP.out HO.out (Sn.sm x1 b))
      rw [HSTEP.out] at TL5
      have ha := Grow.act_after hts hdf hfr
      rw [show Grow.dsts _ 15 = [18, 19, 20, 21, 22, 23, 24, 25, 26, 27, 28, 29, 30, 31, 32] from by kernel_rfl] at ha
      simp only [Grow.putAll] at ha
      generalize a.eval (.tmp 18) = u18 at ha
      generalize a.eval (.tmp 19) = u19 at ha
      generalize a.eval (.tmp 20) = u20 at ha
      generalize a.eval (.tmp 21) = u21 at ha
      generalize a.eval (.tmp 22) = u22 at ha
      generalize a.eval (.tmp 23) = u23 at ha
      generalize a.eval (.tmp 24) = u24 at ha
      generalize a.eval (.tmp 25) = u25 at ha
      generalize a.eval (.tmp 26) = u26 at ha
      generalize a.eval (.tmp 27) = u27 at ha
      generalize a.eval (.tmp 28) = u28 at ha
      generalize a.eval (.tmp 29) = u29 at ha
      generalize a.eval (.tmp 30) = u30 at ha
      generalize a.eval (.tmp 31) = u31 at ha
      generalize a.eval (.tmp 32) = u32 at ha
      clear hkn hts hdf hfr ev eg hb TL TL4
      simp [Act.put] at ha
      subst ha
      rw [HSTEP.out]
      generalize w4.setRow (w.heap.size + 1) _ = w6 at *
      unfold Grow.wpSeq
      go_wp2
      go_roundw
      case rel => exact ⟨k + 1, by have := HL.out; omega, by go_num, TL5⟩
      case measure => have := HL.out; simp [intOf]; omega
    · have hk5 : ((k : Nat) : Int) = 8 * (n : Int) := by omega
      rw [hk5]
      clear hk5
      obtain rfl : k = 8 * n := by omega
      rw [Sn.md_all] at TL
      go_wp2_with (first
        | ((with_reducible refine wpList_store_row (o := ⟨none, _, _, _, _, _⟩) rfl 42 (.tmp 2) (.tmp 34) rfl w.heap.size (Sn.nv (Bt.low p % Ed.nn)) rfl rfl 42 _ TL.out.zz ?_ ?_ ?_ ?_); exact i42; exact rfl; exact nv_one _)
        | ((with_reducible refine wpList_load_row (o := ⟨some 34, _, _, _, _, _⟩) rfl 42 (.tmp 3) rfl (w.heap.size + 1) rfl 42 _ (0, 0) _ TL.out.oo Tryd.underlying42 rfl ?_ ?_); exact i42))
      exact bodyPost_ret (results_cell_row Tryd.results23 _ _ w.heap.size 42 _ (0, 0) _ rfl (setRow_heap wr w.heap.size _ (Sn.nv (Bt.low p % Ed.nn)) 42 _ TL.out.zz) Tryd.underlying42 rfl i42) rfl ⟨rfl, below_setRow TL.out.be (by omega) _⟩
end Go.Proofs.YtiinmdleechcgaaDoor
namespace Go.Proofs.YtiinmdleechcgaaDoor
open Go.RowKit
namespace Sn
/-- A byte of a number. -/
def by8 (n j : Nat) : Nat := n / 2 ^ (8 * j) % 2 ^ 8
/-- The first bytes, and noughts. -/
def pb (n k : Nat) : List Int := (List.range 32).map fun j => if j < k then ((by8 n j : Nat) : Int) else 0
def en (n : Nat) : List Int := (List.range 32).map fun j => ((by8 n j : Nat) : Int)
theorem pb_len (n k : Nat) : (pb n k).length = 32 := by simp [pb]
theorem en_len (n : Nat) : (en n).length = 32 := by simp [en]
theorem pb_zero (n : Nat) : pb n 0 = List.replicate 32 0 := by
  unfold pb
  simp only [Nat.not_lt_zero, if_false]
  rfl
theorem pb_all (n : Nat) : pb n 32 = en n := by
  unfold pb en
  refine List.map_congr_left fun j hj => ?_
  rw [if_pos (List.mem_range.1 hj)]
theorem pb_get (n k : Nat) : (pb n k).getD k 0 = 0 := by
  unfold pb
  by_cases hk : k < 32 <;> simp [hk]
theorem pb_set (n k : Nat) : (pb n k).set k ((by8 n k : Nat) : Int) = pb n (k + 1) := by
  refine List.ext_getElem (by simp [pb]) fun j h1 h2 => ?_
  rw [List.getElem_set]
  split
  · next h => subst h; simp [pb]
  · next h =>
    simp only [pb, List.getElem_map, List.getElem_range]
    by_cases hjk : j < k
    · rw [if_pos hjk, if_pos (by omega)]
    · rw [if_neg hjk, if_neg (by omega)]
theorem by8_lt (n j : Nat) : by8 n j < 256 := Nat.mod_lt _ (by decide)
theorem en_w8 (n : Nat) : ∀ b ∈ en n, W8 b := by
  intro b hb
  simp only [en, List.mem_map] at hb
  obtain ⟨j, _, rfl⟩ := hb
  have := by8_lt n j
  unfold W8; omega
theorem en_low {n : Nat} (h : n < 2 ^ 256) : Bt.low (en n) = n := by
  have := Bt.low_range n 32
  unfold en by8
  rw [this, Nat.mod_eq_of_lt h]
theorem by8_wd (n k : Nat) : wd n (k / 8) / 2 ^ (k % 8 * 8) % 256 = by8 n k := by
  have hp : (18446744073709551616 : Nat) = 2 ^ 64 := by decide
  unfold wd by8
  have hk : 8 * k = 64 * (k / 8) + k % 8 * 8 := by omega
  have hr : k % 8 * 8 ≤ 56 := by omega
  rw [hk]
  generalize k / 8 = a at *
  generalize k % 8 * 8 = r at *
  rw [Nat.pow_add, ← Nat.div_div_eq_div_mul, Nat.pow_mul, ← hp]
  generalize n / 18446744073709551616 ^ a = x
  have e : 18446744073709551616 = 2 ^ r * 2 ^ (64 - r) := by rw [← Nat.pow_add, show r + (64 - r) = 64 by omega]
  rw [e, Nat.mod_mul_right_div_self, show 64 - r = 8 + (56 - r) by omega, Nat.pow_add]
  exact Nat.mod_mul_right_mod _ _ _
end Sn
/-- What lies where while bytes are laid. -/
structure EnLay (w : World) (n k : Nat) (wr : World) : Prop where
  aa : Blk wr w.heap.size .u64 42 (Sn.wl n)
  zz : wr.heap[w.heap.size + 1]? = some (.cells ((List.replicate 32 (0 : Int)).map (Value.int .u8)).toArray 44 (0, 0))
  oo : Blk wr (w.heap.size + 1 + 1) .u8 44 (Sn.pb n k)
  be : Below w.heap.size w wr
theorem EnLay.put {w wr : World} {n k : Nat} (h : EnLay w n k wr) : EnLay w n (k + 1) (wr.setCell ⟨w.heap.size + 1 + 1, k, none⟩ (.int .u8 ((Sn.by8 n k : Nat) : Int))) := by
  have hB : Below w.heap.size w (wr.setCell ⟨w.heap.size + 1 + 1, k, none⟩ (.int .u8 ((Sn.by8 n k : Nat) : Int))) := h.be.setCell (by simp; omega) _
  have hoth : ∀ g, g ≠ w.heap.size + 1 + 1 → (wr.setCell ⟨w.heap.size + 1 + 1, k, none⟩ (.int .u8 ((Sn.by8 n k : Nat) : Int))).heap[g]? = wr.heap[g]? := fun g hg => heap_setCell_other wr ⟨w.heap.size + 1 + 1, k, none⟩ g _ hg
  refine ⟨h.aa.other (hoth _ (by omega)), (hoth _ (by omega)).trans h.zz, ?_, hB⟩
  have := h.oo.set k ((Sn.by8 n k : Nat) : Int)
  rwa [Sn.pb_set] at this
theorem EnLay.start (w : World) (n : Nat) : EnLay w n 0 (((w.alloc (.cells (Sn.nv n) 42)).alloc (.cells ((List.replicate 32 (0 : Int)).map (Value.int .u8)).toArray 44)).alloc (.cells ((List.replicate 32 (0 : Int)).map (Value.int .u8)).toArray 44)) := by
  have h := heap_alloc3 w (.cells (Sn.nv n) 42) (.cells ((List.replicate 32 (0 : Int)).map (Value.int .u8)).toArray 44) (.cells ((List.replicate 32 (0 : Int)).map (Value.int .u8)).toArray 44)
  refine ⟨h.1.1, h.1.2.1, ?_, h.2⟩
  rw [Sn.pb_zero]
  exact h.1.2.2
theorem bytes32_one (l : List Int) : ((l.map (Value.int .u8)).toArray).all (·.oneCell') = true := by
  rw [Array.all_eq_true_iff_forall_mem]
  intro v hv
  simp only [List.mem_toArray, List.mem_map] at hv
  obtain ⟨x, _, rfl⟩ := hv
  rfl
set_option maxRecDepth 100000 in
set_option maxHeartbeats 2000000 in
theorem sbytes_any (w : World) (n : Nat) :
    Calls Tryd.prog 22 #[.agg (Sn.nv n)] w fun e w' => e = .returned (bv (Sn.en n)) ∧ Below w.heap.size w w' := by
  have EL := Lib.hid (EnLay.start w n)
  go_enter Tryd.func22, Tryd.ntmps22
  go_wp2_with fail
  change Code.wp _ _ _ _ (((w.alloc (.cells (Sn.nv n) 42)).alloc (.cells ((List.replicate 32 (0 : Int)).map (Value.int .u8)).toArray 44)).alloc (.cells ((List.replicate 32 (0 : Int)).map (Value.int .u8)).toArray 44))
  generalize (((w.alloc (.cells (Sn.nv n) 42)).alloc (.cells ((List.replicate 32 (0 : Int)).map (Value.int .u8)).toArray 44)).alloc (.cells ((List.replicate 32 (0 : Int)).map (Value.int .u8)).toArray 44)) = w0 at *
  go_loopw [5] (fun i wr => ∃ k : Nat, k ≤ 32 ∧ i = .int .i64 k ∧ Hid (EnLay w n k wr)) (fun i _ => 32 - (intOf i).toNat)
  case atStart => exact ⟨0, by omega, rfl, EL⟩
  case round =>
    clear EL
    obtain ⟨k, hk, rfl, EL⟩ := hrel
    by_cases hlt : k < 32
    · have HE := Lib.hid (EL.out.put)
      have c1 := EL.out.aa.cell (k / 8) (by rw [Sn.wl_len]; omega)
      rw [Sn.wl_get _ _ (by omega)] at c1
      have c2 := EL.out.oo.cell k (by rw [Sn.pb_len]; exact hlt)
      have f2 := EL.out.oo.free k
      have hby := Sn.by8_wd n k
      have hv := Sn.wd_lt n (k / 8)
      generalize Sn.wd n (k / 8) = v at *
      have hw : IntKind.u8.wrap ((v : Int) / 2 ^ (k % 8 * 8)) = ((Sn.by8 n k : Nat) : Int) := by
        rw [← hby, IntKind.wrap_u8]
        simp
      clear hby
      generalize Sn.by8 n k = y at *
      go_wp2
      go_roundw
      case rel => exact ⟨k + 1, by omega, by go_num, HE⟩
      case measure => simp [intOf]; omega
    · have hk5 : ((k : Nat) : Int) = 32 := by omega
      rw [hk5]
      clear hk5
      obtain rfl : k = 32 := by omega
      have HO : Hid (wr.heap[w.heap.size + 1 + 1]? = some (.cells ((Sn.en n).map (Value.int .u8)).toArray 44 (0, 0))) := by
        have := EL.out.oo
        rw [Sn.pb_all] at this
        exact this
      have HS : Hid ((Tryd.prog.info? 44).map (·.size) = some ((Sn.en n).map (Value.int .u8)).toArray.size) := by
        show _ = _
        rw [i44]; simp [Sn.en_len]
      go_wp2_with (first
        | ((with_reducible refine wpList_store_row (o := ⟨none, _, _, _, _, _⟩) rfl 44 (.tmp 2) (.tmp 20) rfl (w.heap.size + 1) ((Sn.en n).map (Value.int .u8)).toArray rfl rfl 44 _ EL.out.zz ?_ ?_ ?_ ?_); exact HS.out; exact (by simp [Sn.en_len]); exact bytes32_one _)
        | ((with_reducible refine wpList_load_row (o := ⟨some 20, _, _, _, _, _⟩) rfl 44 (.tmp 3) rfl (w.heap.size + 1 + 1) rfl 44 _ (0, 0) _ HO.out Tryd.underlying44 rfl ?_ ?_); exact HS.out))
      exact bodyPost_ret (results_cell_row Tryd.results22 _ _ (w.heap.size + 1) 44 _ (0, 0) _ rfl (setRow_heap wr (w.heap.size + 1) _ ((Sn.en n).map (Value.int .u8)).toArray 44 _ EL.out.zz) Tryd.underlying44 rfl HS.out) rfl ⟨rfl, below_setRow EL.out.be (by omega) _⟩
end Go.Proofs.YtiinmdleechcgaaDoor
set_option maxRecDepth 100000
namespace Go.Proofs.YtiinmdleechcgaaDoor
open Sha
def nonceOf : List Int := [110, 111, 110, 99, 101, 115, 101, 101, 100, 109, 101, 115, 115, 97, 103, 101]
theorem sha_one : (Sha.Sh.sha (0 :: nonceOf)).length = 32 := by decide +kernel
theorem sha_0 : Sha.Sh.sha (0 :: nonceOf) = [216, 97, 230, 66, 200, 68, 45, 216, 56, 55, 57, 194, 110, 186, 6, 117, 11, 31, 204, 168, 247, 35, 69, 212, 68, 50, 52, 48, 71, 9, 123, 37] := by decide +kernel
theorem sha_1 : Sha.Sh.sha (1 :: nonceOf) = [163, 116, 66, 75, 120, 177, 235, 194, 222, 232, 158, 101, 252, 190, 1, 235, 28, 201, 146, 60, 196, 115, 79, 110, 73, 58, 151, 30, 177, 147, 59, 72] := by decide +kernel
end Go.Proofs.YtiinmdleechcgaaDoor
namespace Go.Proofs.YtiinmdleechcgaaDoor
open Go.RowKit
/-- A string's bytes. -/
def strB (s : ByteArray) : List Int := s.data.toList.map fun b => (b.toNat : Int)
theorem strB_len (s : ByteArray) : (strB s).length = s.size := by
  unfold strB
  rw [List.length_map, Array.length_toList]
  rfl
theorem strB_get (s : ByteArray) (k : Nat) (hk : k < s.size) : (strB s).getD k 0 = ((s.data.toList.getD k 0).toNat : Int) := by
  have h : k < s.data.toList.length := by rw [Array.length_toList]; exact hk
  unfold strB
  rw [List.getD_eq_getElem?_getD, List.getElem?_map, List.getElem?_eq_getElem h, List.getD_eq_getElem?_getD, List.getElem?_eq_getElem h]
  rfl
theorem strB_w8 (s : ByteArray) : ∀ x ∈ strB s, W8 x := by
  intro x hx
  simp only [strB, List.mem_map] at hx
  obtain ⟨b, _, rfl⟩ := hx
  have := b.toNat_lt
  unfold W8; omega
theorem bytesWorld_below (w : World) (e : TypeId) (s : ByteArray) : Below w.heap.size w (Lib.bytesWorld w e s) := by
  refine ⟨rfl, rfl, rfl, by rw [Lib.bytesWorld_size]; omega, fun k hk => Lib.bytesWorld_at_old w e s k hk⟩
theorem info22 : (Tryd.prog.info? 22).map (fun i => (i.zero, i.size, i.bytes)) = some (some (.slice none 0 0), 1, 24) := by kernel_rfl
theorem grown_below {w w' : World} (h : w.grownBy w' none) : Below w.heap.size w w' := by
  obtain ⟨h1, h2, h3, h4, h5⟩ := h
  exact ⟨h1, h2, h3, h4, fun k hk => h5 k hk (by simp)⟩
namespace Grow
/-- Parts of a digest. -/
def partsS (ls : List (List Int)) : Spec := .held (fun u w => Sha.Parts w u ls) (fun _ _ _ h hb => h.below hb (Nat.le_refl _))
/-- A new row of one part. -/
def oneS (l : List Int) : Spec := .held (fun u w => ∃ g v, u = .slice (some ⟨g, 0, none⟩) 1 1 ∧ w.heap[g]? = some (.cells #[v] 22 (0, 0)) ∧ Slc w v l) (fun _ _ _ h hb => by
  obtain ⟨g, v, h1, h2, h3⟩ := h
  exact ⟨g, v, h1, (hb.block g (lt_of_block h2)).trans h2, Sl.below h3 hb (Nat.le_refl _)⟩)
/-- Bytes that lie from a block's start on. -/
def lieS (l : List Int) (n : Nat) : Spec := .held (fun u w => ∃ g, u = .slice (some ⟨g, 0, none⟩) n n ∧ At w .u8 g 0 l ∧ g < w.heap.size) (fun _ _ _ h hb => by
  obtain ⟨g, h1, h2, h3⟩ := h
  exact ⟨g, h1, h2.below hb h3, Nat.lt_of_lt_of_le h3 hb.size⟩)
section
variable {m : Nat} {ops : Array Oper} {Q : Exit → Act → World → Prop} {specs : Nat → Spec} {a0 : Act} {w0 : World} {i : Nat} {o : Oper}
theorem h2_convStr (hr : Runs2 ops specs a0 o) (j d : Nat) (s : ByteArray) (ho : o.op = .convert 9 22 (.tmp d)) (hj : deps .any ops o j d = true) (hs : specs j = .is (.string s)) (hi : specs i = .slc (strB s)) : Hop2 Tryd.prog m ops specs Q a0 w0 i o :=
  h2_val hr fun a w hk => by
    have h := hk.deps j d hj
    rw [hs] at h
    have h : a.eval (.tmp d) = .string s := h
    have hrun := Lib.run_convert_string_bytes (P := Tryd.prog) w 9 22 5 s Tryd.underlying9 Tryd.underlying22 Tryd.underlying5
    refine ⟨.slice (some ⟨w.heap.size, 0, none⟩) s.size (grownCap w s.size 0 5), Lib.bytesWorld w 5 s, ?_, ?_, bytesWorld_below w 5 s⟩
    · unfold execOp
      rw [ho]
      simp only [h, Sem.run_bind, hrun, Result.andThen_ok, Sem.run_pure]
    · rw [hi]
      refine ⟨some ⟨w.heap.size, 0, none⟩, grownCap w s.size 0 5, by rw [strB_len], by rw [strB_len]; exact grownCap_ge w s.size 0 5, strB_w8 s, Or.inr ⟨w.heap.size, 0, rfl, by rw [Lib.bytesWorld_size]; omega, fun k hk2 => ?_⟩⟩
      rw [strB_len] at hk2
      rw [Nat.zero_add, Lib.bytesWorld_cell w 5 s k hk2, strB_get s k hk2]
theorem h2_oneS (hr : Runs2 ops specs a0 o) (j d : Nat) (l : List Int) (ho : o.op = .buildSlice 58 1 #[(0, .tmp d)]) (hj : deps .any ops o j d = true) (hs : specs j = .slc l) (hi : specs i = oneS l) : Hop2 Tryd.prog m ops specs Q a0 w0 i o :=
  h2_wp hr fun a w hk => by
    have h := hk.deps j d hj
    rw [hs] at h
    have h : Slc w (a.eval (.tmp d)) l := h
    obtain ⟨ad, cap, hv, h3⟩ := h
    obtain ⟨i0, hi0, hz0, hz1, hz2⟩ := info_parts info22
    refine wp_buildSlice 58 22 1 _ ho #[.slice ad l.length cap] i0 (.slice none 0 0) Tryd.underlying58 hi0 hz0 (by rw [hz1]; decide) (by rw [hz1]; decide) ?_ ?_
    · rw [hz1]
      simp only [List.map_toArray, List.map_cons, List.map_nil, hv]
      kernel_rfl
    · have hB : Below w.heap.size w (w.alloc (.cells #[.slice ad l.length cap] 22)) := (Below.refl _ _).alloc (Nat.le_refl _) _
      refine ⟨_, rfl, ?_, hB⟩
      rw [hi]
      exact ⟨_, _, rfl, heap_alloc_new w _, Sl.below ⟨ad, cap, rfl, h3⟩ hB (Nat.le_refl _)⟩
theorem h2_parts1 (hr : Runs2 ops specs a0 o) (j d : Nat) (l : List Int) (ho : o.op = .buildSlice 58 1 #[(0, .tmp d)]) (hj : deps .any ops o j d = true) (hs : specs j = .slc l) (hi : specs i = partsS [l]) : Hop2 Tryd.prog m ops specs Q a0 w0 i o :=
  h2_wp hr fun a w hk => by
    have h := hk.deps j d hj
    rw [hs] at h
    have h : Slc w (a.eval (.tmp d)) l := h
    obtain ⟨ad, cap, hv, h3⟩ := h
    obtain ⟨i0, hi0, hz0, hz1, hz2⟩ := info_parts info22
    refine wp_buildSlice 58 22 1 _ ho #[.slice ad l.length cap] i0 (.slice none 0 0) Tryd.underlying58 hi0 hz0 (by rw [hz1]; decide) (by rw [hz1]; decide) ?_ ?_
    · rw [hz1]
      simp only [List.map_toArray, List.map_cons, List.map_nil, hv]
      kernel_rfl
    · have hB : Below w.heap.size w (w.alloc (.cells #[.slice ad l.length cap] 22)) := (Below.refl _ _).alloc (Nat.le_refl _) _
      refine ⟨_, rfl, ?_, hB⟩
      rw [hi]
      exact Sha.parts_one (heap_alloc_new w _) (Sl.below ⟨ad, cap, rfl, h3⟩ hB (Nat.le_refl _)) rfl
theorem h2_parts2 (hr : Runs2 ops specs a0 o) (j d k e : Nat) (l r : List Int) (ho : o.op = .buildSlice 58 2 #[(0, .tmp d), (1, .tmp e)]) (hj : deps .any ops o j d = true) (hj2 : deps .any ops o k e = true) (hs : specs j = .slc l) (hs2 : specs k = .slc r) (hi : specs i = partsS [l, r]) : Hop2 Tryd.prog m ops specs Q a0 w0 i o :=
  h2_wp hr fun a w hk => by
    have h := hk.deps j d hj
    have h2 := hk.deps k e hj2
    rw [hs] at h
    rw [hs2] at h2
    have h : Slc w (a.eval (.tmp d)) l := h
    have h2 : Slc w (a.eval (.tmp e)) r := h2
    obtain ⟨ad, cap, hv, h3⟩ := h
    obtain ⟨ad2, cap2, hv2, h4⟩ := h2
    obtain ⟨i0, hi0, hz0, hz1, hz2⟩ := info_parts info22
    refine wp_buildSlice 58 22 2 _ ho #[.slice ad l.length cap, .slice ad2 r.length cap2] i0 (.slice none 0 0) Tryd.underlying58 hi0 hz0 (by rw [hz1]; decide) (by rw [hz1]; decide) ?_ ?_
    · rw [hz1]
      simp only [List.map_toArray, List.map_cons, List.map_nil, hv, hv2]
      kernel_rfl
    · have hB : Below w.heap.size w (w.alloc (.cells #[.slice ad l.length cap, .slice ad2 r.length cap2] 22)) := (Below.refl _ _).alloc (Nat.le_refl _) _
      refine ⟨_, rfl, ?_, hB⟩
      rw [hi]
      have hg := heap_alloc_new w (.cells #[.slice ad l.length cap, .slice ad2 r.length cap2] 22)
      refine ⟨_, 2, rfl, by simp, Or.inr ⟨_, 0, rfl, lt_of_block hg, fun q hq => ?_⟩⟩
      match q, hq with
      | 0, _ => exact ⟨_, by rw [cell_of_row _ _ _ _ 22 (0, 0) hg]; rfl, Sl.below ⟨ad, cap, rfl, h3⟩ hB (Nat.le_refl _)⟩
      | 1, _ => exact ⟨_, by rw [cell_of_row _ _ _ _ 22 (0, 0) hg]; rfl, Sl.below ⟨ad2, cap2, rfl, h4⟩ hB (Nat.le_refl _)⟩
theorem h2_parts3 (hr : Runs2 ops specs a0 o) (j d k e q f : Nat) (l r t : List Int) (ho : o.op = .buildSlice 58 3 #[(0, .tmp d), (1, .tmp e), (2, .tmp f)]) (hj : deps .any ops o j d = true) (hj2 : deps .any ops o k e = true) (hj3 : deps .any ops o q f = true) (hs : specs j = .slc l) (hs2 : specs k = .slc r) (hs3 : specs q = .slc t) (hi : specs i = partsS [l, r, t]) : Hop2 Tryd.prog m ops specs Q a0 w0 i o :=
  h2_wp hr fun a w hk => by
    have h := hk.deps j d hj
    have h2 := hk.deps k e hj2
    have h3 := hk.deps q f hj3
    rw [hs] at h
    rw [hs2] at h2
    rw [hs3] at h3
    have h : Slc w (a.eval (.tmp d)) l := h
    have h2 : Slc w (a.eval (.tmp e)) r := h2
    have h3 : Slc w (a.eval (.tmp f)) t := h3
    obtain ⟨ad, cap, hv, h4⟩ := h
    obtain ⟨ad2, cap2, hv2, h5⟩ := h2
    obtain ⟨ad3, cap3, hv3, h6⟩ := h3
    obtain ⟨i0, hi0, hz0, hz1, hz2⟩ := info_parts info22
    refine wp_buildSlice 58 22 3 _ ho #[.slice ad l.length cap, .slice ad2 r.length cap2, .slice ad3 t.length cap3] i0 (.slice none 0 0) Tryd.underlying58 hi0 hz0 (by rw [hz1]; decide) (by rw [hz1]; decide) ?_ ?_
    · rw [hz1]
      simp only [List.map_toArray, List.map_cons, List.map_nil, hv, hv2, hv3]
      kernel_rfl
    · have hB : Below w.heap.size w (w.alloc (.cells #[.slice ad l.length cap, .slice ad2 r.length cap2, .slice ad3 t.length cap3] 22)) := (Below.refl _ _).alloc (Nat.le_refl _) _
      refine ⟨_, rfl, ?_, hB⟩
      rw [hi]
      have hg := heap_alloc_new w (.cells #[.slice ad l.length cap, .slice ad2 r.length cap2, .slice ad3 t.length cap3] 22)
      refine ⟨_, 3, rfl, by simp, Or.inr ⟨_, 0, rfl, lt_of_block hg, fun q hq => ?_⟩⟩
      match q, hq with
      | 0, _ => exact ⟨_, by rw [cell_of_row _ _ _ _ 22 (0, 0) hg]; rfl, Sl.below ⟨ad, cap, rfl, h4⟩ hB (Nat.le_refl _)⟩
      | 1, _ => exact ⟨_, by rw [cell_of_row _ _ _ _ 22 (0, 0) hg]; rfl, Sl.below ⟨ad2, cap2, rfl, h5⟩ hB (Nat.le_refl _)⟩
      | 2, _ => exact ⟨_, by rw [cell_of_row _ _ _ _ 22 (0, 0) hg]; rfl, Sl.below ⟨ad3, cap3, rfl, h6⟩ hB (Nat.le_refl _)⟩
/-- One part ahead of some. -/
theorem h2_app58 (hr : Runs2 ops specs a0 o) (j d k e : Nat) (l : List Int) (ls : List (List Int)) (hne : ls ≠ []) (hl : ls.length ≤ 100) (ho : o.op = .call { callee := .builtin .append, args := #[.tmp d, .tmp e], argTypes := #[58, 58] }) (hj : deps .any ops o j d = true) (hj2 : deps .any ops o k e = true) (hs : specs j = oneS l) (hs2 : specs k = partsS ls) (hi : specs i = partsS (l :: ls)) : Hop2 Tryd.prog m ops specs Q a0 w0 i o :=
  h2_val hr fun a w hk => by
    have h := hk.deps j d hj
    have h2 := hk.deps k e hj2
    rw [hs] at h
    rw [hs2] at h2
    obtain ⟨g, v, e1, hg, hv⟩ := h
    obtain ⟨ad, cap, e2, _, h3⟩ := (h2 : Sha.Parts w (a.eval (.tmp e)) ls)
    rcases h3 with h3 | ⟨b, off, rfl, hb, hc⟩
    · exact absurd h3 hne
    have hpos : 0 < ls.length := List.length_pos_iff.2 hne
    obtain ⟨us, hul, hu⟩ : ∃ us : List Value, us.length = ls.length ∧ ∀ q u, us[q]? = some u → w.cell? ⟨b, off + q, none⟩ = some u ∧ Slc w u (ls.getD q []) := by
      refine ⟨(List.range ls.length).map (fun q => if hq : q < ls.length then Classical.choose (hc q hq) else undef), by simp, fun q u hqu => ?_⟩
      have hq : q < ls.length := by
        have := (List.getElem?_eq_some_iff.1 hqu).1
        simpa using this
      rw [List.getElem?_map, List.getElem?_range hq] at hqu
      simp only [Option.map_some, Option.some.injEq, hq, dif_pos] at hqu
      subst hqu
      exact Classical.choose_spec (hc q hq)
    obtain ⟨i0, hi0, hz0, hz1, hz2⟩ := info_parts info22
    obtain ⟨v', w', hrun, hown, hgr⟩ := run_append_arg_grows (P := Tryd.prog) (w := w) 58 o.type 22 i0 (.slice none 0 0) 1 24 Tryd.underlying58 hi0 hz0 hz1 hz2 rfl (by decide) ⟨g, 0, none⟩ 1 1 [v] rfl (fun q u hq => by
        match q, hq with
        | 0, hq =>
          simp at hq
          subst hq
          rw [Addr.add_mid, Nat.add_zero, cell_of_row w g 0 _ 22 (0, 0) hg]
          rfl) ⟨b, off, none⟩ ls.length cap us (by omega) (fun q u hq => by rw [Addr.add_mid]; exact (hu q u hq).1) (by omega) (by unfold maxLen; omega) (by omega)
    have hB := grown_below hgr
    refine ⟨v', w', ?_, ?_, hB⟩
    · unfold execOp
      simp only [ho, resolve, invoke, builtin, Sem.run_bind, Sem.run_pure, Result.andThen_ok, List.map_toArray, List.map_cons, List.map_nil, e1, e2, hrun]
    · rw [hi]
      obtain ⟨_, h6⟩ := hown
      rcases h6 with ⟨_, h6⟩ | ⟨g', cap', cur, rfl, _, hg', _, _, hsz, ht⟩
      · omega
      refine ⟨some ⟨g', 0, none⟩, cap', by rw [List.length_cons, Nat.add_comm], by rw [List.length_cons]; omega, Or.inr ⟨g', 0, rfl, lt_of_block hg', fun q hq => ?_⟩⟩
      rw [List.length_cons] at hq
      have e : (cur.toList.take ((1 + ls.length) * 1))[q]? = ([v] ++ us)[q]? := by rw [ht]
      rw [List.getElem?_take_of_lt (by omega)] at e
      have hcell := cell_of_row w' g' q cur 22 (0, 0) hg'
      rw [Nat.zero_add, hcell]
      match q, hq with
      | 0, _ => exact ⟨v, by simpa using e, Sl.below hv hB (Nat.le_refl _)⟩
      | q + 1, hq =>
        have hql : q < us.length := by omega
        have e3 : us[q]? = some us[q] := List.getElem?_eq_getElem hql
        refine ⟨us[q], ?_, ?_⟩
        · rw [List.singleton_append, List.getElem?_cons_succ, e3] at e
          simpa using e
        · exact Sl.below (hu q _ e3).2 hB (Nat.le_refl _)
end
theorem enter43 (args : Array Value) (w : World) : (callFunc 43 args).run Tryd.prog w = .ok (.enter 43 args) w := by
  have := Tryd.func43
  go_simp
theorem enter23 (args : Array Value) (w : World) : (callFunc 23 args).run Tryd.prog w = .ok (.enter 23 args) w := by
  have := Tryd.func23
  go_simp
end Grow
/-- The number of a digest. -/
def dg (L : List Int) : Nat := Bt.low (Sha.Sh.wide L) % Ed.nn
theorem dg_lt (L : List Int) : dg L < Ed.nn := Nat.mod_lt _ (by decide)
theorem wide_w8 (L : List Int) : ∀ b ∈ Sha.Sh.wide L, W8 b := by
  intro b hb
  rcases List.mem_append.1 hb with h | h
  · exact Sha.Sh.sha_W _ b h
  · exact Sha.Sh.sha_W _ b h
set_option maxRecDepth 100000 in
set_option maxHeartbeats 2000000 in
theorem digest_any (w : World) (ho : Ord w) (ht : Sha.Tab w) (s : ByteArray) (vp : Value) (ls : List (List Int)) (hP : Sha.Parts w vp ls) (hne : ls ≠ []) (hl : ls.length ≤ 100) (hlen : (strB s :: ls).flatten.length ≤ 1099511627776) :
    Calls Tryd.prog 19 #[.string s, vp] w fun e w' => e = .returned (.agg (Sn.nv (dg (strB s ++ ls.flatten)))) ∧ Below w.heap.size w w' := by
  have hB : Below w.heap.size w (w.alloc (.cells (Sn.nv 0) 42)) := (Below.refl _ _).alloc (Nat.le_refl _) _
  have H0 := Lib.hid (heap_alloc_new w (.cells (Sn.nv 0) 42))
  have HB := Lib.hid hB
  have HO := Lib.hid (ho.below hB ho.1)
  have HT := Lib.hid (ht.below hB ht.1)
  have HP := Lib.hid (hP.below hB (Nat.le_refl _))
  have HNE := Lib.hid hne
  have HL := Lib.hid hl
  have HLEN := Lib.hid hlen
  obtain ⟨L, hL⟩ : ∃ L, L = strB s ++ ls.flatten := ⟨_, rfl⟩
  obtain ⟨D, hD⟩ : ∃ D, D = dg L := ⟨_, rfl⟩
  have HLE : Hid ((strB s :: ls).flatten = L) := by rw [hL]; exact List.flatten_cons
  have HD : Hid (Bt.low (Sha.Sh.wide L) % Ed.nn = D) := hD.symm
  rw [← hL, ← hD]
  clear hB ho ht hP hne hl hlen hL hD
  go_enter Tryd.func19, Tryd.ntmps19
  go_upto_region 1 with fail
  change Code.wp _ _ _ _ (w.alloc (.cells (Sn.nv 0) 42))
  generalize w.alloc (.cells (Sn.nv 0) 42) = w0 at *
  refine Grow.region_line 7 (fun i => List.getD (Grow.Spec.is (.string s) :: Grow.Spec.slc (strB s) :: Grow.oneS (strB s) :: Grow.partsS ls :: Grow.partsS (strB s :: ls) :: Grow.lieS (Sha.Sh.wide L) 64 :: Grow.Spec.is (.agg (Sn.nv D)) :: []) i (Grow.Spec.is undef)) (by kernel_rfl) ⟨
    Grow.h2_free (Or.inl rfl) 0 _ rfl (by kernel_rfl) rfl rfl,
    Grow.h2_convStr (Or.inl rfl) 0 5 s rfl (by kernel_rfl) rfl rfl,
    Grow.h2_oneS (Or.inl rfl) 1 6 _ rfl (by kernel_rfl) rfl rfl,
    Grow.h2_move (Or.inl rfl) (.tmp 1) (Or.inl rfl) (fun a wx hk => by have e : a.eval (.tmp 1) = vp := hk.rest 1 (by kernel_rfl); rw [e]; exact HP.out.below hk.below (Nat.le_refl _)),
    Grow.h2_app58 (Or.inl rfl) 2 7 3 8 _ ls HNE.out HL.out rfl (by kernel_rfl) (by kernel_rfl) rfl rfl rfl,
    Grow.h2_call1 (Or.inl rfl) 43 Grow.enter43 _ _ rfl (fun a wx hk => by have hp : Sha.Parts wx (a.eval (.tmp 9)) (strB s :: ls) := (hk.deps 4 9 (by kernel_rfl)); refine (Sha.wide_any wx _ _ hp HLEN.out (HT.out.below hk.below HT.out.1)).mono ?_; rw [HLE.out]; rintro e w5 ⟨go, rfl, h1, h2, hb⟩; exact ⟨_, rfl, ⟨go, rfl, h1, h2⟩, hb⟩),
    Grow.h2_call1 (Or.inl rfl) 23 Grow.enter23 _ _ rfl (fun a wx hk => by obtain ⟨go, e1, h1, h2⟩ : ∃ g, a.eval (.tmp 10) = .slice (some ⟨g, 0, none⟩) 64 64 ∧ At wx .u8 g 0 (Sha.Sh.wide L) ∧ g < wx.heap.size := (hk.deps 5 10 (by kernel_rfl)); rw [e1]; refine (modulo_any wx (HO.out.below hk.below HO.out.1) go 64 64 _ h1 h2 (Sha.length_wide _) (by decide) (wide_w8 _)).mono ?_; rw [HD.out]; rintro e w5 ⟨rfl, hb⟩; exact ⟨_, rfl, rfl, hb⟩),
    trivial⟩ ?_
  intro a w4 hb hts hk hdf hfr
  have ev : a.eval (.tmp 11) = .agg (Sn.nv D) := hk 6 11 (by decide) rfl
  have e4 : a.eval (.tmp 4) = .pointer (some ⟨w.heap.size, 0, none⟩) := hfr 4 (by kernel_rfl)
  have hz := (hb.block _ (lt_of_block H0.out)).trans H0.out
  refine ⟨rfl, wp_store_row 42 (.tmp 4) (.tmp 11) rfl w.heap.size (Sn.nv D) e4 ev 42 (Sn.nv 0) hz i42 rfl (nv_one _) ?_⟩
  have hS := setRow_heap w4 w.heap.size _ (Sn.nv D) 42 _ hz
  have hB5 : Below w.heap.size w (w4.setRow w.heap.size (Sn.nv D)) := below_setRow (HB.out.trans (hb.mono HB.out.size)) (Nat.le_refl _) _
  generalize w4.setRow w.heap.size (Sn.nv D) = w5 at *
  have ha := Grow.act_after hts hdf hfr
  rw [show Grow.dsts _ 7 = [5, 6, 7, 8, 9, 10, 11] from by kernel_rfl] at ha
  simp only [Grow.putAll] at ha
  generalize a.eval (.tmp 5) = u5 at ha
  generalize a.eval (.tmp 6) = u6 at ha
  generalize a.eval (.tmp 7) = u7 at ha
  generalize a.eval (.tmp 8) = u8 at ha
  generalize a.eval (.tmp 9) = u9 at ha
  generalize a.eval (.tmp 10) = u10 at ha
  generalize a.eval (.tmp 11) = u11 at ha
  clear hk hts hdf hfr ev e4 hb hz
  simp [Act.put] at ha
  subst ha
  unfold Grow.wpSeq
  go_wp2
  exact bodyPost_ret (results_cell_row Tryd.results19 _ _ w.heap.size 42 _ (0, 0) _ rfl hS Tryd.underlying42 rfl i42) rfl ⟨rfl, hB5⟩
end Go.Proofs.YtiinmdleechcgaaDoor
namespace Go.Proofs.YtiinmdleechcgaaDoor
open Go.RowKit
/-- What the program's variables hold. -/
structure Gl (w : World) : Prop where
  ord : Ord w
  tab : Sha.Tab w
  dbl : Dbl w
theorem Gl.size {w : World} (h : Gl w) : 2 < w.heap.size := h.tab.1
theorem Gl.below {w w' : World} {B : Nat} (h : Gl w) (hb : Below B w w') (hB : 2 < B) : Gl w' := ⟨h.ord.below hb (by omega), h.tab.below hb hB, h.dbl.below hb (by omega)⟩
theorem nn_256 {n : Nat} (h : n < Ed.nn) : n < 2 ^ 256 := Nat.lt_trans h (by decide)
namespace Grow
/-- 32 bytes, new. -/
def encS (l : List Int) (w0 : World) : Spec := .held (fun u w => ∃ g, u = .slice (some ⟨g, 0, none⟩) 32 32 ∧ Blk w g .u8 5 l ∧ w0.heap.size ≤ g) (fun _ _ _ h hb => by
  obtain ⟨g, h1, h2, h3⟩ := h
  exact ⟨g, h1, h2.other (hb.block g h2.lt), h3⟩)
theorem enter27 (args : Array Value) (w : World) : (callFunc 27 args).run Tryd.prog w = .ok (.enter 27 args) w := by
  have := Tryd.func27
  go_simp
theorem enter22 (args : Array Value) (w : World) : (callFunc 22 args).run Tryd.prog w = .ok (.enter 22 args) w := by
  have := Tryd.func22
  go_simp
theorem enter26 (args : Array Value) (w : World) : (callFunc 26 args).run Tryd.prog w = .ok (.enter 26 args) w := by
  have := Tryd.func26
  go_simp
theorem enter42 (args : Array Value) (w : World) : (callFunc 42 args).run Tryd.prog w = .ok (.enter 42 args) w := by
  have := Tryd.func42
  go_simp
theorem enter19 (args : Array Value) (w : World) : (callFunc 19 args).run Tryd.prog w = .ok (.enter 19 args) w := by
  have := Tryd.func19
  go_simp
theorem enter18 (args : Array Value) (w : World) : (callFunc 18 args).run Tryd.prog w = .ok (.enter 18 args) w := by
  have := Tryd.func18
  go_simp
end Grow
set_option maxRecDepth 100000 in
set_option maxHeartbeats 2000000 in
theorem multiple_any (w : World) (hd : Dbl w) (n : Nat) (hn : n < Ed.nn) :
    Calls Tryd.prog 18 #[.agg (Sn.nv n)] w fun e w' => ∃ g, e = .returned (.slice (some ⟨g, 0, none⟩) 32 32) ∧ Blk w' g .u8 5 (encL (Ed.mul n Ed.B)) ∧ w.heap.size ≤ g ∧ Below w.heap.size w w' := by
  have hB : Below w.heap.size w (w.alloc (.cells (Sn.nv n) 42)) := (Below.refl _ _).alloc (Nat.le_refl _) _
  have H0 := Lib.hid (heap_alloc_new w (.cells (Sn.nv n) 42))
  have HB := Lib.hid hB
  have HD := Lib.hid (hd.below hB hd.1)
  have HL := Lib.hid (Sn.en_low (nn_256 hn))
  obtain ⟨A, hA⟩ : ∃ A, A = Ed.mul n Ed.B := ⟨_, rfl⟩
  have HA : Hid (Ed.mul (Bt.low (Sn.en n)) Ed.B = A) := by rw [HL.out]; exact hA.symm
  rw [← hA]
  clear hB hd hn hA
  go_enter Tryd.func18, Tryd.ntmps18
  go_upto_region 1 with fail
  change Code.wp _ _ _ _ (w.alloc (.cells (Sn.nv n) 42))
  generalize w.alloc (.cells (Sn.nv n) 42) = w0 at *
  refine Grow.region_all (by kernel_rfl) 6 (fun i => List.getD (Grow.ptE Ed.B :: Grow.Spec.is (.agg (Sn.nv n)) :: Grow.Spec.is (bv (Sn.en n)) :: Grow.ptE A :: Grow.encS (encL A) w0 :: Grow.encS (encL A) w0 :: []) i (Grow.Spec.is undef)) rfl (by kernel_rfl) ⟨
    Grow.h2_call0 (Or.inl rfl) 27 Grow.enter27 _ rfl (fun a wx hk => by refine (start_any wx (HD.out.below hk.below HD.out.1)).mono ?_; rintro e w5 ⟨P, rfl, hP, hb⟩; exact ⟨_, rfl, ⟨P, rfl, hP⟩, hb⟩),
    Grow.h2_row (Or.inl rfl) 1 w.heap.size 42 (Sn.nv n) _ rfl Tryd.underlying42 i42 rfl (by kernel_rfl) rfl H0.out rfl,
    Grow.h2_call1 (Or.inl rfl) 22 Grow.enter22 _ _ rfl (fun a wx hk => by have e1 : a.eval (.tmp 4) = .agg (Sn.nv n) := (hk.deps 1 4 (by kernel_rfl)); rw [e1]; refine (sbytes_any wx n).mono ?_; rintro e w5 ⟨rfl, hb⟩; exact ⟨_, rfl, rfl, hb⟩),
    Grow.h2_call2 (Or.inl rfl) 26 Grow.enter26 _ _ _ rfl (fun a wx hk => by obtain ⟨P, e1, hP⟩ : ∃ P, a.eval (.tmp 3) = .agg (pc P) ∧ Rp P Ed.B := (hk.deps 0 3 (by kernel_rfl)); have e2 : a.eval (.tmp 5) = bv (Sn.en n) := (hk.deps 2 5 (by kernel_rfl)); rw [e1, e2]; refine (ptimes_any wx (HD.out.below hk.below HD.out.1) P Ed.B hP (Sn.en n) (Sn.en_len n) (Sn.en_w8 n)).mono ?_; rw [HA.out]; rintro e w5 ⟨R, rfl, hR, hb⟩; exact ⟨_, rfl, ⟨R, rfl, hR⟩, hb⟩),
    Grow.h2_call1 (Or.inl rfl) 42 Grow.enter42 _ _ rfl (fun a wx hk => by obtain ⟨P, e1, hP⟩ : ∃ P, a.eval (.tmp 6) = .agg (pc P) ∧ Rp P A := (hk.deps 3 6 (by kernel_rfl)); rw [e1]; refine (pbytes_any wx (HD.out.below hk.below HD.out.1) P A hP).mono ?_; rintro e w5 ⟨g, rfl, h1, h2, hb⟩; exact ⟨_, rfl, ⟨g, rfl, h1, Nat.le_trans hk.below.size h2⟩, hb⟩),
    Grow.h2_move (Or.inl rfl) (.tmp 7) (Or.inr rfl) (fun a wx hk => hk.deps 4 7 (by kernel_rfl)),
    trivial⟩ ?_
  intro a w4 hb hts hk hdf hfr
  obtain ⟨g, e2, hg, hgs⟩ : ∃ g, a.eval (.tmp 2) = .slice (some ⟨g, 0, none⟩) 32 32 ∧ Blk w4 g .u8 5 (encL A) ∧ w0.heap.size ≤ g := hk 5 2 (by decide) rfl
  have HG := Lib.hid hg
  have HGS : Hid (w.heap.size ≤ g) := Nat.le_trans HB.out.size hgs
  have HB4 : Hid (Below w.heap.size w w4) := HB.out.trans (hb.mono HB.out.size)
  have ha := Grow.act_after hts hdf hfr
  rw [show Grow.dsts _ 6 = [3, 4, 5, 6, 7, 2] from by kernel_rfl] at ha
  simp only [Grow.putAll, e2] at ha
  generalize a.eval (.tmp 3) = u3 at ha
  generalize a.eval (.tmp 4) = u4 at ha
  generalize a.eval (.tmp 5) = u5 at ha
  generalize a.eval (.tmp 6) = u6 at ha
  generalize a.eval (.tmp 7) = u7 at ha
  clear hk hts hdf hfr e2 hb hg hgs
  simp [Act.put] at ha
  subst ha
  go_wp2
  go_ret
  exact ⟨g, rfl, HG.out, HGS.out, HB4.out⟩
def wSecret : List Int := [115, 101, 99, 114, 101, 116]
def wNonce : List Int := [110, 111, 110, 99, 101]
def wChal : List Int := [99, 104, 97, 108, 108, 101, 110, 103, 101]
theorem str_secret : strB ⟨#[115, 101, 99, 114, 101, 116]⟩ = wSecret := by decide
theorem str_nonce : strB ⟨#[110, 111, 110, 99, 101]⟩ = wNonce := by decide
theorem str_chal : strB ⟨#[99, 104, 97, 108, 108, 101, 110, 103, 101]⟩ = wChal := by decide
/-- The secret number of a seed; its nonce; the challenge. -/
def skN (P : List Int) : Nat := dg (wSecret ++ P)
def noN (P M : List Int) : Nat := dg (wNonce ++ (P ++ M))
def chN (R A M : List Int) : Nat := dg (wChal ++ (R ++ (A ++ M)))
theorem secret_any (w : World) (hg : Gl w) (vp : Value) (P : List Int) (hP : Sha.Parts w vp [P]) (hl : P.length ≤ 100000) :
    Calls Tryd.prog 19 #[.string ⟨#[115, 101, 99, 114, 101, 116]⟩, vp] w fun e w' => e = .returned (.agg (Sn.nv (skN P))) ∧ Below w.heap.size w w' := by
  have h := digest_any w hg.ord hg.tab _ vp [P] hP (by simp) (by simp) (by rw [str_secret]; simp [wSecret]; omega)
  rw [str_secret, List.flatten_cons, List.flatten_nil, List.append_nil] at h
  exact h
theorem nonce_any (w : World) (hg : Gl w) (vp : Value) (P M : List Int) (hP : Sha.Parts w vp [P, M]) (hl : P.length ≤ 100000) (hm : M.length ≤ 100000) :
    Calls Tryd.prog 19 #[.string ⟨#[110, 111, 110, 99, 101]⟩, vp] w fun e w' => e = .returned (.agg (Sn.nv (noN P M))) ∧ Below w.heap.size w w' := by
  have h := digest_any w hg.ord hg.tab _ vp [P, M] hP (by simp) (by simp) (by rw [str_nonce]; simp [wNonce]; omega)
  rw [str_nonce, List.flatten_cons, List.flatten_cons, List.flatten_nil, List.append_nil] at h
  exact h
theorem chal_any (w : World) (hg : Gl w) (vp : Value) (R A M : List Int) (hP : Sha.Parts w vp [R, A, M]) (hr : R.length ≤ 100000) (ha : A.length ≤ 100000) (hm : M.length ≤ 100000) :
    Calls Tryd.prog 19 #[.string ⟨#[99, 104, 97, 108, 108, 101, 110, 103, 101]⟩, vp] w fun e w' => e = .returned (.agg (Sn.nv (chN R A M))) ∧ Below w.heap.size w w' := by
  have h := digest_any w hg.ord hg.tab _ vp [R, A, M] hP (by simp) (by simp) (by rw [str_chal]; simp [wChal]; omega)
  rw [str_chal, List.flatten_cons, List.flatten_cons, List.flatten_cons, List.flatten_nil, List.append_nil] at h
  exact h
/-- The public point of a seed. -/
def pubA (P : List Int) : Ed.Pt := Ed.mul (skN P) Ed.B
set_option maxRecDepth 100000 in
set_option maxHeartbeats 2000000 in
theorem public_any (w : World) (hg : Gl w) (v : Value) (P : List Int) (hP : Slc w v P) (hl : P.length ≤ 100000) :
    Calls Tryd.prog 6 #[v] w fun e w' => ∃ g, e = .returned (.slice (some ⟨g, 0, none⟩) 32 32) ∧ Blk w' g .u8 5 (encL (pubA P)) ∧ w.heap.size ≤ g ∧ Below w.heap.size w w' := by
  have HP := Lib.hid hP
  have HG := Lib.hid hg
  have HL := Lib.hid hl
  obtain ⟨n, hn⟩ : ∃ n, n = skN P := ⟨_, rfl⟩
  have HN : Hid (skN P = n) := hn.symm
  have HLT : Hid (n < Ed.nn) := by rw [hn]; exact dg_lt _
  unfold pubA
  rw [← hn]
  clear hP hg hl hn
  go_enter Tryd.func6, Tryd.ntmps6
  go_upto_region 1 with fail
  refine Grow.region_line 4 (fun i => List.getD (Grow.Spec.slc P :: Grow.partsS [P] :: Grow.Spec.is (.agg (Sn.nv n)) :: Grow.encS (encL (Ed.mul n Ed.B)) w :: []) i (Grow.Spec.is undef)) (by kernel_rfl) ⟨
    Grow.h2_move (Or.inl rfl) (.tmp 0) (Or.inl rfl) (fun a wx hk => by have e : a.eval (.tmp 0) = v := hk.rest 0 (by kernel_rfl); rw [e]; exact Sl.below HP.out hk.below (Nat.le_refl _)),
    Grow.h2_parts1 (Or.inl rfl) 0 3 P rfl (by kernel_rfl) rfl rfl,
    Grow.h2_call2 (Or.inl rfl) 19 Grow.enter19 _ _ _ rfl (fun a wx hk => by have hp : Sha.Parts wx (a.eval (.tmp 4)) [P] := (hk.deps 1 4 (by kernel_rfl)); refine (secret_any wx (HG.out.below hk.below HG.out.size) _ P hp HL.out).mono ?_; rw [HN.out]; rintro e w5 ⟨rfl, hb⟩; exact ⟨_, rfl, rfl, hb⟩),
    Grow.h2_call1 (Or.inl rfl) 18 Grow.enter18 _ _ rfl (fun a wx hk => by have e1 : a.eval (.tmp 5) = .agg (Sn.nv n) := (hk.deps 2 5 (by kernel_rfl)); rw [e1]; refine (multiple_any wx (HG.out.below hk.below HG.out.size).dbl n HLT.out).mono ?_; rintro e w5 ⟨g, rfl, h1, h2, hb⟩; exact ⟨_, rfl, ⟨g, rfl, h1, Nat.le_trans hk.below.size h2⟩, hb⟩),
    trivial⟩ ?_
  intro a w4 hb hts hk hdf hfr
  obtain ⟨g, e6, hg, hgs⟩ : ∃ g, a.eval (.tmp 6) = .slice (some ⟨g, 0, none⟩) 32 32 ∧ Blk w4 g .u8 5 (encL (Ed.mul n Ed.B)) ∧ w.heap.size ≤ g := hk 3 6 (by decide) rfl
  refine ⟨rfl, Grow.wp_assign 2 (.tmp 6) rfl rfl ?_⟩
  rw [e6]
  have HG4 := Lib.hid hg
  have HGS := Lib.hid hgs
  have HB4 := Lib.hid hb
  have ha := Grow.act_after hts hdf hfr
  rw [show Grow.dsts _ 4 = [3, 4, 5, 6] from by kernel_rfl] at ha
  simp only [Grow.putAll] at ha
  generalize a.eval (.tmp 3) = u3 at ha
  generalize a.eval (.tmp 4) = u4 at ha
  generalize a.eval (.tmp 5) = u5 at ha
  generalize a.eval (.tmp 6) = u6 at ha
  clear hk hts hdf hfr e6 hb hg hgs
  simp [Act.put] at ha
  subst ha
  unfold Grow.wpSeq
  go_wp2
  go_ret
  exact ⟨g, rfl, HG4.out, HGS.out, HB4.out⟩
end Go.Proofs.YtiinmdleechcgaaDoor
namespace Go.Proofs.YtiinmdleechcgaaDoor
open Go.RowKit
namespace Grow
/-- The first m write in the frame, no two one temporary, and wait for earlier ones alone. -/
def fits7 (ops : Array Oper) (m n : Nat) : Bool :=
  decide (m < ops.size) && ((List.range m).all fun i => (match dstOf ops i with
    | some d => decide (d < n) && (List.range m).all fun j => j == i || dstOf ops j != some d
    | none => false) && (match ops[i]? with | some o => o.after.all fun e => !Region.binds .any e || decide (e.on < i) | none => false))
section
variable {P : Program} {m : Nat} {ops : Array Oper} {Q : Exit → Act → World → Prop} {specs : Nat → Spec} {a0 : Act} {w0 : World}
theorem fits7_size {n : Nat} (h : fits7 ops m n = true) : m < ops.size := by
  unfold fits7 at h
  simp only [Bool.and_eq_true, decide_eq_true_eq] at h
  exact h.1
theorem fits7_dst {n : Nat} (h : fits7 ops m n = true) {i : Nat} {o : Oper} (hm : i < m) (hi : ops[i]? = some o) : ∃ d, o.dst = some d ∧ d < n ∧ (∀ j, j < m → j ≠ i → dstOf ops j ≠ some d) ∧ ∀ e ∈ o.after, Region.binds .any e = true → e.on < i := by
  unfold fits7 at h
  simp only [Bool.and_eq_true] at h
  have h0 := h.2
  rw [List.all_eq_true] at h0
  have h1 := h0 i (List.mem_range.2 hm)
  simp only [Bool.and_eq_true, hi] at h1
  obtain ⟨h2, h3⟩ := h1
  have hd : dstOf ops i = o.dst := by simp [dstOf, hi]
  rw [hd] at h2
  cases hod : o.dst with
  | none => rw [hod] at h2; cases h2
  | some d =>
    rw [hod] at h2
    simp only [Bool.and_eq_true, decide_eq_true_eq, List.all_eq_true, List.mem_range] at h2
    refine ⟨d, rfl, h2.1, fun j hj hne => ?_, fun e he hb => ?_⟩
    · have := h2.2 j hj
      simp only [Bool.or_eq_true, beq_iff_eq, bne_iff_ne, ne_eq] at this
      rcases this with h | h
      · exact absurd h hne
      · exact h
    · rw [Array.all_eq_true_iff_forall_mem] at h3
      have h4 := h3 e he
      simpa [hb] using h4
theorem line_any7 (hf : fits7 ops m a0.tmps.size = true) (hops : Hops2 P m ops specs Q a0 w0 0 (ops.toList.take m))
    (hend : ∀ a w, Below w0.heap.size w0 w → a.tmps.size = a0.tmps.size → (∀ i d, i < m → dstOf ops i = some d → (specs i).meets (a.eval (.tmp d)) w) → a.defers = a0.defers → (∀ t, free2 ops m t = true → a.eval (.tmp t) = a0.eval (.tmp t)) → wpSeq P ops Q (ops.toList.drop m) a w) :
    ∀ (n k : Nat), n + k = m → ∀ a w, Below w0.heap.size w0 w → a.tmps.size = a0.tmps.size → (∀ i d, i < k → dstOf ops i = some d → (specs i).meets (a.eval (.tmp d)) w) → a.defers = a0.defers → (∀ t, free2 ops m t = true → a.eval (.tmp t) = a0.eval (.tmp t)) → wpList P ops Q (ops.toList.drop k) a w := by
  intro n
  induction n with
  | zero =>
    intro k hk a w hb ht hkn hd hr
    obtain rfl : k = m := by omega
    exact wpSeq_list _ _ _ (hend a w hb ht hkn hd hr)
  | succ n ih =>
    intro k hk a w hb ht hkn hd hr
    have hsz := fits7_size hf
    have hkm : k < m := by omega
    obtain ⟨o, ho⟩ : ∃ o, ops[k]? = some o := ⟨_, Array.getElem?_eq_getElem (by omega)⟩
    obtain ⟨d, hdst, hdn, hne, haf⟩ := fits7_dst hf hkm ho
    have hdk : dstOf ops k = some d := by simp [dstOf, ho, hdst]
    have hdrop : ops.toList.drop k = o :: ops.toList.drop (k + 1) := by
      rw [List.drop_eq_getElem_cons (show k < ops.toList.length by simp; omega)]
      congr 1
      have := (Array.getElem?_eq_some_iff.1 ho).2
      simpa using this
    have hhop := hops.get k o (by rw [List.getElem?_take_of_lt hkm]; simpa using ho)
    rw [Nat.zero_add] at hhop
    have next : ∀ v w', (specs k).meets v w' → Below w.heap.size w w' → wpList P ops Q (ops.toList.drop (k + 1)) (a.put o.dst v) w' := by
      intro v w' hv hb'
      rw [hdst]
      refine ih (k + 1) (by omega) _ w' (hb.trans (hb'.mono hb.size)) (by simp [Act.put, ht]) (fun i e hi he => ?_) (by simp [Act.put, hd]) (fun t hft => ?_)
      · by_cases hik : i = k
        · subst hik
          obtain rfl : d = e := Option.some.inj (hdk.symm.trans he)
          rw [eval_put_eq (by rw [ht]; exact hdn)]
          exact hv
        · have hde : d ≠ e := fun hh => hne i (by omega) hik (hh ▸ he)
          rw [eval_put_ne hde]
          exact (specs i).keeps (hkn i e (by omega) he) hb'
      · have : d ≠ t := by
          intro hh
          subst hh
          unfold free2 at hft
          rw [List.all_eq_true] at hft
          have := hft k (List.mem_range.2 hkm)
          rw [hdk] at this
          simp at this
        rw [eval_put_ne this]
        exact hr t hft
    rw [hdrop]
    unfold wpList
    rcases hhop a w hb ht (fun j e he => by
      unfold deps at he
      simp only [Bool.and_eq_true, beq_iff_eq] at he
      obtain ⟨hd1, hd2⟩ := he
      rw [Array.any_eq_true'] at hd1
      obtain ⟨f, hf1, hf2⟩ := hd1
      simp only [Bool.and_eq_true, beq_iff_eq] at hf2
      obtain ⟨hfb, rfl⟩ := hf2
      exact hkn _ e (haf f hf1 hfb) hd2) hr with ⟨hw, hwp⟩ | ⟨hw, hm⟩
    · rw [if_pos hw]
      refine Or.inl (Oper.wp_mono ?_ hwp)
      rintro a' w' ⟨v, rfl, hv, hb'⟩
      exact next v w' hv hb'
    · rw [if_neg (by rw [hw]; simp)]
      exact next undef w hm (Below.refl _ _)
theorem region_seq {id : Nat} (m : Nat) (specs : Nat → Spec) (hf : fits7 ops m a0.tmps.size = true) (hops : Hops2 P m ops specs Q a0 w0 0 (ops.toList.take m))
    (hend : ∀ a w, Below w0.heap.size w0 w → a.tmps.size = a0.tmps.size → (∀ i d, i < m → dstOf ops i = some d → (specs i).meets (a.eval (.tmp d)) w) → a.defers = a0.defers → (∀ t, free2 ops m t = true → a.eval (.tmp t) = a0.eval (.tmp t)) → wpSeq P ops Q (ops.toList.drop m) a w) :
    (Code.region id ops false).wp P Q a0 w0 :=
  wp_region_list (line_any7 hf hops hend m 0 (Nat.add_zero m) a0 w0 (Below.refl _ _) rfl (fun i _ h => by omega) rfl (fun _ _ => rfl))
/-- A drawn region by an invariant of what is listed. -/
theorem wpAny_inv (I : Array Bool → Act → World → Prop) (hs : ∀ l a w, I l a w → l.size = ops.size) (hq : ∀ l a w, I l a w → Region.ready .any ops l = [] → Q .normal a w)
    (hstep : ∀ l a w, I l a w → ∀ i, i ∈ Region.ready .any ops l → wpOp P ops Q i (fun a' w' => I (l.setIfInBounds i true) a' w') a w) :
    ∀ (fuel : Nat) (l : Array Bool) (a : Act) (w : World), l.toList.count false ≤ fuel → I l a w → wpAny P .any ops Q fuel l a w := by
  intro fuel
  induction fuel with
  | zero =>
    intro l a w hc h
    have hr : Region.ready .any ops l = [] := by
      cases hl : Region.ready .any ops l with
      | nil => rfl
      | cons x xs =>
        exfalso
        obtain ⟨h0, o, ho, -⟩ := mem_ready.1 (show x ∈ Region.ready .any ops l by rw [hl]; simp)
        have hx : x < l.size := by rw [hs l a w h]; exact (Array.getElem?_eq_some_iff.1 ho).1
        have := count_pos hx (by simpa [Array.getElem?_eq_getElem hx] using h0)
        omega
    exact ⟨hr, hq l a w h hr⟩
  | succ fuel ih =>
    intro l a w hc h
    refine ⟨hq l a w h, fun i hi => ?_⟩
    obtain ⟨h0, o, ho, -⟩ := mem_ready.1 hi
    have hx : i < l.size := by rw [hs l a w h]; exact (Array.getElem?_eq_some_iff.1 ho).1
    have hl0 : l[i] = false := by simpa [Array.getElem?_eq_getElem hx] using h0
    exact wpOp_mono (fun a' w' h' => ih _ _ _ (count_listed hx hl0 hc) h') (hstep l a w h i hi)
theorem wpOp_of {i : Nat} {o : Oper} {a : Act} {w : World} {K : Act → World → Prop} (ho : ops[i]? = some o) (hg : o.guard = none) (h : o.wp P a w K Q) : wpOp P ops Q i K a w := by
  unfold wpOp
  simp only [ho]
  rw [if_pos (by simp [Region.wanted, hg])]
  exact Or.inl h
end
end Grow
end Go.Proofs.YtiinmdleechcgaaDoor
namespace Go.Proofs.YtiinmdleechcgaaDoor
open Go.RowKit
/-- Bytes made since a world. -/
def OwnB (B : Nat) (w : World) (v : Value) (xs : List Int) : Prop := w.ownsRow B 5 1 v xs.length (xs.map (Value.int .u8))
theorem run_make64 (w : World) : (Instr.makeSlice 22 (.int .i64 0) (.int .i64 64)).run Tryd.prog w = .ok (.slice (some ⟨w.heap.size, 0, none⟩) 0 64) (w.alloc (.cells ((List.replicate 64 (0 : Int)).map (Value.int .u8)).toArray 5)) := by kernel_rfl
theorem run_app22 {B : Nat} {w : World} {v : Value} {xs : List Int} (ty : TypeId) (hB : B ≤ w.heap.size) (h : OwnB B w v xs) {b n c : Nat} {l : List Int} (hl : At w .u8 b 0 l) (hn : l.length = n) (hx : xs.length ≤ 1000) (hln : n ≤ 1000) :
    ∃ v' w', (Builtin.append_ #[22, 22] ty #[v, .slice (some ⟨b, 0, none⟩) n c]).run Tryd.prog w = .ok v' w' ∧ OwnB B w' v' (xs ++ l) ∧ w.grownBy w' v.ownBlock := by
  subst hn
  obtain ⟨i0, hi, hz0, hz1, hz2⟩ := info_parts info5b
  obtain ⟨v', w', hr, h1, h2, -, -⟩ := run_append_own_at (P := Tryd.prog) (w := w) B 22 ty 5 i0 (.int .u8 0) 1 1 Tryd.underlying22 hi hz0 hz1 hz2 rfl (by decide) v xs.length (xs.map (Value.int .u8)) h ⟨b, 0, none⟩ l.length c (l.map (Value.int .u8)) (by rw [List.length_map, Nat.mul_one]) (src_of_at hl) (fun u hu => by
    simp only [List.mem_map] at hu
    obtain ⟨y, _, rfl⟩ := hu; rfl) (by unfold maxLen; omega) (by omega) hB
  refine ⟨v', w', hr, ?_, h2⟩
  unfold OwnB
  rw [List.length_append, List.map_append]
  exact h1
theorem own_grown {B : Nat} {w0 w w' : World} {v : Value} {xs : List Int} (hb : Below B w0 w) (hB : B ≤ w.heap.size) (h : OwnB B w v xs) (hg : w.grownBy w' v.ownBlock) : Below B w0 w' := by
  refine hb.trans ⟨hg.os, hg.tape, hg.output, hg.size, fun i hi => hg.block i (Nat.lt_of_lt_of_le hi hB) ?_⟩
  rcases h.2 with ⟨rfl, _⟩ | ⟨g, cap, cur, rfl, hg', _⟩
  · simp [Value.ownBlock]
  · intro hh
    simp only [Value.ownBlock, Option.some.injEq] at hh
    omega
namespace Grow
section
variable {ops : Array Oper} {Q : Exit → Act → World → Prop} {a0 : Act} {w0 : World}
/-- What is known when b tells what is listed. -/
structure Two (ops : Array Oper) (a0 : Act) (w0 : World) (gp c1 g9 : Nat) (E1 E2 : List Int) (b : Nat → Bool) (a : Act) (w : World) : Prop where
  below : Below w0.heap.size w0 w
  tsz : a.tmps.size = a0.tmps.size
  dfr : a.defers = a0.defers
  rest : ∀ t, free2 ops 6 t = true → a.eval (.tmp t) = a0.eval (.tmp t)
  c2 : b 2 = true → b 0 = true ∧ b 1 = true
  c4 : b 4 = true → b 2 = true ∧ b 3 = true
  v0 : b 0 = true → b 2 = false → OwnB w0.heap.size w (a.eval (.tmp 31)) []
  v1 : b 1 = true → a.eval (.tmp 32) = .slice (some ⟨gp, 0, none⟩) 32 c1
  v2 : b 2 = true → b 4 = false → OwnB w0.heap.size w (a.eval (.tmp 33)) E1
  v3 : b 3 = true → a.eval (.tmp 34) = .slice (some ⟨g9, 0, none⟩) 32 32
  v4 : b 4 = true → OwnB w0.heap.size w (a.eval (.tmp 35)) (E1 ++ E2)
  v5 : b 5 = true → b 4 = true ∧ a.eval (.tmp 4) = a.eval (.tmp 35)
def up (b : Nat → Bool) (i : Nat) : Nat → Bool := fun k => if k = i then true else b k
theorem getD_set {l : Array Bool} {i : Nat} (hi : i < l.size) : (fun k => (l.setIfInBounds i true).getD k false) = up (fun k => l.getD k false) i := by
  funext k
  unfold up
  by_cases h : k = i
  · subst h
    rw [if_pos rfl]
    simp [Array.getElem?_setIfInBounds_self_of_lt hi]
  · rw [if_neg h]
    simp [Array.getElem?_setIfInBounds_ne (Ne.symm h)]
theorem region_two {id : Nat} (hmo : Tryd.prog.follows .mixedOrders = true) {o0 o1 o2 o3 o4 o5 : Oper} (hops : ops = #[o0, o1, o2, o3, o4, o5]) (hf : fits ops a0.tmps.size = true)
    (g0 : o0.op = .makeSlice 22 (.const (.int .i64 0)) (.const (.int .i64 64)) ∧ o0.guard = none ∧ o0.dst = some 31)
    (g1 : o1.op = .move (.tmp 7) ∧ o1.guard = none ∧ o1.dst = some 32)
    (g2 : o2.op = .call { callee := .builtin .append, args := #[.tmp 31, .tmp 32], argTypes := #[22, 22] } ∧ o2.guard = none ∧ o2.dst = some 33)
    (g3 : o3.op = .slice 44 (.tmp 9) none none none ∧ o3.guard = none ∧ o3.dst = some 34)
    (g4 : o4.op = .call { callee := .builtin .append, args := #[.tmp 33, .tmp 34], argTypes := #[22, 22] } ∧ o4.guard = none ∧ o4.dst = some 35)
    (g5 : o5.op = .assign (.tmp 35) ∧ o5.guard = none ∧ o5.dst = some 4)
    (hw : waits ops 2 0 = true ∧ waits ops 2 1 = true ∧ waits ops 4 2 = true ∧ waits ops 4 3 = true ∧ waits ops 5 4 = true)
    (h7 : free2 ops 6 7 = true) (h9 : free2 ops 6 9 = true) {gp c1 g9 : Nat} {E1 E2 : List Int}
    (e7 : a0.eval (.tmp 7) = .slice (some ⟨gp, 0, none⟩) 32 c1) (hgp : gp < w0.heap.size) (hE1 : At w0 .u8 gp 0 E1) (hl1 : E1.length = 32)
    (e9 : a0.eval (.tmp 9) = .pointer (some ⟨g9, 0, none⟩)) (hg9 : g9 < w0.heap.size) (hE2 : At w0 .u8 g9 0 E2) (hl2 : E2.length = 32)
    (hend : ∀ a w, Below w0.heap.size w0 w → a.tmps.size = a0.tmps.size → a.defers = a0.defers → (∀ t, free2 ops 6 t = true → a.eval (.tmp t) = a0.eval (.tmp t)) → OwnB w0.heap.size w (a.eval (.tmp 4)) (E1 ++ E2) → Q .normal a w) :
    (Code.region id ops true).wp Tryd.prog Q a0 w0 := by
  have hsz : ops.size = 6 := by rw [hops]; rfl
  have hi : ∀ i o, ops[i]? = some o → i < 6 := fun i o ho => by have := (Array.getElem?_eq_some_iff.1 ho).1; omega
  have hfit : ∀ i o, ops[i]? = some o → ∃ d, o.dst = some d ∧ d < a0.tmps.size ∧ (∀ j, j < 6 → j ≠ i → dstOf ops j ≠ some d) ∧ ∀ e ∈ o.after, e.on < i := by
    intro i o ho
    have h6 := hi i o ho
    unfold fits at hf
    rw [List.all_eq_true] at hf
    have h1 := hf i (List.mem_range.2 (by omega))
    simp only [Bool.and_eq_true, ho] at h1
    obtain ⟨h2, h3⟩ := h1
    have hd : dstOf ops i = o.dst := by simp [dstOf, ho]
    rw [hd] at h2
    cases hod : o.dst with
    | none => rw [hod] at h2; cases h2
    | some d =>
      rw [hod] at h2
      simp only [Bool.and_eq_true, decide_eq_true_eq, List.all_eq_true, List.mem_range] at h2
      refine ⟨d, rfl, h2.1, fun j hj hne => ?_, fun e he => ?_⟩
      · have := h2.2 j (by omega)
        simp only [Bool.or_eq_true, beq_iff_eq, bne_iff_ne, ne_eq] at this
        rcases this with h | h
        · exact absurd h hne
        · exact h
      · rw [Array.all_eq_true_iff_forall_mem] at h3
        simpa using h3 e he
  have hfree : ∀ (i : Nat) (o : Oper) (d t : Nat), ops[i]? = some o → o.dst = some d → free2 ops 6 t = true → d ≠ t := by
    intro i o d t ho hd ht hh
    subst hh
    unfold free2 at ht
    rw [List.all_eq_true] at ht
    have := ht i (List.mem_range.2 (hi i o ho))
    rw [show dstOf ops i = some d by simp [dstOf, ho, hd]] at this
    simp at this
  refine wp_region_any hmo (wpAny_inv (fun l a w => l.size = 6 ∧ Two ops a0 w0 gp c1 g9 E1 E2 (fun k => l.getD k false) a w) ?_ ?_ ?_ _ _ _ _ (by simp) ?_)
  · intro l a w h
    rw [h.1, hsz]
  · intro l a w ⟨hls, J⟩ hr
    have hall : ∀ n i, i < n → i < 6 → l.getD i false = true := by
      intro n
      induction n with
      | zero => intro i hi; omega
      | succ n ihn =>
        intro i hi hlt
        by_cases hin : i < n
        · exact ihn i hin hlt
        · obtain ⟨o, ho⟩ : ∃ o, ops[i]? = some o := ⟨_, Array.getElem?_eq_getElem (by omega)⟩
          obtain ⟨_, _, _, _, haf⟩ := hfit i o ho
          cases hl : l.getD i false with
          | true => rfl
          | false =>
            have hm : i ∈ Region.ready .any ops l := by
              refine mem_ready.2 ⟨?_, o, ho, fun e he _ => ihn e.on (by have := haf e he; omega) (by have := haf e he; omega)⟩
              have hs : i < l.size := by omega
              simpa [Array.getElem?_eq_getElem hs] using hl
            rw [hr] at hm; cases hm
    have h5 := J.v5 (hall 6 5 (by omega) (by omega))
    refine hend a w J.below J.tsz J.dfr J.rest ?_
    rw [h5.2]
    exact J.v4 h5.1
  · intro l a w ⟨hls, J⟩ i hri
    obtain ⟨h0, o, ho, hall⟩ := mem_ready.1 hri
    have h6 := hi i o ho
    have hbi : l.getD i false = false := by
      have hs : i < l.size := by omega
      simpa [Array.getElem?_eq_getElem hs] using h0
    have hil : i < l.size := by omega
    have hwait : ∀ j, waits ops i j = true → l.getD j false = true := by
      intro j hj
      obtain ⟨o', e, ho', he, hb, hon⟩ := waits_get hj
      obtain rfl := Option.some.inj (ho.symm.trans ho')
      rw [← hon]
      exact hall e he hb
    have hget : ∀ k ok, ops[k]? = some ok → k = i → ok = o := fun k ok hk hki => by subst hki; exact Option.some.inj (hk.symm.trans ho)
    obtain ⟨d, hd, hdn, hdne, -⟩ := hfit i o ho
    have hda : d < a.tmps.size := by rw [J.tsz]; exact hdn
    generalize hb : (fun k => l.getD k false) = b at J
    have hbk : ∀ k, l.getD k false = b k := fun k => congrFun hb k
    rw [hbk] at hbi
    have hgoal : ∀ a' w', Two ops a0 w0 gp c1 g9 E1 E2 (up b i) a' w' → (l.setIfInBounds i true).size = 6 ∧ Two ops a0 w0 gp c1 g9 E1 E2 (fun k => (l.setIfInBounds i true).getD k false) a' w' := by
      intro a' w' h
      refine ⟨by simp [hls], ?_⟩
      rw [getD_set hil, hb]
      exact h
    have hrest : ∀ v, ∀ t, free2 ops 6 t = true → (a.put (some d) v).eval (.tmp t) = a0.eval (.tmp t) := fun v t ht => by
      rw [eval_put_ne (hfree i o d t ho hd ht)]; exact J.rest t ht
    have hup : ∀ k, k ≠ i → up b i k = b k := fun k hk => if_neg hk
    have hupi : up b i i = true := if_pos rfl
    have hc : i = 0 ∨ i = 1 ∨ i = 2 ∨ i = 3 ∨ i = 4 ∨ i = 5 := by omega
    rcases hc with rfl | rfl | rfl | rfl | rfl | rfl
    · obtain rfl : o0 = o := Option.some.inj ((show ops[0]? = some o0 by rw [hops]; rfl).symm.trans ho)
      obtain rfl : 31 = d := Option.some.inj (g0.2.2.symm.trans hd)
      have hb2 : b 2 = false := by
        cases h : b 2 with
        | false => rfl
        | true => have := (J.c2 h).1; rw [hbi] at this; cases this
      have hb4 : b 4 = false := by
        cases h : b 4 with
        | false => rfl
        | true => have := (J.c4 h).1; rw [hb2] at this; cases this
      refine wpOp_of ho g0.2.1 (wp_value (v := .slice (some ⟨w.heap.size, 0, none⟩) 0 64) (w' := w.alloc (.cells ((List.replicate 64 (0 : Int)).map (Value.int .u8)).toArray 5)) ?_ (hgoal _ _ ?_))
      · unfold execOp
        rw [g0.1]
        have := run_make64 w
        simp only [Act.eval, Sem.run_bind, this, Result.andThen_ok, Sem.run_pure]
      rw [hd]
      have hB : Below w.heap.size w (w.alloc (.cells ((List.replicate 64 (0 : Int)).map (Value.int .u8)).toArray 5)) := (Below.refl _ _).alloc (Nat.le_refl _) _
      refine ⟨J.below.trans (hB.mono J.below.size), by simp [Act.put, J.tsz], by simp [Act.put, J.dfr], hrest _, fun h => ?_, fun h => ?_, fun _ _ => ?_, fun h => ?_, fun h => ?_, fun h => ?_, fun h => ?_, fun h => ?_⟩
      · rw [hup 2 (by decide), hb2] at h; cases h
      · rw [hup 4 (by decide), hb4] at h; cases h
      · rw [eval_put_eq hda]
        exact ⟨rfl, Or.inr ⟨_, 64, _, rfl, J.below.size, heap_alloc_new w _, by decide, by unfold maxLen; decide, by simp, rfl⟩⟩
      · rw [hup 1 (by decide)] at h
        rw [eval_put_ne (by decide)]; exact J.v1 h
      · rw [hup 2 (by decide), hb2] at h; cases h
      · rw [hup 3 (by decide)] at h
        rw [eval_put_ne (by decide)]; exact J.v3 h
      · rw [hup 4 (by decide), hb4] at h; cases h
      · rw [hup 5 (by decide)] at h
        have := (J.v5 h).1
        rw [hb4] at this; cases this
    · obtain rfl : o1 = o := Option.some.inj ((show ops[1]? = some o1 by rw [hops]; rfl).symm.trans ho)
      obtain rfl : 32 = d := Option.some.inj (g1.2.2.symm.trans hd)
      have hb2 : b 2 = false := by
        cases h : b 2 with
        | false => rfl
        | true => have := (J.c2 h).2; rw [hbi] at this; cases this
      refine wpOp_of ho g1.2.1 (wp_move (.tmp 7) (Or.inl g1.1) (hgoal _ _ ?_))
      rw [hd, J.rest 7 h7, e7]
      refine ⟨J.below, by simp [Act.put, J.tsz], by simp [Act.put, J.dfr], hrest _, fun h => ?_, fun h => ?_, fun h h2 => ?_, fun _ => eval_put_eq hda, fun h => ?_, fun h => ?_, fun h => ?_, fun h => ?_⟩
      · rw [hup 2 (by decide), hb2] at h; cases h
      · rw [hup 4 (by decide)] at h
        rw [hup 2 (by decide), hup 3 (by decide)]; exact J.c4 h
      · rw [hup 0 (by decide)] at h
        rw [eval_put_ne (by decide)]; exact J.v0 h hb2
      · rw [hup 2 (by decide), hb2] at h; cases h
      · rw [hup 3 (by decide)] at h
        rw [eval_put_ne (by decide)]; exact J.v3 h
      · rw [hup 4 (by decide)] at h
        rw [eval_put_ne (by decide)]; exact J.v4 h
      · rw [hup 5 (by decide)] at h
        rw [hup 4 (by decide), eval_put_ne (by decide), eval_put_ne (by decide)]; exact J.v5 h
    · obtain rfl : o2 = o := Option.some.inj ((show ops[2]? = some o2 by rw [hops]; rfl).symm.trans ho)
      obtain rfl : 33 = d := Option.some.inj (g2.2.2.symm.trans hd)
      have hb0 : b 0 = true := by rw [← hbk]; exact hwait 0 hw.1
      have hb1 : b 1 = true := by rw [← hbk]; exact hwait 1 hw.2.1
      have hb4 : b 4 = false := by
        cases h : b 4 with
        | false => rfl
        | true => have := (J.c4 h).1; rw [hbi] at this; cases this
      have e1 := J.v1 hb1
      have hO := J.v0 hb0 hbi
      obtain ⟨v', w', hr, hO2, hg⟩ := run_app22 (b := gp) (n := 32) (c := c1) o2.type J.below.size hO (hE1.below J.below hgp) hl1 (by simp) (by decide)
      have hB := own_grown J.below J.below.size hO hg
      refine wpOp_of ho g2.2.1 (wp_value (v := v') (w' := w') ?_ (hgoal _ _ ?_))
      · unfold execOp
        simp only [g2.1, resolve, invoke, builtin, Sem.run_bind, Sem.run_pure, Result.andThen_ok, List.map_toArray, List.map_cons, List.map_nil, e1, hr]
      rw [hd]
      refine ⟨hB, by simp [Act.put, J.tsz], by simp [Act.put, J.dfr], hrest _, fun _ => ?_, fun h => ?_, fun _ h => ?_, fun h => ?_, fun _ _ => ?_, fun h => ?_, fun h => ?_, fun h => ?_⟩
      · rw [hup 0 (by decide), hup 1 (by decide)]; exact ⟨hb0, hb1⟩
      · rw [hup 4 (by decide), hb4] at h; cases h
      · rw [hupi] at h; cases h
      · rw [eval_put_ne (by decide)]; exact e1
      · rw [eval_put_eq hda]; exact hO2
      · rw [hup 3 (by decide)] at h
        rw [eval_put_ne (by decide)]; exact J.v3 h
      · rw [hup 4 (by decide), hb4] at h; cases h
      · rw [hup 5 (by decide)] at h
        have := (J.v5 h).1
        rw [hb4] at this; cases this
    · obtain rfl : o3 = o := Option.some.inj ((show ops[3]? = some o3 by rw [hops]; rfl).symm.trans ho)
      obtain rfl : 34 = d := Option.some.inj (g3.2.2.symm.trans hd)
      have hb4 : b 4 = false := by
        cases h : b 4 with
        | false => rfl
        | true => have := (J.c4 h).2; rw [hbi] at this; cases this
      have e1 : a.eval (.tmp 9) = .pointer (some ⟨g9, 0, none⟩) := (J.rest 9 h9).trans e9
      refine wpOp_of ho g3.2.1 (wp_value (v := .slice (some ⟨g9, 0, none⟩) 32 32) (w' := w) ?_ (hgoal _ _ ?_))
      · unfold execOp
        rw [g3.1]
        simp only [e1, Option.map_none]
        have hu := Tryd.underlying44
        go_simp
      rw [hd]
      refine ⟨J.below, by simp [Act.put, J.tsz], by simp [Act.put, J.dfr], hrest _, fun h => ?_, fun h => ?_, fun h h2 => ?_, fun h => ?_, fun h h2 => ?_, fun _ => eval_put_eq hda, fun h => ?_, fun h => ?_⟩
      · rw [hup 2 (by decide)] at h
        rw [hup 0 (by decide), hup 1 (by decide)]; exact J.c2 h
      · rw [hup 4 (by decide), hb4] at h; cases h
      · rw [hup 0 (by decide)] at h
        rw [hup 2 (by decide)] at h2
        rw [eval_put_ne (by decide)]; exact J.v0 h h2
      · rw [hup 1 (by decide)] at h
        rw [eval_put_ne (by decide)]; exact J.v1 h
      · rw [hup 2 (by decide)] at h
        rw [eval_put_ne (by decide)]; exact J.v2 h hb4
      · rw [hup 4 (by decide), hb4] at h; cases h
      · rw [hup 5 (by decide)] at h
        have := (J.v5 h).1
        rw [hb4] at this; cases this
    · obtain rfl : o4 = o := Option.some.inj ((show ops[4]? = some o4 by rw [hops]; rfl).symm.trans ho)
      obtain rfl : 35 = d := Option.some.inj (g4.2.2.symm.trans hd)
      have hb2 : b 2 = true := by rw [← hbk]; exact hwait 2 hw.2.2.1
      have hb3 : b 3 = true := by rw [← hbk]; exact hwait 3 hw.2.2.2.1
      have e1 := J.v3 hb3
      have hO := J.v2 hb2 hbi
      obtain ⟨v', w', hr, hO2, hg⟩ := run_app22 (b := g9) (n := 32) (c := 32) o4.type J.below.size hO (hE2.below J.below hg9) hl2 (by omega) (by decide)
      have hB := own_grown J.below J.below.size hO hg
      refine wpOp_of ho g4.2.1 (wp_value (v := v') (w' := w') ?_ (hgoal _ _ ?_))
      · unfold execOp
        simp only [g4.1, resolve, invoke, builtin, Sem.run_bind, Sem.run_pure, Result.andThen_ok, List.map_toArray, List.map_cons, List.map_nil, e1, hr]
      rw [hd]
      have hb01 := J.c2 hb2
      refine ⟨hB, by simp [Act.put, J.tsz], by simp [Act.put, J.dfr], hrest _, fun _ => ?_, fun _ => ?_, fun _ h => ?_, fun _ => ?_, fun _ h => ?_, fun h => ?_, fun _ => ?_, fun h => ?_⟩
      · rw [hup 0 (by decide), hup 1 (by decide)]; exact hb01
      · rw [hup 2 (by decide), hup 3 (by decide)]; exact ⟨hb2, hb3⟩
      · rw [hup 2 (by decide), hb2] at h; cases h
      · rw [eval_put_ne (by decide)]; exact J.v1 hb01.2
      · rw [hupi] at h; cases h
      · rw [eval_put_ne (by decide)]; exact e1
      · rw [eval_put_eq hda]; exact hO2
      · rw [hup 5 (by decide)] at h
        have := (J.v5 h).1
        rw [hbi] at this; cases this
    · obtain rfl : o5 = o := Option.some.inj ((show ops[5]? = some o5 by rw [hops]; rfl).symm.trans ho)
      obtain rfl : 4 = d := Option.some.inj (g5.2.2.symm.trans hd)
      have hb4 : b 4 = true := by rw [← hbk]; exact hwait 4 hw.2.2.2.2
      have hb23 := J.c4 hb4
      have hb01 := J.c2 hb23.1
      refine wpOp_of ho g5.2.1 (wp_move (.tmp 35) (Or.inr g5.1) (hgoal _ _ ?_))
      rw [hd]
      refine ⟨J.below, by simp [Act.put, J.tsz], by simp [Act.put, J.dfr], hrest _, fun _ => ?_, fun _ => ?_, fun _ h => ?_, fun _ => ?_, fun _ h => ?_, fun _ => ?_, fun _ => ?_, fun _ => ?_⟩
      · rw [hup 0 (by decide), hup 1 (by decide)]; exact hb01
      · rw [hup 2 (by decide), hup 3 (by decide)]; exact hb23
      · rw [hup 2 (by decide), hb23.1] at h; cases h
      · rw [eval_put_ne (by decide)]; exact J.v1 hb01.2
      · rw [hup 4 (by decide), hb4] at h; cases h
      · rw [eval_put_ne (by decide)]; exact J.v3 hb23.2
      · rw [eval_put_ne (by decide)]; exact J.v4 hb4
      · rw [hup 4 (by decide), eval_put_eq hda, eval_put_ne (by decide)]; exact ⟨hb4, rfl⟩
  · refine ⟨by simp [hsz], ?_⟩
    have hz : ∀ k, (Array.replicate ops.size false).getD k false = false := by
      intro k
      simp [Array.getElem?_replicate]
      split <;> simp
    have hn : ∀ k, (Array.replicate ops.size false).getD k false = true → False := fun k h => by rw [hz k] at h; cases h
    exact ⟨⟨rfl, rfl, rfl, Nat.le_refl _, fun _ _ => rfl⟩, rfl, rfl, fun _ _ => rfl, fun h => (hn _ h).elim, fun h => (hn _ h).elim, fun h => (hn _ h).elim, fun h => (hn _ h).elim, fun h => (hn _ h).elim, fun h => (hn _ h).elim, fun h => (hn _ h).elim, fun h => (hn _ h).elim⟩
end
end Grow
end Go.Proofs.YtiinmdleechcgaaDoor
