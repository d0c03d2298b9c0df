/- bytes.Equal; cuts and lengths in drawn regions; Open. -/
import Derived.Test.YticoefnojgaplaaBa
import Derived.Lib.Strings
namespace Go.Proofs.Yticoefnojgaplaa
open Go.RowKit
theorem strOfNums_inj {l m : List Int} (hl : ∀ x ∈ l, W8 x) (hm : ∀ x ∈ m, W8 x) (h : strOfNums l = strOfNums m) : l = m := by
  have h1 : (strOfNums l).data.toList = (strOfNums m).data.toList := by rw [h]
  rw [strOfNums_data, strOfNums_data] at h1
  have back : ∀ l : List Int, (∀ x ∈ l, W8 x) → (l.map fun n => UInt8.ofNat n.toNat).map (fun b => ((b.toNat : Nat) : Int)) = l := by
    intro l hl
    rw [List.map_map]
    conv => rhs; rw [← List.map_id l]
    refine List.map_congr_left fun x hx => ?_
    obtain ⟨x0, x1⟩ := hl x hx
    show ((UInt8.ofNat x.toNat).toNat : Int) = x
    rw [UInt8.toNat_ofNat']
    omega
  rw [← back l hl, ← back m hm, h1]
theorem bytes_ext {s t : ByteArray} (h : s.toList = t.toList) : s = t := by
  rw [Lib.toList_data, Lib.toList_data] at h
  exact ByteArray.ext (Array.toList_inj.1 h)
theorem equal_yes (w : World) (v1 v2 : Value) (l : List Int) (h1 : Slc w v1 l) (h2 : Slc w v2 l) : Calls Try.prog 38 #[v1, v2] w fun e w' => e = .returned (.bool true) ∧ w = w' := by
  have e1 := conv_slc h1
  have e2 := conv_slc h2
  clear h1 h2
  go_enter Try.func38, Try.ntmps38
  go_wp2
  go_ret
  exact ⟨by first | rfl | simp, rfl⟩
theorem equal_no (w : World) (v1 v2 : Value) (l m : List Int) (h1 : Slc w v1 l) (h2 : Slc w v2 m) (hne : l ≠ m) : Calls Try.prog 38 #[v1, v2] w fun e w' => e = .returned (.bool false) ∧ w = w' := by
  have e1 := conv_slc h1
  have e2 := conv_slc h2
  have hl : ∀ x ∈ l, W8 x := by obtain ⟨_, _, _, _, h, _⟩ := h1; exact h
  have hm : ∀ x ∈ m, W8 x := by obtain ⟨_, _, _, _, h, _⟩ := h2; exact h
  have hs : ¬ (strOfNums l).toList = (strOfNums m).toList := fun h => hne (strOfNums_inj hl hm (bytes_ext h))
  clear h1 h2 hl hm hne
  go_enter Try.func38, Try.ntmps38
  go_wp2
  go_ret
  exact ⟨by simp [hs], rfl⟩
namespace Grow
section
variable {m : Nat} {ops : Array Oper} {Q : Exit → Act → World → Prop} {specs : Nat → Spec} {a0 : Act} {w0 : World} {i : Nat} {o : Oper}
theorem h2_len22 (hr : Runs2 ops specs a0 o) (j d : Nat) (a1 : Option Addr) (n cap : Nat) (ho : o.op = .call { callee := .builtin .len, args := #[.tmp d], argTypes := #[22] }) (hj : deps .any ops o j d = true) (hs : specs j = .is (.slice a1 n cap)) (hi : specs i = .is (.int .i64 (n : Int))) : Hop2 Try.prog m ops specs Q a0 w0 i o :=
  h2_val hr fun a w hk => by
    have h := hk.deps j d hj
    rw [hs] at h
    have h : a.eval (.tmp d) = .slice a1 n cap := h
    have hu := Try.underlying22
    refine ⟨.int .i64 (n : Int), w, ?_, by rw [hi]; rfl, Below.refl _ _⟩
    unfold execOp
    rw [ho]
    have h' : a.tmps[d]?.getD undef = .slice a1 n cap := by
      rw [← h]
      simp [Act.eval]
    go_simp
theorem h2_sub16 (hr : Runs2 ops specs a0 o) (j d n : Nat) (h16 : 16 ≤ n) (hn : n ≤ 100000) (ho : o.op = .binOp .sub 3 (.tmp d) (.const (.int .i64 16)) 3) (hj : deps .any ops o j d = true) (hs : specs j = .is (.int .i64 (n : Int))) (hi : specs i = .is (.int .i64 ((n - 16 : Nat) : Int))) : Hop2 Try.prog m ops specs Q a0 w0 i o :=
  h2_val hr fun a w hk => by
    have h := hk.deps j d hj
    rw [hs] at h
    have h : a.eval (.tmp d) = .int .i64 (n : Int) := h
    refine ⟨.int .i64 ((n - 16 : Nat) : Int), w, ?_, by rw [hi]; rfl, Below.refl _ _⟩
    unfold execOp
    rw [ho]
    simp only [h]
    have hu := Try.underlying3
    have hn1 : (n : Int) ≤ 100000 := by omega
    have e : ((n : Int) - 16) = ((n - 16 : Nat) : Int) := by omega
    have e2 : IntKind.i64.wrap ((n - 16 : Nat) : Int) = ((n - 16 : Nat) : Int) := by rw [IntKind.wrap_i64]; omega
    go_simp
theorem h2_cutHt (hr : Runs2 ops specs a0 o) (j d j2 d2 : Nat) (a1 : Option Addr) (n cap hi : Nat) (h2 : hi ≤ n) (l : List Int) (ho : o.op = .slice 22 (.tmp d) none (some (.tmp d2)) none) (hj : deps .any ops o j d = true) (hj2 : deps .any ops o j2 d2 = true) (hs : specs j = .is (.slice a1 n cap)) (hs2 : specs j2 = .is (.int .i64 (hi : Int))) (hS : Slc w0 (.slice a1 n cap) l) (hi' : specs i = .slc (l.take hi)) : Hop2 Try.prog m ops specs Q a0 w0 i o :=
  h2_val hr fun a w hk => by
    have h := hk.deps j d hj
    rw [hs] at h
    have h : a.eval (.tmp d) = .slice a1 n cap := h
    have h3 := hk.deps j2 d2 hj2
    rw [hs2] at h3
    have h3 : a.eval (.tmp d2) = .int .i64 (hi : Int) := h3
    have hc : n ≤ cap := by
      obtain ⟨a', c', hv, hc, _⟩ := hS
      simp only [Value.slice.injEq] at hv
      obtain ⟨-, rfl, rfl⟩ := hv
      exact hc
    have hslc := slc_cut (hS.below hk.below (Nat.le_refl _)) 0 hi (Nat.zero_le _) h2
    rw [List.drop_zero, Nat.sub_zero] at hslc
    refine ⟨sliced a1 0 hi cap 1, w, ?_, by rw [hi']; exact hslc, Below.refl _ _⟩
    unfold execOp
    rw [ho]
    simp only [Option.map_some, Option.map_none, h, h3]
    have e := run_cutH a1 n cap hi (Nat.le_trans h2 hc) hi rfl w
    have hu := Try.underlying22
    go_simp
theorem h2_cutLt (hr : Runs2 ops specs a0 o) (j d j2 d2 : Nat) (a1 : Option Addr) (n cap lo : Nat) (h2 : lo ≤ n) (l : List Int) (ho : o.op = .slice 22 (.tmp d) (some (.tmp d2)) none none) (hj : deps .any ops o j d = true) (hj2 : deps .any ops o j2 d2 = true) (hs : specs j = .is (.slice a1 n cap)) (hs2 : specs j2 = .is (.int .i64 (lo : Int))) (hS : Slc w0 (.slice a1 n cap) l) (hi' : specs i = .slc (l.drop lo)) : Hop2 Try.prog m ops specs Q a0 w0 i o :=
  h2_val hr fun a w hk => by
    have h := hk.deps j d hj
    rw [hs] at h
    have h : a.eval (.tmp d) = .slice a1 n cap := h
    have h3 := hk.deps j2 d2 hj2
    rw [hs2] at h3
    have h3 : a.eval (.tmp d2) = .int .i64 (lo : Int) := h3
    have hslc := slc_from (hS.below hk.below (Nat.le_refl _)) lo h2
    refine ⟨sliced a1 lo n cap 1, w, ?_, by rw [hi']; exact hslc, Below.refl _ _⟩
    unfold execOp
    rw [ho]
    simp only [Option.map_some, Option.map_none, h, h3]
    have e := run_cutL a1 n cap lo h2 lo rfl w
    have hu := Try.underlying22
    go_simp
theorem h2_neqs (hr : Runs2 ops specs a0 o) (j1 d1 j2 d2 : Nat) (s t : ByteArray) (hne : ¬ s = t) (ho : o.op = .binOp .eql 9 (.tmp d1) (.tmp d2) 9) (hj1 : deps .any ops o j1 d1 = true) (hj2 : deps .any ops o j2 d2 = true) (hs1 : specs j1 = .is (.string s)) (hs2 : specs j2 = .is (.string t)) (hi : specs i = .is (.bool false)) : Hop2 Try.prog m ops specs Q a0 w0 i o :=
  h2_val hr fun a w hk => by
    have h1 := hk.deps j1 d1 hj1
    have h2 := hk.deps j2 d2 hj2
    rw [hs1] at h1
    rw [hs2] at h2
    have h1 : a.eval (.tmp d1) = .string s := h1
    have h2 : a.eval (.tmp d2) = .string t := h2
    have hu := Try.underlying9
    have hn2 : ¬ s.toList = t.toList := fun h => hne (bytes_ext h)
    refine ⟨.bool false, w, ?_, by rw [hi]; rfl, Below.refl _ _⟩
    unfold execOp
    rw [ho]
    simp only [h1, h2]
    go_simp
end
end Grow
end Go.Proofs.Yticoefnojgaplaa
