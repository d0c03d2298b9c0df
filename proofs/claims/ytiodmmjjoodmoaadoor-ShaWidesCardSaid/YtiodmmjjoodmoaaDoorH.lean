/- Layer 2, the walks: whatever bytes are taken in, the digest stands for them all. -/
import Derived.Test.YtiodmmjjoodmoaaDoorG
namespace Go.Proofs.YtiodmmjjoodmoaaDoor
open Go.RowKit

theorem step_copy_none {P : Program} {ops : Array Oper} {o : Oper} {a : Act} {w : World} {K : Act → World → Prop} {Q : Exit → Act → World → Prop} {E : Prop} (hgd : o.guard = none) (d s : Operand) (dT sT : TypeId)
    (ho : o.op = .call { callee := .builtin .copy, args := #[d, s], argTypes := #[dT, sT] }) (elem : TypeId) (hu : P.underlying dT = some (.slice elem)) (hsz : (P.info? elem).map (·.size) = some 1)
    (dp sp : Option Addr) (dLen dCap sLen sCap : Nat) (hd : a.eval d = .slice dp dLen dCap) (hs : a.eval s = .slice sp sLen sCap) (hn : Nat.min sLen dLen = 0)
    (h : K (a.put o.dst (goInt 0)) w) : if Region.wanted o (yielded ops a.tmps) = true then Oper.wp P o a w K Q else E := by
  have hw : Region.wanted o (yielded ops a.tmps) = true := by simp [Region.wanted, hgd]
  rw [if_pos hw]
  have hrun := run_copy_none (P := P) w dT sT o.type elem dp sp dLen dCap sLen sCap hu hsz hn
  unfold Oper.wp
  simp [execOp, ho, resolve, invoke, builtin, hd, hs, hrun, Result.andThen]
  exact h

theorem run_cut0 (a : Option Addr) (cap : Nat) (w : World) : (Instr.slice 22 (.slice a 0 cap) (some (.int .i64 0)) none none).run Tryd.prog w = .ok (sliced a 0 0 cap 1) w := by
  have he : Tryd.prog.elem 22 = 5 := by kernel_rfl
  have hu : Tryd.prog.underlying 22 = some (.slice (Tryd.prog.elem 22)) := by rw [he]; exact Tryd.underlying22
  rw [run_slice_l w 22 a 0 cap hu .i64 0 (by omega) (by omega), he, Tryd.sizeOf5]
  rfl

set_option maxRecDepth 100000 in
set_option maxHeartbeats 2000000 in
theorem take_nil (g cap h : Nat) (w : World) (s : Sh.S) (r : List Int) (c : Int) (a : Option Addr) (hd : Dig w g s r h c) (h0 : 1 ≤ h) (h1 : h ≤ 63) (hc0 : 0 ≤ c) (hc1 : c ≤ 72057594037927936) :
    Calls Tryd.prog 22 #[.pointer (some ⟨g, 0, none⟩), .slice a 0 cap] w fun e w' => e = .returned (.tuple #[]) ∧ Dig w' g s r h c ∧ Only g w w' := by
  have h72 := hd.held
  have h73 := hd.count
  have f73 := hd.free 73
  have hdw := hd.setCount c
  have hon := Only.setCell (g := g) w 73 (.int .u64 c)
  have h72' := hdw.held
  have f72' := hdw.free 72
  have HD3 := Lib.hid (hdw.setHeld (h : Int))
  have HO3 := Lib.hid (hon.trans (Only.setCell _ 72 (.int .i64 (h : Int))))
  have h72c := (hdw.setHeld (h : Int)).held
  have hroom := run_room g h (by omega)
  have hcut := run_cut0 a cap
  clear hdw hon hd
  go_enter Tryd.func22, Tryd.ntmps22
  go_wp2_with fail
  go_region_law (refine step_copy_none rfl (.tmp 27) (.tmp 28) 22 22 rfl 5 Tryd.underlying22 i5 _ _ _ _ _ _ rfl rfl ?_ ?_; exact (by show min _ _ = 0; omega))
  generalize hs : sliced a 0 0 cap 1 = v at *
  clear hs
  go_wp2
  refine bodyPost_ret (results_none rfl _ _ _) rfl ?_
  exact ⟨rfl, HD3.out, HO3.out.drewN 1⟩

namespace Sh
theorem blocks_split (m n : Nat) (s : S) (l q : List Int) (h : l.length = 64 * m) : blocks (m + n) s (l ++ q) = blocks n (blocks m s l) q := by
  induction n with
  | zero => exact blocks_append m s l q (by omega)
  | succ n ih =>
    rw [← Nat.add_assoc]
    simp only [blocks]
    rw [ih, show 64 * (m + n) = l.length + 64 * n by omega, List.drop_append, List.drop_eq_nil_of_le (show l.length ≤ l.length + 64 * n by omega), List.nil_append, show l.length + 64 * n - l.length = 64 * n by omega]
end Sh

theorem splice_zero_take (r q : List Int) : (Go.splice r 0 q).take q.length = q := by
  simp [Go.splice]
theorem W8_splice {r x : List Int} (hr : ∀ y ∈ r, Sh.W8 y) (hx : ∀ y ∈ x, Sh.W8 y) (o : Nat) : ∀ y ∈ Go.splice r o x, Sh.W8 y := by
  intro y hy
  simp only [Go.splice, List.mem_append] at hy
  rcases hy with hy | hy | hy
  · exact hr y (List.mem_of_mem_take hy)
  · exact hx y hy
  · exact hr y (List.mem_of_mem_drop hy)

theorem rep_tail {g : Nat} {w w' : World} {L Q r : List Int} (hL : L.length % 64 = 0) (h8 : ∀ x ∈ L, Sh.W8 x) (hq8 : ∀ x ∈ Q, Sh.W8 x) (hr8 : ∀ x ∈ r, Sh.W8 x) (c' : Int) (hc : c' = ((L.length + Q.length : Nat) : Int))
    (ht : Tail g (Sh.stOf L) r Q c' w w') : Rep w' g (L ++ Q) ∧ Only g w w' := by
  obtain ⟨hd, ho⟩ := ht
  subst hc
  have hm : L.length = 64 * (L.length / 64) := by omega
  have hlen : (L ++ Q).length = L.length + Q.length := List.length_append
  have hdiv : (L.length + Q.length) / 64 = L.length / 64 + Q.length / 64 := by omega
  have hmod : (L.length + Q.length) % 64 = Q.length % 64 := by omega
  have hst : Sh.stOf (L ++ Q) = Sh.blocks (Q.length / 64) (Sh.stOf L) Q := by
    unfold Sh.stOf
    rw [hlen, hdiv]
    exact Sh.blocks_split _ _ _ _ _ hm
  have hdrop : (L ++ Q).drop (64 * ((L.length + Q.length) / 64)) = Q.drop (64 * (Q.length / 64)) := by
    rw [hdiv, show 64 * (L.length / 64 + Q.length / 64) = L.length + 64 * (Q.length / 64) by omega, List.drop_append, List.drop_eq_nil_of_le (show L.length ≤ L.length + 64 * (Q.length / 64) by omega), List.nil_append, show L.length + 64 * (Q.length / 64) - L.length = 64 * (Q.length / 64) by omega]
  refine ⟨⟨?_, Go.splice r 0 (Q.drop (64 * (Q.length / 64))), ?_, ?_, ?_⟩, ho⟩
  · intro x hx
    rcases List.mem_append.1 hx with h | h
    · exact h8 x h
    · exact hq8 x h
  · rw [hst, hlen, hmod]; exact hd
  · exact W8_splice hr8 (fun y hy => hq8 y (List.mem_of_mem_drop hy)) 0
  · rw [hlen, hdrop, hmod]
    have e : (Q.drop (64 * (Q.length / 64))).length = Q.length % 64 := by simp; omega
    rw [← e]
    exact splice_zero_take r _

/-- Bytes in memory: so many, from an address on, or none. -/
def Bytes (w : World) (g : Nat) (a : Option Addr) (P : List Int) : Prop := (∀ x ∈ P, Sh.W8 x) ∧ (P = [] ∨ ∃ b off, a = some ⟨b, off, none⟩ ∧ b < w.heap.size ∧ b ≠ g ∧ At w .u8 b off P)

theorem take_any (g cap : Nat) (w : World) (L P : List Int) (a : Option Addr) (hR : Rep w g L) (hlen : L.length + P.length ≤ 72057594037927936) (hB : Bytes w g a P) (hcap : P.length ≤ cap) (ht : Tab w) (hg : g ≠ 0) (hgs : g < w.heap.size) :
    Calls Tryd.prog 22 #[.pointer (some ⟨g, 0, none⟩), .slice a P.length cap] w fun e w' => e = .returned (.tuple #[]) ∧ Rep w' g (L ++ P) ∧ Only g w w' := by
  obtain ⟨h8, r, hd, hr8, hrt⟩ := hR
  obtain ⟨hp8, hB⟩ := hB
  have hok : (Sh.stOf L).ok := Sh.blocks_ok _ _ _ Sh.H0_ok
  have hr64 := hd.1
  obtain ⟨h, hh⟩ : ∃ h, h = L.length % 64 := ⟨_, rfl⟩
  by_cases h0 : h = 0
  · rw [← hh, h0] at hd
    have hB' : ∃ b off, P = [] ∨ a = some ⟨b, off, none⟩ ∧ b < w.heap.size ∧ b ≠ g ∧ At w .u8 b off P := by
      rcases hB with hB | ⟨b, off, hB⟩
      · exact ⟨0, 0, Or.inl hB⟩
      · exact ⟨b, off, Or.inr hB⟩
    obtain ⟨b, off, hB'⟩ := hB'
    refine (take_loop_probe g b off cap w (Sh.stOf L) r P _ hok hd (by omega) hp8 a hcap hB' ht hg hgs (by omega) (by omega) _ rfl).mono ?_
    rintro e w' ⟨rfl, htl⟩
    exact ⟨rfl, rep_tail (by omega) h8 hp8 hr8 _ (by omega) htl⟩
  · by_cases hP0 : P = []
    · subst hP0
      rw [List.length_nil, List.append_nil]
      rw [← hh] at hd
      refine (take_nil g cap h w (Sh.stOf L) r _ a hd (by omega) (by omega) (by omega) (by simp at hlen; omega)).mono ?_
      rintro e w' ⟨rfl, hd', ho⟩
      exact ⟨rfl, ⟨h8, r, by rw [← hh]; exact hd', hr8, hrt⟩, ho⟩
    · obtain ⟨b, off, rfl, hbw, hbg, hAt⟩ : ∃ b off, a = some ⟨b, off, none⟩ ∧ b < w.heap.size ∧ b ≠ g ∧ At w .u8 b off P := by
        rcases hB with hB | hB
        · exact absurd hB hP0
        · exact hB
      rw [← hh] at hd hrt
      by_cases hsh : h + P.length < 64
      · refine (take_some g b off cap h w (Sh.stOf L) r P _ hd (by omega) (by omega) (by omega) hP0 hsh hcap hAt hbw hbg (by omega) (by omega) _ rfl).mono ?_
        rintro e w' ⟨rfl, hd', ho⟩
        have hdiv : (L.length + P.length) / 64 = L.length / 64 := by omega
        have hmod : (L.length + P.length) % 64 = h + P.length := by omega
        refine ⟨rfl, ⟨?_, Go.splice r h P, ?_, W8_splice hr8 hp8 h, ?_⟩, ho⟩
        · intro x hx
          rcases List.mem_append.1 hx with hx | hx
          · exact h8 x hx
          · exact hp8 x hx
        · have hst : Sh.stOf (L ++ P) = Sh.stOf L := by
            unfold Sh.stOf
            rw [List.length_append, hdiv]
            exact Sh.blocks_append _ _ _ _ (by omega)
          rw [hst, List.length_append, hmod, Int.natCast_add L.length]
          exact hd'
        · rw [List.length_append, hmod, hdiv, List.drop_append_of_le_length (by omega), ← hrt]
          have e : (r.take h).length = h := by simp; omega
          simp only [Go.splice]
          rw [← List.append_assoc, List.take_append_of_le_length (by simp; omega), List.take_of_length_le (by simp; omega)]
      · obtain ⟨n, hn⟩ : ∃ n, n = 64 - h := ⟨_, rfl⟩
        have hln : (P.take n).length = n := by simp; omega
        have hr1 : Go.splice r h (P.take n) = L.drop (64 * (L.length / 64)) ++ P.take n := by
          simp only [Go.splice]
          have ed : r.drop (h + (P.take n).length) = [] := List.drop_eq_nil_of_le (by rw [hln]; omega)
          rw [hrt, ed, List.append_nil]
        have hst : Sh.stOf (L ++ P.take n) = Sh.after KK (Sh.stOf L) (Go.splice r h (P.take n)) := by
          unfold Sh.stOf
          rw [List.length_append, hln, show (L.length + n) / 64 = L.length / 64 + 1 by omega]
          simp only [Sh.blocks]
          rw [Sh.blocks_append _ _ _ _ (by omega), List.drop_append_of_le_length (by omega), hr1, List.take_of_length_le (by simp; omega)]
        refine (take_full g b off cap h n w (Sh.stOf L) _ r _ P _ _ hok hd (by omega) (by omega) (by omega) (by omega) (by omega) (by omega) (Lib.hid rfl) (Lib.hid rfl) (Lib.hid rfl) (W8_splice hr8 (fun y hy => hp8 y (List.mem_of_mem_take hy)) h) hp8 hcap hAt hbw hbg ht hg hgs (by omega) (by omega) _ rfl).mono ?_
        rintro e w' ⟨rfl, htl⟩
        rw [← hst] at htl
        have := rep_tail (L := L ++ P.take n) (by rw [List.length_append, hln]; omega) (by
          intro x hx
          rcases List.mem_append.1 hx with hx | hx
          · exact h8 x hx
          · exact hp8 x (List.mem_of_mem_take hx)) (fun x hx => hp8 x (List.mem_of_mem_drop hx)) (W8_splice hr8 (fun y hy => hp8 y (List.mem_of_mem_take hy)) h) _ (by rw [List.length_append, hln, List.length_drop]; omega) htl
        rw [List.append_assoc, List.take_append_drop] at this
        exact ⟨rfl, this⟩
end Go.Proofs.YtiodmmjjoodmoaaDoor
