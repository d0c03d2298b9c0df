/- A quarter of the reference. -/
import Derived.Test.YticoefnojgaplaaAm
namespace Go.Proofs.Yticoefnojgaplaa
open Go.RowKit Go.Lib

/-- Words at the front of a block. -/
def Rw (w : World) (g : Nat) (S : List Int) : Prop := ∃ cur, w.heap[g]? = some (.cells cur 23 (0, 0)) ∧ S.length ≤ cur.size ∧ cur.toList.take S.length = S.map (Value.int .u32)
theorem Rw.lt {w : World} {g : Nat} {S : List Int} (h : Rw w g S) : g < w.heap.size := by
  obtain ⟨cur, h1, _⟩ := h
  exact lt_of_block h1
theorem Rw.other {w w' : World} {g : Nat} {S : List Int} (h : Rw w g S) (hb : w'.heap[g]? = w.heap[g]?) : Rw w' g S := by
  obtain ⟨cur, h1, h2⟩ := h
  exact ⟨cur, hb.trans h1, h2⟩
theorem Rw.cell {w : World} {g : Nat} {S : List Int} (h : Rw w g S) (j : Nat) (hj : j < S.length) : w.cell? ⟨g, j, none⟩ = some (.int .u32 (S.getD j 0)) := by
  obtain ⟨cur, h1, h2, h3⟩ := h
  rw [cell_of_row w g j _ 23 (0, 0) h1]
  have e : (cur.toList.take S.length)[j]? = some (.int .u32 (S.getD j 0)) := by rw [h3]; simp [hj]
  rw [List.getElem?_take_of_lt hj] at e
  simpa using e
theorem Rw.free {w : World} {g : Nat} {S : List Int} (h : Rw w g S) (j : Nat) : w.frozen? ⟨g, j, none⟩ = false := by
  obtain ⟨cur, h1, _⟩ := h
  exact frozen_of_row w g j _ 23 h1
theorem Rw.set {w : World} {g : Nat} {S : List Int} (h : Rw w g S) (j : Nat) (x : Int) : Rw (w.setCell ⟨g, j, none⟩ (.int .u32 x)) g (S.set j x) := by
  obtain ⟨cur, h1, h2, h3⟩ := h
  refine ⟨cur.setIfInBounds j (.int .u32 x), heap_setCell_same w g j _ 23 _ h1, by simpa using h2, ?_⟩
  rw [List.length_set, Array.toList_setIfInBounds, List.take_set, h3, List.map_set]
namespace Grow
section
variable {m : Nat} {ops : Array Oper} {Q : Exit → Act → World → Prop} {specs : Nat → Spec} {a0 : Act} {w0 : World} {i : Nat} {o : Oper}
theorem h2_idx41 (hr : Runs2 ops specs a0 o) (j1 d1 j2 d2 g c k : Nat) (hkn : k < 16) (ho : o.op = .indexAddr 41 (.tmp d1) (.tmp d2)) (hj1 : deps .any ops o j1 d1 = true) (hj2 : deps .any ops o j2 d2 = true) (hs1 : specs j1 = .is (.slice (some ⟨g, 0, none⟩) 16 c)) (hs2 : specs j2 = .is (.int .i64 (k : Int))) (hi : specs i = .is (.pointer (some ⟨g, k, none⟩))) : Hop2 Try.prog m ops specs Q a0 w0 i o :=
  h2_val hr fun a w hk => by
    have h1 := hk.deps j1 d1 hj1
    have h2 := hk.deps j2 d2 hj2
    rw [hs1] at h1
    rw [hs2] at h2
    have h1 : a.eval (.tmp d1) = .slice (some ⟨g, 0, none⟩) 16 c := h1
    have h2 : a.eval (.tmp d2) = .int .i64 (k : Int) := h2
    refine ⟨.pointer (some ⟨g, k, none⟩), w, ?_, by rw [hi]; rfl, Below.refl _ _⟩
    unfold execOp
    rw [ho]
    simp only [h1, h2]
    have hu := Try.underlying41
    go_simp
    intro hh
    omega
theorem h2_idx64 (hr : Runs2 ops specs a0 o) (j1 d1 j2 d2 g c k : Nat) (hkn : k < 4) (ho : o.op = .indexAddr 64 (.tmp d1) (.tmp d2)) (hj1 : deps .any ops o j1 d1 = true) (hj2 : deps .any ops o j2 d2 = true) (hs1 : specs j1 = .is (.slice (some ⟨g, 0, none⟩) 4 c)) (hs2 : specs j2 = .is (.int .i64 (k : Int))) (hi : specs i = .is (.pointer (some ⟨g, k, none⟩))) : Hop2 Try.prog m ops specs Q a0 w0 i o :=
  h2_val hr fun a w hk => by
    have h1 := hk.deps j1 d1 hj1
    have h2 := hk.deps j2 d2 hj2
    rw [hs1] at h1
    rw [hs2] at h2
    have h1 : a.eval (.tmp d1) = .slice (some ⟨g, 0, none⟩) 4 c := h1
    have h2 : a.eval (.tmp d2) = .int .i64 (k : Int) := h2
    refine ⟨.pointer (some ⟨g, k, none⟩), w, ?_, by rw [hi]; rfl, Below.refl _ _⟩
    unfold execOp
    rw [ho]
    simp only [h1, h2]
    have hu := Try.underlying64
    go_simp
    intro hh
    omega
theorem h2_load3 (hr : Runs2 ops specs a0 o) (j d g k : Nat) (x : Int) (ho : o.op = .load 3 (.tmp d)) (hj : deps .any ops o j d = true) (hs : specs j = .is (.pointer (some ⟨g, k, none⟩))) (hg : g < w0.heap.size) (hc : w0.cell? ⟨g, k, none⟩ = some (.int .i64 x)) (hi : specs i = .is (.int .i64 x)) : Hop2 Try.prog m ops specs Q a0 w0 i o :=
  h2_val hr fun a w hk => by
    have h := hk.deps j d hj
    rw [hs] at h
    have h : a.eval (.tmp d) = .pointer (some ⟨g, k, none⟩) := h
    have hcw := (hk.below.cell (p := ⟨g, k, none⟩) hg).trans hc
    refine ⟨.int .i64 x, w, ?_, by rw [hi]; rfl, Below.refl _ _⟩
    unfold execOp
    rw [ho]
    simp only [h]
    have hu := Try.underlying3
    go_simp
end
theorem enter40 (args : Array Value) (w : World) : (callFunc 40 args).run Try.prog w = .ok (.enter 40 args) w := by
  have := Try.func40
  go_simp
end Grow
namespace Ch
/-- So many turns of a quarter. -/
def qk (S : List Int) (a b c d : Nat) : Nat → List Int
  | 0 => S
  | 1 => turn S d a b 16
  | 2 => turn (turn S d a b 16) b c d 12
  | 3 => turn (turn (turn S d a b 16) b c d 12) d a b 8
  | _ => quarter S a b c d
theorem qk_length (S : List Int) (a b c d : Nat) : ∀ k, (qk S a b c d k).length = S.length
  | 0 => rfl
  | 1 => turn_length _ _ _ _ _
  | 2 => by show (turn _ _ _ _ _).length = _; simp only [turn_length]
  | 3 => by show (turn _ _ _ _ _).length = _; simp only [turn_length]
  | _ + 4 => quarter_length _ _ _ _ _
end Ch
theorem turns_cell {w : World} {gt : Nat} (h : w.heap[gt]? = some (.cells #[.int .i64 16, .int .i64 12, .int .i64 8, .int .i64 7] 3 (0, 0))) : w.cell? ⟨gt, 0, none⟩ = some (.int .i64 (16 : Nat)) ∧ w.cell? ⟨gt, 1, none⟩ = some (.int .i64 (12 : Nat)) ∧ w.cell? ⟨gt, 2, none⟩ = some (.int .i64 (8 : Nat)) ∧ w.cell? ⟨gt, 3, none⟩ = some (.int .i64 (7 : Nat)) := by
  refine ⟨?_, ?_, ?_, ?_⟩ <;> rw [cell_of_row w gt _ _ 3 (0, 0) h] <;> rfl
set_option maxRecDepth 100000 in
set_option maxHeartbeats 4000000 in
theorem rquarter_any (w : World) (g cap : Nat) (S : List Int) (hS : Rw w g S) (hl : S.length = 16) (a b c d : Nat) (ha : a < 16) (hb : b < 16) (hc : c < 16) (hd : d < 16) :
    Calls Try.prog 22 #[.slice (some ⟨g, 0, none⟩) 16 cap, .int .i64 a, .int .i64 b, .int .i64 c, .int .i64 d] w fun e w' => e = .returned (.tuple #[]) ∧ Rw w' g (Ch.quarter S a b c d) ∧ Only g w w' := by
  have R0 : Hid (Rw (w.alloc (.cells #[.int .i64 16, .int .i64 12, .int .i64 8, .int .i64 7] 3)) g S) := hS.other (Below.heap_alloc _ _ _ hS.lt)
  have L0 := Lib.hid hl
  have HG := Lib.hid hS.lt
  have T0 : Hid ((w.alloc (.cells #[.int .i64 16, .int .i64 12, .int .i64 8, .int .i64 7] 3)).heap[w.heap.size]? = some (.cells #[.int .i64 16, .int .i64 12, .int .i64 8, .int .i64 7] 3 (0, 0))) := heap_alloc_new w _
  have O0 : Hid (Only g w (w.alloc (.cells #[.int .i64 16, .int .i64 12, .int .i64 8, .int .i64 7] 3))) := Only.below ((Below.refl _ _).alloc (Nat.le_refl _) _)
  clear hS hl
  go_enter Try.func22, Try.ntmps22
  go_wp2_with fail
  change Code.wp _ _ _ _ (w.alloc (.cells #[.int .i64 16, .int .i64 12, .int .i64 8, .int .i64 7] 3))
  generalize w.alloc (.cells #[.int .i64 16, .int .i64 12, .int .i64 8, .int .i64 7] 3) = w1 at *
  generalize w.heap.size = gt at *
  go_loopw [11] (fun i wr => ∃ k : Nat, k ≤ 4 ∧ i = .int .i64 k ∧ Hid (Rw wr g (Ch.qk S a b c d k)) ∧ Hid (wr.heap[gt]? = some (.cells #[.int .i64 16, .int .i64 12, .int .i64 8, .int .i64 7] 3 (0, 0))) ∧ Hid (Only g w wr)) (fun i _ => 4 - (intOf i).toNat)
  case atStart => exact ⟨0, by omega, rfl, R0, T0, O0⟩
  case round =>
    clear R0 T0 O0
    obtain ⟨k, hk, rfl, RW, TT, OW⟩ := hrel
    by_cases hlt : k < 4
    · have LK := Lib.hid (fun j => (Ch.qk_length S a b c d j).trans L0.out)
      by_cases h0 : k = 0
      · subst h0
        have TT1 := TT
        have LQ := Lib.hid (LK.out 0)
        have HSET : Hid (Ch.qk S a b c d 1 = ((Ch.qk S a b c d 0).set a (Ch.ad ((Ch.qk S a b c d 0).getD a 0) ((Ch.qk S a b c d 0).getD b 0))).set d (Ch.rol (Ch.xr (((Ch.qk S a b c d 0).set a (Ch.ad ((Ch.qk S a b c d 0).getD a 0) ((Ch.qk S a b c d 0).getD b 0))).getD d 0) (((Ch.qk S a b c d 0).set a (Ch.ad ((Ch.qk S a b c d 0).getD a 0) ((Ch.qk S a b c d 0).getD b 0))).getD a 0)) 16)) := rfl
        generalize Ch.qk S a b c d 0 = SK at *
        go_wp2_with fail
        refine Grow.region_wait (by kernel_rfl) 10 (fun i => List.getD (Grow.Spec.is (.slice (some ⟨g, 0, none⟩) 16 cap) :: Grow.Spec.is (.int .i64 (a : Nat)) :: Grow.Spec.is (.pointer (some ⟨g, a, none⟩)) :: Grow.Spec.is (.int .u32 (SK.getD a 0)) :: Grow.Spec.is (.slice (some ⟨g, 0, none⟩) 16 cap) :: Grow.Spec.is (.int .i64 (b : Nat)) :: Grow.Spec.is (.pointer (some ⟨g, b, none⟩)) :: Grow.Spec.is (.int .u32 (SK.getD b 0)) :: Grow.Spec.is (.int .u32 (Ch.ad (SK.getD a 0) (SK.getD b 0))) :: Grow.Spec.is (.pointer (some ⟨g, a, none⟩)) :: []) i (Grow.Spec.is undef)) (by kernel_rfl) ⟨
          Grow.h2_move (Or.inl rfl) _ (Or.inl rfl) (fun ax wx hk => by have e : ax.eval (.tmp 0) = _ := hk.rest 0 (by kernel_rfl); rw [e]; rfl),
          Grow.h2_move (Or.inl rfl) _ (Or.inl rfl) (fun ax wx hk => by have e : ax.eval (.tmp 1) = _ := hk.rest 1 (by kernel_rfl); rw [e]; rfl),
          Grow.h2_idx41 (Or.inl rfl) 0 20 1 21 g cap a ha rfl (by kernel_rfl) (by kernel_rfl) rfl rfl rfl,
          Grow.h2_load23 (Or.inl rfl) 2 22 g a (SK.getD a 0) rfl (by kernel_rfl) rfl RW.out.lt (RW.out.cell a (by rw [LQ.out]; exact ha)) rfl,
          Grow.h2_move (Or.inl rfl) _ (Or.inl rfl) (fun ax wx hk => by have e : ax.eval (.tmp 0) = _ := hk.rest 0 (by kernel_rfl); rw [e]; rfl),
          Grow.h2_move (Or.inl rfl) _ (Or.inl rfl) (fun ax wx hk => by have e : ax.eval (.tmp 2) = _ := hk.rest 2 (by kernel_rfl); rw [e]; rfl),
          Grow.h2_idx41 (Or.inl rfl) 4 24 5 25 g cap b hb rfl (by kernel_rfl) (by kernel_rfl) rfl rfl rfl,
          Grow.h2_load23 (Or.inl rfl) 6 26 g b (SK.getD b 0) rfl (by kernel_rfl) rfl RW.out.lt (RW.out.cell b (by rw [LQ.out]; exact hb)) rfl,
          Grow.h2_add23 (Or.inl rfl) 3 23 7 27 _ _ rfl (by kernel_rfl) (by kernel_rfl) rfl rfl rfl,
          Grow.h2_idx41 (Or.inl rfl) 0 20 1 21 g cap a ha rfl (by kernel_rfl) (by kernel_rfl) rfl rfl rfl,
          trivial⟩ ?_
        intro o1 a1 w2 ho1 hb1 hts hk1 hdf hfr
        obtain rfl := Option.some.inj ho1
        clear ho1
        have ei : a1.eval (.tmp 29) = .pointer (some ⟨g, a, none⟩) := hk1 9 29 (by decide) rfl
        have ev : a1.eval (.tmp 28) = .int .u32 (Ch.ad (SK.getD a 0) (SK.getD b 0)) := hk1 8 28 (by decide) rfl
        have rb := RW.out.other (hb1.block _ RW.out.lt)
        refine ⟨rfl, Grow.wp_store23 (.tmp 29) (.tmp 28) rfl g a _ _ ei ev (rb.cell a (by rw [LQ.out]; exact ha)) (rb.free a) ?_⟩
        have ha := Grow.act_after hts hdf hfr
        rw [show Grow.dsts _ 10 = [20, 21, 22, 23, 24, 25, 26, 27, 28, 29] from by kernel_rfl] at ha
        simp only [Grow.putAll] at ha
        generalize a1.eval (.tmp 20) = u20 at ha
        generalize a1.eval (.tmp 21) = u21 at ha
        generalize a1.eval (.tmp 22) = u22 at ha
        generalize a1.eval (.tmp 23) = u23 at ha
        generalize a1.eval (.tmp 24) = u24 at ha
        generalize a1.eval (.tmp 25) = u25 at ha
        generalize a1.eval (.tmp 26) = u26 at ha
        generalize a1.eval (.tmp 27) = u27 at ha
        generalize a1.eval (.tmp 28) = u28 at ha
        generalize a1.eval (.tmp 29) = u29 at ha
        simp [Act.put] at ha
        have R1 := Lib.hid (rb.set a (Ch.ad (SK.getD a 0) (SK.getD b 0)))
        have O1 : Hid (Only g w (w2.setCell ⟨g, a, none⟩ (.int .u32 (Ch.ad (SK.getD a 0) (SK.getD b 0))))) := OW.out.trans ((Only.below hb1).trans (Only.setCell w2 a _))
        have TT1 : Hid ((w2.setCell ⟨g, a, none⟩ (.int .u32 (Ch.ad (SK.getD a 0) (SK.getD b 0)))).heap[gt]? = some (.cells #[.int .i64 16, .int .i64 12, .int .i64 8, .int .i64 7] 3 (0, 0))) := (heap_setCell_other w2 ⟨g, a, none⟩ gt _ (by have := HG.out; simp; omega)).trans ((hb1.block _ (lt_of_block TT.out)).trans TT.out)
        have L1 : Hid ((SK.set a (Ch.ad (SK.getD a 0) (SK.getD b 0))).length = 16) := by show _ = _; rw [List.length_set]; exact LQ.out
        clear hk1 hts hdf hfr ei ev hb1 rb RW OW TT LQ
        subst ha
        generalize SK.set a (Ch.ad (SK.getD a 0) (SK.getD b 0)) = S1 at *
        generalize w2.setCell ⟨g, a, none⟩ (.int .u32 (Ch.ad (SK.getD a 0) (SK.getD b 0))) = w3 at *
        go_wp2_with fail
        refine Grow.region_wait (by kernel_rfl) 17 (fun i => List.getD (Grow.Spec.is (.slice (some ⟨g, 0, none⟩) 16 cap) :: Grow.Spec.is (.int .i64 (d : Nat)) :: Grow.Spec.is (.slice (some ⟨g, 0, none⟩) 16 cap) :: Grow.Spec.is (.int .i64 (d : Nat)) :: Grow.Spec.is (.pointer (some ⟨g, d, none⟩)) :: Grow.Spec.is (.int .u32 (S1.getD d 0)) :: Grow.Spec.is (.slice (some ⟨g, 0, none⟩) 16 cap) :: Grow.Spec.is (.int .i64 (a : Nat)) :: Grow.Spec.is (.pointer (some ⟨g, a, none⟩)) :: Grow.Spec.is (.int .u32 (S1.getD a 0)) :: Grow.Spec.is (.int .u32 (Ch.xr (S1.getD d 0) (S1.getD a 0))) :: Grow.Spec.is (.slice (some ⟨gt, 0, none⟩) 4 4) :: Grow.Spec.is (.int .i64 ((0 : Nat) : Int)) :: Grow.Spec.is (.pointer (some ⟨gt, 0, none⟩)) :: Grow.Spec.is (.int .i64 ((16 : Nat) : Int)) :: Grow.Spec.is (.int .u32 (Ch.rol (Ch.xr (S1.getD d 0) (S1.getD a 0)) 16)) :: Grow.Spec.is (.pointer (some ⟨g, d, none⟩)) :: []) i (Grow.Spec.is undef)) (by kernel_rfl) ⟨
          Grow.h2_move (Or.inl rfl) _ (Or.inl rfl) (fun ax wx hk => by have e : ax.eval (.tmp 0) = _ := hk.rest 0 (by kernel_rfl); rw [e]; rfl),
          Grow.h2_move (Or.inl rfl) _ (Or.inl rfl) (fun ax wx hk => by have e : ax.eval (.tmp 4) = _ := hk.rest 4 (by kernel_rfl); rw [e]; rfl),
          Grow.h2_move (Or.inl rfl) _ (Or.inl rfl) (fun ax wx hk => by have e : ax.eval (.tmp 0) = _ := hk.rest 0 (by kernel_rfl); rw [e]; rfl),
          Grow.h2_move (Or.inl rfl) _ (Or.inl rfl) (fun ax wx hk => by have e : ax.eval (.tmp 4) = _ := hk.rest 4 (by kernel_rfl); rw [e]; rfl),
          Grow.h2_idx41 (Or.inl rfl) 2 32 3 33 g cap d hd rfl (by kernel_rfl) (by kernel_rfl) rfl rfl rfl,
          Grow.h2_load23 (Or.inl rfl) 4 34 g d (S1.getD d 0) rfl (by kernel_rfl) rfl R1.out.lt (R1.out.cell d (by rw [L1.out]; exact hd)) rfl,
          Grow.h2_move (Or.inl rfl) _ (Or.inl rfl) (fun ax wx hk => by have e : ax.eval (.tmp 0) = _ := hk.rest 0 (by kernel_rfl); rw [e]; rfl),
          Grow.h2_move (Or.inl rfl) _ (Or.inl rfl) (fun ax wx hk => by have e : ax.eval (.tmp 1) = _ := hk.rest 1 (by kernel_rfl); rw [e]; rfl),
          Grow.h2_idx41 (Or.inl rfl) 6 36 7 37 g cap a ha rfl (by kernel_rfl) (by kernel_rfl) rfl rfl rfl,
          Grow.h2_load23 (Or.inl rfl) 8 38 g a (S1.getD a 0) rfl (by kernel_rfl) rfl R1.out.lt (R1.out.cell a (by rw [L1.out]; exact ha)) rfl,
          Grow.h2_xor23 (Or.inl rfl) 5 35 9 39 _ _ rfl (by kernel_rfl) (by kernel_rfl) rfl rfl rfl,
          Grow.h2_move (Or.inl rfl) _ (Or.inl rfl) (fun ax wx hk => by have e : ax.eval (.tmp 10) = _ := hk.rest 10 (by kernel_rfl); rw [e]; rfl),
          Grow.h2_move (Or.inl rfl) _ (Or.inl rfl) (fun ax wx hk => by have e : ax.eval (.tmp 11) = _ := hk.rest 11 (by kernel_rfl); rw [e]; rfl),
          Grow.h2_idx64 (Or.inl rfl) 11 41 12 42 gt 4 0 (by decide) rfl (by kernel_rfl) (by kernel_rfl) rfl rfl rfl,
          Grow.h2_load3 (Or.inl rfl) 13 43 gt 0 _ rfl (by kernel_rfl) rfl (lt_of_block TT1.out) ((turns_cell TT1.out).1) rfl,
          Grow.h2_call2 (Or.inl rfl) 40 Grow.enter40 _ _ _ rfl (fun ax wx hk => by have e1 : ax.eval (.tmp 40) = .int .u32 (Ch.xr (S1.getD d 0) (S1.getD a 0)) := (hk.deps 10 40 (by kernel_rfl)); have e2 : ax.eval (.tmp 44) = .int .i64 ((16 : Nat) : Int) := (hk.deps 14 44 (by kernel_rfl)); rw [e1, e2]; refine (left_any _ 16 wx (Ch.xr_W _ _) (by decide) (by decide)).mono ?_; rintro e w5 ⟨rfl, n5, rfl⟩; exact ⟨_, rfl, rfl, below_drewN (Below.refl _ _) n5⟩),
          Grow.h2_idx41 (Or.inl rfl) 0 30 1 31 g cap d hd rfl (by kernel_rfl) (by kernel_rfl) rfl rfl rfl,
          trivial⟩ ?_
        intro o1 a1 w4 ho1 hb1 hts hk1 hdf hfr
        obtain rfl := Option.some.inj ho1
        clear ho1
        have ei : a1.eval (.tmp 46) = .pointer (some ⟨g, d, none⟩) := hk1 16 46 (by decide) rfl
        have ev : a1.eval (.tmp 45) = .int .u32 (Ch.rol (Ch.xr (S1.getD d 0) (S1.getD a 0)) 16) := hk1 15 45 (by decide) rfl
        have rb := R1.out.other (hb1.block _ R1.out.lt)
        refine ⟨rfl, Grow.wp_store23 (.tmp 46) (.tmp 45) rfl g d _ _ ei ev (rb.cell d (by rw [L1.out]; exact hd)) (rb.free d) ?_⟩
        have ha := Grow.act_after hts hdf hfr
        rw [show Grow.dsts _ 17 = [30, 31, 32, 33, 34, 35, 36, 37, 38, 39, 40, 41, 42, 43, 44, 45, 46] from by kernel_rfl] at ha
        simp only [Grow.putAll] at ha
        generalize a1.eval (.tmp 30) = u30 at ha
        generalize a1.eval (.tmp 31) = u31 at ha
        generalize a1.eval (.tmp 32) = u32 at ha
        generalize a1.eval (.tmp 33) = u33 at ha
        generalize a1.eval (.tmp 34) = u34 at ha
        generalize a1.eval (.tmp 35) = u35 at ha
        generalize a1.eval (.tmp 36) = u36 at ha
        generalize a1.eval (.tmp 37) = u37 at ha
        generalize a1.eval (.tmp 38) = u38 at ha
        generalize a1.eval (.tmp 39) = u39 at ha
        generalize a1.eval (.tmp 40) = u40 at ha
        generalize a1.eval (.tmp 41) = u41 at ha
        generalize a1.eval (.tmp 42) = u42 at ha
        generalize a1.eval (.tmp 43) = u43 at ha
        generalize a1.eval (.tmp 44) = u44 at ha
        generalize a1.eval (.tmp 45) = u45 at ha
        generalize a1.eval (.tmp 46) = u46 at ha
        simp [Act.put] at ha
        have R2 := Lib.hid (rb.set d (Ch.rol (Ch.xr (S1.getD d 0) (S1.getD a 0)) 16))
        have O2 : Hid (Only g w (w4.setCell ⟨g, d, none⟩ (.int .u32 (Ch.rol (Ch.xr (S1.getD d 0) (S1.getD a 0)) 16)))) := O1.out.trans ((Only.below hb1).trans (Only.setCell w4 d _))
        have TT2 : Hid ((w4.setCell ⟨g, d, none⟩ (.int .u32 (Ch.rol (Ch.xr (S1.getD d 0) (S1.getD a 0)) 16))).heap[gt]? = some (.cells #[.int .i64 16, .int .i64 12, .int .i64 8, .int .i64 7] 3 (0, 0))) := (heap_setCell_other w4 ⟨g, d, none⟩ gt _ (by have := HG.out; simp; omega)).trans ((hb1.block _ (lt_of_block TT1.out)).trans TT1.out)
        clear hk1 hts hdf hfr ei ev hb1 rb R1 O1 TT1 L1
        subst ha
        generalize w4.setCell ⟨g, d, none⟩ (.int .u32 (Ch.rol (Ch.xr (S1.getD d 0) (S1.getD a 0)) 16)) = w5 at *
        go_wp2
        go_roundw
        case rel => exact ⟨1, by omega, by go_num, by show Rw _ _ _; rw [HSET.out]; exact R2.out, TT2, O2⟩
        case measure => simp [intOf]
      by_cases h1 : k = 1
      · subst h1
        have TT1 := TT
        have LQ := Lib.hid (LK.out 1)
        have HSET : Hid (Ch.qk S a b c d 2 = ((Ch.qk S a b c d 1).set c (Ch.ad ((Ch.qk S a b c d 1).getD c 0) ((Ch.qk S a b c d 1).getD d 0))).set b (Ch.rol (Ch.xr (((Ch.qk S a b c d 1).set c (Ch.ad ((Ch.qk S a b c d 1).getD c 0) ((Ch.qk S a b c d 1).getD d 0))).getD b 0) (((Ch.qk S a b c d 1).set c (Ch.ad ((Ch.qk S a b c d 1).getD c 0) ((Ch.qk S a b c d 1).getD d 0))).getD c 0)) 12)) := rfl
        generalize Ch.qk S a b c d 1 = SK at *
        go_wp2_with fail
        refine Grow.region_wait (by kernel_rfl) 10 (fun i => List.getD (Grow.Spec.is (.slice (some ⟨g, 0, none⟩) 16 cap) :: Grow.Spec.is (.int .i64 (c : Nat)) :: Grow.Spec.is (.pointer (some ⟨g, c, none⟩)) :: Grow.Spec.is (.int .u32 (SK.getD c 0)) :: Grow.Spec.is (.slice (some ⟨g, 0, none⟩) 16 cap) :: Grow.Spec.is (.int .i64 (d : Nat)) :: Grow.Spec.is (.pointer (some ⟨g, d, none⟩)) :: Grow.Spec.is (.int .u32 (SK.getD d 0)) :: Grow.Spec.is (.int .u32 (Ch.ad (SK.getD c 0) (SK.getD d 0))) :: Grow.Spec.is (.pointer (some ⟨g, c, none⟩)) :: []) i (Grow.Spec.is undef)) (by kernel_rfl) ⟨
          Grow.h2_move (Or.inl rfl) _ (Or.inl rfl) (fun ax wx hk => by have e : ax.eval (.tmp 0) = _ := hk.rest 0 (by kernel_rfl); rw [e]; rfl),
          Grow.h2_move (Or.inl rfl) _ (Or.inl rfl) (fun ax wx hk => by have e : ax.eval (.tmp 3) = _ := hk.rest 3 (by kernel_rfl); rw [e]; rfl),
          Grow.h2_idx41 (Or.inl rfl) 0 47 1 48 g cap c hc rfl (by kernel_rfl) (by kernel_rfl) rfl rfl rfl,
          Grow.h2_load23 (Or.inl rfl) 2 49 g c (SK.getD c 0) rfl (by kernel_rfl) rfl RW.out.lt (RW.out.cell c (by rw [LQ.out]; exact hc)) rfl,
          Grow.h2_move (Or.inl rfl) _ (Or.inl rfl) (fun ax wx hk => by have e : ax.eval (.tmp 0) = _ := hk.rest 0 (by kernel_rfl); rw [e]; rfl),
          Grow.h2_move (Or.inl rfl) _ (Or.inl rfl) (fun ax wx hk => by have e : ax.eval (.tmp 4) = _ := hk.rest 4 (by kernel_rfl); rw [e]; rfl),
          Grow.h2_idx41 (Or.inl rfl) 4 51 5 52 g cap d hd rfl (by kernel_rfl) (by kernel_rfl) rfl rfl rfl,
          Grow.h2_load23 (Or.inl rfl) 6 53 g d (SK.getD d 0) rfl (by kernel_rfl) rfl RW.out.lt (RW.out.cell d (by rw [LQ.out]; exact hd)) rfl,
          Grow.h2_add23 (Or.inl rfl) 3 50 7 54 _ _ rfl (by kernel_rfl) (by kernel_rfl) rfl rfl rfl,
          Grow.h2_idx41 (Or.inl rfl) 0 47 1 48 g cap c hc rfl (by kernel_rfl) (by kernel_rfl) rfl rfl rfl,
          trivial⟩ ?_
        intro o1 a1 w2 ho1 hb1 hts hk1 hdf hfr
        obtain rfl := Option.some.inj ho1
        clear ho1
        have ei : a1.eval (.tmp 56) = .pointer (some ⟨g, c, none⟩) := hk1 9 56 (by decide) rfl
        have ev : a1.eval (.tmp 55) = .int .u32 (Ch.ad (SK.getD c 0) (SK.getD d 0)) := hk1 8 55 (by decide) rfl
        have rb := RW.out.other (hb1.block _ RW.out.lt)
        refine ⟨rfl, Grow.wp_store23 (.tmp 56) (.tmp 55) rfl g c _ _ ei ev (rb.cell c (by rw [LQ.out]; exact hc)) (rb.free c) ?_⟩
        have ha := Grow.act_after hts hdf hfr
        rw [show Grow.dsts _ 10 = [47, 48, 49, 50, 51, 52, 53, 54, 55, 56] from by kernel_rfl] at ha
        simp only [Grow.putAll] at ha
        generalize a1.eval (.tmp 47) = u47 at ha
        generalize a1.eval (.tmp 48) = u48 at ha
        generalize a1.eval (.tmp 49) = u49 at ha
        generalize a1.eval (.tmp 50) = u50 at ha
        generalize a1.eval (.tmp 51) = u51 at ha
        generalize a1.eval (.tmp 52) = u52 at ha
        generalize a1.eval (.tmp 53) = u53 at ha
        generalize a1.eval (.tmp 54) = u54 at ha
        generalize a1.eval (.tmp 55) = u55 at ha
        generalize a1.eval (.tmp 56) = u56 at ha
        simp [Act.put] at ha
        have R1 := Lib.hid (rb.set c (Ch.ad (SK.getD c 0) (SK.getD d 0)))
        have O1 : Hid (Only g w (w2.setCell ⟨g, c, none⟩ (.int .u32 (Ch.ad (SK.getD c 0) (SK.getD d 0))))) := OW.out.trans ((Only.below hb1).trans (Only.setCell w2 c _))
        have TT1 : Hid ((w2.setCell ⟨g, c, none⟩ (.int .u32 (Ch.ad (SK.getD c 0) (SK.getD d 0)))).heap[gt]? = some (.cells #[.int .i64 16, .int .i64 12, .int .i64 8, .int .i64 7] 3 (0, 0))) := (heap_setCell_other w2 ⟨g, c, none⟩ gt _ (by have := HG.out; simp; omega)).trans ((hb1.block _ (lt_of_block TT.out)).trans TT.out)
        have L1 : Hid ((SK.set c (Ch.ad (SK.getD c 0) (SK.getD d 0))).length = 16) := by show _ = _; rw [List.length_set]; exact LQ.out
        clear hk1 hts hdf hfr ei ev hb1 rb RW OW TT LQ
        subst ha
        generalize SK.set c (Ch.ad (SK.getD c 0) (SK.getD d 0)) = S1 at *
        generalize w2.setCell ⟨g, c, none⟩ (.int .u32 (Ch.ad (SK.getD c 0) (SK.getD d 0))) = w3 at *
        go_wp2_with fail
        refine Grow.region_wait (by kernel_rfl) 17 (fun i => List.getD (Grow.Spec.is (.slice (some ⟨g, 0, none⟩) 16 cap) :: Grow.Spec.is (.int .i64 (b : Nat)) :: Grow.Spec.is (.slice (some ⟨g, 0, none⟩) 16 cap) :: Grow.Spec.is (.int .i64 (b : Nat)) :: Grow.Spec.is (.pointer (some ⟨g, b, none⟩)) :: Grow.Spec.is (.int .u32 (S1.getD b 0)) :: Grow.Spec.is (.slice (some ⟨g, 0, none⟩) 16 cap) :: Grow.Spec.is (.int .i64 (c : Nat)) :: Grow.Spec.is (.pointer (some ⟨g, c, none⟩)) :: Grow.Spec.is (.int .u32 (S1.getD c 0)) :: Grow.Spec.is (.int .u32 (Ch.xr (S1.getD b 0) (S1.getD c 0))) :: Grow.Spec.is (.slice (some ⟨gt, 0, none⟩) 4 4) :: Grow.Spec.is (.int .i64 ((1 : Nat) : Int)) :: Grow.Spec.is (.pointer (some ⟨gt, 1, none⟩)) :: Grow.Spec.is (.int .i64 ((12 : Nat) : Int)) :: Grow.Spec.is (.int .u32 (Ch.rol (Ch.xr (S1.getD b 0) (S1.getD c 0)) 12)) :: Grow.Spec.is (.pointer (some ⟨g, b, none⟩)) :: []) i (Grow.Spec.is undef)) (by kernel_rfl) ⟨
          Grow.h2_move (Or.inl rfl) _ (Or.inl rfl) (fun ax wx hk => by have e : ax.eval (.tmp 0) = _ := hk.rest 0 (by kernel_rfl); rw [e]; rfl),
          Grow.h2_move (Or.inl rfl) _ (Or.inl rfl) (fun ax wx hk => by have e : ax.eval (.tmp 2) = _ := hk.rest 2 (by kernel_rfl); rw [e]; rfl),
          Grow.h2_move (Or.inl rfl) _ (Or.inl rfl) (fun ax wx hk => by have e : ax.eval (.tmp 0) = _ := hk.rest 0 (by kernel_rfl); rw [e]; rfl),
          Grow.h2_move (Or.inl rfl) _ (Or.inl rfl) (fun ax wx hk => by have e : ax.eval (.tmp 2) = _ := hk.rest 2 (by kernel_rfl); rw [e]; rfl),
          Grow.h2_idx41 (Or.inl rfl) 2 59 3 60 g cap b hb rfl (by kernel_rfl) (by kernel_rfl) rfl rfl rfl,
          Grow.h2_load23 (Or.inl rfl) 4 61 g b (S1.getD b 0) rfl (by kernel_rfl) rfl R1.out.lt (R1.out.cell b (by rw [L1.out]; exact hb)) rfl,
          Grow.h2_move (Or.inl rfl) _ (Or.inl rfl) (fun ax wx hk => by have e : ax.eval (.tmp 0) = _ := hk.rest 0 (by kernel_rfl); rw [e]; rfl),
          Grow.h2_move (Or.inl rfl) _ (Or.inl rfl) (fun ax wx hk => by have e : ax.eval (.tmp 3) = _ := hk.rest 3 (by kernel_rfl); rw [e]; rfl),
          Grow.h2_idx41 (Or.inl rfl) 6 63 7 64 g cap c hc rfl (by kernel_rfl) (by kernel_rfl) rfl rfl rfl,
          Grow.h2_load23 (Or.inl rfl) 8 65 g c (S1.getD c 0) rfl (by kernel_rfl) rfl R1.out.lt (R1.out.cell c (by rw [L1.out]; exact hc)) rfl,
          Grow.h2_xor23 (Or.inl rfl) 5 62 9 66 _ _ rfl (by kernel_rfl) (by kernel_rfl) rfl rfl rfl,
          Grow.h2_move (Or.inl rfl) _ (Or.inl rfl) (fun ax wx hk => by have e : ax.eval (.tmp 10) = _ := hk.rest 10 (by kernel_rfl); rw [e]; rfl),
          Grow.h2_move (Or.inl rfl) _ (Or.inl rfl) (fun ax wx hk => by have e : ax.eval (.tmp 11) = _ := hk.rest 11 (by kernel_rfl); rw [e]; rfl),
          Grow.h2_idx64 (Or.inl rfl) 11 68 12 69 gt 4 1 (by decide) rfl (by kernel_rfl) (by kernel_rfl) rfl rfl rfl,
          Grow.h2_load3 (Or.inl rfl) 13 70 gt 1 _ rfl (by kernel_rfl) rfl (lt_of_block TT1.out) ((turns_cell TT1.out).2.1) rfl,
          Grow.h2_call2 (Or.inl rfl) 40 Grow.enter40 _ _ _ rfl (fun ax wx hk => by have e1 : ax.eval (.tmp 67) = .int .u32 (Ch.xr (S1.getD b 0) (S1.getD c 0)) := (hk.deps 10 67 (by kernel_rfl)); have e2 : ax.eval (.tmp 71) = .int .i64 ((12 : Nat) : Int) := (hk.deps 14 71 (by kernel_rfl)); rw [e1, e2]; refine (left_any _ 12 wx (Ch.xr_W _ _) (by decide) (by decide)).mono ?_; rintro e w5 ⟨rfl, n5, rfl⟩; exact ⟨_, rfl, rfl, below_drewN (Below.refl _ _) n5⟩),
          Grow.h2_idx41 (Or.inl rfl) 0 57 1 58 g cap b hb rfl (by kernel_rfl) (by kernel_rfl) rfl rfl rfl,
          trivial⟩ ?_
        intro o1 a1 w4 ho1 hb1 hts hk1 hdf hfr
        obtain rfl := Option.some.inj ho1
        clear ho1
        have ei : a1.eval (.tmp 73) = .pointer (some ⟨g, b, none⟩) := hk1 16 73 (by decide) rfl
        have ev : a1.eval (.tmp 72) = .int .u32 (Ch.rol (Ch.xr (S1.getD b 0) (S1.getD c 0)) 12) := hk1 15 72 (by decide) rfl
        have rb := R1.out.other (hb1.block _ R1.out.lt)
        refine ⟨rfl, Grow.wp_store23 (.tmp 73) (.tmp 72) rfl g b _ _ ei ev (rb.cell b (by rw [L1.out]; exact hb)) (rb.free b) ?_⟩
        have ha := Grow.act_after hts hdf hfr
        rw [show Grow.dsts _ 17 = [57, 58, 59, 60, 61, 62, 63, 64, 65, 66, 67, 68, 69, 70, 71, 72, 73] from by kernel_rfl] at ha
        simp only [Grow.putAll] at ha
        generalize a1.eval (.tmp 57) = u57 at ha
        generalize a1.eval (.tmp 58) = u58 at ha
        generalize a1.eval (.tmp 59) = u59 at ha
        generalize a1.eval (.tmp 60) = u60 at ha
        generalize a1.eval (.tmp 61) = u61 at ha
        generalize a1.eval (.tmp 62) = u62 at ha
        generalize a1.eval (.tmp 63) = u63 at ha
        generalize a1.eval (.tmp 64) = u64 at ha
        generalize a1.eval (.tmp 65) = u65 at ha
        generalize a1.eval (.tmp 66) = u66 at ha
        generalize a1.eval (.tmp 67) = u67 at ha
        generalize a1.eval (.tmp 68) = u68 at ha
        generalize a1.eval (.tmp 69) = u69 at ha
        generalize a1.eval (.tmp 70) = u70 at ha
        generalize a1.eval (.tmp 71) = u71 at ha
        generalize a1.eval (.tmp 72) = u72 at ha
        generalize a1.eval (.tmp 73) = u73 at ha
        simp [Act.put] at ha
        have R2 := Lib.hid (rb.set b (Ch.rol (Ch.xr (S1.getD b 0) (S1.getD c 0)) 12))
        have O2 : Hid (Only g w (w4.setCell ⟨g, b, none⟩ (.int .u32 (Ch.rol (Ch.xr (S1.getD b 0) (S1.getD c 0)) 12)))) := O1.out.trans ((Only.below hb1).trans (Only.setCell w4 b _))
        have TT2 : Hid ((w4.setCell ⟨g, b, none⟩ (.int .u32 (Ch.rol (Ch.xr (S1.getD b 0) (S1.getD c 0)) 12))).heap[gt]? = some (.cells #[.int .i64 16, .int .i64 12, .int .i64 8, .int .i64 7] 3 (0, 0))) := (heap_setCell_other w4 ⟨g, b, none⟩ gt _ (by have := HG.out; simp; omega)).trans ((hb1.block _ (lt_of_block TT1.out)).trans TT1.out)
        clear hk1 hts hdf hfr ei ev hb1 rb R1 O1 TT1 L1
        subst ha
        generalize w4.setCell ⟨g, b, none⟩ (.int .u32 (Ch.rol (Ch.xr (S1.getD b 0) (S1.getD c 0)) 12)) = w5 at *
        go_wp2
        go_roundw
        case rel => exact ⟨2, by omega, by go_num, by show Rw _ _ _; rw [HSET.out]; exact R2.out, TT2, O2⟩
        case measure => simp [intOf]
      by_cases h2 : k = 2
      · subst h2
        have TT1 := TT
        have LQ := Lib.hid (LK.out 2)
        have HSET : Hid (Ch.qk S a b c d 3 = ((Ch.qk S a b c d 2).set a (Ch.ad ((Ch.qk S a b c d 2).getD a 0) ((Ch.qk S a b c d 2).getD b 0))).set d (Ch.rol (Ch.xr (((Ch.qk S a b c d 2).set a (Ch.ad ((Ch.qk S a b c d 2).getD a 0) ((Ch.qk S a b c d 2).getD b 0))).getD d 0) (((Ch.qk S a b c d 2).set a (Ch.ad ((Ch.qk S a b c d 2).getD a 0) ((Ch.qk S a b c d 2).getD b 0))).getD a 0)) 8)) := rfl
        generalize Ch.qk S a b c d 2 = SK at *
        go_wp2_with fail
        refine Grow.region_wait (by kernel_rfl) 10 (fun i => List.getD (Grow.Spec.is (.slice (some ⟨g, 0, none⟩) 16 cap) :: Grow.Spec.is (.int .i64 (a : Nat)) :: Grow.Spec.is (.pointer (some ⟨g, a, none⟩)) :: Grow.Spec.is (.int .u32 (SK.getD a 0)) :: Grow.Spec.is (.slice (some ⟨g, 0, none⟩) 16 cap) :: Grow.Spec.is (.int .i64 (b : Nat)) :: Grow.Spec.is (.pointer (some ⟨g, b, none⟩)) :: Grow.Spec.is (.int .u32 (SK.getD b 0)) :: Grow.Spec.is (.int .u32 (Ch.ad (SK.getD a 0) (SK.getD b 0))) :: Grow.Spec.is (.pointer (some ⟨g, a, none⟩)) :: []) i (Grow.Spec.is undef)) (by kernel_rfl) ⟨
          Grow.h2_move (Or.inl rfl) _ (Or.inl rfl) (fun ax wx hk => by have e : ax.eval (.tmp 0) = _ := hk.rest 0 (by kernel_rfl); rw [e]; rfl),
          Grow.h2_move (Or.inl rfl) _ (Or.inl rfl) (fun ax wx hk => by have e : ax.eval (.tmp 1) = _ := hk.rest 1 (by kernel_rfl); rw [e]; rfl),
          Grow.h2_idx41 (Or.inl rfl) 0 20 1 21 g cap a ha rfl (by kernel_rfl) (by kernel_rfl) rfl rfl rfl,
          Grow.h2_load23 (Or.inl rfl) 2 22 g a (SK.getD a 0) rfl (by kernel_rfl) rfl RW.out.lt (RW.out.cell a (by rw [LQ.out]; exact ha)) rfl,
          Grow.h2_move (Or.inl rfl) _ (Or.inl rfl) (fun ax wx hk => by have e : ax.eval (.tmp 0) = _ := hk.rest 0 (by kernel_rfl); rw [e]; rfl),
          Grow.h2_move (Or.inl rfl) _ (Or.inl rfl) (fun ax wx hk => by have e : ax.eval (.tmp 2) = _ := hk.rest 2 (by kernel_rfl); rw [e]; rfl),
          Grow.h2_idx41 (Or.inl rfl) 4 24 5 25 g cap b hb rfl (by kernel_rfl) (by kernel_rfl) rfl rfl rfl,
          Grow.h2_load23 (Or.inl rfl) 6 26 g b (SK.getD b 0) rfl (by kernel_rfl) rfl RW.out.lt (RW.out.cell b (by rw [LQ.out]; exact hb)) rfl,
          Grow.h2_add23 (Or.inl rfl) 3 23 7 27 _ _ rfl (by kernel_rfl) (by kernel_rfl) rfl rfl rfl,
          Grow.h2_idx41 (Or.inl rfl) 0 20 1 21 g cap a ha rfl (by kernel_rfl) (by kernel_rfl) rfl rfl rfl,
          trivial⟩ ?_
        intro o1 a1 w2 ho1 hb1 hts hk1 hdf hfr
        obtain rfl := Option.some.inj ho1
        clear ho1
        have ei : a1.eval (.tmp 29) = .pointer (some ⟨g, a, none⟩) := hk1 9 29 (by decide) rfl
        have ev : a1.eval (.tmp 28) = .int .u32 (Ch.ad (SK.getD a 0) (SK.getD b 0)) := hk1 8 28 (by decide) rfl
        have rb := RW.out.other (hb1.block _ RW.out.lt)
        refine ⟨rfl, Grow.wp_store23 (.tmp 29) (.tmp 28) rfl g a _ _ ei ev (rb.cell a (by rw [LQ.out]; exact ha)) (rb.free a) ?_⟩
        have ha := Grow.act_after hts hdf hfr
        rw [show Grow.dsts _ 10 = [20, 21, 22, 23, 24, 25, 26, 27, 28, 29] from by kernel_rfl] at ha
        simp only [Grow.putAll] at ha
        generalize a1.eval (.tmp 20) = u20 at ha
        generalize a1.eval (.tmp 21) = u21 at ha
        generalize a1.eval (.tmp 22) = u22 at ha
        generalize a1.eval (.tmp 23) = u23 at ha
        generalize a1.eval (.tmp 24) = u24 at ha
        generalize a1.eval (.tmp 25) = u25 at ha
        generalize a1.eval (.tmp 26) = u26 at ha
        generalize a1.eval (.tmp 27) = u27 at ha
        generalize a1.eval (.tmp 28) = u28 at ha
        generalize a1.eval (.tmp 29) = u29 at ha
        simp [Act.put] at ha
        have R1 := Lib.hid (rb.set a (Ch.ad (SK.getD a 0) (SK.getD b 0)))
        have O1 : Hid (Only g w (w2.setCell ⟨g, a, none⟩ (.int .u32 (Ch.ad (SK.getD a 0) (SK.getD b 0))))) := OW.out.trans ((Only.below hb1).trans (Only.setCell w2 a _))
        have TT1 : Hid ((w2.setCell ⟨g, a, none⟩ (.int .u32 (Ch.ad (SK.getD a 0) (SK.getD b 0)))).heap[gt]? = some (.cells #[.int .i64 16, .int .i64 12, .int .i64 8, .int .i64 7] 3 (0, 0))) := (heap_setCell_other w2 ⟨g, a, none⟩ gt _ (by have := HG.out; simp; omega)).trans ((hb1.block _ (lt_of_block TT.out)).trans TT.out)
        have L1 : Hid ((SK.set a (Ch.ad (SK.getD a 0) (SK.getD b 0))).length = 16) := by show _ = _; rw [List.length_set]; exact LQ.out
        clear hk1 hts hdf hfr ei ev hb1 rb RW OW TT LQ
        subst ha
        generalize SK.set a (Ch.ad (SK.getD a 0) (SK.getD b 0)) = S1 at *
        generalize w2.setCell ⟨g, a, none⟩ (.int .u32 (Ch.ad (SK.getD a 0) (SK.getD b 0))) = w3 at *
        go_wp2_with fail
        refine Grow.region_wait (by kernel_rfl) 17 (fun i => List.getD (Grow.Spec.is (.slice (some ⟨g, 0, none⟩) 16 cap) :: Grow.Spec.is (.int .i64 (d : Nat)) :: Grow.Spec.is (.slice (some ⟨g, 0, none⟩) 16 cap) :: Grow.Spec.is (.int .i64 (d : Nat)) :: Grow.Spec.is (.pointer (some ⟨g, d, none⟩)) :: Grow.Spec.is (.int .u32 (S1.getD d 0)) :: Grow.Spec.is (.slice (some ⟨g, 0, none⟩) 16 cap) :: Grow.Spec.is (.int .i64 (a : Nat)) :: Grow.Spec.is (.pointer (some ⟨g, a, none⟩)) :: Grow.Spec.is (.int .u32 (S1.getD a 0)) :: Grow.Spec.is (.int .u32 (Ch.xr (S1.getD d 0) (S1.getD a 0))) :: Grow.Spec.is (.slice (some ⟨gt, 0, none⟩) 4 4) :: Grow.Spec.is (.int .i64 ((2 : Nat) : Int)) :: Grow.Spec.is (.pointer (some ⟨gt, 2, none⟩)) :: Grow.Spec.is (.int .i64 ((8 : Nat) : Int)) :: Grow.Spec.is (.int .u32 (Ch.rol (Ch.xr (S1.getD d 0) (S1.getD a 0)) 8)) :: Grow.Spec.is (.pointer (some ⟨g, d, none⟩)) :: []) i (Grow.Spec.is undef)) (by kernel_rfl) ⟨
          Grow.h2_move (Or.inl rfl) _ (Or.inl rfl) (fun ax wx hk => by have e : ax.eval (.tmp 0) = _ := hk.rest 0 (by kernel_rfl); rw [e]; rfl),
          Grow.h2_move (Or.inl rfl) _ (Or.inl rfl) (fun ax wx hk => by have e : ax.eval (.tmp 4) = _ := hk.rest 4 (by kernel_rfl); rw [e]; rfl),
          Grow.h2_move (Or.inl rfl) _ (Or.inl rfl) (fun ax wx hk => by have e : ax.eval (.tmp 0) = _ := hk.rest 0 (by kernel_rfl); rw [e]; rfl),
          Grow.h2_move (Or.inl rfl) _ (Or.inl rfl) (fun ax wx hk => by have e : ax.eval (.tmp 4) = _ := hk.rest 4 (by kernel_rfl); rw [e]; rfl),
          Grow.h2_idx41 (Or.inl rfl) 2 32 3 33 g cap d hd rfl (by kernel_rfl) (by kernel_rfl) rfl rfl rfl,
          Grow.h2_load23 (Or.inl rfl) 4 34 g d (S1.getD d 0) rfl (by kernel_rfl) rfl R1.out.lt (R1.out.cell d (by rw [L1.out]; exact hd)) rfl,
          Grow.h2_move (Or.inl rfl) _ (Or.inl rfl) (fun ax wx hk => by have e : ax.eval (.tmp 0) = _ := hk.rest 0 (by kernel_rfl); rw [e]; rfl),
          Grow.h2_move (Or.inl rfl) _ (Or.inl rfl) (fun ax wx hk => by have e : ax.eval (.tmp 1) = _ := hk.rest 1 (by kernel_rfl); rw [e]; rfl),
          Grow.h2_idx41 (Or.inl rfl) 6 36 7 37 g cap a ha rfl (by kernel_rfl) (by kernel_rfl) rfl rfl rfl,
          Grow.h2_load23 (Or.inl rfl) 8 38 g a (S1.getD a 0) rfl (by kernel_rfl) rfl R1.out.lt (R1.out.cell a (by rw [L1.out]; exact ha)) rfl,
          Grow.h2_xor23 (Or.inl rfl) 5 35 9 39 _ _ rfl (by kernel_rfl) (by kernel_rfl) rfl rfl rfl,
          Grow.h2_move (Or.inl rfl) _ (Or.inl rfl) (fun ax wx hk => by have e : ax.eval (.tmp 10) = _ := hk.rest 10 (by kernel_rfl); rw [e]; rfl),
          Grow.h2_move (Or.inl rfl) _ (Or.inl rfl) (fun ax wx hk => by have e : ax.eval (.tmp 11) = _ := hk.rest 11 (by kernel_rfl); rw [e]; rfl),
          Grow.h2_idx64 (Or.inl rfl) 11 41 12 42 gt 4 2 (by decide) rfl (by kernel_rfl) (by kernel_rfl) rfl rfl rfl,
          Grow.h2_load3 (Or.inl rfl) 13 43 gt 2 _ rfl (by kernel_rfl) rfl (lt_of_block TT1.out) ((turns_cell TT1.out).2.2.1) rfl,
          Grow.h2_call2 (Or.inl rfl) 40 Grow.enter40 _ _ _ rfl (fun ax wx hk => by have e1 : ax.eval (.tmp 40) = .int .u32 (Ch.xr (S1.getD d 0) (S1.getD a 0)) := (hk.deps 10 40 (by kernel_rfl)); have e2 : ax.eval (.tmp 44) = .int .i64 ((8 : Nat) : Int) := (hk.deps 14 44 (by kernel_rfl)); rw [e1, e2]; refine (left_any _ 8 wx (Ch.xr_W _ _) (by decide) (by decide)).mono ?_; rintro e w5 ⟨rfl, n5, rfl⟩; exact ⟨_, rfl, rfl, below_drewN (Below.refl _ _) n5⟩),
          Grow.h2_idx41 (Or.inl rfl) 0 30 1 31 g cap d hd rfl (by kernel_rfl) (by kernel_rfl) rfl rfl rfl,
          trivial⟩ ?_
        intro o1 a1 w4 ho1 hb1 hts hk1 hdf hfr
        obtain rfl := Option.some.inj ho1
        clear ho1
        have ei : a1.eval (.tmp 46) = .pointer (some ⟨g, d, none⟩) := hk1 16 46 (by decide) rfl
        have ev : a1.eval (.tmp 45) = .int .u32 (Ch.rol (Ch.xr (S1.getD d 0) (S1.getD a 0)) 8) := hk1 15 45 (by decide) rfl
        have rb := R1.out.other (hb1.block _ R1.out.lt)
        refine ⟨rfl, Grow.wp_store23 (.tmp 46) (.tmp 45) rfl g d _ _ ei ev (rb.cell d (by rw [L1.out]; exact hd)) (rb.free d) ?_⟩
        have ha := Grow.act_after hts hdf hfr
        rw [show Grow.dsts _ 17 = [30, 31, 32, 33, 34, 35, 36, 37, 38, 39, 40, 41, 42, 43, 44, 45, 46] from by kernel_rfl] at ha
        simp only [Grow.putAll] at ha
        generalize a1.eval (.tmp 30) = u30 at ha
        generalize a1.eval (.tmp 31) = u31 at ha
        generalize a1.eval (.tmp 32) = u32 at ha
        generalize a1.eval (.tmp 33) = u33 at ha
        generalize a1.eval (.tmp 34) = u34 at ha
        generalize a1.eval (.tmp 35) = u35 at ha
        generalize a1.eval (.tmp 36) = u36 at ha
        generalize a1.eval (.tmp 37) = u37 at ha
        generalize a1.eval (.tmp 38) = u38 at ha
        generalize a1.eval (.tmp 39) = u39 at ha
        generalize a1.eval (.tmp 40) = u40 at ha
        generalize a1.eval (.tmp 41) = u41 at ha
        generalize a1.eval (.tmp 42) = u42 at ha
        generalize a1.eval (.tmp 43) = u43 at ha
        generalize a1.eval (.tmp 44) = u44 at ha
        generalize a1.eval (.tmp 45) = u45 at ha
        generalize a1.eval (.tmp 46) = u46 at ha
        simp [Act.put] at ha
        have R2 := Lib.hid (rb.set d (Ch.rol (Ch.xr (S1.getD d 0) (S1.getD a 0)) 8))
        have O2 : Hid (Only g w (w4.setCell ⟨g, d, none⟩ (.int .u32 (Ch.rol (Ch.xr (S1.getD d 0) (S1.getD a 0)) 8)))) := O1.out.trans ((Only.below hb1).trans (Only.setCell w4 d _))
        have TT2 : Hid ((w4.setCell ⟨g, d, none⟩ (.int .u32 (Ch.rol (Ch.xr (S1.getD d 0) (S1.getD a 0)) 8))).heap[gt]? = some (.cells #[.int .i64 16, .int .i64 12, .int .i64 8, .int .i64 7] 3 (0, 0))) := (heap_setCell_other w4 ⟨g, d, none⟩ gt _ (by have := HG.out; simp; omega)).trans ((hb1.block _ (lt_of_block TT1.out)).trans TT1.out)
        clear hk1 hts hdf hfr ei ev hb1 rb R1 O1 TT1 L1
        subst ha
        generalize w4.setCell ⟨g, d, none⟩ (.int .u32 (Ch.rol (Ch.xr (S1.getD d 0) (S1.getD a 0)) 8)) = w5 at *
        go_wp2
        go_roundw
        case rel => exact ⟨3, by omega, by go_num, by show Rw _ _ _; rw [HSET.out]; exact R2.out, TT2, O2⟩
        case measure => simp [intOf]
      have h3 : k = 3 := by omega
      subst h3
      have TT1 := TT
      have LQ := Lib.hid (LK.out 3)
      have HSET : Hid (Ch.qk S a b c d 4 = ((Ch.qk S a b c d 3).set c (Ch.ad ((Ch.qk S a b c d 3).getD c 0) ((Ch.qk S a b c d 3).getD d 0))).set b (Ch.rol (Ch.xr (((Ch.qk S a b c d 3).set c (Ch.ad ((Ch.qk S a b c d 3).getD c 0) ((Ch.qk S a b c d 3).getD d 0))).getD b 0) (((Ch.qk S a b c d 3).set c (Ch.ad ((Ch.qk S a b c d 3).getD c 0) ((Ch.qk S a b c d 3).getD d 0))).getD c 0)) 7)) := rfl
      generalize Ch.qk S a b c d 3 = SK at *
      go_wp2_with fail
      refine Grow.region_wait (by kernel_rfl) 10 (fun i => List.getD (Grow.Spec.is (.slice (some ⟨g, 0, none⟩) 16 cap) :: Grow.Spec.is (.int .i64 (c : Nat)) :: Grow.Spec.is (.pointer (some ⟨g, c, none⟩)) :: Grow.Spec.is (.int .u32 (SK.getD c 0)) :: Grow.Spec.is (.slice (some ⟨g, 0, none⟩) 16 cap) :: Grow.Spec.is (.int .i64 (d : Nat)) :: Grow.Spec.is (.pointer (some ⟨g, d, none⟩)) :: Grow.Spec.is (.int .u32 (SK.getD d 0)) :: Grow.Spec.is (.int .u32 (Ch.ad (SK.getD c 0) (SK.getD d 0))) :: Grow.Spec.is (.pointer (some ⟨g, c, none⟩)) :: []) i (Grow.Spec.is undef)) (by kernel_rfl) ⟨
        Grow.h2_move (Or.inl rfl) _ (Or.inl rfl) (fun ax wx hk => by have e : ax.eval (.tmp 0) = _ := hk.rest 0 (by kernel_rfl); rw [e]; rfl),
        Grow.h2_move (Or.inl rfl) _ (Or.inl rfl) (fun ax wx hk => by have e : ax.eval (.tmp 3) = _ := hk.rest 3 (by kernel_rfl); rw [e]; rfl),
        Grow.h2_idx41 (Or.inl rfl) 0 47 1 48 g cap c hc rfl (by kernel_rfl) (by kernel_rfl) rfl rfl rfl,
        Grow.h2_load23 (Or.inl rfl) 2 49 g c (SK.getD c 0) rfl (by kernel_rfl) rfl RW.out.lt (RW.out.cell c (by rw [LQ.out]; exact hc)) rfl,
        Grow.h2_move (Or.inl rfl) _ (Or.inl rfl) (fun ax wx hk => by have e : ax.eval (.tmp 0) = _ := hk.rest 0 (by kernel_rfl); rw [e]; rfl),
        Grow.h2_move (Or.inl rfl) _ (Or.inl rfl) (fun ax wx hk => by have e : ax.eval (.tmp 4) = _ := hk.rest 4 (by kernel_rfl); rw [e]; rfl),
        Grow.h2_idx41 (Or.inl rfl) 4 51 5 52 g cap d hd rfl (by kernel_rfl) (by kernel_rfl) rfl rfl rfl,
        Grow.h2_load23 (Or.inl rfl) 6 53 g d (SK.getD d 0) rfl (by kernel_rfl) rfl RW.out.lt (RW.out.cell d (by rw [LQ.out]; exact hd)) rfl,
        Grow.h2_add23 (Or.inl rfl) 3 50 7 54 _ _ rfl (by kernel_rfl) (by kernel_rfl) rfl rfl rfl,
        Grow.h2_idx41 (Or.inl rfl) 0 47 1 48 g cap c hc rfl (by kernel_rfl) (by kernel_rfl) rfl rfl rfl,
        trivial⟩ ?_
      intro o1 a1 w2 ho1 hb1 hts hk1 hdf hfr
      obtain rfl := Option.some.inj ho1
      clear ho1
      have ei : a1.eval (.tmp 56) = .pointer (some ⟨g, c, none⟩) := hk1 9 56 (by decide) rfl
      have ev : a1.eval (.tmp 55) = .int .u32 (Ch.ad (SK.getD c 0) (SK.getD d 0)) := hk1 8 55 (by decide) rfl
      have rb := RW.out.other (hb1.block _ RW.out.lt)
      refine ⟨rfl, Grow.wp_store23 (.tmp 56) (.tmp 55) rfl g c _ _ ei ev (rb.cell c (by rw [LQ.out]; exact hc)) (rb.free c) ?_⟩
      have ha := Grow.act_after hts hdf hfr
      rw [show Grow.dsts _ 10 = [47, 48, 49, 50, 51, 52, 53, 54, 55, 56] from by kernel_rfl] at ha
      simp only [Grow.putAll] at ha
      generalize a1.eval (.tmp 47) = u47 at ha
      generalize a1.eval (.tmp 48) = u48 at ha
      generalize a1.eval (.tmp 49) = u49 at ha
      generalize a1.eval (.tmp 50) = u50 at ha
      generalize a1.eval (.tmp 51) = u51 at ha
      generalize a1.eval (.tmp 52) = u52 at ha
      generalize a1.eval (.tmp 53) = u53 at ha
      generalize a1.eval (.tmp 54) = u54 at ha
      generalize a1.eval (.tmp 55) = u55 at ha
      generalize a1.eval (.tmp 56) = u56 at ha
      simp [Act.put] at ha
      have R1 := Lib.hid (rb.set c (Ch.ad (SK.getD c 0) (SK.getD d 0)))
      have O1 : Hid (Only g w (w2.setCell ⟨g, c, none⟩ (.int .u32 (Ch.ad (SK.getD c 0) (SK.getD d 0))))) := OW.out.trans ((Only.below hb1).trans (Only.setCell w2 c _))
      have TT1 : Hid ((w2.setCell ⟨g, c, none⟩ (.int .u32 (Ch.ad (SK.getD c 0) (SK.getD d 0)))).heap[gt]? = some (.cells #[.int .i64 16, .int .i64 12, .int .i64 8, .int .i64 7] 3 (0, 0))) := (heap_setCell_other w2 ⟨g, c, none⟩ gt _ (by have := HG.out; simp; omega)).trans ((hb1.block _ (lt_of_block TT.out)).trans TT.out)
      have L1 : Hid ((SK.set c (Ch.ad (SK.getD c 0) (SK.getD d 0))).length = 16) := by show _ = _; rw [List.length_set]; exact LQ.out
      clear hk1 hts hdf hfr ei ev hb1 rb RW OW TT LQ
      subst ha
      generalize SK.set c (Ch.ad (SK.getD c 0) (SK.getD d 0)) = S1 at *
      generalize w2.setCell ⟨g, c, none⟩ (.int .u32 (Ch.ad (SK.getD c 0) (SK.getD d 0))) = w3 at *
      go_wp2_with fail
      refine Grow.region_wait (by kernel_rfl) 17 (fun i => List.getD (Grow.Spec.is (.slice (some ⟨g, 0, none⟩) 16 cap) :: Grow.Spec.is (.int .i64 (b : Nat)) :: Grow.Spec.is (.slice (some ⟨g, 0, none⟩) 16 cap) :: Grow.Spec.is (.int .i64 (b : Nat)) :: Grow.Spec.is (.pointer (some ⟨g, b, none⟩)) :: Grow.Spec.is (.int .u32 (S1.getD b 0)) :: Grow.Spec.is (.slice (some ⟨g, 0, none⟩) 16 cap) :: Grow.Spec.is (.int .i64 (c : Nat)) :: Grow.Spec.is (.pointer (some ⟨g, c, none⟩)) :: Grow.Spec.is (.int .u32 (S1.getD c 0)) :: Grow.Spec.is (.int .u32 (Ch.xr (S1.getD b 0) (S1.getD c 0))) :: Grow.Spec.is (.slice (some ⟨gt, 0, none⟩) 4 4) :: Grow.Spec.is (.int .i64 ((3 : Nat) : Int)) :: Grow.Spec.is (.pointer (some ⟨gt, 3, none⟩)) :: Grow.Spec.is (.int .i64 ((7 : Nat) : Int)) :: Grow.Spec.is (.int .u32 (Ch.rol (Ch.xr (S1.getD b 0) (S1.getD c 0)) 7)) :: Grow.Spec.is (.pointer (some ⟨g, b, none⟩)) :: []) i (Grow.Spec.is undef)) (by kernel_rfl) ⟨
        Grow.h2_move (Or.inl rfl) _ (Or.inl rfl) (fun ax wx hk => by have e : ax.eval (.tmp 0) = _ := hk.rest 0 (by kernel_rfl); rw [e]; rfl),
        Grow.h2_move (Or.inl rfl) _ (Or.inl rfl) (fun ax wx hk => by have e : ax.eval (.tmp 2) = _ := hk.rest 2 (by kernel_rfl); rw [e]; rfl),
        Grow.h2_move (Or.inl rfl) _ (Or.inl rfl) (fun ax wx hk => by have e : ax.eval (.tmp 0) = _ := hk.rest 0 (by kernel_rfl); rw [e]; rfl),
        Grow.h2_move (Or.inl rfl) _ (Or.inl rfl) (fun ax wx hk => by have e : ax.eval (.tmp 2) = _ := hk.rest 2 (by kernel_rfl); rw [e]; rfl),
        Grow.h2_idx41 (Or.inl rfl) 2 59 3 60 g cap b hb rfl (by kernel_rfl) (by kernel_rfl) rfl rfl rfl,
        Grow.h2_load23 (Or.inl rfl) 4 61 g b (S1.getD b 0) rfl (by kernel_rfl) rfl R1.out.lt (R1.out.cell b (by rw [L1.out]; exact hb)) rfl,
        Grow.h2_move (Or.inl rfl) _ (Or.inl rfl) (fun ax wx hk => by have e : ax.eval (.tmp 0) = _ := hk.rest 0 (by kernel_rfl); rw [e]; rfl),
        Grow.h2_move (Or.inl rfl) _ (Or.inl rfl) (fun ax wx hk => by have e : ax.eval (.tmp 3) = _ := hk.rest 3 (by kernel_rfl); rw [e]; rfl),
        Grow.h2_idx41 (Or.inl rfl) 6 63 7 64 g cap c hc rfl (by kernel_rfl) (by kernel_rfl) rfl rfl rfl,
        Grow.h2_load23 (Or.inl rfl) 8 65 g c (S1.getD c 0) rfl (by kernel_rfl) rfl R1.out.lt (R1.out.cell c (by rw [L1.out]; exact hc)) rfl,
        Grow.h2_xor23 (Or.inl rfl) 5 62 9 66 _ _ rfl (by kernel_rfl) (by kernel_rfl) rfl rfl rfl,
        Grow.h2_move (Or.inl rfl) _ (Or.inl rfl) (fun ax wx hk => by have e : ax.eval (.tmp 10) = _ := hk.rest 10 (by kernel_rfl); rw [e]; rfl),
        Grow.h2_move (Or.inl rfl) _ (Or.inl rfl) (fun ax wx hk => by have e : ax.eval (.tmp 11) = _ := hk.rest 11 (by kernel_rfl); rw [e]; rfl),
        Grow.h2_idx64 (Or.inl rfl) 11 68 12 69 gt 4 3 (by decide) rfl (by kernel_rfl) (by kernel_rfl) rfl rfl rfl,
        Grow.h2_load3 (Or.inl rfl) 13 70 gt 3 _ rfl (by kernel_rfl) rfl (lt_of_block TT1.out) ((turns_cell TT1.out).2.2.2) rfl,
        Grow.h2_call2 (Or.inl rfl) 40 Grow.enter40 _ _ _ rfl (fun ax wx hk => by have e1 : ax.eval (.tmp 67) = .int .u32 (Ch.xr (S1.getD b 0) (S1.getD c 0)) := (hk.deps 10 67 (by kernel_rfl)); have e2 : ax.eval (.tmp 71) = .int .i64 ((7 : Nat) : Int) := (hk.deps 14 71 (by kernel_rfl)); rw [e1, e2]; refine (left_any _ 7 wx (Ch.xr_W _ _) (by decide) (by decide)).mono ?_; rintro e w5 ⟨rfl, n5, rfl⟩; exact ⟨_, rfl, rfl, below_drewN (Below.refl _ _) n5⟩),
        Grow.h2_idx41 (Or.inl rfl) 0 57 1 58 g cap b hb rfl (by kernel_rfl) (by kernel_rfl) rfl rfl rfl,
        trivial⟩ ?_
      intro o1 a1 w4 ho1 hb1 hts hk1 hdf hfr
      obtain rfl := Option.some.inj ho1
      clear ho1
      have ei : a1.eval (.tmp 73) = .pointer (some ⟨g, b, none⟩) := hk1 16 73 (by decide) rfl
      have ev : a1.eval (.tmp 72) = .int .u32 (Ch.rol (Ch.xr (S1.getD b 0) (S1.getD c 0)) 7) := hk1 15 72 (by decide) rfl
      have rb := R1.out.other (hb1.block _ R1.out.lt)
      refine ⟨rfl, Grow.wp_store23 (.tmp 73) (.tmp 72) rfl g b _ _ ei ev (rb.cell b (by rw [L1.out]; exact hb)) (rb.free b) ?_⟩
      have ha := Grow.act_after hts hdf hfr
      rw [show Grow.dsts _ 17 = [57, 58, 59, 60, 61, 62, 63, 64, 65, 66, 67, 68, 69, 70, 71, 72, 73] from by kernel_rfl] at ha
      simp only [Grow.putAll] at ha
      generalize a1.eval (.tmp 57) = u57 at ha
      generalize a1.eval (.tmp 58) = u58 at ha
      generalize a1.eval (.tmp 59) = u59 at ha
      generalize a1.eval (.tmp 60) = u60 at ha
      generalize a1.eval (.tmp 61) = u61 at ha
      generalize a1.eval (.tmp 62) = u62 at ha
      generalize a1.eval (.tmp 63) = u63 at ha
      generalize a1.eval (.tmp 64) = u64 at ha
      generalize a1.eval (.tmp 65) = u65 at ha
      generalize a1.eval (.tmp 66) = u66 at ha
      generalize a1.eval (.tmp 67) = u67 at ha
      generalize a1.eval (.tmp 68) = u68 at ha
      generalize a1.eval (.tmp 69) = u69 at ha
      generalize a1.eval (.tmp 70) = u70 at ha
      generalize a1.eval (.tmp 71) = u71 at ha
      generalize a1.eval (.tmp 72) = u72 at ha
      generalize a1.eval (.tmp 73) = u73 at ha
      simp [Act.put] at ha
      have R2 := Lib.hid (rb.set b (Ch.rol (Ch.xr (S1.getD b 0) (S1.getD c 0)) 7))
      have O2 : Hid (Only g w (w4.setCell ⟨g, b, none⟩ (.int .u32 (Ch.rol (Ch.xr (S1.getD b 0) (S1.getD c 0)) 7)))) := O1.out.trans ((Only.below hb1).trans (Only.setCell w4 b _))
      have TT2 : Hid ((w4.setCell ⟨g, b, none⟩ (.int .u32 (Ch.rol (Ch.xr (S1.getD b 0) (S1.getD c 0)) 7))).heap[gt]? = some (.cells #[.int .i64 16, .int .i64 12, .int .i64 8, .int .i64 7] 3 (0, 0))) := (heap_setCell_other w4 ⟨g, b, none⟩ gt _ (by have := HG.out; simp; omega)).trans ((hb1.block _ (lt_of_block TT1.out)).trans TT1.out)
      clear hk1 hts hdf hfr ei ev hb1 rb R1 O1 TT1 L1
      subst ha
      generalize w4.setCell ⟨g, b, none⟩ (.int .u32 (Ch.rol (Ch.xr (S1.getD b 0) (S1.getD c 0)) 7)) = w5 at *
      go_wp2
      go_roundw
      case rel => exact ⟨4, by omega, by go_num, by show Rw _ _ _; rw [HSET.out]; exact R2.out, TT2, O2⟩
      case measure => simp [intOf]
    · obtain rfl : k = 4 := by omega
      go_wp2
      go_end0
      exact ⟨rfl, RW.out, OW.out⟩
end Go.Proofs.Yticoefnojgaplaa
