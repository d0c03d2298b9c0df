/- A chain up to a message: the keys between go into the store. -/
import Derived.Test.YteojlnbonhipbaaDoorZ
namespace Go.Proofs.YteojlnbonhipbaaDoor
open Go.RowKit Go.Maps
def CK : List (Option TypeId) := [some 83, some 130, none, some 38, some 47]
theorem Kp.tc {w w' : World} (h : Kp TK w w') : Kp CK w w' := h.mono (by decide)
theorem Kp.sc {w w' : World} (h : Kp SK w w') : Kp CK w w' := h.mono (by decide)
/-- So many steps on. -/
def go {σ : Type} (I : PI σ) (of : List UInt8) : Nat → σ × List UInt8 × Nat × List Sk → σ × List UInt8 × Nat × List Sk
  | 0, x => x
  | j + 1, (s, K, n, S) => go I of j (I.st s K, I.k2 s K, n + 1, putS S ⟨of, n, I.k1 s K⟩)
/-- What lies there between two steps. -/
structure Mid {σ : Type} (I : PI σ) (w : World) (B pb sb ab rb to : Nat) (oo : Option Addr) (of : List UInt8) (fin : σ × List UInt8 × Nat × List Sk) (wr : World) (j n : Nat) (s : σ) (K : List UInt8) (S : List Sk) (ko : Option Addr) (kc : Nat) : Prop where
  to_ : to = n + j
  fin_ : go I of j (s, K, n, S) = fin
  p : I.P wr B pb s
  ok : I.ok j s K
  st : St wr B sb S
  len : S.length ≤ 32
  by_ : By wr ko K
  kc_ : 32 ≤ kc
  of_ : By wr oo of
  at_ : wr.heap[ab]? = some (.cells #[.slice ko 32 kc, .int .u32 n] 27 (0, 0))
  res : wr.heap[rb]? = some (.cells #[.slice none 0 0, .int .u32 0] 27 (0, 0))
  below : Below B w wr
  kp : Kp CK w wr
set_option maxRecDepth 20000 in
set_option maxHeartbeats 16000000 in
theorem ahead_any {σ : Type} (I : PI σ) (w : World) (B pb sb n j : Nat) (s : σ) (K of : List UInt8) (S : List Sk) (ko oo : Option Addr) (kc oc : Nat) (hP : I.P w B pb s) (hok : I.ok j s K) (hS : St w B sb S) (hSl : S.length ≤ 32) (hby : By w ko K) (hof : By w oo of) (hol : of.length ≤ 1048576) (hB : B ≤ w.heap.size) (hn : n + j < 4294967296) (hj : j ≤ 16) :
    Calls Tryd.prog 11 #[.pointer (some ⟨pb, 0, none⟩), .agg #[.slice ko 32 kc, .int .u32 n], .slice oo of.length oc, .int .u32 ((n + j : Nat) : Int), .pointer (some ⟨sb, 0, none⟩)] w fun e w' => ∃ fo fc, e = .returned (.tuple #[.agg #[.slice fo 32 fc, .int .u32 ((n + j : Nat) : Int)], .int .i64 0]) ∧ By w' fo (go I of j (s, K, n, S)).2.1 ∧ 32 ≤ fc ∧ I.P w' B pb (go I of j (s, K, n, S)).1 ∧ St w' B sb (go I of j (s, K, n, S)).2.2.2 ∧ Below B w w' ∧ Kp CK w w' := by
  have hK := I.len j s K hok
  have hb0 := Joins.below_alloc2 w (.cells #[.slice ko 32 kc, .int .u32 n] 27) (.cells #[.slice none 0 0, .int .u32 0] 27)
  have hr0 := (Below.heap_alloc (w.alloc (.cells #[.slice ko 32 kc, .int .u32 n] 27)) (.cells #[.slice none 0 0, .int .u32 0] 27) w.heap.size (by simp)).trans (heap_alloc_new w (.cells #[.slice ko 32 kc, .int .u32 n] 27))
  have hr1 := heap_alloc_new (w.alloc (.cells #[.slice ko 32 kc, .int .u32 n] 27)) (.cells #[.slice none 0 0, .int .u32 0] 27)
  rw [show (w.alloc (.cells #[.slice ko 32 kc, .int .u32 n] 27)).heap.size = w.heap.size + 1 by simp] at hr1
  have hcl := cclone_any ((w.alloc (.cells #[.slice ko 32 kc, .int .u32 n] 27)).alloc (.cells #[.slice none 0 0, .int .u32 0] 27)) ko kc K n (hby.byt.on hb0 (Nat.le_refl _)) (by omega)
  rw [hK] at hcl
  have c0 : ((w.alloc (.cells #[.slice ko 32 kc, .int .u32 n] 27)).alloc (.cells #[.slice none 0 0, .int .u32 0] 27)).cell? ⟨w.heap.size, 0, none⟩ = some (.slice ko 32 kc) := by rw [cell_of_row _ _ _ _ _ _ hr0]; rfl
  have c1 : ((w.alloc (.cells #[.slice ko 32 kc, .int .u32 n] 27)).alloc (.cells #[.slice none 0 0, .int .u32 0] 27)).cell? ⟨w.heap.size, 1, none⟩ = some (.int .u32 n) := by rw [cell_of_row _ _ _ _ _ _ hr0]; rfl
  obtain ⟨to, hto⟩ : ∃ to, to = n + j := ⟨_, rfl⟩
  obtain ⟨l, hl⟩ : ∃ l, l = of.length := ⟨_, rfl⟩
  obtain ⟨fin, hfin⟩ : ∃ fin, fin = go I of j (s, K, n, S) := ⟨_, rfl⟩
  rw [← hto, ← hl, ← hfin]
  have h1i : ¬ (to : Int) < n := by omega
  have h2i : IntKind.u32.wrap ((to : Int) - n) = ((j : Nat) : Int) := by simp [IntKind.wrap, IntKind.bits, IntKind.signed]; omega
  have h3i : ¬ (16 : Int) < ((j : Nat) : Int) := by omega
  have HCL := Lib.hid hcl
  have HL := Lib.hid (And.intro hl hol)
  have HTN := Lib.hid (show to < 4294967296 by omega)
  have HX := Lib.hid (And.intro hb0 (And.intro hr0 (And.intro hr1 (And.intro hP (And.intro hok (And.intro hS (And.intro hSl (And.intro hof (And.intro hto (And.intro hfin hn))))))))))
  clear hcl hb0 hr0 hr1 hP hok hS hSl hof hby hfin hol hl hto hn
  go_enter Tryd.func11, Tryd.ntmps11
  go_wp2_with (go_at_call 22; refine HCL.out.mono ?_; rintro e w1 ⟨ao, cap, rfl, hy, hcap, hb1⟩; refine Hid.out ?_)
  refine Lib.hid ?_
  obtain ⟨hb0, hr0, hr1, hP, hok, hS, hSl, hof, hto, hfin, hn⟩ := HX.out
  have hrl := (Array.getElem?_eq_some_iff.1 hr1).1
  have hbw := hb0.trans (hb1.mono hb0.size)
  have hba := hbw.trans ((Joins.below_alloc1 w1 (.cells #[.slice ao 32 cap, .int .u32 n] 27)).mono hbw.size)
  have hmid : Mid I w B pb sb w1.heap.size (w.heap.size + 1) to oo of fin (w1.alloc (.cells #[.slice ao 32 cap, .int .u32 n] 27)) j n s K S ao cap :=
    ⟨hto, hfin.symm, I.on hP hba, hok, hS.on hba, hSl, hy.kp (Kp.of_below [] (Joins.below_alloc1 w1 _)) (List.not_mem_nil), by omega, hof.kp (Kp.of_below [] hba) (List.not_mem_nil), heap_alloc_new w1 _, ((Joins.below_alloc1 w1 (.cells #[.slice ao 32 cap, .int .u32 n] 27)).block _ (Nat.lt_of_lt_of_le hrl hb1.size)).trans ((hb1.block _ hrl).trans hr1), hba.mono hB, Kp.of_below CK hba⟩
  have HM := Lib.hid hmid
  have hne : w.heap.size + 1 ≠ w1.heap.size := by have := hb1.size; omega
  have hwa : w.heap.size ≤ w1.heap.size := hbw.size
  clear hmid hb0 hr0 hr1 hP hok hS hSl hof hfin hbw hba hb1 hy hcap c0 c1 HX HCL hrl hto
  go_wp2
  generalize hab : w1.heap.size = ab at *
  go_loopw [13] (fun _ wr => ∃ i m t Q T qo qc, Hid (Mid I w B pb sb ab (w.heap.size + 1) to oo of fin wr i m t Q T qo qc))
    (fun _ wr => to - (intOf ((wr.cell? ⟨ab, 1, none⟩).getD undef)).toNat)
  case atStart => exact ⟨j, n, s, K, S, ao, cap, HM.out⟩
  case round =>
    obtain ⟨i, m, t, Q, T, qo, qc, HX⟩ := hrel
    have hM := HX.out
    have hml : m < 4294967296 := by have := hM.to_; have := HTN.out; omega
    have e0 : wr.cell? ⟨ab, 0, none⟩ = some (.slice qo 32 qc) := by rw [cell_of_row _ _ _ _ _ _ hM.at_]; rfl
    have e1 : wr.cell? ⟨ab, 1, none⟩ = some (.int .u32 m) := by rw [cell_of_row _ _ _ _ _ _ hM.at_]; rfl
    by_cases hi0 : i = 0
    · subst hi0
      obtain rfl : to = m := by have := hM.to_; omega
      have r0 : wr.cell? ⟨w.heap.size + 1, 0, none⟩ = some (.slice none 0 0) := by rw [cell_of_row _ _ _ _ _ _ hM.res]; rfl
      have f0 : wr.frozen? ⟨w.heap.size + 1, 0, none⟩ = false := by simp [World.frozen?, hM.res]
      have hq1 := heap_setCell_same wr (w.heap.size + 1) 0 _ 27 (.slice qo 32 qc) hM.res
      have r1 : (wr.setCell ⟨w.heap.size + 1, 0, none⟩ (.slice qo 32 qc)).cell? ⟨w.heap.size + 1, 1, none⟩ = some (.int .u32 0) := by rw [cell_of_row _ _ _ _ _ _ hq1]; rfl
      have f1 : (wr.setCell ⟨w.heap.size + 1, 0, none⟩ (.slice qo 32 qc)).frozen? ⟨w.heap.size + 1, 1, none⟩ = false := by simp [World.frozen?, hq1]
      have hq2 := heap_setCell_same _ (w.heap.size + 1) 1 _ 27 (.int .u32 to) hq1
      have HQ := Lib.hid (And.intro hq1 hq2)
      clear hM hq1 hq2
      go_wp2
      obtain ⟨hq1, hq2⟩ := HQ.out
      have hM := HX.out
      have hff := hM.fin_
      have hB1 : B ≤ w.heap.size + 1 := by omega
      have k1 := Kp.set (i := 0) hM.res (.slice qo 32 qc)
      have k2 := Kp.set (i := 1) hq1 (.int .u32 to)
      have b1 : Below B wr (wr.setCell ⟨w.heap.size + 1, 0, none⟩ (.slice qo 32 qc)) := (Below.refl B wr).setCell (p := ⟨w.heap.size + 1, 0, none⟩) hB1 _
      have b2 : Below B (wr.setCell ⟨w.heap.size + 1, 0, none⟩ (.slice qo 32 qc)) ((wr.setCell ⟨w.heap.size + 1, 0, none⟩ (.slice qo 32 qc)).setCell ⟨w.heap.size + 1, 1, none⟩ (.int .u32 to)) := (Below.refl B _).setCell (p := ⟨w.heap.size + 1, 1, none⟩) hB1 _
      refine bodyPost_ret (results_cell_tmp_row Tryd.results11 _ _ (w.heap.size + 1) 27 _ (0, 0) _ rfl hq2 Tryd.underlying27 rfl info27) rfl ⟨qo, qc, rfl, ?_, hM.kc_, ?_, ?_, (hM.below.trans b1).trans b2, (hM.kp.new (p := ⟨w.heap.size + 1, 0, none⟩) (Nat.le_succ _) _).new (p := ⟨w.heap.size + 1, 1, none⟩) (Nat.le_succ _) _⟩
      · rw [← hff]; exact (hM.by_.kp k1 (by decide)).kp k2 (by decide)
      · rw [← hff]; exact I.kp (I.kp hM.p k1 b1 (by decide)) k2 b2 (by decide)
      · rw [← hff]; exact (hM.st.kp k1 (by decide)).kp k2 (by decide)
    · obtain ⟨i, rfl⟩ : ∃ i', i = i' + 1 := ⟨i - 1, by omega⟩
      have hmt : ¬ ((m : Int) = to) := by have := hM.to_; omega
      have hst := step_any I wr B pb m i t Q qo qc hM.p hM.ok hM.by_ hM.kc_ (Nat.le_trans hB hM.kp.size) (by have := hM.to_; have := HTN.out; omega)
      have HST := Lib.hid hst
      clear hst hM
      go_wp2_with (go_at_call 10; refine HST.out.mono ?_; rintro e w4 ⟨⟨a1, c1, a2, c2, rfl, hy1, hy2, hc1, hc2⟩, hp4, hb4, hk4⟩; refine Hid.out ?_)
      refine Lib.hid ?_
      have hM := HX.out
      have hk1l := I.len1 i t Q hM.ok
      have at4 := hk4.cells hM.at_ (by decide)
      have res4 := hk4.cells hM.res (by decide)
      have hb5 := Joins.below_alloc1 w4 (.cells #[.slice a2 32 c2, .int .u32 ((m : Int) + 1)] 27)
      have row5 := heap_alloc_new w4 (.cells #[.slice a2 32 c2, .int .u32 ((m : Int) + 1)] 27)
      have at5 := (hb5.block _ (Array.getElem?_eq_some_iff.1 at4).1).trans at4
      have res5 := (hb5.block _ (Array.getElem?_eq_some_iff.1 res4).1).trans res4
      have e5 : (w4.alloc (.cells #[.slice a2 32 c2, .int .u32 ((m : Int) + 1)] 27)).cell? ⟨ab, 1, none⟩ = some (.int .u32 m) := by rw [cell_of_row _ _ _ _ _ _ at5]; rfl
      have hBr := Nat.le_trans hB hM.kp.size
      have hput := put_st (w4.alloc (.cells #[.slice a2 32 c2, .int .u32 ((m : Int) + 1)] 27)) B sb T ⟨of, m, I.k1 t Q⟩ ⟨oo, oc, a1, c1⟩ ((hM.st.kp hk4 (by decide)).on hb5) ((hM.of_.kp hk4 (by decide)).kp (Kp.of_below [] hb5) (List.not_mem_nil)) (hy1.kp (Kp.of_below [] hb5) (List.not_mem_nil)) HL.out.2 (by show (I.k1 t Q).length ≤ _; omega) hM.len (Nat.le_trans hBr (Nat.le_trans hk4.size hb5.size))
      dsimp only at hput
      rw [hk1l, ← HL.out.1] at hput
      have HPUT := Lib.hid hput
      have hp5 := I.on hp4 hb5
      have hbr5 : Below B w (w4.alloc (.cells #[.slice a2 32 c2, .int .u32 ((m : Int) + 1)] 27)) := (hM.below.trans hb4).trans (hb5.mono (Nat.le_trans hBr hk4.size))
      have hkr5 : Kp CK w (w4.alloc (.cells #[.slice a2 32 c2, .int .u32 ((m : Int) + 1)] 27)) := (hM.kp.trans hk4.tc).below hb5
      have H5 := Lib.hid (And.intro at5 (And.intro res5 (And.intro row5 (And.intro hp5 (And.intro hbr5 (And.intro hkr5 (And.intro ((hM.of_.kp hk4 (by decide)).kp (Kp.of_below [] hb5) (List.not_mem_nil)) (hy2.kp (Kp.of_below [] hb5) (List.not_mem_nil)))))))))
      have hne4 : w4.heap.size ≠ ab := by have := (Array.getElem?_eq_some_iff.1 at4).1; omega
      clear hput hp5 hbr5 hkr5 at5 res5 row5 hb5 at4 res4 hb4 hk4 hp4 hy1 hy2 hM hk1l HST
      go_wp2_with (go_at_call 15; refine HPUT.out.mono ?_; rintro e w6 ⟨rfl, hst6, hb6, hk6⟩; refine Hid.out ?_)
      refine Lib.hid ?_
      obtain ⟨at5, res5, row5, hp5, hbr5, hkr5, hof5, hy5⟩ := H5.out
      have at6 := hk6.cells at5 (by decide)
      have res6 := hk6.cells res5 (by decide)
      have row6 := hk6.cells row5 (by decide)
      have x0 : w6.cell? ⟨w4.heap.size, 0, none⟩ = some (.slice a2 32 c2) := by rw [cell_of_row _ _ _ _ _ _ row6]; rfl
      have x1 : w6.cell? ⟨w4.heap.size, 1, none⟩ = some (.int .u32 ((m : Int) + 1)) := by rw [cell_of_row _ _ _ _ _ _ row6]; rfl
      have y0 : w6.cell? ⟨ab, 0, none⟩ = some (.slice qo 32 qc) := by rw [cell_of_row _ _ _ _ _ _ at6]; rfl
      have yf : w6.frozen? ⟨ab, 0, none⟩ = false := by simp [World.frozen?, at6]
      have hq1 := heap_setCell_same w6 ab 0 _ 27 (.slice a2 32 c2) at6
      have y1 : (w6.setCell ⟨ab, 0, none⟩ (.slice a2 32 c2)).cell? ⟨ab, 1, none⟩ = some (.int .u32 m) := by rw [cell_of_row _ _ _ _ _ _ hq1]; rfl
      have yg : (w6.setCell ⟨ab, 0, none⟩ (.slice a2 32 c2)).frozen? ⟨ab, 1, none⟩ = false := by simp [World.frozen?, hq1]
      have H6 := Lib.hid (And.intro at6 (And.intro res6 (And.intro hq1 (And.intro hst6 (And.intro hb6 hk6)))))
      clear at5 res5 row5 hp5 hbr5 hkr5 hof5 hy5 at6 res6 row6 hq1 hst6 hb6 hk6 HPUT e5
      go_wp2
      go_roundw
      case rel =>
        obtain ⟨at5, res5, row5, hp5, hbr5, hkr5, hof5, hy5⟩ := H5.out
        obtain ⟨at6, res6, hq1, hst6, hb6, hk6⟩ := H6.out
        have hM := HX.out
        have hq2 := heap_setCell_same _ ab 1 _ 27 (.int .u32 ((m : Int) + 1)) hq1
        have k1 := Kp.set (i := 0) at6 (.slice a2 32 c2)
        have k2 := Kp.set (i := 1) hq1 (.int .u32 ((m : Int) + 1))
        have hBa : B ≤ ab := by omega
        have b1 : Below B w6 (w6.setCell ⟨ab, 0, none⟩ (.slice a2 32 c2)) := (Below.refl B w6).setCell (p := ⟨ab, 0, none⟩) hBa _
        have b2 : Below B (w6.setCell ⟨ab, 0, none⟩ (.slice a2 32 c2)) ((w6.setCell ⟨ab, 0, none⟩ (.slice a2 32 c2)).setCell ⟨ab, 1, none⟩ (.int .u32 ((m : Int) + 1))) := (Below.refl B _).setCell (p := ⟨ab, 1, none⟩) hBa _
        refine ⟨i, m + 1, I.st t Q, I.k2 t Q, putS T ⟨of, m, I.k1 t Q⟩, a2, c2, ⟨by have := hM.to_; omega, hM.fin_, I.kp (I.kp (I.kp hp5 hk6 hb6 (by decide)) k1 b1 (by decide)) k2 b2 (by decide), I.next i t Q hM.ok, (hst6.kp k1 (by decide)).kp k2 (by decide), putS_len _ _ hM.len, (((hy5.kp hk6 (by decide)).kp k1 (by decide)).kp k2 (by decide)), hc2, (((hof5.kp hk6 (by decide)).kp k1 (by decide)).kp k2 (by decide)), hq2, ?_, ((hbr5.trans hb6).trans b1).trans b2, ((hkr5.trans hk6.sc).new (p := ⟨ab, 0, none⟩) hwa _).new (p := ⟨ab, 1, none⟩) hwa _⟩⟩
        rw [Below.heap_setCell _ _ _ _ hne, Below.heap_setCell _ _ _ _ hne]
        exact res6
      case measure =>
        obtain ⟨at6, res6, hq1, -⟩ := H6.out
        have hq2 := heap_setCell_same _ ab 1 _ 27 (.int .u32 ((m : Int) + 1)) hq1
        have hM := HX.out
        rw [cell_of_row _ _ _ _ _ _ hq2, e1]
        have := hM.to_
        simp [intOf]
        omega
end Go.Proofs.YteojlnbonhipbaaDoor
