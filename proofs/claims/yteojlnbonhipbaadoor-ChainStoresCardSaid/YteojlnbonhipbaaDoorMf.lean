/- A new term put into a table. -/
import Derived.Test.YteojlnbonhipbaaDoorMg
namespace Go.Proofs.YteojlnbonhipbaaDoor
open Go.RowKit Go.Maps
theorem info25b : (Tryd.prog.info? 130).map (fun i => (i.zero, i.size, i.bytes)) = some (some (.agg #[.int .u8 0, .slice none 0 0, .string ByteArray.empty, .int .i64 0]), 4, 56) := by kernel_rfl
theorem cell_four_new (w : World) (a b c d : Value) (t : TypeId) : ∀ j u, [a, b, c, d][j]? = some u → (w.alloc (.cells #[a, b, c, d] t)).cell? ((⟨w.heap.size, 0, none⟩ : Addr).add j) = some u := by
  intro j u h
  have e : (⟨w.heap.size, 0, none⟩ : Addr).add j = ⟨w.heap.size, j, none⟩ := by
    unfold Addr.add
    split
    · rename_i h0; subst h0; rfl
    · simp
  rw [e, cell_of_row _ _ _ _ _ _ (heap_alloc_new w _), ← h]
  simp
/-- The first map of a table. -/
theorem tab_made {w : World} {B tb : Nat} {tv : Value} (h : Tab w B tb tv (.map none) []) (hB : B ≤ w.heap.size) : Tab ((w.setCell ⟨tb, 1, none⟩ (.map (some w.heap.size))).alloc (.map #[] 0)) B tb tv (.map (some w.heap.size)) [] := by
  have hlt := h.lt
  have hsz : (w.setCell ⟨tb, 1, none⟩ (.map (some w.heap.size))).heap.size = w.heap.size := by simp [World.setCell]
  have hb : Below w.heap.size (w.setCell ⟨tb, 1, none⟩ (.map (some w.heap.size))) ((w.setCell ⟨tb, 1, none⟩ (.map (some w.heap.size))).alloc (.map #[] 0)) := by
    have := Joins.below_alloc1 (w.setCell ⟨tb, 1, none⟩ (.map (some w.heap.size))) (.map #[] 0)
    rwa [hsz] at this
  have hr := heap_setCell_same _ tb 1 _ 83 (.map (some w.heap.size)) h.row
  refine ⟨h.tbB, (hb.block tb hlt).trans hr, ?_, h.ne, fun e he => absurd he (List.not_mem_nil), List.Pairwise.nil, .inr ⟨w.heap.size, .map [], rfl, by omega, fun e => ?_, hB, ?_, keys_nil⟩⟩
  · obtain ⟨h1, h2⟩ := h.own
    refine ⟨h1, ?_⟩
    rcases h2 with h2 | ⟨g, cap, cur, rfl, hg, hc, h3⟩
    · exact .inl h2
    · refine .inr ⟨g, cap, cur, rfl, hg, ?_, h3⟩
      rw [hb.block g (Array.getElem?_eq_some_iff.1 hc).1, Below.heap_setCell _ _ _ _ (fun e => h.ne (by rw [e]; rfl))]
      exact hc
  · obtain ⟨h1, h2⟩ := h.own.lt _ e
    omega
  · have := World.ownsMap_made (w.setCell ⟨tb, 1, none⟩ (.map (some w.heap.size))) Tryd.prog 9 (plainElem (H := Unit) Tryd.prog 3)
    rwa [hsz] at this
theorem eq_nil (w : World) : (binOp .eql 81 (.map none) (.map none)).run Tryd.prog w = .ok (.bool true) w := by kernel_rfl
theorem eq_some (mb : Nat) (w : World) : (binOp .eql 81 (.map (some mb)) (.map none)).run Tryd.prog w = .ok (.bool false) w := by kernel_rfl
set_option maxRecDepth 20000 in
set_option maxHeartbeats 8000000 in
theorem put_new (t : Tm) (hf : Fit t) (ao : Option Addr) (cap : Nat) (w : World) (hG : Gv w) (hN : Nums w ao t.of) (B tb : Nat) (tv mv : Value) (E : List En) (hT : Tab w B tb tv mv E) (hB : B ≤ w.heap.size) (hE : E.length ≤ 1048576) (hnew : t ∉ E.map (·.1)) :
    Calls Tryd.prog 93 #[.pointer (some ⟨tb, 0, none⟩), .agg #[.int .u8 t.k, .slice ao t.of.length cap, .string ⟨t.tx.toArray⟩, .int .i64 t.n]] w fun e w' => e = .returned (.int .i64 E.length) ∧ Below B w w' ∧ ∃ tv' mv' ao' cap', Tab w' B tb tv' mv' (E ++ [(t, ao', cap')]) ∧ (∀ b, b < w.heap.size → ¬ Foot tb tv mv b → w'.heap[b]? = w.heap[b]? ∧ ¬ Foot tb tv' mv' b) ∧ ∀ a, ao' = some a → w.heap.size ≤ a.block := by
  have hb0 := Joins.below_alloc1 w (.cells #[.int .u8 t.k, .slice ao t.of.length cap, .string ⟨t.tx.toArray⟩, .int .i64 t.n] 130)
  have hx0 := Boxed.new w (.int .u8 t.k) (.slice ao t.of.length cap) (.string ⟨t.tx.toArray⟩) (.int .i64 t.n)
  have hnm := name_of t hf ao cap _ (hG.on hb0) (hN.on hb0 (Nat.le_refl _))
  have hT0 := hT.on hb0
  have hkey := nm_key t hf
  have hlk := fun w => Maps.look_nil (w := w) true law Tryd.underlying81 (zero3 w) hkey
  obtain ⟨pre, hpre⟩ : ∃ pre, pre = Tm.hd t.k t.n t.of t.of.length ++ [58] := ⟨_, rfl⟩
  have hnmd : nmB t = ⟨(pre ++ t.tx).toArray⟩ := by rw [hpre, Tm.hd_all]; rfl
  have a0 := hx0.c0
  have a1 := hx0.c1
  have a2 := hx0.c2
  have a3 := hx0.c3
  obtain ⟨nm, hn1⟩ : ∃ nm, nm = nmB t := ⟨_, rfl⟩
  obtain ⟨tx, ht1⟩ : ∃ tx : ByteArray, tx = ⟨t.tx.toArray⟩ := ⟨_, rfl⟩
  obtain ⟨k, hk1⟩ : ∃ k, k = t.k := ⟨_, rfl⟩
  obtain ⟨n, hn2⟩ : ∃ n, n = t.n := ⟨_, rfl⟩
  obtain ⟨L, hL1⟩ : ∃ L, L = t.of.length := ⟨_, rfl⟩
  obtain ⟨N, hN1⟩ : ∃ N, N = E.length := ⟨_, rfl⟩
  rw [← hN1] at hE ⊢
  rw [← hn1] at hnm hkey hlk
  rw [← ht1, ← hk1, ← hn2, ← hL1] at hb0 hx0 hnm hT0 a0 a1 a2 a3 ⊢
  generalize hw0 : w.alloc (.cells #[.int .u8 k, .slice ao L cap, .string tx, .int .i64 n] 130) = w0 at *
  have HX := Lib.hid hx0
  have HB := Lib.hid hb0
  have HT0 := Lib.hid hT0
  have HK := Lib.hid hkey
  have HLK := Lib.hid hlk
  have HND := Lib.hid hnmd
  have HE := Lib.hid hE
  have HV := Lib.hid (And.intro hn1 (And.intro ht1 (And.intro hk1 (And.intro hn2 (And.intro hL1 hN1)))))
  have HTw := Lib.hid hT
  clear hx0 hb0 hT0 hkey hlk hnmd hpre hn1 ht1 hk1 hn2 hL1 hN1 hE hT
  go_enter Tryd.func93, Tryd.ntmps93
  go_wp2_with (go_at_call 95; refine hnm.mono ?_; rintro e w1 ⟨rfl, hb1⟩; refine Hid.out ?_)
  refine Lib.hid ?_
  have hT1 := HT0.out.on hb1
  have hx1 := HX.out.on hb1 HX.out.lt
  have hw1 := HB.out.trans (hb1.mono HB.out.size)
  have hr1 : w1.heap[w.heap.size]? = some (.cells #[.int .u8 k, .slice ao L cap, .string tx, .int .i64 n] 130 (0, 0)) := by
    rw [hb1.block _ HX.out.lt, ← hw0]
    exact heap_alloc_new w _
  clear a0 a1 a2 a3 hw0 hb1 hnm
  have t0 : w1.cell? ⟨tb, 0, none⟩ = some tv := by rw [cell_of_row _ _ _ _ _ _ hT1.row]; rfl
  have t1 : w1.cell? ⟨tb, 1, none⟩ = some mv := by rw [cell_of_row _ _ _ _ _ _ hT1.row]; rfl
  have f1 : w1.frozen? ⟨tb, 1, none⟩ = false := by simp [World.frozen?, hT1.row]
  rcases hT1.mp with ⟨rfl, hE0⟩ | ⟨mb, D, rfl, h2, h3, h4, h5, hK⟩
  · have hl1 := HLK.out w1
    have hmm := @run_makeMap Tryd.prog
    obtain ⟨tvo, tvc, htv⟩ := own_slice hT1.own
    rw [← HV.out.2.2.2.2.2] at htv
    subst htv
    have hz := hT1
    rw [hE0] at hz
    have hz := tab_made hz (Nat.le_trans hB hw1.size)
    rw [← hE0] at hz
    have HE0 := Lib.hid hE0
    clear hE0
    have he := eq_nil
    have hTa := hT1.on (Joins.below_alloc1 w1 (.map #[] 0))
    have z0 : (w1.alloc (.map #[] 0)).cell? ⟨tb, 0, none⟩ = some (.slice tvo N tvc) := by rw [cell_of_row _ _ _ _ _ _ hTa.row]; rfl
    have z1 : (w1.alloc (.map #[] 0)).cell? ⟨tb, 1, none⟩ = some (.map none) := by rw [cell_of_row _ _ _ _ _ _ hTa.row]; rfl
    have zf : (w1.alloc (.map #[] 0)).frozen? ⟨tb, 1, none⟩ = false := by simp only [World.frozen?, hTa.row]; simp
    have y0 : ((w1.setCell ⟨tb, 1, none⟩ (.map (some w1.heap.size))).alloc (.map #[] 0)).cell? ⟨tb, 0, none⟩ = some (.slice tvo N tvc) := by rw [cell_of_row _ _ _ _ _ _ hz.row]; rfl
    have y1 : ((w1.setCell ⟨tb, 1, none⟩ (.map (some w1.heap.size))).alloc (.map #[] 0)).cell? ⟨tb, 1, none⟩ = some (.map (some w1.heap.size)) := by rw [cell_of_row _ _ _ _ _ _ hz.row]; rfl
    have hsz1 : (w1.setCell ⟨tb, 1, none⟩ (.map (some w1.heap.size))).heap.size = w1.heap.size := by simp [World.setCell]
    have htw := HTw.out.lt
    have htl1 : tb < w1.heap.size := hT1.lt
    have hx1l := (Array.getElem?_eq_some_iff.1 hr1).1
    have hold : ∀ b, b < w1.heap.size → b ≠ tb → ((w1.setCell ⟨tb, 1, none⟩ (.map (some w1.heap.size))).alloc (.map #[] 0)).heap[b]? = w1.heap[b]? := fun b q1 q2 => (Below.heap_alloc _ _ b (by omega)).trans (Below.heap_setCell _ _ _ _ q2)
    have hb2 : Below B w ((w1.setCell ⟨tb, 1, none⟩ (.map (some w1.heap.size))).alloc (.map #[] 0)) := ((hw1.mono hB).setCell (p := ⟨tb, 1, none⟩) hT1.tbB _).alloc (by have := hw1.size; omega) _
    have hr2 := (hold w.heap.size hx1l (by omega)).trans hr1
    have hfr2 : ∀ b, b < w.heap.size → b ≠ tb → ((w1.setCell ⟨tb, 1, none⟩ (.map (some w1.heap.size))).alloc (.map #[] 0)).heap[b]? = w.heap[b]? := fun b q1 q2 => (hold b (by have := hw1.size; omega) q2).trans (hw1.block b q1)
    have hN2 : Nums ((w1.setCell ⟨tb, 1, none⟩ (.map (some w1.heap.size))).alloc (.map #[] 0)) ao t.of := by
      refine ⟨fun q hq => ?_⟩
      obtain ⟨b, off, r1, r2, r3⟩ := hN.at_ q hq
      have n1 := nums_not HTw.out r3
      exact ⟨b, off, r1, Nat.lt_of_lt_of_le r2 hb2.size, (World.cell?_of_block (w := w) (a := ⟨b, off + q, none⟩) (hfr2 b r2 n1)).trans r3⟩
    have HMB : Hid (∀ b, b < w.heap.size → ¬ Foot tb (.slice tvo N tvc) (.map none) b → b ≠ w1.heap.size) := fun b q1 _ => by have := hw1.size; omega
    have hmw : w1.heap.size < w.heap.size → ∃ es c, w.heap[w1.heap.size]? = some (.map es c) := fun h => by have := hw1.size; omega
    go_wp2_with (at_mapUpdate; refine Hid.out ?_)
    have hT2 := hz
    clear t0 t1 f1 he hl1 hmm htl1 z0 z1 zf y0 y1 hTa hold hx1l htw hsz1 HLK
    generalize (w1.setCell ⟨tb, 1, none⟩ (.map (some w1.heap.size))).alloc (.map #[] 0) = w2 at *
    generalize w1.heap.size = mb at *
    rcases hz.mp with ⟨h, -⟩ | ⟨mb', D, hme, h2, h3, h4, h5, hK⟩
    · cases h
    injection hme with hme
    injection hme with hme
    subst hme
    have hmp := And.intro h2 (And.intro h3 (And.intro h4 (And.intro h5 hK)))
    clear hz h2 h3 h4 h5 hK
    refine Lib.hid ?_
    obtain ⟨hmt, hmr, hmB, hmo, hmK⟩ : mb ≠ tb ∧ (Value.slice tvo N tvc).ownBlock ≠ some mb ∧ B ≤ mb ∧ w2.ownsMap Tryd.prog 9 (plainElem (H := Unit) Tryd.prog 3) mb E.length D ∧ Keys D E := hmp
    rw [← HV.out.2.2.2.2.2] at hmo
    have hmx : mb ≠ w.heap.size := fun e => by
      obtain ⟨es, c, h, -⟩ := hmo
      rw [e, hr2] at h
      cases h
    have hwf : (Lit.int .i64 (N : Int)).wf = true := by
      have := HE.out
      have e1 : IntKind.i64.min = -9223372036854775808 := rfl
      have e2 : IntKind.i64.max = 9223372036854775807 := rfl
      simp only [Lit.wf, Bool.and_eq_true, decide_eq_true_eq]
      omega
    refine wpList_mapUpdate_own _ rfl _ _ _ 81 rfl 9 3 law Tryd.underlying81 _ mb N _ rfl hmo (by have := HE.out; unfold maxLen; omega) _ _ _ rfl rfl HK.out _ [] (plainElem_int Tryd.underlying3 hwf) ?_
    intro w3 hown3 hgrow3
    have htb3 : w3.heap[tb]? = some (.cells #[.slice tvo N tvc, .map (some mb)] 83 (0, 0)) := (hgrow3.block tb hT2.lt (fun e => hmt (by injection e with e; exact e.symm))).trans hT2.row
    have hbx3 : w3.heap[w.heap.size]? = some (.cells #[.int .u8 k, .slice ao L cap, .string tx, .int .i64 n] 130 (0, 0)) := (hgrow3.block _ (Array.getElem?_eq_some_iff.1 hr2).1 (fun e => hmx (by injection e with e; exact e.symm))).trans hr2
    have hrow3 := hT2.own.kept hgrow3 (.inr hmr)
    have c1 : w3.cell? ⟨w.heap.size, 1, none⟩ = some (.slice ao L cap) := by rw [cell_of_row _ _ _ _ _ _ hbx3]; rfl
    have hN3 : Nums w3 ao t.of := by
      refine ⟨fun q hq => ?_⟩
      obtain ⟨b, off, r1, r2, r3⟩ := hN2.at_ q hq
      have hbm : b ≠ mb := fun e => by
        obtain ⟨es, c, h, -⟩ := hmo
        rw [e] at r3
        simp [World.cell?, h] at r3
      exact ⟨b, off, r1, Nat.lt_of_lt_of_le r2 hgrow3.size, (World.cell?_of_block (w := w2) (a := ⟨b, off + q, none⟩) (hgrow3.block b r2 (fun e => hbm (by injection e)))).trans r3⟩
    have hcl := clone_nums ao cap t.of w3 hN3 hf.of
    rw [← HV.out.2.2.2.2.1] at hcl
    have HCL := Lib.hid hcl
    clear hcl
    go_wp2_with (go_at_call 96; refine HCL.out.mono ?_; rintro e w4 ⟨ao', cap', rfl, hN4, hnew4, hb4⟩; refine Hid.out ?_)
    refine Lib.hid ?_
    have hbx4 := (hb4.block _ (Array.getElem?_eq_some_iff.1 hbx3).1).trans hbx3
    have hbx5 := heap_setCell_same w4 w.heap.size 1 _ 130 (.slice ao' L cap') hbx4
    have f4 : w4.frozen? ⟨w.heap.size, 1, none⟩ = false := by simp [World.frozen?, hbx4]
    have d1 : w4.cell? ⟨w.heap.size, 1, none⟩ = some (.slice ao L cap) := by rw [cell_of_row _ _ _ _ _ _ hbx4]; rfl
    have f5 : (w4.setCell ⟨w.heap.size, 1, none⟩ (.slice ao' L cap')).frozen? ⟨w.heap.size, 2, none⟩ = false := by simp [World.frozen?, hbx5]
    have d2 : (w4.setCell ⟨w.heap.size, 1, none⟩ (.slice ao' L cap')).cell? ⟨w.heap.size, 2, none⟩ = some (.string tx) := by rw [cell_of_row _ _ _ _ _ _ hbx5]; rfl
    obtain ⟨P, hP⟩ : ∃ P, P = pre.length := ⟨_, rfl⟩
    have hns : nm.size = P + tx.size := by
      rw [HV.out.1, HND.out, HV.out.2.1, hP]
      show (pre ++ t.tx).toArray.size = pre.length + t.tx.toArray.size
      simp
    have hsub : wrap64 ((nm.size : Int) - (tx.size : Int)) = (P : Int) := by
      have := nm_len t hf
      rw [← HV.out.1] at this
      unfold wrap64
      omega
    have hex : nm.extract P nm.size = tx := by
      rw [Lib.extract_eq, HV.out.1, HND.out, HV.out.2.1, hP]
      have e : (⟨(pre ++ t.tx).toArray⟩ : ByteArray).size = pre.length + t.tx.length := by show (pre ++ t.tx).toArray.size = _; simp
      rw [e]
      simp
    have hPle : P ≤ nm.size := by omega
    have HNS := Lib.hid hns
    have HBX5 := Lib.hid hbx5
    clear hns hP hbx5 c1 HCL
    go_wp2_with fail
    have hbx6 := heap_setCell_same (w4.setCell ⟨w.heap.size, 1, none⟩ (.slice ao' L cap')) w.heap.size 2 _ 130 (.string tx) HBX5.out
    have hs6 : ((w4.setCell ⟨w.heap.size, 1, none⟩ (.slice ao' L cap')).setCell ⟨w.heap.size, 2, none⟩ (.string tx)).heap.size = w4.heap.size := by simp [World.setCell]
    have h46 : ∀ b, b ≠ w.heap.size → ((w4.setCell ⟨w.heap.size, 1, none⟩ (.slice ao' L cap')).setCell ⟨w.heap.size, 2, none⟩ (.string tx)).heap[b]? = w4.heap[b]? := fun b hbn => (Below.heap_setCell _ _ _ _ hbn).trans (Below.heap_setCell _ _ _ _ hbn)
    have hb46 : Below w.heap.size w4 ((w4.setCell ⟨w.heap.size, 1, none⟩ (.slice ao' L cap')).setCell ⟨w.heap.size, 2, none⟩ (.string tx)) := ((Below.refl w.heap.size w4).setCell (p := ⟨w.heap.size, 1, none⟩) (Nat.le_refl _) _).setCell (p := ⟨w.heap.size, 2, none⟩) (Nat.le_refl _) _
    generalize (w4.setCell ⟨w.heap.size, 1, none⟩ (.slice ao' L cap')).setCell ⟨w.heap.size, 2, none⟩ (.string tx) = w6 at *
    have hbx3l := (Array.getElem?_eq_some_iff.1 hbx3).1
    have htb3l := (Array.getElem?_eq_some_iff.1 htb3).1
    have htb6 : w6.heap[tb]? = some (.cells #[.slice tvo N tvc, .map (some mb)] 83 (0, 0)) := by
      have e : tb ≠ w.heap.size := by have := HTw.out.lt; omega
      rw [h46 tb e, hb4.block tb htb3l]; exact htb3
    have hrow6 : w6.ownsRow B 130 4 (.slice tvo N tvc) N (flat E) := by
      have h1 := owns_on hrow3 hb4
      rw [← HV.out.2.2.2.2.2] at h1
      obtain ⟨q1, q2⟩ := h1
      refine ⟨q1, ?_⟩
      rcases q2 with q2 | ⟨g, c2, cur, q3, q4, q5, q6⟩
      · exact .inl q2
      · refine .inr ⟨g, c2, cur, q3, q4, ?_, q6⟩
        have hgl : g < w.heap.size := (HTw.out.own.lt g (by rw [q3]; rfl)).2
        rw [h46 g (by omega)]
        exact q5
    have hmap6 : w6.ownsMap Tryd.prog 9 (plainElem (H := Unit) Tryd.prog 3) mb (N + 1) (D.put (.string nm.data.toList) (.lit (.int .i64 N))) := by
      have h1 := hown3.kept (grown_of hb4) (by simp)
      obtain ⟨es, c2, q1, q2⟩ := h1
      exact ⟨es, c2, (h46 mb hmx).trans q1, q2⟩
    have hb6 : Below B w w6 := by
      have h1 : Below B w w3 := Below.grown hb2 hgrow3 (by have := hb2.size; omega) (fun q hq => by injection hq with hq; omega)
      exact (h1.trans (hb4.mono (by have := h1.size; omega))).trans (hb46.mono hB)
    have hfr : ∀ b, b < w.heap.size → b ≠ tb → b ≠ mb → w6.heap[b]? = w.heap[b]? := fun b q1 q2 q3 => by
      rw [h46 b (by omega), hb4.block b (by omega), hgrow3.block b (by have := (Array.getElem?_eq_some_iff.1 hr2).1; omega) (fun e => q3 (by injection e))]
      exact hfr2 b q1 q2
    have hN6 : Nums w6 ao' t.of := by
      refine ⟨fun q hq => ?_⟩
      obtain ⟨b, off, r1, r2, r3⟩ := hN4.at_ q hq
      have h1 := hnew4 _ r1
      have h1 : w3.heap.size ≤ b := h1
      exact ⟨b, off, r1, by rw [hs6]; exact r2, (World.cell?_of_block (w := w4) (a := ⟨b, off + q, none⟩) (h46 b (by omega))).trans r3⟩
    have hn6 : ∀ a, ao' = some a → a.block ≠ tb ∧ (Value.slice tvo N tvc).ownBlock ≠ some a.block := fun a ha => by
      have h1 := hnew4 a ha
      refine ⟨by omega, fun e => ?_⟩
      have h2 := (HTw.out.own.lt _ e).2
      omega
    have HNW : Hid (∀ a, ao' = some a → w.heap.size ≤ a.block) := fun a ha => by
      have h1 := hnew4 a ha
      omega
    have hsz6 : w.heap.size < w6.heap.size := (Array.getElem?_eq_some_iff.1 hbx6).1
    have hDm := hmo.isMap
    have hen : enV (t, ao', cap') = [.int .u8 k, .slice ao' L cap', .string tx, .int .i64 n] := by
      obtain ⟨-, v2, v3, v4, v5, -⟩ := HV.out
      rw [v2, v3, v4, v5]
      rfl
    have HFIN : Hid (∀ (v' : Value) (w7 : World), w7.ownsRow B 130 4 v' (N + 1) (flat E ++ [.int .u8 k, .slice ao' L cap', .string tx, .int .i64 n]) → (w6.drew.alloc (.cells #[.int .u8 k, .slice ao' L cap', .string tx, .int .i64 n] 130)).grownBy w7 (Value.slice tvo N tvc).ownBlock → (v'.ownBlock = (Value.slice tvo N tvc).ownBlock ∨ v'.ownBlock = some (w6.drew.alloc (.cells #[.int .u8 k, .slice ao' L cap', .string tx, .int .i64 n] 130)).heap.size) →
        ∃ g c, v' = .slice (some ⟨g, 0, none⟩) (N + 1) c ∧ w7.cell? ⟨tb, 0, none⟩ = some (.slice tvo N tvc) ∧ w7.frozen? ⟨tb, 0, none⟩ = false ∧ Hid (Below B w (w7.setCell ⟨tb, 0, none⟩ (.slice (some ⟨g, 0, none⟩) (N + 1) c)) ∧ Tab (w7.setCell ⟨tb, 0, none⟩ (.slice (some ⟨g, 0, none⟩) (N + 1) c)) B tb (.slice (some ⟨g, 0, none⟩) (N + 1) c) (.map (some mb)) (E ++ [(t, ao', cap')]) ∧ ∀ b, b < w.heap.size → b ≠ tb → b ≠ mb → (Value.slice tvo N tvc).ownBlock ≠ some b → (w7.setCell ⟨tb, 0, none⟩ (.slice (some ⟨g, 0, none⟩) (N + 1) c)).heap[b]? = w.heap[b]? ∧ (Value.slice (some ⟨g, 0, none⟩) (N + 1) c).ownBlock ≠ some b)) := by
      intro v' w7 q1 q2 q3
      have q4 : (w6.alloc (.cells #[.int .u8 k, .slice ao' L cap', .string tx, .int .i64 n] 130)).grownBy w7 (Value.slice tvo N tvc).ownBlock := ⟨q2.os, q2.tape, q2.output, q2.size, q2.block⟩
      have q5 : w7.ownsRow B 130 4 v' (E.length + 1) (flat E ++ enV (t, ao', cap')) := by rw [hen, ← HV.out.2.2.2.2.2]; exact q1
      have q6 : w6.ownsMap Tryd.prog 9 (plainElem (H := Unit) Tryd.prog 3) mb (E.length + 1) (D.put (.string (nmB t).data.toList) (.lit (.int .i64 E.length))) := by rw [← HV.out.1, ← HV.out.2.2.2.2.2]; exact hmap6
      obtain ⟨p1, p2, p3, p4, p5⟩ := put_fin HTw.out hf hnew hb6 hsz6 htb6 q6 hmK hDm hmt hmr hmB hB hmw hfr hN6 hn6 q5 q4 q3
      rcases q1.2 with ⟨-, h0⟩ | ⟨g, c, cur, rfl, -⟩
      · omega
      · exact ⟨g, c, rfl, p1, p2, p4, p3, p5⟩
    obtain ⟨i0, hi, hz0, hz1, hz2⟩ := info_parts info25b
    have g0 : w6.cell? ⟨w.heap.size, 0, none⟩ = some (.int .u8 k) := by rw [cell_of_row _ _ _ _ _ _ hbx6]; rfl
    have g1 : w6.cell? ⟨w.heap.size, 1, none⟩ = some (.slice ao' L cap') := by rw [cell_of_row _ _ _ _ _ _ hbx6]; rfl
    have g2 : w6.cell? ⟨w.heap.size, 2, none⟩ = some (.string tx) := by rw [cell_of_row _ _ _ _ _ _ hbx6]; rfl
    have g3 : w6.cell? ⟨w.heap.size, 3, none⟩ = some (.int .i64 n) := by rw [cell_of_row _ _ _ _ _ _ hbx6]; rfl
    have tb0 : w6.cell? ⟨tb, 0, none⟩ = some (.slice tvo N tvc) := by rw [cell_of_row _ _ _ _ _ _ htb6]; rfl
    have tb0a : (w6.alloc (.cells #[.int .u8 k, .slice ao' L cap', .string tx, .int .i64 n] 130)).cell? ⟨tb, 0, none⟩ = some (.slice tvo N tvc) := by
      have := (Joins.below_alloc1 w6 (.cells #[.int .u8 k, .slice ao' L cap', .string tx, .int .i64 n] 130)).cell (p := ⟨tb, 0, none⟩) (Array.getElem?_eq_some_iff.1 htb6).1
      rw [this]; exact tb0
    have HB6 := Lib.hid hb6
    clear hn6 hN6 hen hDm hfr hb6 hmap6 hbx6 h46 hb46 hs6 hbx3 hbx4 hN4 hnew4 hb4 hnew f4 f5 d1 d2 hsub hex hPle hmo hmK hown3 hgrow3 htb3 hrow3 hN3 hr2 hr1 hfr2
    go_region_law (refine step_append_at rfl (.tmp 61) (.tmp 63) 80 rfl B 130 i0 (.agg #[.int .u8 0, .slice none 0 0, .string ByteArray.empty, .int .i64 0]) 4 56 Tryd.underlying80 hi hz0 hz1 hz2 rfl (by decide) (.slice tvo N tvc) N (flat E) (by simp [Act.eval]) (hrow6.drew.alloc _) ⟨w6.heap.size, 0, none⟩ 1 1 [.int .u8 k, .slice ao' L cap', .string tx, .int .i64 n] (by simp [Act.eval]) rfl (cell_four_new _ _ _ _ _ _) (fun x hx => by simp at hx; rcases hx with rfl | rfl | rfl | rfl <;> rfl) (by have := HE.out; unfold maxLen; omega) (by have := HE.out; omega) (by have := HB6.out.size; simp; omega) ?_; intro v2 w7 hown7 hgrow7 hloc7; obtain ⟨g, cc, rfl, c0', f0', HFW⟩ := HFIN.out v2 w7 hown7 hgrow7 hloc7)
    all_goals (
      go_wp2
      go_ret
      refine ⟨rfl, HFW.out.1, _, _, ao', cap', HFW.out.2.1, fun b q1 q2 => ?_, HNW.out⟩
      have hbm := HMB.out b q1 q2
      obtain ⟨q3, q4⟩ := HFW.out.2.2 b q1 (fun e => q2 (.inl e)) hbm (fun e => q2 (.inr (.inl e)))
      exact ⟨q3, fun e => e.elim (fun e => q2 (.inl e)) (fun e => e.elim q4 (fun e => hbm (by injection e with e; injection e with e; exact e.symm)))⟩)
  · have hl := hK.has t hf.ok
    rw [decide_eq_false hnew, ← HV.out.1] at hl
    have HHas := Lib.hid hl
    have he := eq_some mb
    obtain ⟨tvo, tvc, htv⟩ := own_slice hT1.own
    rw [← HV.out.2.2.2.2.2] at htv
    subst htv
    have hK2 := Lib.hid hK
    clear hl hK HLK
    go_wp2_with (first
      | (at_lookup; refine wpList_lookup_own_ok_int _ rfl _ _ 81 rfl 9 3 .i64 law Tryd.underlying81 Tryd.underlying3 (zero3 _) mb _ D rfl h5 _ _ rfl HK.out ?_; intro c hat hwc; rw [HHas.out]; clear hat hwc)
      | (at_mapUpdate; refine Hid.out ?_))
    clear t0 t1 f1 he HHas
    have hb2 : Below B w w1 := hw1.mono hB
    have hr2 : w1.heap[w.heap.size]? = some (.cells #[.int .u8 k, .slice ao L cap, .string tx, .int .i64 n] 130 (0, 0)) := hr1
    have HMB : Hid (∀ b, b < w.heap.size → ¬ Foot tb (.slice tvo N tvc) (.map (some mb)) b → b ≠ mb) := fun b _ q2 e => q2 (.inr (.inr (by rw [e])))
    have hmw : mb < w.heap.size → ∃ es c, w.heap[mb]? = some (.map es c) := fun _ => by
      rcases HTw.out.mp with ⟨h, -⟩ | ⟨mb', D', h, -, -, -, ⟨es, c, h', -⟩, -⟩
      · cases h
      · injection h with h
        injection h with h
        subst h
        exact ⟨es, c, h'⟩
    have hfr2 : ∀ b, b < w.heap.size → b ≠ tb → w1.heap[b]? = w.heap[b]? := fun b q1 _ => hw1.block b q1
    have hmp := And.intro h2 (And.intro h3 (And.intro h4 (And.intro h5 hK2.out)))
    have hT2 := hT1
    have hN2 := hN.on hw1 (Nat.le_refl _)
    clear h2 h3 h4 h5
    generalize w1 = w2 at *
    refine Lib.hid ?_
    obtain ⟨hmt, hmr, hmB, hmo, hmK⟩ : mb ≠ tb ∧ (Value.slice tvo N tvc).ownBlock ≠ some mb ∧ B ≤ mb ∧ w2.ownsMap Tryd.prog 9 (plainElem (H := Unit) Tryd.prog 3) mb E.length D ∧ Keys D E := hmp
    rw [← HV.out.2.2.2.2.2] at hmo
    have hmx : mb ≠ w.heap.size := fun e => by
      obtain ⟨es, c, h, -⟩ := hmo
      rw [e, hr2] at h
      cases h
    have hwf : (Lit.int .i64 (N : Int)).wf = true := by
      have := HE.out
      have e1 : IntKind.i64.min = -9223372036854775808 := rfl
      have e2 : IntKind.i64.max = 9223372036854775807 := rfl
      simp only [Lit.wf, Bool.and_eq_true, decide_eq_true_eq]
      omega
    refine wpList_mapUpdate_own _ rfl _ _ _ 81 rfl 9 3 law Tryd.underlying81 _ mb N _ rfl hmo (by have := HE.out; unfold maxLen; omega) _ _ _ rfl rfl HK.out _ [] (plainElem_int Tryd.underlying3 hwf) ?_
    intro w3 hown3 hgrow3
    have htb3 : w3.heap[tb]? = some (.cells #[.slice tvo N tvc, .map (some mb)] 83 (0, 0)) := (hgrow3.block tb hT2.lt (fun e => hmt (by injection e with e; exact e.symm))).trans hT2.row
    have hbx3 : w3.heap[w.heap.size]? = some (.cells #[.int .u8 k, .slice ao L cap, .string tx, .int .i64 n] 130 (0, 0)) := (hgrow3.block _ (Array.getElem?_eq_some_iff.1 hr2).1 (fun e => hmx (by injection e with e; exact e.symm))).trans hr2
    have hrow3 := hT2.own.kept hgrow3 (.inr hmr)
    have c1 : w3.cell? ⟨w.heap.size, 1, none⟩ = some (.slice ao L cap) := by rw [cell_of_row _ _ _ _ _ _ hbx3]; rfl
    have hN3 : Nums w3 ao t.of := by
      refine ⟨fun q hq => ?_⟩
      obtain ⟨b, off, r1, r2, r3⟩ := hN2.at_ q hq
      have hbm : b ≠ mb := fun e => by
        obtain ⟨es, c, h, -⟩ := hmo
        rw [e] at r3
        simp [World.cell?, h] at r3
      exact ⟨b, off, r1, Nat.lt_of_lt_of_le r2 hgrow3.size, (World.cell?_of_block (w := w2) (a := ⟨b, off + q, none⟩) (hgrow3.block b r2 (fun e => hbm (by injection e)))).trans r3⟩
    have hcl := clone_nums ao cap t.of w3 hN3 hf.of
    rw [← HV.out.2.2.2.2.1] at hcl
    have HCL := Lib.hid hcl
    clear hcl
    go_wp2_with (go_at_call 96; refine HCL.out.mono ?_; rintro e w4 ⟨ao', cap', rfl, hN4, hnew4, hb4⟩; refine Hid.out ?_)
    refine Lib.hid ?_
    have hbx4 := (hb4.block _ (Array.getElem?_eq_some_iff.1 hbx3).1).trans hbx3
    have hbx5 := heap_setCell_same w4 w.heap.size 1 _ 130 (.slice ao' L cap') hbx4
    have f4 : w4.frozen? ⟨w.heap.size, 1, none⟩ = false := by simp [World.frozen?, hbx4]
    have d1 : w4.cell? ⟨w.heap.size, 1, none⟩ = some (.slice ao L cap) := by rw [cell_of_row _ _ _ _ _ _ hbx4]; rfl
    have f5 : (w4.setCell ⟨w.heap.size, 1, none⟩ (.slice ao' L cap')).frozen? ⟨w.heap.size, 2, none⟩ = false := by simp [World.frozen?, hbx5]
    have d2 : (w4.setCell ⟨w.heap.size, 1, none⟩ (.slice ao' L cap')).cell? ⟨w.heap.size, 2, none⟩ = some (.string tx) := by rw [cell_of_row _ _ _ _ _ _ hbx5]; rfl
    obtain ⟨P, hP⟩ : ∃ P, P = pre.length := ⟨_, rfl⟩
    have hns : nm.size = P + tx.size := by
      rw [HV.out.1, HND.out, HV.out.2.1, hP]
      show (pre ++ t.tx).toArray.size = pre.length + t.tx.toArray.size
      simp
    have hsub : wrap64 ((nm.size : Int) - (tx.size : Int)) = (P : Int) := by
      have := nm_len t hf
      rw [← HV.out.1] at this
      unfold wrap64
      omega
    have hex : nm.extract P nm.size = tx := by
      rw [Lib.extract_eq, HV.out.1, HND.out, HV.out.2.1, hP]
      have e : (⟨(pre ++ t.tx).toArray⟩ : ByteArray).size = pre.length + t.tx.length := by show (pre ++ t.tx).toArray.size = _; simp
      rw [e]
      simp
    have hPle : P ≤ nm.size := by omega
    have HNS := Lib.hid hns
    have HBX5 := Lib.hid hbx5
    clear hns hP hbx5 c1 HCL
    go_wp2_with fail
    have hbx6 := heap_setCell_same (w4.setCell ⟨w.heap.size, 1, none⟩ (.slice ao' L cap')) w.heap.size 2 _ 130 (.string tx) HBX5.out
    have hs6 : ((w4.setCell ⟨w.heap.size, 1, none⟩ (.slice ao' L cap')).setCell ⟨w.heap.size, 2, none⟩ (.string tx)).heap.size = w4.heap.size := by simp [World.setCell]
    have h46 : ∀ b, b ≠ w.heap.size → ((w4.setCell ⟨w.heap.size, 1, none⟩ (.slice ao' L cap')).setCell ⟨w.heap.size, 2, none⟩ (.string tx)).heap[b]? = w4.heap[b]? := fun b hbn => (Below.heap_setCell _ _ _ _ hbn).trans (Below.heap_setCell _ _ _ _ hbn)
    have hb46 : Below w.heap.size w4 ((w4.setCell ⟨w.heap.size, 1, none⟩ (.slice ao' L cap')).setCell ⟨w.heap.size, 2, none⟩ (.string tx)) := ((Below.refl w.heap.size w4).setCell (p := ⟨w.heap.size, 1, none⟩) (Nat.le_refl _) _).setCell (p := ⟨w.heap.size, 2, none⟩) (Nat.le_refl _) _
    generalize (w4.setCell ⟨w.heap.size, 1, none⟩ (.slice ao' L cap')).setCell ⟨w.heap.size, 2, none⟩ (.string tx) = w6 at *
    have hbx3l := (Array.getElem?_eq_some_iff.1 hbx3).1
    have htb3l := (Array.getElem?_eq_some_iff.1 htb3).1
    have htb6 : w6.heap[tb]? = some (.cells #[.slice tvo N tvc, .map (some mb)] 83 (0, 0)) := by
      have e : tb ≠ w.heap.size := by have := HTw.out.lt; omega
      rw [h46 tb e, hb4.block tb htb3l]; exact htb3
    have hrow6 : w6.ownsRow B 130 4 (.slice tvo N tvc) N (flat E) := by
      have h1 := owns_on hrow3 hb4
      rw [← HV.out.2.2.2.2.2] at h1
      obtain ⟨q1, q2⟩ := h1
      refine ⟨q1, ?_⟩
      rcases q2 with q2 | ⟨g, c2, cur, q3, q4, q5, q6⟩
      · exact .inl q2
      · refine .inr ⟨g, c2, cur, q3, q4, ?_, q6⟩
        have hgl : g < w.heap.size := (HTw.out.own.lt g (by rw [q3]; rfl)).2
        rw [h46 g (by omega)]
        exact q5
    have hmap6 : w6.ownsMap Tryd.prog 9 (plainElem (H := Unit) Tryd.prog 3) mb (N + 1) (D.put (.string nm.data.toList) (.lit (.int .i64 N))) := by
      have h1 := hown3.kept (grown_of hb4) (by simp)
      obtain ⟨es, c2, q1, q2⟩ := h1
      exact ⟨es, c2, (h46 mb hmx).trans q1, q2⟩
    have hb6 : Below B w w6 := by
      have h1 : Below B w w3 := Below.grown hb2 hgrow3 (by have := hb2.size; omega) (fun q hq => by injection hq with hq; omega)
      exact (h1.trans (hb4.mono (by have := h1.size; omega))).trans (hb46.mono hB)
    have hfr : ∀ b, b < w.heap.size → b ≠ tb → b ≠ mb → w6.heap[b]? = w.heap[b]? := fun b q1 q2 q3 => by
      rw [h46 b (by omega), hb4.block b (by omega), hgrow3.block b (by have := (Array.getElem?_eq_some_iff.1 hr2).1; omega) (fun e => q3 (by injection e))]
      exact hfr2 b q1 q2
    have hN6 : Nums w6 ao' t.of := by
      refine ⟨fun q hq => ?_⟩
      obtain ⟨b, off, r1, r2, r3⟩ := hN4.at_ q hq
      have h1 := hnew4 _ r1
      have h1 : w3.heap.size ≤ b := h1
      exact ⟨b, off, r1, by rw [hs6]; exact r2, (World.cell?_of_block (w := w4) (a := ⟨b, off + q, none⟩) (h46 b (by omega))).trans r3⟩
    have hn6 : ∀ a, ao' = some a → a.block ≠ tb ∧ (Value.slice tvo N tvc).ownBlock ≠ some a.block := fun a ha => by
      have h1 := hnew4 a ha
      refine ⟨by omega, fun e => ?_⟩
      have h2 := (HTw.out.own.lt _ e).2
      omega
    have HNW : Hid (∀ a, ao' = some a → w.heap.size ≤ a.block) := fun a ha => by
      have h1 := hnew4 a ha
      omega
    have hsz6 : w.heap.size < w6.heap.size := (Array.getElem?_eq_some_iff.1 hbx6).1
    have hDm := hmo.isMap
    have hen : enV (t, ao', cap') = [.int .u8 k, .slice ao' L cap', .string tx, .int .i64 n] := by
      obtain ⟨-, v2, v3, v4, v5, -⟩ := HV.out
      rw [v2, v3, v4, v5]
      rfl
    have HFIN : Hid (∀ (v' : Value) (w7 : World), w7.ownsRow B 130 4 v' (N + 1) (flat E ++ [.int .u8 k, .slice ao' L cap', .string tx, .int .i64 n]) → (w6.drew.alloc (.cells #[.int .u8 k, .slice ao' L cap', .string tx, .int .i64 n] 130)).grownBy w7 (Value.slice tvo N tvc).ownBlock → (v'.ownBlock = (Value.slice tvo N tvc).ownBlock ∨ v'.ownBlock = some (w6.drew.alloc (.cells #[.int .u8 k, .slice ao' L cap', .string tx, .int .i64 n] 130)).heap.size) →
        ∃ g c, v' = .slice (some ⟨g, 0, none⟩) (N + 1) c ∧ w7.cell? ⟨tb, 0, none⟩ = some (.slice tvo N tvc) ∧ w7.frozen? ⟨tb, 0, none⟩ = false ∧ Hid (Below B w (w7.setCell ⟨tb, 0, none⟩ (.slice (some ⟨g, 0, none⟩) (N + 1) c)) ∧ Tab (w7.setCell ⟨tb, 0, none⟩ (.slice (some ⟨g, 0, none⟩) (N + 1) c)) B tb (.slice (some ⟨g, 0, none⟩) (N + 1) c) (.map (some mb)) (E ++ [(t, ao', cap')]) ∧ ∀ b, b < w.heap.size → b ≠ tb → b ≠ mb → (Value.slice tvo N tvc).ownBlock ≠ some b → (w7.setCell ⟨tb, 0, none⟩ (.slice (some ⟨g, 0, none⟩) (N + 1) c)).heap[b]? = w.heap[b]? ∧ (Value.slice (some ⟨g, 0, none⟩) (N + 1) c).ownBlock ≠ some b)) := by
      intro v' w7 q1 q2 q3
      have q4 : (w6.alloc (.cells #[.int .u8 k, .slice ao' L cap', .string tx, .int .i64 n] 130)).grownBy w7 (Value.slice tvo N tvc).ownBlock := ⟨q2.os, q2.tape, q2.output, q2.size, q2.block⟩
      have q5 : w7.ownsRow B 130 4 v' (E.length + 1) (flat E ++ enV (t, ao', cap')) := by rw [hen, ← HV.out.2.2.2.2.2]; exact q1
      have q6 : w6.ownsMap Tryd.prog 9 (plainElem (H := Unit) Tryd.prog 3) mb (E.length + 1) (D.put (.string (nmB t).data.toList) (.lit (.int .i64 E.length))) := by rw [← HV.out.1, ← HV.out.2.2.2.2.2]; exact hmap6
      obtain ⟨p1, p2, p3, p4, p5⟩ := put_fin HTw.out hf hnew hb6 hsz6 htb6 q6 hmK hDm hmt hmr hmB hB hmw hfr hN6 hn6 q5 q4 q3
      rcases q1.2 with ⟨-, h0⟩ | ⟨g, c, cur, rfl, -⟩
      · omega
      · exact ⟨g, c, rfl, p1, p2, p4, p3, p5⟩
    obtain ⟨i0, hi, hz0, hz1, hz2⟩ := info_parts info25b
    have g0 : w6.cell? ⟨w.heap.size, 0, none⟩ = some (.int .u8 k) := by rw [cell_of_row _ _ _ _ _ _ hbx6]; rfl
    have g1 : w6.cell? ⟨w.heap.size, 1, none⟩ = some (.slice ao' L cap') := by rw [cell_of_row _ _ _ _ _ _ hbx6]; rfl
    have g2 : w6.cell? ⟨w.heap.size, 2, none⟩ = some (.string tx) := by rw [cell_of_row _ _ _ _ _ _ hbx6]; rfl
    have g3 : w6.cell? ⟨w.heap.size, 3, none⟩ = some (.int .i64 n) := by rw [cell_of_row _ _ _ _ _ _ hbx6]; rfl
    have tb0 : w6.cell? ⟨tb, 0, none⟩ = some (.slice tvo N tvc) := by rw [cell_of_row _ _ _ _ _ _ htb6]; rfl
    have tb0a : (w6.alloc (.cells #[.int .u8 k, .slice ao' L cap', .string tx, .int .i64 n] 130)).cell? ⟨tb, 0, none⟩ = some (.slice tvo N tvc) := by
      have := (Joins.below_alloc1 w6 (.cells #[.int .u8 k, .slice ao' L cap', .string tx, .int .i64 n] 130)).cell (p := ⟨tb, 0, none⟩) (Array.getElem?_eq_some_iff.1 htb6).1
      rw [this]; exact tb0
    have HB6 := Lib.hid hb6
    clear hn6 hN6 hen hDm hfr hb6 hmap6 hbx6 h46 hb46 hs6 hbx3 hbx4 hN4 hnew4 hb4 hnew f4 f5 d1 d2 hsub hex hPle hmo hmK hown3 hgrow3 htb3 hrow3 hN3 hr2 hr1 hfr2
    go_region_law (refine step_append_at rfl (.tmp 61) (.tmp 63) 80 rfl B 130 i0 (.agg #[.int .u8 0, .slice none 0 0, .string ByteArray.empty, .int .i64 0]) 4 56 Tryd.underlying80 hi hz0 hz1 hz2 rfl (by decide) (.slice tvo N tvc) N (flat E) (by simp [Act.eval]) (hrow6.drew.alloc _) ⟨w6.heap.size, 0, none⟩ 1 1 [.int .u8 k, .slice ao' L cap', .string tx, .int .i64 n] (by simp [Act.eval]) rfl (cell_four_new _ _ _ _ _ _) (fun x hx => by simp at hx; rcases hx with rfl | rfl | rfl | rfl <;> rfl) (by have := HE.out; unfold maxLen; omega) (by have := HE.out; omega) (by have := HB6.out.size; simp; omega) ?_; intro v2 w7 hown7 hgrow7 hloc7; obtain ⟨g, cc, rfl, c0', f0', HFW⟩ := HFIN.out v2 w7 hown7 hgrow7 hloc7)
    all_goals (
      go_wp2
      go_ret
      refine ⟨rfl, HFW.out.1, _, _, ao', cap', HFW.out.2.1, fun b q1 q2 => ?_, HNW.out⟩
      have hbm := HMB.out b q1 q2
      obtain ⟨q3, q4⟩ := HFW.out.2.2 b q1 (fun e => q2 (.inl e)) hbm (fun e => q2 (.inr (.inl e)))
      exact ⟨q3, fun e => e.elim (fun e => q2 (.inl e)) (fun e => e.elim q4 (fun e => hbm (by injection e with e; injection e with e; exact e.symm)))⟩)
end Go.Proofs.YteojlnbonhipbaaDoor
