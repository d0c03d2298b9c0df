/- A store: Put. -/
import Derived.Test.YteojlnbonhipbaaDoorYc
namespace Go.Proofs.YteojlnbonhipbaaDoor
open Go.RowKit Go.Maps
theorem rid_len (E : List Se) (P : List UInt8) (n : Nat) : (rid E P n).length ≤ E.length := by
  unfold rid
  exact List.length_eraseIdx_le _ _
theorem Sop.trans_below {B sb : Nat} {v : Value} {w a c : World} {E : List Se} (hb : Below w.heap.size w a) (h : Sop B sb v a E c) (hB : B ≤ w.heap.size) : Sop B sb v w E c := by
  obtain ⟨v', h1, h2⟩ := h.sto
  exact ⟨fun b q1 q2 q3 => (h.fr b (Nat.lt_of_lt_of_le q1 hb.size) q2 q3).trans (hb.block b q1), ⟨v', h1, h2.imp id (fun ⟨g, e, q⟩ => ⟨g, e, Nat.le_trans hb.size q⟩)⟩, (hb.mono hB).trans h.below, (Kp.of_below SK hb).trans h.kp⟩
set_option maxRecDepth 20000 in
set_option maxHeartbeats 8000000 in
theorem put_any' (w : World) (B sb : Nat) (v : Value) (E : List Se) (x : Sk) (s : Sl) (hS : Sto w B sb v E) (h1 : By w s.oa x.of) (h2 : By w s.ka x.key) (l1 : x.of.length ≤ 1048576) (l2 : x.key.length ≤ 1048576) (hl : E.length ≤ 1048000) (hB : B ≤ w.heap.size) :
    Calls Tryd.prog 15 #[.pointer (some ⟨sb, 0, none⟩), .agg #[.slice s.oa x.of.length s.oc, .int .u32 x.n, .slice s.ka x.key.length s.kc]] w fun e w' => e = .returned (.tuple #[]) ∧ ∃ t, Sop B sb v w (putE E x t) w' := by
  have hb0 := Joins.below_alloc1 w (.cells #[.slice s.oa x.of.length s.oc, .int .u32 x.n, .slice s.ka x.key.length s.kc] 47)
  have hr0 := heap_alloc_new w (.cells #[.slice s.oa x.of.length s.oc, .int .u32 x.n, .slice s.ka x.key.length s.kc] 47)
  have hsl := (Array.getElem?_eq_some_iff.1 hS.row).1
  have hob : v.ownBlock ≠ some w.heap.size := fun e => by have := (World.ownsRow.lt hS.own _ e).2; omega
  have hdrop := drop_any _ B sb v E x.of s.oa s.oc x.n (hS.on hb0) (h1.kp (Kp.of_below [] hb0) (List.not_mem_nil)).byt (by omega) (Nat.le_trans hB hb0.size)
  have hclo := fun w' (q1 : By w' s.oa x.of) (q2 : By w' s.ka x.key) => sclone_any w' x s q1.byt q2.byt l1 l2
  have hby0 := And.intro (h1.kp (Kp.of_below [] hb0) (List.not_mem_nil)) (h2.kp (Kp.of_below [] hb0) (List.not_mem_nil))
  obtain ⟨p, hp⟩ : ∃ p, p = x.of.length := ⟨_, rfl⟩
  obtain ⟨q, hq⟩ : ∃ q, q = x.key.length := ⟨_, rfl⟩
  rw [← hp] at hb0 hr0 hdrop hclo hby0 ⊢
  rw [← hq] at hb0 hr0 hdrop hclo hby0 ⊢
  have c0 : (w.alloc (.cells #[.slice s.oa p s.oc, .int .u32 x.n, .slice s.ka q s.kc] 47)).cell? ⟨w.heap.size, 0, none⟩ = some (.slice s.oa p s.oc) := by rw [cell_of_row _ _ _ _ _ _ hr0]; rfl
  have c1 : (w.alloc (.cells #[.slice s.oa p s.oc, .int .u32 x.n, .slice s.ka q s.kc] 47)).cell? ⟨w.heap.size, 1, none⟩ = some (.int .u32 x.n) := by rw [cell_of_row _ _ _ _ _ _ hr0]; rfl
  have HD := Lib.hid hdrop
  have HC := Lib.hid hclo
  have HX := Lib.hid (And.intro hb0 (And.intro hr0 (And.intro hby0 (And.intro hp hq))))
  have HS := Lib.hid hS
  generalize decide (0 ≤ idx E x.of x.n) = dd at *
  clear hdrop hclo hb0 hr0 hby0 hp hq hS h1 h2 l1 l2
  go_enter Tryd.func15, Tryd.ntmps15
  go_wp2_with (go_at_call 14; refine HD.out.mono ?_; rintro e w1 ⟨rfl, hs1⟩; refine Hid.out ?_)
  refine Lib.hid ?_
  obtain ⟨hb0, hr0, hby0, hp, hq⟩ := HX.out
  have hr1 := (hs1.fr w.heap.size (by simp) (by omega) hob).trans hr0
  obtain ⟨v1, hS1, hv1⟩ := hs1.sto
  obtain ⟨F, hF⟩ : ∃ F, F = rid E x.of x.n := ⟨_, rfl⟩
  rw [← hF] at hS1 hs1
  obtain ⟨vo, vc, rfl⟩ := own_slice hS1.own
  have hFl : F.length ≤ 1048000 := by rw [hF]; exact Nat.le_trans (rid_len _ _ _) hl
  obtain ⟨N, hN⟩ : ∃ N, N = F.length := ⟨_, rfl⟩
  have hown1 := hS1.own
  have hbyq : By w1 s.oa x.of ∧ By w1 s.ka x.key := ⟨hby0.1.kp hs1.kp (by decide), hby0.2.kp hs1.kp (by decide)⟩
  have hcd : Calls Tryd.prog 26 #[.agg #[.slice s.oa p s.oc, .int .u32 x.n, .slice s.ka q s.kc]] w1.drew _ := HC.out w1.drew (hbyq.1.kp (Kp.of_below [] (Below.refl _ w1).drew) (List.not_mem_nil)) (hbyq.2.kp (Kp.of_below [] (Below.refl _ w1).drew) (List.not_mem_nil))
  have d0 : w1.cell? ⟨w.heap.size, 0, none⟩ = some (.slice s.oa p s.oc) := by rw [cell_of_row _ _ _ _ _ _ hr1]; rfl
  have d1 : w1.cell? ⟨w.heap.size, 1, none⟩ = some (.int .u32 x.n) := by rw [cell_of_row _ _ _ _ _ _ hr1]; rfl
  have d2 : w1.cell? ⟨w.heap.size, 2, none⟩ = some (.slice s.ka q s.kc) := by rw [cell_of_row _ _ _ _ _ _ hr1]; rfl
  have s1 : w1.cell? ⟨sb, 0, none⟩ = some (.slice vo F.length vc) := by rw [cell_of_row _ _ _ _ _ _ hS1.row]; rfl
  have hsl1 := (Array.getElem?_eq_some_iff.1 hS1.row).1
  rw [← hN] at s1 hFl hS1 hown1 hv1
  -- what the append leaves
  have hfin : ∀ (w2 : World) (t : Sl), By w2 t.oa x.of → By w2 t.ka x.key → Below w1.heap.size w1 w2 → ∀ (v2 : Value) (w7 : World), w7.ownsRow B 47 3 v2 (N + 1) (sflat F ++ [.slice t.oa p t.oc, .int .u32 x.n, .slice t.ka q t.kc]) → (w2.alloc (.cells #[.slice t.oa p t.oc, .int .u32 x.n, .slice t.ka q t.kc] 47)).grownBy w7 (Value.slice vo N vc).ownBlock → (v2.ownBlock = (Value.slice vo N vc).ownBlock ∨ v2.ownBlock = some (w2.alloc (.cells #[.slice t.oa p t.oc, .int .u32 x.n, .slice t.ka q t.kc] 47)).heap.size) →
      ∃ g cc, v2 = .slice (some ⟨g, 0, none⟩) (N + 1) cc ∧ w7.cell? ⟨sb, 0, none⟩ = some (.slice vo N vc) ∧ w7.frozen? ⟨sb, 0, none⟩ = false ∧ Hid (Sop B sb v w (F ++ [(x, t)]) (w7.setCell ⟨sb, 0, none⟩ (.slice (some ⟨g, 0, none⟩) (N + 1) cc)) ∧ Sto (w7.setCell ⟨sb, 0, none⟩ (.slice (some ⟨g, 0, none⟩) (N + 1) cc)) B sb (.slice (some ⟨g, 0, none⟩) (N + 1) cc) (F ++ [(x, t)])) := by
    intro w2 t y1 y2 hb2 v2 w7 a1 a2 a3
    have hsk : [.slice t.oa p t.oc, .int .u32 x.n, .slice t.ka q t.kc] = skV (x, t) := by rw [hp, hq]; rfl
    have hsa : (#[.slice t.oa p t.oc, .int .u32 x.n, .slice t.ka q t.kc] : Array Value) = (skV (x, t)).toArray := by rw [← hsk]
    rw [hsk] at a1
    rw [hsa] at a2 a3
    have hba := hb2.trans ((Joins.below_alloc1 w2 (.cells (skV (x, t)).toArray 47)).mono hb2.size)
    have hSa : Sto (w2.alloc (.cells (skV (x, t)).toArray 47)) B sb (.slice vo N vc) F := by rw [hN] at hS1 ⊢; exact hS1.on hba
    have hal := Kp.of_below [] (Joins.below_alloc1 w2 (.cells (skV (x, t)).toArray 47))
    obtain ⟨cs, p1, rfl, p3⟩ := sto_app (x := x) (s := t) hSa ⟨y1.kp hal (List.not_mem_nil), y2.kp hal (List.not_mem_nil)⟩ (by rw [← hN]; exact a1) a2
    rcases a1.2 with ⟨-, h0⟩ | ⟨g, cc, cur, rfl, hg, -⟩
    · omega
    · have hvs : ∀ b, b < w.heap.size → v.ownBlock ≠ some b → (Value.slice vo N vc).ownBlock ≠ some b := fun b q1 q2 q3 => by
        rcases hv1 with e | ⟨g', e, h⟩
        · exact q2 (e ▸ q3)
        · rw [q3] at e
          injection e with e
          have := hb0.size
          omega
      have hsz : w.heap.size ≤ (w2.alloc (.cells (skV (x, t)).toArray 47)).heap.size := Nat.le_trans hb0.size (Nat.le_trans hs1.below.size hba.size)
      refine ⟨g, cc, rfl, by rw [cell_of_row _ _ _ _ _ _ p1]; rfl, by simp [World.frozen?, p1], ⟨fun b q1 q2 q3 => ?_, ⟨_, p3, ?_⟩, ?_, ?_⟩, p3⟩
      · have q4 : b < w1.heap.size := Nat.lt_of_lt_of_le q1 (Nat.le_trans hb0.size hs1.below.size)
        rw [Below.heap_setCell _ _ _ _ q2, a2.block b (Nat.lt_of_lt_of_le q1 hsz) (fun e => hvs b q1 q3 e.symm), hba.block b q4, hs1.fr b (Nat.lt_of_lt_of_le q1 hb0.size) q2 q3, hb0.block b q1]
      · rcases a3 with e | e
        · rcases hv1 with e2 | ⟨g', e2, h⟩
          · exact .inl (e.trans e2)
          · exact .inr ⟨g', e.trans e2, Nat.le_trans hb0.size h⟩
        · exact .inr ⟨_, e, hsz⟩
      · have hbw : Below B w (w2.alloc (.cells (skV (x, t)).toArray 47)) := ((hb0.mono hB).trans hs1.below).trans (hba.mono (Nat.le_trans hB (Nat.le_trans hb0.size hs1.below.size)))
        exact (Below.grown hbw a2 (Nat.le_trans hB hsz) (fun k hk => (World.ownsRow.lt hSa.own _ hk).1)).setCell (p := ⟨sb, 0, none⟩) hSa.sbB _
      · have k1 : Kp SK w (w2.alloc (.cells (skV (x, t)).toArray 47)) := ((Kp.of_below SK hb0).trans hs1.kp).below hba
        have k2 : Kp SK (w2.alloc (.cells (skV (x, t)).toArray 47)) w7 := by
          refine ⟨a2.size, fun b o hb ho => ?_⟩
          refine (a2.block b (Array.getElem?_eq_some_iff.1 hb).1 (fun e => ?_)).trans hb
          rcases hSa.own.2 with ⟨e2, -⟩ | ⟨g', cap', cur', e2, -, hc', -⟩
          · rw [e2] at e; cases e
          · rw [e2] at e
            injection e with e
            have e : b = g' := e
            rw [e, hc'] at hb
            cases hb
            exact ho (show some 47 ∈ SK by decide)
        exact (k1.trans k2).trans (Kp.set (i := 0) p1 _).s38
  have HFIN := Lib.hid hfin
  have HCD := Lib.hid hcd
  obtain ⟨i0, hi, hz0, hz1, hz2⟩ := info_parts info47b
  have HY := Lib.hid (And.intro hs1 (And.intro hS1 hv1))
  have HRow := Lib.hid hown1
  have HFl := Lib.hid (And.intro hN (And.intro hFl hF))
  have hBs := Nat.le_trans hB (Nat.le_trans hb0.size hs1.below.size)
  have HBs := Lib.hid hBs
  clear hfin hcd hS1 hs1 hv1 hown1 hN hFl hF hbyq hby0 hp hq hb0 hr0 hr1 c0 c1 HX HC HD hsl hob hBs
  go_wp2
  go_region_law (first
    | (refine step_append_at rfl (.tmp 16) (.tmp 19) 36 rfl B 47 i0 (.agg #[.slice none 0 0, .int .u32 0, .slice none 0 0]) 3 56 Tryd.underlying36 hi hz0 hz1 hz2 rfl (by decide) (.slice vo N vc) N (sflat F) (by simp [Act.eval]) (HR2.out.alloc _) ⟨w2.heap.size, 0, none⟩ 1 1 [.slice t.oa p t.oc, .int .u32 x.n, .slice t.ka q t.kc] (by simp [Act.eval]) rfl (cell_three_new _ _ _ _ _) (fun u hu => by simp at hu; rcases hu with rfl | rfl | rfl <;> rfl) (by have := HFl.out.2.1; unfold maxLen; omega) (by have := HFl.out.2.1; omega) (by have := HBs.out; have := HB2.out.size; simp; omega) ?_; intro v2 w7 hown7 hgrow7 hloc7; obtain ⟨g, cc, rfl, z0, zf, HFW⟩ := HFIN.out w2 t HYY.out.1 HYY.out.2 HB2.out v2 w7 hown7 hgrow7 hloc7)
    | (go_simp; go_wp2_with (go_at_call 26; refine HCD.out.mono ?_; rintro e w2 ⟨t, rfl, y1, y2, hb2⟩; have HYY := Lib.hid (And.intro y1 y2); have HB2 := Lib.hid (show Below w1.heap.size w1 w2 from (Below.refl _ w1).drew.trans hb2); have s2 := (HB2.out.cell (p := ⟨sb, 0, none⟩) hsl1).trans s1; have s3 : (w2.alloc (.cells #[.slice t.oa p t.oc, .int .u32 x.n, .slice t.ka q t.kc] 47)).cell? ⟨sb, 0, none⟩ = some (.slice vo N vc) := ((Joins.below_alloc1 w2 _).cell (p := ⟨sb, 0, none⟩) (Nat.lt_of_lt_of_le hsl1 HB2.out.size)).trans s2; have HR2 := Lib.hid (owns_on HRow.out HB2.out); clear y1 y2 hb2 HCD)))
  all_goals (
    have hN := HFl.out.1
    have hlE : (F ++ [(x, t)]).length = N + 1 := by rw [List.length_append, List.length_singleton, hN]
    have hle := slen_any _ B sb _ _ HFW.out.2
    rw [hlE] at hle
    have hrm := remove_any _ B sb _ _ 0 N HFW.out.2 (by rw [hlE]; omega) (by have := HFl.out.2.1; omega)
    have HL := Lib.hid hle
    have HRM := Lib.hid hrm
    have hF := HFl.out.2.2
    have hpe : putE E x t = if 32 < N + 1 then (F ++ [(x, t)]).drop 1 else F ++ [(x, t)] := by unfold putE; rw [← hF, hN]
    have HPE := Lib.hid hpe
    clear hle hrm hlE hN hF hpe s1 s2 s3 z0 zf d0 d1 d2
    by_cases h32 : 32 < N + 1
    · have h32i : (32 : Int) < (N : Int) + 1 := by omega
      go_wp2_with (first
        | (go_at_call 12; refine HL.out.mono ?_; rintro e w8 ⟨rfl, hw⟩; obtain rfl := hw.symm)
        | (go_at_call 25; refine HRM.out.mono ?_; rintro e w9 ⟨rfl, hs9⟩))
      refine bodyPost_end (results_none rfl _ _ _) rfl ?_
      refine ⟨rfl, t, ?_⟩
      rw [HPE.out, if_pos h32]
      have ha := HFW.out.1
      obtain ⟨v9, z1, z2⟩ := hs9.sto
      have hsz : w.heap.size ≤ (w7.setCell ⟨sb, 0, none⟩ (.slice (some ⟨g, 0, none⟩) (N + 1) cc)).heap.size := ha.below.size
      obtain ⟨v8, y1, y2⟩ := ha.sto
      obtain rfl : v8 = .slice (some ⟨g, 0, none⟩) (N + 1) cc := by
        have h1 := y1.row
        rw [HFW.out.2.row] at h1
        injection h1 with h1
        injection h1 with h1
        injection h1 with h1
        injection h1 with h1
        exact h1.symm
      have hv : ∀ b, b < w.heap.size → v.ownBlock ≠ some b → (Value.slice (some ⟨g, 0, none⟩) (N + 1) cc).ownBlock ≠ some b := fun b q1 q2 q3 => by
        rcases y2 with e | ⟨g', e, h⟩
        · exact q2 (e ▸ q3)
        · rw [q3] at e
          injection e with e
          omega
      refine ⟨fun b q1 q2 q3 => (hs9.fr b (Nat.lt_of_lt_of_le q1 hsz) q2 (hv b q1 q3)).trans (ha.fr b q1 q2 q3), ⟨v9, by simpa using z1, ?_⟩, ha.below.trans hs9.below, ha.kp.trans hs9.kp⟩
      rcases z2 with e | ⟨g', e, h⟩
      · rcases y2 with e2 | h2
        · exact .inl (e.trans e2)
        · obtain ⟨g', e2, h2⟩ := h2
          exact .inr ⟨g', e.trans e2, h2⟩
      · exact .inr ⟨g', e, Nat.le_trans hsz h⟩
    · have h32i : ¬ (32 : Int) < (N : Int) + 1 := by omega
      go_wp2_with (go_at_call 12; refine HL.out.mono ?_; rintro e w8 ⟨rfl, hw⟩; obtain rfl := hw.symm)
      refine bodyPost_end (results_none rfl _ _ _) rfl ?_
      refine ⟨rfl, t, ?_⟩
      rw [HPE.out, if_neg h32]
      exact HFW.out.1)
end Go.Proofs.YteojlnbonhipbaaDoor
