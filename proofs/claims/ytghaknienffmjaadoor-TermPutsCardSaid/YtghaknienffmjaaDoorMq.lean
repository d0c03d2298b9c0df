/- The law's walk: any terms, put one after the other: each once, by its place. -/
import Derived.Test.YtghaknienffmjaaDoorMp
import Derived.Deep.RegionWith
namespace Go.Proofs.YtghaknienffmjaaDoor
open Go.RowKit Go.Maps
theorem MS.start (w1 : World) : MS w1 (w1.alloc (.cells #[.slice none 0 0, .map none] 56)) w1.heap.size w1.heap.size (.slice none 0 0) [] :=
  ⟨World.ownsRow_nil _ _ _ _, ⟨_, _, [], tab_new w1, rfl, fun g hg => by simp [Value.ownBlock] at hg⟩, Joins.below_alloc1 _ _, Nat.le_refl _, fun e he => absurd he (List.not_mem_nil)⟩
theorem env_of {e : En} {a b c d : Value} (h : agV e = .agg #[a, b, c, d]) : enV e = [a, b, c, d] := by
  injection h with h
  exact congrArg Array.toList h
set_option linter.unusedVariables false
/-- Where it was found among the first so many: the last place, or -1. -/
def Fnd (Ms : List En) (t : Tm) (k : Nat) (a : Int) : Prop := (a = -1 ∧ ∀ j (h : j < Ms.length), j < k → (Ms[j]'h).1 ≠ t) ∨ ∃ q, ∃ h : q < Ms.length, q < k ∧ a = (q : Nat) ∧ (Ms[q]'h).1 = t
theorem Fnd.zero (Ms : List En) (t : Tm) : Fnd Ms t 0 (-1) := .inl ⟨rfl, fun j _ h => absurd h (Nat.not_lt_zero _)⟩
theorem Fnd.hit {Ms : List En} {t : Tm} {k : Nat} (hk : k < Ms.length) (h : Ms[k].1 = t) : Fnd Ms t (k + 1) k := .inr ⟨k, hk, Nat.lt_succ_self _, rfl, h⟩
theorem Fnd.miss {Ms : List En} {t : Tm} {k : Nat} {a : Int} (hf : Fnd Ms t k a) (hk : k < Ms.length) (h : Ms[k].1 ≠ t) : Fnd Ms t (k + 1) a := by
  rcases hf with ⟨rfl, h1⟩ | ⟨q, hq, h1, rfl, h2⟩
  · refine .inl ⟨rfl, fun j hj hj2 => ?_⟩
    rcases Nat.lt_or_ge j k with h3 | h3
    · exact h1 j hj h3
    · obtain rfl : j = k := by omega
      exact h
  · exact .inr ⟨q, hq, by omega, rfl, h2⟩
set_option linter.unusedVariables false
set_option maxRecDepth 20000 in
set_option maxHeartbeats 8000000 in
theorem puts_walk (w : World) (hG : Gv w) (la : Option Addr) (cap : Nat) (Ts : List En) (hR : Terms w la Ts) (x : En) (hx : x.1.Ok) (hNx : Nums w x.2.1 x.1.of) :
    Calls Tryd.prog 3 #[.slice la Ts.length cap, agV x] w fun e w' => e = .returned (.bool true) ∧ Below w.heap.size w w' := by
  have hA := fun w hG => (let ⟨m, hm⟩ := Gv.mx (w := w) hG; awake_any w m hm (by have := Gv.sz hG; omega) : Calls Tryd.prog 8 #[] w fun e w' => e = .returned (.bool true) ∧ Below w.heap.size w w')
  obtain ⟨i0, hi, hz0, hz1, hz2⟩ := info_parts info25b
  obtain ⟨n, hn⟩ : ∃ n, n = Ts.length := ⟨_, rfl⟩
  obtain ⟨xk, hxk⟩ : ∃ k, k = x.1.k := ⟨_, rfl⟩
  obtain ⟨xo, hxo⟩ : ∃ k, k = x.2.1 := ⟨_, rfl⟩
  obtain ⟨xL, hxL⟩ : ∃ k, k = x.1.of.length := ⟨_, rfl⟩
  obtain ⟨xc, hxc⟩ : ∃ k, k = x.2.2 := ⟨_, rfl⟩
  obtain ⟨xt, hxt⟩ : ∃ k : ByteArray, k = ⟨x.1.tx.toArray⟩ := ⟨_, rfl⟩
  obtain ⟨xn, hxn⟩ : ∃ k, k = x.1.n := ⟨_, rfl⟩
  have hag : agV x = .agg #[.int .u8 xk, .slice xo xL xc, .string xt, .int .i64 xn] := by rw [hxk, hxo, hxL, hxc, hxt, hxn]; rfl
  rw [← hn, hag]
  have hbx := Joins.below_alloc1 w (.cells #[.int .u8 xk, .slice xo xL xc, .string xt, .int .i64 xn] 25)
  have hX := Boxed.new w (.int .u8 xk) (.slice xo xL xc) (.string xt) (.int .i64 xn)
  have hG0 := hG.on hbx
  have HX := Lib.hid hX
  have HBX := Lib.hid hbx
  have HR := Lib.hid (hR.on hbx)
  have HN := Lib.hid hn
  have HNX := Lib.hid (hNx.on hbx (Nat.le_refl _))
  have HXE := Lib.hid (And.intro hag (And.intro hx (And.intro hxL hxt)))
  have a1 := hX.c1
  have a2 := hX.c2
  clear hX hbx hR hn hNx hag hx hxL hxt hxk hxo hxc hxn
  go_enter Tryd.func3, Tryd.ntmps3
  go_wp2_with (go_at_call 8; refine (hA _ hG0).mono ?_; rintro e w1 ⟨rfl, hb1⟩; refine Hid.out ?_)
  refine Lib.hid ?_
  have hw1 := HBX.out.trans (hb1.mono HBX.out.size)
  have hX1 := HX.out.on hb1 HX.out.lt
  have HR1 := Lib.hid (HR.out.on hb1)
  have HNX1 := Lib.hid (HNX.out.on hb1 (Nat.le_refl _))
  have hG1 := hG.on hw1
  have hA1 := hA _ hG1
  have HGW := Lib.hid hG1
  clear a1 a2 HX HR HNX HBX hG0 hb1
  generalize w.alloc (.cells #[.int .u8 xk, .slice xo xL xc, .string xt, .int .i64 xn] 25) = w0 at *
  have a1 := hX1.c1
  have a2 := hX1.c2
  have HX := Lib.hid hX1
  have HW1 := Lib.hid hw1
  clear hX1 hw1
  by_cases hbig : n ≤ 40 ∧ xL ≤ 20 ∧ xt.size ≤ 200
  rotate_left
  · rcases (show 40 < n ∨ (n ≤ 40 ∧ 20 < xL) ∨ (n ≤ 40 ∧ xL ≤ 20 ∧ 200 < xt.size) by omega) with h1 | ⟨h1, h2⟩ | ⟨h1, h2, h3⟩
    · have h1' : (40 : Int) < n := by omega
      clear hbig
      go_wp2_with (go_at_call 8; refine hA1.mono ?_; rintro e w2 ⟨rfl, hb2⟩)
      go_ret
      exact ⟨rfl, HW1.out.trans (hb2.mono HW1.out.size)⟩
    · have h1' : ¬ (40 : Int) < n := by omega
      have h2' : (20 : Int) < xL := by omega
      clear hbig
      go_wp2_with (go_at_call 8; refine hA1.mono ?_; rintro e w2 ⟨rfl, hb2⟩)
      go_ret
      exact ⟨rfl, HW1.out.trans (hb2.mono HW1.out.size)⟩
    · have h1' : ¬ (40 : Int) < n := by omega
      have h2' : ¬ (20 : Int) < xL := by omega
      have h3' : (200 : Int) < xt.size := by omega
      clear hbig
      go_wp2_with (go_at_call 8; refine hA1.mono ?_; rintro e w2 ⟨rfl, hb2⟩)
      go_ret
      exact ⟨rfl, HW1.out.trans (hb2.mono HW1.out.size)⟩
  obtain ⟨hn40, hxL20, hxt200⟩ := hbig
  have h1' : ¬ (40 : Int) < n := by omega
  have h2' : ¬ (20 : Int) < xL := by omega
  have h3' : ¬ (200 : Int) < xt.size := by omega
  have hnw := new_any w1
  have hM0 := Lib.hid (MS.start w1)
  go_wp2_with (go_at_call 9; refine hnw.mono ?_; rintro e w2 ⟨rfl, rfl⟩; refine Hid.out ?_)
  refine Lib.hid ?_
  obtain ⟨B, hB⟩ : ∃ B, B = w1.heap.size := ⟨_, rfl⟩
  rw [← hB] at hM0 ⊢
  have HB := Lib.hid hB
  generalize w1.alloc (.cells #[.slice none 0 0, .map none] 56) = w2 at *
  clear h1' h2' h3' hnw hA hA1 hB a1 a2
  have HBB := Lib.hid (show n ≤ 40 ∧ xL ≤ 20 ∧ xt.size ≤ 200 from ⟨hn40, hxL20, hxt200⟩)
  go_wp2_with fail
  go_loopw [6, 7] (fun vm vi wr => ∃ (i : Nat) (Ms : List En), vi = .int .i64 i ∧ i ≤ n ∧ Hid (MS w1 wr B B vm Ms ∧ Ms.length ≤ i)) (fun _ vi _ => n - (intOf vi).toNat)
  case atStart => exact ⟨0, [], rfl, Nat.zero_le _, hM0.out, Nat.le_refl _⟩
  case round =>
    obtain ⟨i, Ms, rfl, hi2, HM⟩ := hrel
    by_cases hin : i < n
    · obtain ⟨b, off, rfl, hbl, c0, c1, c2, c3, hNt, hok⟩ := HR1.out.cells i (by rw [← HN.out]; exact hin)
      have hbB : b < B := by rw [HB.out]; exact hbl
      have hin2 : (i : Int) < n := by omega
      obtain ⟨e, he⟩ : ∃ e, e = Ts[i]'(by rw [← HN.out]; exact hin) := ⟨_, rfl⟩
      rw [← he] at c0 c1 c2 c3 hNt hok
      obtain ⟨ek, hek⟩ : ∃ k, k = e.1.k := ⟨_, rfl⟩
      obtain ⟨eo, heo⟩ : ∃ k, k = e.2.1 := ⟨_, rfl⟩
      obtain ⟨eL, heL⟩ : ∃ k, k = e.1.of.length := ⟨_, rfl⟩
      obtain ⟨ec, hec⟩ : ∃ k, k = e.2.2 := ⟨_, rfl⟩
      obtain ⟨et, het⟩ : ∃ k : ByteArray, k = ⟨e.1.tx.toArray⟩ := ⟨_, rfl⟩
      obtain ⟨en, hen⟩ : ∃ k, k = e.1.n := ⟨_, rfl⟩
      have hag : agV e = .agg #[.int .u8 ek, .slice eo eL ec, .string et, .int .i64 en] := by rw [hek, heo, heL, hec, het, hen]; rfl
      rw [← hek] at c0
      rw [← heo, ← heL, ← hec] at c1
      rw [← het] at c2
      rw [← hen] at c3
      have HC := Lib.hid (And.intro c0 (And.intro c1 (And.intro c2 c3)))
      have HAG := Lib.hid (And.intro hag (And.intro heL (And.intro het (And.intro hok hNt))))
      have hbB' := hbB
      clear hag hek heo heL hec het hen he hok hNt c0 c1 c2 c3
      have c0 := (HM.out.1.bel.cell (p := ⟨b, off + i * 4, none⟩) hbB).trans HC.out.1
      have c1 := (HM.out.1.bel.cell (p := ⟨b, off + i * 4 + 1, none⟩) hbB).trans HC.out.2.1
      have c2 := (HM.out.1.bel.cell (p := ⟨b, off + i * 4 + 2, none⟩) hbB).trans HC.out.2.2.1
      have c3 := (HM.out.1.bel.cell (p := ⟨b, off + i * 4 + 3, none⟩) hbB).trans HC.out.2.2.2
      clear hbB'
      by_cases hbe : eL ≤ 20 ∧ et.size ≤ 200
      rotate_left
      · rcases (show 20 < eL ∨ (eL ≤ 20 ∧ 200 < et.size) by omega) with h1 | ⟨h1, h2⟩
        · have h1' : (20 : Int) < eL := by omega
          clear hbe
          go_wp2_with fail
          go_ret
          exact ⟨rfl, HW1.out.trans (HM.out.1.bel.mono (by have := HM.out.1.low; have := HW1.out.size; rw [HB.out]; exact this))⟩
        · have h1' : ¬ (20 : Int) < eL := by omega
          have h2' : (200 : Int) < et.size := by omega
          clear hbe
          go_wp2_with fail
          go_ret
          exact ⟨rfl, HW1.out.trans (HM.out.1.bel.mono (by have := HM.out.1.low; have := HW1.out.size; rw [HB.out]; exact this))⟩
      have h1' : ¬ (20 : Int) < eL := by omega
      have h2' : ¬ (200 : Int) < et.size := by omega
      have HBE := Lib.hid hbe
      clear hbe
      obtain ⟨mo, mc, rfl⟩ := own_slice HM.out.1.own
      obtain ⟨N, hN⟩ : ∃ N, N = Ms.length := ⟨_, rfl⟩
      rw [← hN] at HM ⊢
      have HNM := Lib.hid hN
      clear hN
      go_wp2_with fail
      have hN40 : N ≤ 40 := by have := HM.out.2; omega
      generalize wr = wA at *
      go_loopw [8, 9] (fun va vk wq => ∃ (k : Nat) (a : Int), va = .int .i64 a ∧ vk = .int .i64 k ∧ k ≤ N ∧ Hid (Fnd Ms e.1 k a ∧ Below wA.heap.size wA wq)) (fun _ vk _ => N - (intOf vk).toNat)
      case atStart => exact ⟨0, -1, rfl, rfl, Nat.zero_le _, Fnd.zero _ _, Below.refl _ _⟩
      case round =>
        obtain ⟨k, a, rfl, rfl, hk, HF⟩ := hrel
        have HMq := Lib.hid (HM.out.1.on HF.out.2 (Nat.le_trans HM.out.1.low HM.out.1.bel.size))
        have hbA : b < wA.heap.size := Nat.lt_of_lt_of_le hbl HM.out.1.bel.size
        have c0 := (HF.out.2.cell (p := ⟨b, off + i * 4, none⟩) hbA).trans c0
        have c1 := (HF.out.2.cell (p := ⟨b, off + i * 4 + 1, none⟩) hbA).trans c1
        have c2 := (HF.out.2.cell (p := ⟨b, off + i * 4 + 2, none⟩) hbA).trans c2
        have c3 := (HF.out.2.cell (p := ⟨b, off + i * 4 + 3, none⟩) hbA).trans c3
        by_cases hkN : k < N
        · have hkM : k < Ms.length := by rw [← HNM.out]; exact hkN
          have hk2 : (k : Int) < N := by omega
          obtain ⟨g, c', heq, hg, x0, x1, x2, x3⟩ := own_cells HMq.out.own k hkM
          rw [← HNM.out] at heq
          injection heq with heq1 _ heq3
          subst heq1 heq3
          have hNk := (HMq.out.each _ (List.getElem_mem hkM)).2.on HMq.out.bel (Nat.le_of_eq HB.out.symm)
          have hNe := HAG.out.2.2.2.2.on HMq.out.bel (Nat.le_of_eq HB.out.symm)
          have hD := (Below.refl wr.heap.size wr).drew
          have hS := same_tm Ms[k] e wr.drew (hNk.on hD (Nat.le_refl _)) (hNe.on hD (Nat.le_refl _)) (by have := (HMq.out.each _ (List.getElem_mem hkM)).1.of; omega)
          rw [HAG.out.1] at hS
          have HFN := Lib.hid (And.intro (Fnd.hit (t := e.1) hkM) (HF.out.1.miss hkM))
          obtain ⟨bb, hbb⟩ : ∃ bb, bb = decide (Ms[k].1 = e.1) := ⟨_, rfl⟩
          rw [← hbb] at hS
          have HBBB := Lib.hid hbb
          have hag2 : agV Ms[k] = .agg #[.int .u8 Ms[k].1.k, .slice Ms[k].2.1 Ms[k].1.of.length Ms[k].2.2, .string ⟨Ms[k].1.tx.toArray⟩, .int .i64 Ms[k].1.n] := rfl
          rw [hag2] at hS
          generalize Ms[k].1.k = mk at *
          generalize Ms[k].2.1 = mo at *
          generalize Ms[k].1.of.length = mL at *
          generalize Ms[k].2.2 = mcc at *
          generalize (⟨Ms[k].1.tx.toArray⟩ : ByteArray) = mt at *
          generalize Ms[k].1.n = mn at *
          clear hag2 hbb hNk hNe hD
          go_wp2_with fail
          go_region_with (go_at_call 10; refine hS.mono ?_; rintro e w3 ⟨rfl, hb3⟩; have HB3 := Lib.hid hb3; clear hb3)
          all_goals (cases bb with
            | false =>
              go_wp2_with fail
              go_roundw
              case rel => exact ⟨k + 1, a, rfl, rfl, by omega, HFN.out.2 (of_decide_eq_false HBBB.out.symm), HF.out.2.drew.trans (HB3.out.mono HF.out.2.size)⟩
              case measure => exact meas k N (by omega)
            | true =>
              go_wp2_with fail
              go_roundw
              case rel => exact ⟨k + 1, k, rfl, rfl, by omega, HFN.out.1 (of_decide_eq_true HBBB.out.symm), HF.out.2.drew.trans (HB3.out.mono HF.out.2.size)⟩
              case measure => exact meas k N (by omega))
        · have hkk : k = N := by omega
          subst hkk
          have hk2 : ¬ (k : Int) < k := by omega
          have hf : Fit e.1 := ⟨HAG.out.2.2.2.1, by have := HAG.out.2.1; have := HBE.out.1; omega, by have h9 := congrArg ByteArray.size HAG.out.2.2.1; have h8 := HBE.out.2; rw [h9] at h8; exact Nat.le_trans h8 (by decide)⟩
          have HFIT := Lib.hid hf
          have HML := Lib.hid (show Ms.length ≤ i ∧ i < n ∧ n ≤ 40 from ⟨by have := HM.out.2; have := HNM.out; omega, hin, hn40⟩)
          rcases HF.out.1 with ⟨rfl, hnone⟩ | ⟨q, hq, hqk, rfl, hqt⟩
          · have hown := HMq.out.own
            rw [← HNM.out] at hown
            have HNO := Lib.hid hnone
            have hk40 : k ≤ 40 := by have := HML.out; have := HNM.out; omega
            have hBw : B ≤ wr.heap.size := Nat.le_trans HMq.out.low HMq.out.bel.size
            clear hf hnone
            go_wp2_with (at_builtin; refine wpList_append_own_at _ rfl _ _ 22 rfl B 25 i0 (.agg #[.int .u8 0, .slice none 0 0, .string ByteArray.empty, .int .i64 0]) 4 56 Tryd.underlying22 hi hz0 hz1 hz2 rfl (by decide) _ _ _ rfl (hown.alloc _) ⟨wr.heap.size, 0, none⟩ 1 1 [.int .u8 ek, .slice eo eL ec, .string et, .int .i64 en] rfl rfl (cell_four_new _ _ _ _ _ _) (fun x hx => by simp at hx; rcases hx with rfl | rfl | rfl | rfl <;> rfl) (by unfold maxLen; omega) (by omega) (by simp; omega) ?_; intro v2 w2 hown2 hgrow hnil hat; refine Hid.out ?_)
            refine Lib.hid ?_
            have hown3 := hown2
            rw [HNM.out] at hown3
            obtain ⟨tv, mv, E, hmg⟩ := HMq.out.new e HFIT.out HAG.out.2.2.2.2 (fun j hj => HNO.out j hj (by rw [HNM.out]; exact hj)) (by rw [env_of HAG.out.1]; exact hown3) hgrow hat
            obtain ⟨mo2, mc2, rfl⟩ := own_slice hown2
            have HMG := Lib.hid hmg
            have HLAST : Hid (∀ h, ((Ms ++ [e])[k]'h).1 = e.1) := fun h => by
              have h1 : k = Ms.length := HNM.out
              subst h1
              simp
            have HPUT : Hid (∀ e9 w5, PutF w2 B B tv mv E e.1 e9 w5 → e9 = .returned (.int .i64 (k : Nat)) ∧ MS w1 w5 B B (.slice mo2 (k + 1) mc2) (Ms ++ [e])) := fun e9 w5 hr => HMG.out.put k (by rw [List.length_append, List.length_singleton, ← HNM.out]; exact Nat.lt_succ_self _) (HLAST.out _) hr
            clear hown hown2 hown3 hgrow hnil hat hmg hBw c0 c1 c2 c3
            have c0 := (HMG.out.bel.cell (p := ⟨b, off + i * 4, none⟩) hbB).trans HC.out.1
            have c1 := (HMG.out.bel.cell (p := ⟨b, off + i * 4 + 1, none⟩) hbB).trans HC.out.2.1
            have c2 := (HMG.out.bel.cell (p := ⟨b, off + i * 4 + 2, none⟩) hbB).trans HC.out.2.2.1
            have c3 := (HMG.out.bel.cell (p := ⟨b, off + i * 4 + 3, none⟩) hbB).trans HC.out.2.2.2
            have hG5 := HGW.out.on (HMG.out.bel.mono (Nat.le_of_eq HB.out.symm))
            have hput : Calls Tryd.prog 11 #[.pointer (some ⟨B, 0, none⟩), agV e] w2 (PutF w2 B B tv mv E e.1) := put_frame e.1 HFIT.out e.2.1 e.2.2 w2 hG5 (HAG.out.2.2.2.2.on HMG.out.bel (Nat.le_of_eq HB.out.symm)) B B tv mv E HMG.out.tab (Nat.le_trans HMG.out.low HMG.out.bel.size) (by have := HMG.out.len; (try simp only [List.length_append, List.length_singleton] at this); have := HML.out; have := HNM.out; omega)
            rw [HAG.out.1] at hput
            have HP := Lib.hid hput
            clear hput hG5
            go_wp2_with (go_at_call 11; refine HP.out.mono ?_; rintro e9 w5 hr; obtain ⟨rfl, hm5⟩ := HPUT.out _ _ hr; clear hr; refine Hid.out ?_)
            refine Lib.hid ?_
            have HM5 := Lib.hid hm5
            obtain ⟨tv5, mv5, E5, hT5, hE5, -⟩ := hm5.tab
            have hlen := len_any hT5
            rw [len_of hE5] at hlen
            rw [List.length_append, List.length_singleton, ← HNM.out] at hlen
            have HLEN := Lib.hid hlen
            clear hm5 hT5 hE5 hlen
            go_wp2_with (go_at_call 12; refine HLEN.out.mono ?_; rintro e9 w6 ⟨rfl, rfl⟩)
            go_roundw
            case rel =>
              refine ⟨i + 1, Ms ++ [e], rfl, by omega, HM5.out, ?_⟩
              have := HML.out; have := HNM.out
              try simp only [List.length_append, List.length_singleton]
              omega
            case measure => exact meas i n (by omega)
          · obtain ⟨tv, mv, E, hmg⟩ := HMq.out.old e.1
            have HMG := Lib.hid hmg
            have HQ := Lib.hid (And.intro hq hqt)
            clear hmg hf hqt
            have hG5 := HGW.out.on (HMG.out.bel.mono (Nat.le_of_eq HB.out.symm))
            have hput : Calls Tryd.prog 11 #[.pointer (some ⟨B, 0, none⟩), agV e] wr (PutF wr B B tv mv E e.1) := put_frame e.1 HFIT.out e.2.1 e.2.2 wr hG5 (HAG.out.2.2.2.2.on HMG.out.bel (Nat.le_of_eq HB.out.symm)) B B tv mv E HMG.out.tab (Nat.le_trans HMG.out.low HMG.out.bel.size) (by have := HMG.out.len; (try simp only [List.length_append, List.length_singleton] at this); have := HML.out; have := HNM.out; omega)
            rw [HAG.out.1] at hput
            have HP := Lib.hid hput
            clear hput hG5
            go_wp2_with (go_at_call 11; refine HP.out.mono ?_; rintro e9 w5 hr; obtain ⟨rfl, hm5⟩ := HMG.out.put q hq HQ.out.2 hr; clear hr; refine Hid.out ?_)
            refine Lib.hid ?_
            have HM5 := Lib.hid hm5
            obtain ⟨tv5, mv5, E5, hT5, hE5, -⟩ := hm5.tab
            have hlen := len_any hT5
            rw [len_of hE5] at hlen
            rw [← HNM.out] at hlen
            have HLEN := Lib.hid hlen
            clear hm5 hT5 hE5 hlen
            go_wp2_with (go_at_call 12; refine HLEN.out.mono ?_; rintro e9 w6 ⟨rfl, rfl⟩)
            go_roundw
            case rel =>
              refine ⟨i + 1, Ms, rfl, by omega, HM5.out, ?_⟩
              have := HML.out; have := HNM.out
              try simp only [List.length_append, List.length_singleton]
              omega
            case measure => exact meas i n (by omega)
    · have hin2 : ¬ (i : Int) < n := by omega
      obtain ⟨mo, mc, rfl⟩ := own_slice HM.out.1.own
      obtain ⟨N, hN⟩ : ∃ N, N = Ms.length := ⟨_, rfl⟩
      rw [← hN] at HM ⊢
      have HNM := Lib.hid hN
      have hN40 : N ≤ 40 := by have := HM.out.2; omega
      generalize wr = wA at *
      clear hN
      go_wp2_with fail
      go_loopw [10, 11] (fun va vk wq => ∃ (k : Nat) (a : Int), va = .int .i64 a ∧ vk = .int .i64 k ∧ k ≤ N ∧ Hid (Fnd Ms x.1 k a ∧ Below wA.heap.size wA wq)) (fun _ vk _ => N - (intOf vk).toNat)
      case atStart => exact ⟨0, -1, rfl, rfl, Nat.zero_le _, Fnd.zero _ _, Below.refl _ _⟩
      case round =>
        obtain ⟨k, a, rfl, rfl, hk, HF⟩ := hrel
        have HMq := Lib.hid (HM.out.1.on HF.out.2 (Nat.le_trans HM.out.1.low HM.out.1.bel.size))
        obtain ⟨tv, mv, E, hT, hE, -⟩ := HMq.out.tab
        have HT := Lib.hid hT
        have HE := Lib.hid hE
        clear hT hE
        by_cases hkN : k < N
        · have hkM : k < Ms.length := by rw [← HNM.out]; exact hkN
          have hkE : k < E.length := by rw [len_of HE.out]; exact hkM
          have hk2 : (k : Int) < N := by omega
          have hget := get_in HT.out k hkE
          rw [get_of HE.out k hkE hkM] at hget
          obtain ⟨g, c', heq, hg, x0, x1, x2, x3⟩ := own_cells HMq.out.own k hkM
          rw [← HNM.out] at heq
          injection heq with heq1 _ heq3
          subst heq1 heq3
          have hX := HX.out.on (HMq.out.bel.mono (Nat.le_of_eq HB.out.symm)) HX.out.lt
          have a1 := hX.c1
          have a0 := hX.c0
          have a2 := hX.c2
          have a3 := hX.c3
          have HMk := Lib.hid (HMq.out.each _ (List.getElem_mem hkM))
          have HFN := Lib.hid (And.intro (Fnd.hit (t := x.1) hkM) (HF.out.1.miss hkM))
          obtain ⟨m, hm⟩ : ∃ m, m = Ms[k] := ⟨_, rfl⟩
          rw [← hm] at hget x0 x1 x2 x3 HMk HFN
          obtain ⟨mk, hmk⟩ : ∃ k, k = m.1.k := ⟨_, rfl⟩
          obtain ⟨mo, hmo⟩ : ∃ k, k = m.2.1 := ⟨_, rfl⟩
          obtain ⟨mL, hmL⟩ : ∃ k, k = m.1.of.length := ⟨_, rfl⟩
          obtain ⟨mc2, hmc⟩ : ∃ k, k = m.2.2 := ⟨_, rfl⟩
          obtain ⟨mt, hmt⟩ : ∃ k : ByteArray, k = ⟨m.1.tx.toArray⟩ := ⟨_, rfl⟩
          obtain ⟨mn, hmn⟩ : ∃ k, k = m.1.n := ⟨_, rfl⟩
          have HMA : Hid (∀ ao cp, agV (m.1, ao, cp) = .agg #[.int .u8 mk, .slice ao mL cp, .string mt, .int .i64 mn]) := fun ao cp => by rw [hmk, hmL, hmt, hmn]; rfl
          have HMB : Hid (agV m = .agg #[.int .u8 mk, .slice mo mL mc2, .string mt, .int .i64 mn]) := by show _ = _; rw [hmk, hmo, hmL, hmc, hmt, hmn]; rfl
          rw [← hmk, ← hmL, ← hmt, ← hmn] at hget
          rw [← hmk] at x0
          rw [← hmo, ← hmL, ← hmc] at x1
          rw [← hmt] at x2
          rw [← hmn] at x3
          have HMO := Lib.hid hmo
          clear hm hmk hmo hmL hmc hmt hmn
          have hgl : g < wr.heap.size := hg
          have hX0 := hX.lt
          go_wp2_with (go_at_call 13; refine hget.mono ?_; rintro e9 w3 ⟨ao, cp, rfl, hN3, hb3⟩; refine Hid.out ?_)
          refine Lib.hid ?_
          have hb4 := hb3.trans ((Joins.below_alloc1 w3 (.cells #[.int .u8 mk, .slice ao mL cp, .string mt, .int .i64 mn] 25)).mono hb3.size)
          have hY := Boxed.new w3 (.int .u8 mk) (.slice ao mL cp) (.string mt) (.int .i64 mn)
          have hN4 := hN3.on (Joins.below_alloc1 w3 (.cells #[.int .u8 mk, .slice ao mL cp, .string mt, .int .i64 mn] 25)) (Nat.le_refl _)
          clear hget hN3 hb3
          go_wp2_with fail
          generalize w3.alloc (.cells #[.int .u8 mk, .slice ao mL cp, .string mt, .int .i64 mn] 25) = w4 at *
          generalize w3.heap.size = yb at *
          have x0 := (hb4.cell (p := ⟨g, k * 4, none⟩) hgl).trans x0
          have x1 := (hb4.cell (p := ⟨g, k * 4 + 1, none⟩) hgl).trans x1
          have x2 := (hb4.cell (p := ⟨g, k * 4 + 2, none⟩) hgl).trans x2
          have x3 := (hb4.cell (p := ⟨g, k * 4 + 3, none⟩) hgl).trans x3
          have a0 := (hb4.cell (p := ⟨w.heap.size, 0, none⟩) hX0).trans a0
          have a1 := (hb4.cell (p := ⟨w.heap.size, 1, none⟩) hX0).trans a1
          have a2 := (hb4.cell (p := ⟨w.heap.size, 2, none⟩) hX0).trans a2
          have a3 := (hb4.cell (p := ⟨w.heap.size, 3, none⟩) hX0).trans a3
          have y0 := hY.c0
          have y1 := hY.c1
          have y2 := hY.c2
          have y3 := hY.c3
          have hgl4 : g < w4.heap.size := Nat.lt_of_lt_of_le hgl hb4.size
          have hX4 : w.heap.size < w4.heap.size := Nat.lt_of_lt_of_le hX0 hb4.size
          have HB4 := Lib.hid (HF.out.2.trans (hb4.mono HF.out.2.size))
          have hD := (Below.refl w4.heap.size w4).drew
          have hNm := HMk.out.2.on (HMq.out.bel.trans ((hb4.mono (Nat.le_trans HMq.out.low HMq.out.bel.size)))) (Nat.le_of_eq HB.out.symm)
          have hS1 := same_tm (m.1, ao, cp) m w4.drew (hN4.on hD (Nat.le_refl _)) (hNm.on hD (Nat.le_refl _)) HMk.out.1.of
          rw [HMA.out, HMB.out, decide_eq_true rfl] at hS1
          have HNm := Lib.hid hNm
          have HNX4 := Lib.hid (HNX1.out.on (HMq.out.bel.trans ((hb4.mono (Nat.le_trans HMq.out.low HMq.out.bel.size)))) (Nat.le_of_eq HB.out.symm))
          clear hY hN4 hD hNm hb4 hgl hX0 hX
          go_region_with (go_at_call 10; refine hS1.mono ?_; rintro e9 w5 ⟨rfl, hb5⟩)
          all_goals (
            have HB5 := Lib.hid (HB4.out.drew.trans (hb5.mono HB4.out.size))
            have hb5' : Below w4.heap.size w4 w5 := ((Below.refl w4.heap.size w4).drew).trans hb5
            have x0 := (hb5'.cell (p := ⟨g, k * 4, none⟩) hgl4).trans x0
            have x1 := (hb5'.cell (p := ⟨g, k * 4 + 1, none⟩) hgl4).trans x1
            have x2 := (hb5'.cell (p := ⟨g, k * 4 + 2, none⟩) hgl4).trans x2
            have x3 := (hb5'.cell (p := ⟨g, k * 4 + 3, none⟩) hgl4).trans x3
            have a0 := (hb5'.cell (p := ⟨w.heap.size, 0, none⟩) hX4).trans a0
            have a1 := (hb5'.cell (p := ⟨w.heap.size, 1, none⟩) hX4).trans a1
            have a2 := (hb5'.cell (p := ⟨w.heap.size, 2, none⟩) hX4).trans a2
            have a3 := (hb5'.cell (p := ⟨w.heap.size, 3, none⟩) hX4).trans a3
            have hD := (Below.refl w5.heap.size w5).drew
            have hS2 := same_tm m x w5.drew ((HNm.out.on hb5' (Nat.le_refl _)).on hD (Nat.le_refl _)) ((HNX4.out.on hb5' (Nat.le_refl _)).on hD (Nat.le_refl _)) HMk.out.1.of
            rw [HMB.out, HXE.out.1] at hS2
            obtain ⟨bb, hbb⟩ : ∃ bb, bb = decide (m.1 = x.1) := ⟨_, rfl⟩
            rw [← hbb] at hS2
            have HBBB := Lib.hid hbb
            clear hbb hD hb5 hb5' hS1 y0 y1 y2 y3
            go_wp2_with fail
            go_region_with (go_at_call 10; refine hS2.mono ?_; rintro e9 w6 ⟨rfl, hb6⟩; have HB6 := Lib.hid hb6; clear hb6)
            all_goals (cases bb with
              | false =>
                go_wp2_with fail
                go_roundw
                case rel => exact ⟨k + 1, a, rfl, rfl, by omega, HFN.out.2 (of_decide_eq_false HBBB.out.symm), HB5.out.drew.trans (HB6.out.mono HB5.out.size)⟩
                case measure => exact meas k N (by omega)
              | true =>
                go_wp2_with fail
                go_roundw
                case rel => exact ⟨k + 1, k, rfl, rfl, by omega, HFN.out.1 (of_decide_eq_true HBBB.out.symm), HB5.out.drew.trans (HB6.out.mono HB5.out.size)⟩
                case measure => exact meas k N (by omega)))
        · have hkk : k = N := by omega
          subst hkk
          have hk2 : ¬ (k : Int) < k := by omega
          have hX := HX.out.on (HMq.out.bel.mono (Nat.le_of_eq HB.out.symm)) HX.out.lt
          have a0 := hX.c0
          have a1 := hX.c1
          have a2 := hX.c2
          have a3 := hX.c3
          have hbw := HW1.out.trans (HMq.out.bel.mono (by rw [HB.out]; exact HW1.out.size))
          have hfx : Fit x.1 := ⟨HXE.out.2.1, by have h1 := HXE.out.2.2.1; have h2 := HBB.out.2.1; omega, by have h9 := congrArg ByteArray.size HXE.out.2.2.2; have h8 := HBB.out.2.2; rw [h9] at h8; exact Nat.le_trans h8 (by decide)⟩
          have hfind : Calls Tryd.prog 14 #[.pointer (some ⟨B, 0, none⟩), agV x] wr (fun e w' => ∃ c : Int, e = .returned (.tuple #[.int .i64 c, .bool (decide (x.1 ∈ E.map (·.1)))]) ∧ (x.1 ∉ E.map (·.1) → c = 0) ∧ (∀ j (hj : j < E.length), E[j].1 = x.1 → c = j) ∧ Below wr.heap.size wr w') :=
            find_any x.1 hfx x.2.1 x.2.2 wr (hG.on hbw) (HNX1.out.on HMq.out.bel (Nat.le_of_eq HB.out.symm)) B B tv mv E HT.out
          rw [HXE.out.1] at hfind
          have HFI := Lib.hid hfind
          have HBW := Lib.hid hbw
          have hEk : E.length = k := by rw [len_of HE.out, HNM.out]
          have HEK := Lib.hid hEk
          obtain ⟨bb, hbb⟩ : ∃ bb, bb = decide (x.1 ∈ E.map (·.1)) := ⟨_, rfl⟩
          rw [← hbb] at hfind
          have hwant : (bb = true ∧ ∃ q : Nat, a = q ∧ ∃ hq : q < E.length, E[q].1 = x.1) ∨ (bb = false ∧ a = -1) := by
            rcases HF.out.1 with ⟨rfl, hno⟩ | ⟨q, hq, hqk, rfl, hqt⟩
            · refine .inr ⟨?_, rfl⟩
              rw [hbb]
              refine decide_eq_false fun hm => ?_
              obtain ⟨y, hy, hyt⟩ := List.mem_map.1 hm
              obtain ⟨j, hj, rfl⟩ := List.getElem_of_mem hy
              have hjM : j < Ms.length := by rw [← len_of HE.out]; exact hj
              exact hno j hjM (by rw [HNM.out]; exact hjM) ((get_of HE.out j hj hjM).symm.trans hyt)
            · have hqE : q < E.length := by rw [len_of HE.out]; exact hq
              have hqt2 := (get_of HE.out q hqE hq).trans hqt
              refine .inl ⟨?_, q, rfl, hqE, hqt2⟩
              rw [hbb]
              exact decide_eq_true (hqt2 ▸ List.mem_map_of_mem (List.getElem_mem hqE))
          clear HFI hfx hbb hX hbw hEk
          rcases hwant with ⟨rfl, q, rfl, hqE, hqt⟩ | ⟨rfl, rfl⟩
          · have HQ : Hid (∃ hq : q < E.length, E[q].1 = x.1) := ⟨hqE, hqt⟩
            have hq0 : (0 : Int) ≤ q := Int.natCast_nonneg q
            clear hqE hqt
            go_wp2_with (go_at_call 14; refine hfind.mono ?_; rintro e9 w5 ⟨c, rfl, hc0, hcj, hb5⟩; obtain rfl := hcj q HQ.out.1 HQ.out.2; refine Hid.out ?_)
            refine Lib.hid ?_
            have hgo := get_out (HT.out.on hb5) (k : Int) (.inr (by rw [HEK.out]; exact Int.le_refl _))
            have HB5 := Lib.hid (HBW.out.trans (hb5.mono HBW.out.size))
            clear hb5 hc0 hcj hfind
            go_wp2_with (go_at_call 13; refine hgo.mono ?_; rintro e9 w6 ⟨rfl, hb6⟩; have HB6 := Lib.hid (HB5.out.trans (hb6.mono HB5.out.size)); clear hb6)
            go_ret
            exact ⟨rfl, HB6.out.alloc HB6.out.size _⟩
          · go_wp2_with (go_at_call 14; refine hfind.mono ?_; rintro e9 w5 ⟨c, rfl, hc0, hcj, hb5⟩; refine Hid.out ?_)
            refine Lib.hid ?_
            have hgo := get_out (HT.out.on hb5) (k : Int) (.inr (by rw [HEK.out]; exact Int.le_refl _))
            have HB5 := Lib.hid (HBW.out.trans (hb5.mono HBW.out.size))
            clear hb5 hc0 hcj hfind
            go_wp2_with (go_at_call 13; refine hgo.mono ?_; rintro e9 w6 ⟨rfl, hb6⟩; have HB6 := Lib.hid (HB5.out.trans (hb6.mono HB5.out.size)); clear hb6)
            go_ret
            exact ⟨rfl, HB6.out.alloc HB6.out.size _⟩
end Go.Proofs.YtghaknienffmjaaDoor
