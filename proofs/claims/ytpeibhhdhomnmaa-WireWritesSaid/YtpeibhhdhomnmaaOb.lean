/- The law's walk, where there are fewer sizes than numbers: numbers, bytes and truths, laid one behind the other, are the document's bytes; and are read back. -/
import Derived.Test.YtpeibhhdhomnmaaO
namespace Go.Proofs.Ytpeibhhdhomnmaa
open Go.RowKit
set_option maxRecDepth 20000 in
set_option maxHeartbeats 8000000 in
theorem writes_walk_b (w : World) (an as_ la : Option Addr) (cn cs cl : Nat) (NS : List Nat) (SS : List UInt8) (Ps : List (List UInt8)) (t : Bool) (hN : N64 w an NS) (hn : ∀ x ∈ NS, x < 18446744073709551616) (hS : Byt w as_ SS) (hR : Rows2 w la Ps) (hNS : SS.length < NS.length) :
    Calls Try.prog 3 #[.slice an NS.length cn, .slice as_ SS.length cs, .slice la Ps.length cl, .bool t] w fun e w' => e = .returned (.bool true) ∧ Below w.heap.size w w' := by
  have HA := Lib.hid (And.intro hN (And.intro hn (And.intro hS hR)))
  clear hN hn hS hR
  obtain ⟨N, hN⟩ : ∃ N, N = NS.length := ⟨_, rfl⟩
  obtain ⟨S, hS⟩ : ∃ S, S = SS.length := ⟨_, rfl⟩
  obtain ⟨M, hM⟩ : ∃ M, M = Ps.length := ⟨_, rfl⟩
  rw [← hN, ← hS, ← hM]
  rw [← hN, ← hS] at hNS
  have HNS := Lib.hid hNS
  clear hNS
  obtain ⟨K, hK⟩ : ∃ K, K = (pairs NS SS).length := ⟨_, rfl⟩
  have hKm : K = min N S := by rw [hK, pairs_len, hN, hS]
  have HL := Lib.hid (And.intro hN (And.intro hS (And.intro hM (And.intro hK hKm))))
  clear hN hS hM hK hKm
  by_cases hl : 40 < N ∨ 20 < M
  · by_cases hl1 : 40 < N
    · have hl2 : (40 : Int) < N := by omega
      clear hl hl1
      go_enter Try.func3, Try.ntmps3
      go_wp2_with (first
        | (go_at_call 7; refine (awake_any w).mono ?_; rintro e w1 ⟨rfl, hb1⟩; refine Hid.out ?_))
      refine Lib.hid ?_
      have ha := awake_any w1
      go_wp2_with (go_at_call 7; refine ha.mono ?_; rintro e w2 ⟨rfl, hb2⟩)
      go_ret
      exact ⟨rfl, hb1.trans (hb2.mono hb1.size)⟩
    · have hl2 : ¬ (40 : Int) < N := by omega
      have hl3 : (20 : Int) < M := by omega
      clear hl hl1
      go_enter Try.func3, Try.ntmps3
      go_wp2_with (first
        | (go_at_call 7; refine (awake_any w).mono ?_; rintro e w1 ⟨rfl, hb1⟩; refine Hid.out ?_))
      refine Lib.hid ?_
      have ha := awake_any w1
      go_wp2_with (go_at_call 7; refine ha.mono ?_; rintro e w2 ⟨rfl, hb2⟩)
      go_ret
      exact ⟨rfl, hb1.trans (hb2.mono hb1.size)⟩
  · have hl2 : ¬ (40 : Int) < N := by omega
    have hl3 : ¬ (20 : Int) < M := by omega
    have HLL := Lib.hid (show N ≤ 40 ∧ M ≤ 20 by omega)
    clear hl
    go_enter Try.func3, Try.ntmps3
    go_wp2_with (first
      | (go_at_call 7; refine (awake_any w).mono ?_; rintro e w1 ⟨rfl, hb1⟩))
    have HB : Hid (Both w w1.heap.size (w1.alloc (.cells #[.slice none 0 0] 28)) none 0 (upto bn (pairs NS SS) 0)) := by
      rw [upto_zero]
      exact ⟨rfl, ⟨_, wr_new w1, byt_nil _ _, fun a e => by cases e⟩, hb1.trans ((Joins.below_alloc1 w1 _).mono hb1.size), by simp, hb1.size⟩
    generalize w1.alloc (.cells #[.slice none 0 0] 28) = w2 at *
    generalize w1.heap.size = B at *
    clear hb1
    go_loopw [9, 10, 11] (fun a9 a10 a11 wr => ∃ (i : Nat) (aw : Option Addr) (N1 cw : Nat), a9 = .pointer (some ⟨B, 0, none⟩) ∧ a10 = .slice aw N1 cw ∧ a11 = .int .i64 i ∧ i ≤ K ∧ Hid (Both w B wr aw N1 (upto bn (pairs NS SS) i)))
      (fun _ _ i _ => K - (intOf i).toNat)
    case atStart => exact ⟨0, none, 0, 0, rfl, rfl, rfl, Nat.zero_le _, HB⟩
    case round =>
      obtain ⟨i, aw, N1, cw, rfl, rfl, rfl, hi, HX⟩ := hrel
      clear HB
      by_cases hiK : i < K
      · obtain ⟨x1, ⟨vw, x2, x3, x4⟩, x5, x6, x7⟩ := HX.out
        obtain ⟨l1, l2, l3, l4, l5⟩ := HL.out
        obtain ⟨hN, hn, hS, -⟩ := HA.out
        have hiN : i < NS.length := by omega
        have hiS : i < SS.length := by omega
        obtain ⟨bn1, on1, rfl, hbn, hcn⟩ := (hN.on x5 (Nat.le_refl _)).at_ i hiN
        obtain ⟨bs1, os1, rfl, hbs, hcs⟩ := byt_cell (hS.on x5 (Nat.le_refl _)) (j := i) hiS
        have hup := upto_succ bn (pairs NS SS) i (by omega)
        rw [pairs_at NS SS i (by omega) hiN hiS] at hup
        have hlen : (upto bn (pairs NS SS) i).length ≤ 320 := by
          have h := upto_len bn (pairs NS SS) 8 i (by omega) (fun j hj hji => by rw [pairs_at NS SS j hj (by omega) (by omega)]; show (be _ _).length ≤ 8; rw [be_len]; omega)
          have := HLL.out
          omega
        have hnn := hn (NS.getD i 0) (by rw [List.getD_eq_getElem?_getD, List.getElem?_eq_getElem hiN]; exact List.getElem_mem _)
        have hyy := (SS.getD i 0).toNat_lt
        generalize NS.getD i 0 = n at *
        generalize (SS.getD i 0).toNat = y at *
        obtain ⟨s, hs, hs9⟩ : ∃ s : Nat, y % 9 = s ∧ s ≤ 8 := ⟨y % 9, rfl, by omega⟩
        rw [hs] at hup
        have hys : (y : Int) % 9 = (s : Nat) := by omega
        have hup2 : upto bn (pairs NS SS) (i + 1) = upto bn (pairs NS SS) i ++ be n s := hup
        generalize hAi : upto bn (pairs NS SS) i = Ai at *
        have hc8 := wnum_any B B vw Ai n s wr x2 x6 hs9 (by omega)
        have HC8 := Lib.hid hc8
        have HU := Lib.hid (And.intro hup2 hlen)
        have HNN := Lib.hid (And.intro hN (And.intro hiN hnn))
        have HXX := Lib.hid (And.intro x1 (And.intro x2 (And.intro x3 (And.intro x4 (And.intro x5 (And.intro x6 x7))))))
        have hi1 : (i : Int) < N := by omega
        have hi2 : (i : Int) < S := by omega
        clear hup hup2 hc8 hAi x1 x2 x3 x4 x5 x6 x7 hN hn hS l1 l2 l3 l4 l5 hiN hiS hnn hlen HX
        have h9 : ∀ w3 v3, Wf wr B vw w3 v3 → w3.cell? ⟨bn1, on1 + i, none⟩ = some (.int .u64 (n : Nat)) ∧ Hid (Calls Try.prog 9 #[.slice aw N1 cw, .int .u64 (n : Nat), .int .i64 (s : Nat)] w3 fun e w' => ∃ a' m' c', e = .returned (.slice a' m' c') ∧ Hid (m' = (Ai ++ be n s).length ∧ Own w' w3.heap.size (.slice a' m' c') (Ai ++ be n s) ∧ Below w3.heap.size w3 w')) := by
          intro w3 v3 hf
          obtain ⟨x1, x2, x3, x4, x5, x6, x7⟩ := HXX.out
          have hb3 := hf.below x2 x6
          refine ⟨?_, ?_⟩
          · obtain ⟨hN, hiN, -⟩ := HNN.out
            have h := (hb3.cell (p := ⟨bn1, on1 + i, none⟩) (by have h := hN.at_ i hiN; obtain ⟨b', o', e1, e2, -⟩ := h; cases e1; show bn1 < B; omega)).trans hcn
            exact h
          · have h := rnum_any n s Ai aw cw w3 (x3.wf hf x4) (by have := HU.out.2; omega) hs9
            rw [← x1] at h
            refine h.mono fun e w' ⟨v', h1, h2, h3⟩ => ?_
            obtain ⟨a', c', hv, -⟩ := own_byt h2
            subst hv
            exact ⟨a', _, c', h1, rfl, h2, h3⟩
        have H9 := Lib.hid h9
        clear h9
        go_wp2_with (first
          | (go_at_call 8; refine HC8.out.mono ?_; rintro e w3 ⟨rfl, v3, hW3, hf3⟩; obtain ⟨hc3, HC9⟩ := H9.out w3 v3 hf3)
          | (go_at_call 9; refine HC9.out.mono ?_; rintro e w4 ⟨a4, m4, c4, rfl, H4⟩))
        go_roundw
        case rel =>
          refine ⟨i + 1, a4, m4, c4, rfl, rfl, rfl, hiK, ?_⟩
          obtain ⟨x1, x2, x3, x4, x5, x6, x7⟩ := HXX.out
          obtain ⟨y1, y2, y3⟩ := H4.out
          rw [HU.out.1]
          have hb3 := hf3.below x2 x6
          have hb : Below B wr w4 := hb3.trans (y3.mono (Nat.le_trans x6 hf3.size))
          have hby := y2.slice
          obtain ⟨a', c', e, hby, -⟩ := hby
          cases e
          exact ⟨y1, ⟨v3, hW3.on y3 (Nat.le_refl _), hby, own_apart hW3 y2⟩, x5.trans (hb.mono x7), Nat.le_trans x6 hb.size, x7⟩
        case measure => simp [intOf]; omega
      · obtain rfl : K = i := by omega
        have hc1 : (K : Int) < N := by have := HL.out; have := HNS.out; omega
        have hc2 : ¬ (K : Int) < S := by have := HL.out; have := HNS.out; omega
        have HC0 : Hid (Both w B wr aw N1 (upto bn (pairs NS SS) K ++ upto (bp t) Ps 0) ∧ (∀ j, j < 0 → (Ps.getD j []).length ≤ 2000) ∧ (upto bn (pairs NS SS) K).length ≤ 320) := by
          refine ⟨by rw [upto_zero, List.append_nil]; exact HX.out, fun j hj => absurd hj (Nat.not_lt_zero _), ?_⟩
          have h := upto_len bn (pairs NS SS) 8 K (by have := HL.out; omega) (fun j hj hji => by have := HL.out; rw [pairs_at NS SS j hj (by omega) (by omega)]; show (be _ _).length ≤ 8; rw [be_len]; omega)
          have := HLL.out
          have := HL.out
          omega
        have HCl := Lib.hid HC0.out.2.2
        clear HX
        obtain ⟨C, hC⟩ : ∃ C, C = upto bn (pairs NS SS) K := ⟨_, rfl⟩
        rw [← hC] at HC0 HCl
        have HC := Lib.hid hC
        clear hC
        go_wp2_with fail
        go_loopw [9, 10, 13] (fun a9 a10 a13 wr => ∃ (i : Nat) (aw : Option Addr) (N1 cw : Nat), a9 = .pointer (some ⟨B, 0, none⟩) ∧ a10 = .slice aw N1 cw ∧ a13 = .int .i64 i ∧ i ≤ M ∧ Hid (Both w B wr aw N1 (C ++ upto (bp t) Ps i) ∧ (∀ j, j < i → (Ps.getD j []).length ≤ 2000)))
          (fun _ _ i _ => M - (intOf i).toNat)
        case atStart => exact ⟨0, aw, N1, cw, rfl, rfl, rfl, Nat.zero_le _, HC0.out.1, HC0.out.2.1⟩
        case round =>
          obtain ⟨i, aw, N1, cw, rfl, rfl, rfl, hi, HX⟩ := hrel
          clear HC0
          by_cases hiM : i < M
          · obtain ⟨⟨x1, ⟨vw, x2, x3, x4⟩, x5, x6, x7⟩, x8⟩ := HX.out
            obtain ⟨l1, l2, l3, l4, l5⟩ := HL.out
            obtain ⟨-, -, -, hR⟩ := HA.out
            have hiP : i < Ps.length := by omega
            obtain ⟨bl, ol, rfl, hbl, ap, cp, hcl, hbP⟩ := (hR.on x5 (Nat.le_refl _)).at_ i hiP
            have hb0 : bl < w.heap.size := by have h := hR.at_ i hiP; obtain ⟨b', o', e1, e2, -⟩ := h; cases e1; exact e2
            have hup : upto (bp t) Ps (i + 1) = upto (bp t) Ps i ++ bp t (Ps.getD i []) := by
              rw [upto_succ (bp t) Ps i hiP, List.getD_eq_getElem?_getD, List.getElem?_eq_getElem hiP]; rfl
            have hlen : (upto (bp t) Ps i).length ≤ 40100 := by
              have h := upto_len (bp t) Ps 2005 i (by omega) (fun j hj hji => by have h := x8 j hji; rw [List.getD_eq_getElem?_getD, List.getElem?_eq_getElem hj] at h; have h : Ps[j].length ≤ 2000 := h; unfold bp; rw [List.length_append, List.length_append, be_len, List.length_singleton]; omega)
              have := HLL.out
              omega
            have hPo : Byt w ap (Ps.getD i []) := by
              obtain ⟨b', o', e1, e2, ap', cp', e3, e4⟩ := hR.at_ i hiP
              cases e1
              have h := (x5.cell (p := ⟨bl, ol + i, none⟩) hb0).trans e3
              rw [hcl] at h
              injection h with h
              injection h with h
              rw [h]
              exact e4
            have hx8 : (Ps.getD i []).length ≤ 2000 → ∀ j, j < i + 1 → (Ps.getD j []).length ≤ 2000 := fun h j hj => by
              by_cases e : j = i
              · subst e; exact h
              · exact x8 j (by omega)
            have HX8 := Lib.hid hx8
            clear hx8
            generalize Ps.getD i [] = P at *
            obtain ⟨m, hm⟩ : ∃ m, m = P.length := ⟨_, rfl⟩
            rw [← hm] at hcl
            have HM := Lib.hid hm
            have HU := Lib.hid (And.intro hup hlen)
            have HPo := Lib.hid hPo
            have HXX := Lib.hid (And.intro x1 (And.intro x2 (And.intro x3 (And.intro x4 (And.intro x5 (And.intro x6 (And.intro x7 hbP)))))))
            have hi1 : (i : Int) < M := by omega
            clear hup hlen hPo hm x1 x2 x3 x4 x5 x6 x7 x8 hR l1 l2 l3 l4 l5 hiP HX hbP
            by_cases hm2 : 2000 < m
            · have hm3 : (2000 : Int) < m := by omega
              go_wp2
              go_ret
              exact ⟨rfl, HXX.out.2.2.2.2.1⟩
            · have hm3 : ¬ (2000 : Int) < m := by omega
              generalize hAi : upto (bp t) Ps i = Ai at *
              have hc10 : Calls Try.prog 10 #[.pointer (some ⟨B, 0, none⟩), .slice ap m cp] wr fun e w' => e = .returned (.pointer (some ⟨B, 0, none⟩)) ∧ ∃ v', Wr w' B B v' (C ++ Ai ++ be m 4 ++ P) ∧ Wf wr B vw w' v' := by
                obtain ⟨x1, x2, x3, x4, x5, x6, x7, x8⟩ := HXX.out
                have h := wbytes_any B B vw (C ++ Ai) P ap cp wr x2 x8 (apart_old HPo.out x7 x2) x6 (by have := HU.out.2; have := HCl.out; have := HM.out; rw [List.length_append]; omega)
                rw [← HM.out] at h
                exact h
              have hc11 : ∀ w3 v3, Wr w3 B B v3 (C ++ Ai ++ be m 4 ++ P) → Wf wr B vw w3 v3 → Calls Try.prog 11 #[.pointer (some ⟨B, 0, none⟩), .bool t] w3 fun e w' => e = .returned (.pointer (some ⟨B, 0, none⟩)) ∧ ∃ v', Wr w' B B v' (C ++ Ai ++ be m 4 ++ P ++ [if t then 1 else 0]) ∧ Wf wr B vw w' v' := by
                intro w3 v3 h1 h2
                refine (wflag_any B B v3 _ t w3 h1 (Nat.le_trans HXX.out.2.2.2.2.2.1 h2.size) ?_).mono fun e w' ⟨h3, v', h4, h5⟩ => ⟨h3, v', h4, h2.trans h5⟩
                have := HU.out.2; have := HCl.out; have := HM.out
                rw [List.length_append, List.length_append, List.length_append, be_len]; omega
              have hc13 : ∀ w4 v4, Wf wr B vw w4 v4 → w4.cell? ⟨bl, ol + i, none⟩ = some (.slice ap m cp) ∧ Hid (Calls Try.prog 13 #[.slice aw N1 cw, .slice ap m cp] w4 fun e w' => ∃ a' m' c', e = .returned (.slice a' m' c') ∧ Hid (m' = (C ++ Ai ++ be m 4 ++ P).length ∧ Own w' w4.heap.size (.slice a' m' c') (C ++ Ai ++ be m 4 ++ P) ∧ Below w4.heap.size w4 w')) := by
                intro w4 v4 hf
                obtain ⟨x1, x2, x3, x4, x5, x6, x7, x8⟩ := HXX.out
                have hb4 := hf.below x2 x6
                refine ⟨(hb4.cell (p := ⟨bl, ol + i, none⟩) (by show bl < B; omega)).trans hcl, ?_⟩
                have h := rbytes_any (C ++ Ai) P aw ap cw cp w4 (x3.wf hf x4) (x8.wf hf (apart_old HPo.out x7 x2)) (by have := HU.out.2; have := HCl.out; have := HM.out; rw [List.length_append]; omega)
                rw [← x1, ← HM.out] at h
                refine h.mono fun e w' ⟨v', h1, h2, h3⟩ => ?_
                obtain ⟨a', c', hv, -⟩ := own_byt h2
                subst hv
                exact ⟨a', _, c', h1, rfl, h2, h3⟩
              have hc12 : ∀ w4 w5 a5 m5 c5, m5 = (C ++ Ai ++ be m 4 ++ P).length ∧ Own w5 w4.heap.size (.slice a5 m5 c5) (C ++ Ai ++ be m 4 ++ P) ∧ Below w4.heap.size w4 w5 → Calls Try.prog 12 #[.slice a5 m5 c5, .bool t] w5 fun e w' => ∃ a' m' c', e = .returned (.slice a' m' c') ∧ Hid (m' = (C ++ Ai ++ be m 4 ++ P ++ [if t then 1 else 0]).length ∧ Own w' w5.heap.size (.slice a' m' c') (C ++ Ai ++ be m 4 ++ P ++ [if t then 1 else 0]) ∧ Below w5.heap.size w5 w') := by
                intro w4 w5 a5 m5 c5 ⟨q1, q2, q3⟩
                obtain ⟨a', c', e, hby⟩ := own_byt q2
                cases e
                refine (rflag_any t _ _ c5 w5 hby (by have := HU.out.2; have := HCl.out; have := HM.out; rw [List.length_append, List.length_append, List.length_append, be_len]; omega)).mono fun e w' ⟨v', h1, h2, h3⟩ => ?_
                obtain ⟨a', c', hv, -⟩ := own_byt h2
                subst hv
                exact ⟨a', _, c', h1, rfl, h2, h3⟩
              have H10 := Lib.hid hc10
              have H11 := Lib.hid hc11
              have H13 := Lib.hid hc13
              have H12 := Lib.hid hc12
              clear hc10 hc11 hc13 hc12 hAi
              go_wp2_with (first
                | (go_at_call 10; refine H10.out.mono ?_; clear H10; rintro e w3 ⟨rfl, v3, hW3, hf3⟩; have hc11 := H11.out w3 v3 hW3 hf3)
                | (go_at_call 11; refine hc11.mono ?_; clear hc11; rintro e w4 ⟨rfl, v4, hW4, hf4⟩; obtain ⟨hc4, HC13⟩ := H13.out w4 v4 hf4)
                | (go_at_call 13; refine HC13.out.mono ?_; rintro e w5 ⟨a5, m5, c5, rfl, H5⟩; have hc12 := H12.out w4 w5 a5 m5 c5 H5.out)
                | (go_at_call 12; refine hc12.mono ?_; rintro e w6 ⟨a6, m6, c6, rfl, H6⟩))
              go_roundw
              case rel =>
                refine ⟨i + 1, a6, m6, c6, rfl, rfl, rfl, hiM, ?_, HX8.out (by have := HM.out; omega)⟩
                obtain ⟨x1, x2, x3, x4, x5, x6, x7, x8⟩ := HXX.out
                obtain ⟨y1, y2, y3⟩ := H5.out
                obtain ⟨z1, z2, z3⟩ := H6.out
                have hb4 := hf4.below x2 x6
                have hb5 : Below w4.heap.size w4 w6 := y3.trans (z3.mono y3.size)
                have hb : Below B wr w6 := hb4.trans (hb5.mono (Nat.le_trans x6 hf4.size))
                have e : C ++ upto (bp t) Ps (i + 1) = C ++ Ai ++ be m 4 ++ P ++ [if t then 1 else 0] := by
                  rw [HU.out.1]; unfold bp; rw [HM.out]; simp
                rw [e]
                obtain ⟨a', c', e, hby⟩ := own_byt z2
                cases e
                exact ⟨z1, ⟨v4, hW4.on hb5 (Nat.le_refl _), hby, own_apart (hW4.on y3 (Nat.le_refl _)) z2⟩, x5.trans (hb.mono x7), Nat.le_trans x6 hb.size, x7⟩
              case measure => simp [intOf]; omega
          · obtain rfl : M = i := by omega
            have hi1 : ¬ (M : Int) < M := by omega
            obtain ⟨⟨x1, ⟨vw, x2, x3, x4⟩, x5, x6, x7⟩, x8⟩ := HX.out
            have hlenB : (upto (bp t) Ps M).length ≤ 40100 := by
              have h := upto_len (bp t) Ps 2005 M (by have := HL.out; omega) (fun j hj hji => by have h := x8 j hji; rw [List.getD_eq_getElem?_getD, List.getElem?_eq_getElem hj] at h; have h : Ps[j].length ≤ 2000 := h; unfold bp; rw [List.length_append, List.length_append, be_len, List.length_singleton]; omega)
              have := HLL.out
              omega
            have htot : C ++ upto (bp t) Ps M = from_ bn (pairs NS SS) 0 ++ from_ (bp t) Ps 0 := by
              obtain ⟨l1, l2, l3, l4, l5⟩ := HL.out
              rw [HC.out, l3, upto_all, l4, upto_all]
            have hlenT : (C ++ upto (bp t) Ps M).length ≤ 41000 := by rw [List.length_append]; have := HCl.out; omega
            rw [htot] at x1 x2 x3 hlenT
            obtain ⟨T, hT⟩ : ∃ T, T = from_ bn (pairs NS SS) 0 ++ from_ (bp t) Ps 0 := ⟨_, rfl⟩
            rw [← hT] at x1 x2 x3 hlenT
            have hc14 : Calls Try.prog 14 #[.pointer (some ⟨B, 0, none⟩)] wr fun e w' => ∃ a c, e = .returned (.slice a N1 c) ∧ (convert 23 9 (.slice a N1 c)).run Try.prog w' = .ok (.string ⟨T.toArray⟩) w' ∧ (convert 23 9 (.slice aw N1 cw)).run Try.prog w' = .ok (.string ⟨T.toArray⟩) w' ∧ Hid (Byt w' a T ∧ Below wr.heap.size wr w') := by
              refine (wdone_any B B vw T wr x2 (by omega)).mono fun e w' ⟨v', h1, h2, h3⟩ => ?_
              obtain ⟨a', c', hv, hby⟩ := own_byt h2
              rw [← x1] at hv
              subst hv
              refine ⟨a', c', h1, ?_, ?_, hby, h3⟩
              · rw [x1]; exact conv_bytes hby c'
              · rw [x1]; exact conv_bytes (x3.on h3 (Nat.le_refl _)) cw
            have hc15 : ∀ a c w', Byt w' a T → Calls Try.prog 15 #[.slice a N1 c] w' fun e w'' => ∃ b, e = .returned (.pointer (some ⟨b, 0, none⟩)) ∧ Rd w'' w'.heap.size b (some T) ∧ Below w'.heap.size w' w'' := by
              intro a c w' h
              have h2 := read_any a c T w' h (by omega)
              rw [← x1] at h2
              exact h2
            have H14 := Lib.hid hc14
            have H15 := Lib.hid hc15
            have HT := Lib.hid hT
            have HX5 := Lib.hid (And.intro x5 x8)
            clear hc14 hc15 hT hlenT htot hlenB x1 x2 x3 x4 x5 x6 x7 x8 HX HCl HC hi
            generalize (⟨T.toArray⟩ : ByteArray) = S0 at *
            go_wp2_with (first
              | (go_at_call 14; refine H14.out.mono ?_; rintro e w5 ⟨a5, c5, rfl, hq1, hq2, H5⟩)
              | (go_at_call 15; refine (H15.out a5 c5 w5 H5.out.1).mono ?_; rintro e w6 ⟨b6, rfl, hrd6, hb6⟩))
            have HI : Hid (Rp w6 w5.heap.size (some ⟨b6, 0, none⟩) (some (from_ bn (pairs NS SS) 0 ++ from_ (bp t) Ps 0)) ∧ Below w.heap.size w w6 ∧ w5.heap.size ≤ w6.heap.size ∧ w.heap.size ≤ w5.heap.size) := by
              have h5 := HX5.out.1.trans (H5.out.2.mono HX5.out.1.size)
              refine ⟨?_, h5.trans (hb6.mono h5.size), hb6.size, h5.size⟩
              rw [← HT.out]
              exact Rp.of hrd6
            have HX8 := Lib.hid HX5.out.2
            generalize w5.heap.size = B6 at *
            clear hq1 hq2 hrd6 hb6 H5 H14 H15 HX5
            obtain ⟨RB, hRB⟩ : ∃ RB, RB = from_ (bp t) Ps 0 := ⟨_, rfl⟩
            rw [← hRB] at HI
            have HRB := Lib.hid hRB
            clear hRB HT
            go_wp2_with fail
            go_loopw [16] (fun a16 w9 => ∃ i : Nat, a16 = .int .i64 i ∧ i ≤ K ∧ Hid (Rp w9 B6 (some ⟨b6, 0, none⟩) (some (from_ bn (pairs NS SS) i ++ RB)) ∧ Below w.heap.size w w9 ∧ B6 ≤ w9.heap.size ∧ w.heap.size ≤ B6))
              (fun i _ => K - (intOf i).toNat)
            case atStart => exact ⟨0, rfl, Nat.zero_le _, HI⟩
            case round =>
              obtain ⟨i, rfl, hi, HX⟩ := hrel
              clear HI
              by_cases hiK : i < K
              · obtain ⟨x1, x2, x3, x4⟩ := HX.out
                obtain ⟨l1, l2, l3, l4, l5⟩ := HL.out
                obtain ⟨hN, hn, hS, -⟩ := HA.out
                have hiN : i < NS.length := by omega
                have hiS : i < SS.length := by omega
                obtain ⟨bn1, on1, rfl, hbn, hcn⟩ := (hN.on x2 (Nat.le_refl _)).at_ i hiN
                obtain ⟨bs1, os1, rfl, hbs, hcs⟩ := byt_cell (hS.on x2 (Nat.le_refl _)) (j := i) hiS
                have hfr := from_step bn (pairs NS SS) i (by omega)
                rw [pairs_at NS SS i (by omega) hiN hiS] at hfr
                have hnn := hn (NS.getD i 0) (by rw [List.getD_eq_getElem?_getD, List.getElem?_eq_getElem hiN]; exact List.getElem_mem _)
                have hyy := (SS.getD i 0).toNat_lt
                generalize NS.getD i 0 = n at *
                generalize (SS.getD i 0).toNat = y at *
                obtain ⟨s, hs, hs9⟩ : ∃ s : Nat, y % 9 = s ∧ s ≤ 8 := ⟨y % 9, rfl, by omega⟩
                rw [hs] at hfr
                have hys : (y : Int) % 9 = (s : Nat) := by omega
                have hst : from_ bn (pairs NS SS) i ++ RB = be n s ++ (from_ bn (pairs NS SS) (i + 1) ++ RB) := by rw [hfr, List.append_assoc]; rfl
                rw [hst] at x1
                have hc16 := c16_some _ B6 _ _ x1 (s : Nat) _ _ (numS_laid n s _ hs9)
                have hi1 : (i : Int) < N := by omega
                have hi2 : (i : Int) < S := by omega
                have hmk := mask_eq n s hnn
                have hfull : s = 8 → n % 256 ^ s = n := fun e => by subst e; exact Nat.mod_eq_of_lt (by omega)
                have hpp : s < 8 → 1 ≤ 256 ^ s ∧ 256 ^ s ≤ 72057594037927936 := fun h => ⟨Nat.pow_pos (by decide), Nat.le_trans (Nat.pow_le_pow_right (by decide) (by omega : s ≤ 7)) (by decide)⟩
                have hsh := fun h => shl_wrap s h
                generalize n % 256 ^ s = X at *
                generalize 256 ^ s = p2 at *
                have HXX := Lib.hid (And.intro x1 (And.intro x2 (And.intro x3 x4)))
                clear hfr hst hN hn hS l1 l2 l3 l4 l5 hiN hiS hnn HX x1 x2 x3 x4
                by_cases hs8 : s < 8
                · obtain ⟨p3, p4⟩ := hpp hs8
                  have hmk := hmk hs8
                  have hsh := hsh hs8
                  have hw8 : (8 : Int) * (s : Nat) = ((8 * s : Nat) : Int) := by omega
                  have hsub : IntKind.u64.wrap ((p2 : Int) - 1) = ((p2 - 1 : Nat) : Int) := by rw [IntKind.wrap_u64]; omega
                  have hsub2 : (p2 : Int) - 1 = ((p2 - 1 : Nat) : Int) := by omega
                  generalize ((p2 - 1 : Nat) : Int) = D at *
                  generalize ((8 * s : Nat) : Int) = q at *
                  clear hpp hfull
                  have hs81 : (s : Int) < 8 := by omega
                  go_wp2_with (go_at_call 16; refine hc16.mono ?_; clear hc16; rintro e w7 ⟨rfl, hR7, ht7⟩)
                  go_roundw
                  case rel =>
                    obtain ⟨x1, x2, x3, x4⟩ := HXX.out
                    exact ⟨i + 1, rfl, hiK, hR7, x2.trans ((ht7.below x1 x3).mono x4), Nat.le_trans x3 ht7.grown.size, x4⟩
                  case measure => simp [intOf]; omega
                · obtain rfl : X = n := hfull (by omega)
                  have hs81 : ¬ (s : Int) < 8 := by omega
                  clear hpp hfull hmk hsh
                  go_wp2_with (go_at_call 16; refine hc16.mono ?_; clear hc16; rintro e w7 ⟨rfl, hR7, ht7⟩)
                  go_roundw
                  case rel =>
                    obtain ⟨x1, x2, x3, x4⟩ := HXX.out
                    exact ⟨i + 1, rfl, hiK, hR7, x2.trans ((ht7.below x1 x3).mono x4), Nat.le_trans x3 ht7.grown.size, x4⟩
                  case measure => simp [intOf]; omega
              · obtain rfl : K = i := by omega
                have HI : Hid (Rp wr B6 (some ⟨b6, 0, none⟩) (some (from_ (bp t) Ps 0)) ∧ Below w.heap.size w wr ∧ B6 ≤ wr.heap.size ∧ w.heap.size ≤ B6) := by
                  obtain ⟨x1, x2, x3, x4⟩ := HX.out
                  rw [from_end bn (pairs NS SS) K (by have := HL.out; omega), List.nil_append, HRB.out] at x1
                  exact ⟨x1, x2, x3, x4⟩
                have hdK : decide (K < S) = false := decide_eq_false (by omega)
                have hdL : decide ((K : Int) < S) = false := decide_eq_false (by omega)
                clear HX HRB hiK hi
                go_wp2_with fail
                go_loopw [19] (fun a19 w9 => ∃ i : Nat, a19 = .int .i64 i ∧ i ≤ M ∧ Hid (Rp w9 B6 (some ⟨b6, 0, none⟩) (some (from_ (bp t) Ps i)) ∧ Below w.heap.size w w9 ∧ B6 ≤ w9.heap.size ∧ w.heap.size ≤ B6))
                  (fun i _ => M - (intOf i).toNat)
                case atStart => exact ⟨0, rfl, Nat.zero_le _, HI⟩
                case round =>
                  obtain ⟨i, rfl, hi, HX⟩ := hrel
                  clear HI
                  by_cases hiM : i < M
                  · obtain ⟨x1, x2, x3, x4⟩ := HX.out
                    obtain ⟨l1, l2, l3, l4, l5⟩ := HL.out
                    obtain ⟨-, -, -, hR⟩ := HA.out
                    have hiP : i < Ps.length := by omega
                    obtain ⟨bl, ol, rfl, hbl, ap, cp, hcl0, hbP⟩ := hR.at_ i hiP
                    have hfr : from_ (bp t) Ps i = bp t (Ps.getD i []) ++ from_ (bp t) Ps (i + 1) := by
                      rw [from_step (bp t) Ps i hiP, List.getD_eq_getElem?_getD, List.getElem?_eq_getElem hiP]; rfl
                    have hPl := HX8.out i hiM
                    generalize Ps.getD i [] = P at *
                    rw [hfr] at x1
                    obtain ⟨m, hm⟩ : ∃ m, m = P.length := ⟨_, rfl⟩
                    rw [← hm] at hcl0
                    have hc17 := c17_some wr.drew B6 _ _ x1.drew 2000 (by decide) _ _ (byS_part t P _ hPl)
                    rw [← hm] at hc17
                    have hcell : ∀ w', Below w.heap.size w w' → w'.cell? ⟨bl, ol + i, none⟩ = some (.slice ap m cp) := fun w' h => (h.cell (p := ⟨bl, ol + i, none⟩) hbl).trans hcl0
                    have hconv : ∀ w', Below w.heap.size w w' → (convert 23 9 (.slice ap m cp)).run Try.prog w' = .ok (.string ⟨P.toArray⟩) w' := fun w' h => by
                      rw [hm]; exact conv_bytes (hbP.on h (Nat.le_refl _)) cp
                    have hcl := hcell wr x2
                    have h17 : Calls Try.prog 17 #[.pointer (some ⟨b6, 0, none⟩), .int .i64 2000] wr.drew fun e w' => ∃ a c, e = .returned (.slice a m c) ∧ (convert 23 9 (.slice a m c)).run Try.prog w' = .ok (.string ⟨P.toArray⟩) w' ∧ w'.cell? ⟨bl, ol + i, none⟩ = some (.slice ap m cp) ∧ (convert 23 9 (.slice ap m cp)).run Try.prog w' = .ok (.string ⟨P.toArray⟩) w' ∧ Hid (Rp w' B6 (some ⟨b6, 0, none⟩) (some ([if t then 1 else 0] ++ from_ (bp t) Ps (i + 1))) ∧ Tch wr (some ⟨b6, 0, none⟩) w') := by
                      refine hc17.mono fun e w' ⟨a, c, h1, h2, h3, h4⟩ => ?_
                      have h4' : Tch wr (some ⟨b6, 0, none⟩) w' := (tch_drewN wr b6 1).trans h4
                      have hb : Below w.heap.size w w' := x2.trans ((h4'.below x1 x3).mono x4)
                      refine ⟨a, c, h1, ?_, hcell w' hb, hconv w' hb, h3, h4'⟩
                      rw [hm]; exact conv_bytes h2.byt c
                    have h18 : ∀ w', Rp w' B6 (some ⟨b6, 0, none⟩) (some ([if t then 1 else 0] ++ from_ (bp t) Ps (i + 1))) → Calls Try.prog 18 #[.pointer (some ⟨b6, 0, none⟩)] w' fun e w'' => e = .returned (.bool t) ∧ Rp w'' B6 (some ⟨b6, 0, none⟩) (some (from_ (bp t) Ps (i + 1))) ∧ Tch w' (some ⟨b6, 0, none⟩) w'' := by
                      intro w' h
                      have h2 := c18_some w' B6 _ _ h _ _ (upS_flag t _)
                      have e : ((if t = true then 1 else 0 : Nat) == 1) = t := by cases t <;> rfl
                      rw [e] at h2
                      exact h2
                    have hq0 := hconv wr.drew x2.drew
                    have H17 := Lib.hid h17
                    have H18 := Lib.hid h18
                    have hi1 : (i : Int) < M := by omega
                    have HX2 := Lib.hid (And.intro x1 (And.intro x2 (And.intro x3 x4)))
                    clear h17 h18 hc17 hcell hconv hcl0 hfr hPl x1 x2 x3 x4 l1 l2 l3 l4 l5 hR hiP hbP hm HX
                    generalize (⟨P.toArray⟩ : ByteArray) = S1 at *
                    go_wp2_with fail
                    go_region_with (first
                      | (go_at_call 17; refine H17.out.mono ?_; rintro e w7 ⟨a7, c7, rfl, hq7, hcl7, hp7, H7⟩; have hc18 := H18.out w7 H7.out.1)
                      | (go_at_call 18; refine hc18.mono ?_; rintro e w8 ⟨rfl, hR8, ht8⟩))
                    all_goals (
                      go_wp2
                      go_roundw
                      case rel =>
                        obtain ⟨x1, x2, x3, x4⟩ := HX2.out
                        have ht := H7.out.2.trans ht8
                        exact ⟨i + 1, rfl, hiM, hR8, x2.trans ((ht.below x1 x3).mono x4), Nat.le_trans x3 ht.grown.size, x4⟩
                      case measure => simp [intOf]; omega)
                  · obtain rfl : M = i := by omega
                    have hi1 : ¬ (M : Int) < M := by omega
                    obtain ⟨x1, x2, x3, x4⟩ := HX.out
                    rw [from_end (bp t) Ps M (by have := HL.out; omega)] at x1
                    have hEn : Calls Try.prog 19 #[.pointer (some ⟨b6, 0, none⟩)] wr fun e w' => e = .returned (.bool true) ∧ w' = wr := end_any wr B6 _ (some []) x1
                    have hBd : Calls Try.prog 20 #[.pointer (some ⟨b6, 0, none⟩)] wr fun e w' => e = .returned (.bool false) ∧ w' = wr := bad_any wr B6 _ (some []) x1
                    have hLf : Calls Try.prog 21 #[.pointer (some ⟨b6, 0, none⟩)] wr fun e w' => e = .returned (.int .i64 0) ∧ w' = wr := left_any wr B6 _ (some []) x1
                    clear x1 x3 HX HX8
                    go_wp2_with (first
                      | (go_at_call 19; refine hEn.mono ?_; rintro e w7 ⟨rfl, rfl⟩)
                      | (go_at_call 20; refine hBd.mono ?_; rintro e w8 ⟨rfl, rfl⟩)
                      | (go_at_call 21; refine hLf.mono ?_; rintro e w9 ⟨rfl, rfl⟩))
                    go_ret
                    exact ⟨rfl, x2⟩
end Go.Proofs.Ytpeibhhdhomnmaa
