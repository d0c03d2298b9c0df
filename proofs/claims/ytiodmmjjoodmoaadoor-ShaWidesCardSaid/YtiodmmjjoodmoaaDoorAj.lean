/- Layer 2's reference, the walks: the digest. -/
import Derived.Test.YtiodmmjjoodmoaaDoorAi
namespace Go.Proofs.YtiodmmjjoodmoaaDoor
open Go.RowKit

def slen : Value → Nat
  | .slice _ n _ => n
  | _ => 0

/-- A word turned, asked in a region that draws. -/
theorem rturn_q (x : Int) (k : Nat) (n : Int) (hn : n = k) (w : World) (m : Nat) (h : Sh.W32 x) (h2 : 1 ≤ k) (h3 : k ≤ 31) : Calls Tryd.prog 19 #[.int .u32 x, .int .i64 n] (w.drewN m) fun e w'' => e = .returned (.int .u32 (Sh.rot x k)) ∧ ∃ m', w'' = w.drewN m' := by
  subst hn; exact Calls.quiet_of (rturnk x k _ h h2 h3)

theorem rturn_d (x : Int) (k : Nat) (n : Int) (hn : n = k) (w : World) (h : Sh.W32 x) (h2 : 1 ≤ k) (h3 : k ≤ 31) : Calls Tryd.prog 19 #[.int .u32 x, .int .i64 n] w fun e w' => e = .returned (.int .u32 (Sh.rot x k)) ∧ Drew w w' := by
  subst hn; exact rturnk x k w h h2 h3
theorem Drew.trans {a b c : World} (h : Drew a b) (k : Drew b c) : Drew a c := by
  obtain ⟨n, rfl⟩ := h
  obtain ⟨m, rfl⟩ := k
  exact ⟨n + m, World.drewN_drewN _ _ _⟩
theorem Drew.cell {a b : World} (h : Drew a b) (p : Addr) : b.cell? p = a.cell? p := by
  obtain ⟨n, rfl⟩ := h; rfl

theorem own_mono {w : World} {base base' size n : Nat} {e : TypeId} {v : Value} {xs : List Value} (h : w.ownsRow base e size v n xs) (hb : base' ≤ base) : w.ownsRow base' e size v n xs := by
  refine ⟨h.1, ?_⟩
  rcases h.2 with h2 | ⟨g, cap, cur, h1, h2, r⟩
  · exact Or.inl h2
  · exact Or.inr ⟨g, cap, cur, h1, Nat.le_trans hb h2, r⟩
theorem Sits.drew {w wq w' : World} {base gk gh ch gp : Nat} {L s : List Int} (h : Sits w base gk gh ch gp L s wq) (hd : Drew wq w') : Sits w base gk gh ch gp L s w' := by
  obtain ⟨n, rfl⟩ := hd
  exact h.drewN n
/-- Some of the eight are added. -/
def plusAt (s r : Sh.S) (k : Nat) : List Int := [if 0 < k then Sh.ad s.a r.a else s.a, if 1 < k then Sh.ad s.b r.b else s.b, if 2 < k then Sh.ad s.c r.c else s.c, if 3 < k then Sh.ad s.d r.d else s.d, if 4 < k then Sh.ad s.e r.e else s.e, if 5 < k then Sh.ad s.f r.f else s.f, if 6 < k then Sh.ad s.g r.g else s.g, if 7 < k then Sh.ad s.h r.h else s.h]
theorem plusAt_get (s r : Sh.S) (k : Nat) (h : k < 8) : (plusAt s r k).getD k 0 = s.cells.getD k 0 := by
  match k, h with
  | 0, _ => rfl
  | 1, _ => rfl
  | 2, _ => rfl
  | 3, _ => rfl
  | 4, _ => rfl
  | 5, _ => rfl
  | 6, _ => rfl
  | 7, _ => rfl
theorem plusAt_set (s r : Sh.S) (k : Nat) (h : k < 8) : (plusAt s r k).set k (Sh.ad (s.cells.getD k 0) (r.cells.getD k 0)) = plusAt s r (k + 1) := by
  match k, h with
  | 0, _ => rfl
  | 1, _ => rfl
  | 2, _ => rfl
  | 3, _ => rfl
  | 4, _ => rfl
  | 5, _ => rfl
  | 6, _ => rfl
  | 7, _ => rfl

set_option maxRecDepth 100000 in
set_option maxHeartbeats 20000000 in
theorem rsum_probe (w : World) (am : Option Addr) (nm cm : Nat) (m : List Int) (hM : Slc w (.slice am nm cm) m) (hlm : m.length ≤ 1000000) :
    Calls Tryd.prog 10 #[.slice am nm cm] w fun e w' => ∃ v', e = .returned v' ∧ w'.ownsRow w.heap.size 5 1 v' 32 ((Sh.sha m).map (Value.int .u8)) ∧ Below w.heap.size w w' := by
  obtain rfl := slc_len hM
  have h8 : ∀ x ∈ m, Sh.W8 x := by
    obtain ⟨_, _, _, _, h, _⟩ := hM; exact h
  have HM := Lib.hid hM
  have H8 := Lib.hid h8
  have h1 := roots_probe w 64 3 (by omega) (by omega) (by omega)
  have h2 := (fun w1 => roots_probe w1 8 2 (by omega) (by omega) (by omega))
  rw [roots_KK] at h1
  rw [roots_H0] at h2
  have H1 := Lib.hid h1
  have H2 := Lib.hid h2
  have HL := Lib.hid hlm
  clear hM h8 hlm h1 h2
  obtain ⟨n, hn⟩ : ∃ n, n = m.length := ⟨_, rfl⟩
  rw [← hn]
  have HN := Lib.hid hn
  clear hn
  go_enter Tryd.func10, Tryd.ntmps10
  go_wp2_with (first
    | ((with_reducible refine append_byte (o := ⟨some 40, _, _, _, _, _⟩) rfl (.tmp 38) (.tmp 39) rfl w2 u5 m rfl ?_ 128 rfl ?_ ?_ ?_); exact HP1.out; exact (by unfold Sh.W8; omega); exact (by have := HL.out; omega); intro u6 w4 hp2; have HP2 := Lib.hid hp2; clear hp2)
    | ((with_reducible refine append_mine (o := ⟨some 37, _, _, _, _, _⟩) rfl (.tmp 35) (.tmp 36) rfl w2 (.slice none 0 0) [] rfl ?_ am n cm m rfl ?_ ?_ ?_); exact Mine.nil _ _ _; exact (by have := HM.out.below (HB1.out.trans (HB2.out.mono HB1.out.size)) (Nat.le_refl _); rw [HN.out]; exact this); exact (by have := HL.out; simp; omega); rw [List.nil_append]; intro u5 w3 hp1; have HP1 := Lib.hid hp1; clear hp1)
    | (go_at_call 18; refine (HR.out).mono ?_; rintro e w2 ⟨vh, rfl, hh, hb2⟩; obtain ⟨gh, ch, rfl, hgh1, hgh2⟩ := own32_form hh; have HH := Lib.hid hh; have HB2 := Lib.hid hb2; clear hh hb2)
    | (go_at_call 18; refine H1.out.mono ?_; rintro e w1 ⟨vk, rfl, hk, hb1⟩; obtain ⟨gk, ck, rfl, hgk1, hgk2⟩ := own32_form hk; have HK := Lib.hid hk; have HB1 := Lib.hid hb1; have HR := Lib.hid (H2.out w1); clear hk hb1))
  obtain ⟨Z, hZ⟩ : ∃ Z, Z = (119 - n % 64) % 64 := ⟨_, rfl⟩
  go_loopw [5] (fun v wr => ∃ z : Nat, z ≤ Z ∧ Hid (Mine .u8 5 w2 wr v (m ++ 128 :: List.replicate z 0))) (fun v _ => n + 100 - slen v)
  case atStart => exact ⟨0, Nat.zero_le _, HP2.out⟩
  case round =>
    obtain ⟨z, hz, MZ⟩ := hrel
    obtain ⟨a5, c5, rfl⟩ := MZ.out.form
    have hsucc : m ++ 128 :: List.replicate (z + 1) 0 = m ++ 128 :: List.replicate z 0 ++ [0] := by
      rw [List.replicate_succ']; simp
    have hlen : (m ++ 128 :: List.replicate z (0 : Int)).length = n + z + 1 := by rw [HN.out]; simp; omega
    rw [hlen]
    have HLEN := Lib.hid hlen
    have HSUCC := Lib.hid hsucc
    clear hlen hsucc
    by_cases hlt : z < Z
    · go_wp2_with ((with_reducible refine append_byte (o := ⟨some 47, _, _, _, _, _⟩) rfl (.tmp 45) (.tmp 46) rfl w2 _ (m ++ 128 :: List.replicate z 0) rfl ?_ 0 rfl ?_ ?_ ?_); exact (by rw [← HLEN.out]; exact MZ.out); exact (by unfold Sh.W8; omega); exact (by have := HL.out; have := HLEN.out; have := HN.out; omega); intro u6 w5 hp2; have HP3 := Lib.hid hp2; clear hp2)
      go_roundw
      case rel => exact ⟨z + 1, by omega, by rw [HSUCC.out]; exact HP3.out⟩
      case measure =>
        obtain ⟨a6, c6, rfl⟩ := HP3.out.form
        have h1 := HLEN.out
        rw [List.length_append, h1]
        simp only [slen, List.length_singleton]
        omega
    · obtain rfl : z = Z := by omega
      have hcol : m ++ 128 :: List.replicate z 0 ++ Sh.lbytes ((n : Int) * 8) 8 = Sh.full m := by
        unfold Sh.full Sh.pad
        rw [← HN.out, ← hZ, List.append_assoc, List.cons_append]
      have HC := Lib.hid hcol
      have HZ2 := Lib.hid hZ
      have hnl : n ≤ 1000000 := by rw [HN.out]; exact HL.out
      have HNL := Lib.hid hnl
      have hmod : ((n : Int) + (z : Int) + 1) % 64 = 56 := by omega
      clear hcol hZ hlt hz
      go_wp2
      clear hmod hnl
      generalize m ++ 128 :: List.replicate z 0 = q at *
      obtain ⟨wo, hwo⟩ : ∃ wo, wo = wr := ⟨_, rfl⟩
      rw [← hwo] at MZ
      rw [← hwo]
      clear hwo
      go_loopw [5, 7] (fun v i wq => ∃ t : Nat, t ≤ 8 ∧ i = .int .i64 ((t : Int) - 1) ∧ Hid (Mine .u8 5 w2 wq v (q ++ Sh.lbytes ((n : Int) * 8) (8 - t)))) (fun _ i _ => (intOf i + 1).toNat)
      case atStart => exact ⟨8, Nat.le_refl _, rfl, by rw [← HLEN.out, show q ++ Sh.lbytes ((n : Int) * 8) (8 - 8) = q by simp [Sh.lbytes]]; exact MZ.out⟩
      case round =>
        clear MZ
        obtain ⟨t, ht, rfl, MT⟩ := hrel
        obtain ⟨a6, c6, rfl⟩ := MT.out.form
        cases t with
        | succ t =>
          rw [show ((t + 1 : Nat) : Int) - 1 = (t : Int) by omega]
          have hb : Sh.lbytes ((n : Int) * 8) (8 - t) = Sh.lbytes ((n : Int) * 8) (8 - (t + 1)) ++ [(n : Int) * 8 / 2 ^ (8 * t) % 256] := by
            rw [show 8 - t = (8 - (t + 1)) + 1 by omega, Sh.lbytes_succ]
            unfold Sh.lbyte
            rw [show 56 - 8 * (8 - (t + 1)) = 8 * t by omega]
          have hlq : (q ++ Sh.lbytes ((n : Int) * 8) (8 - (t + 1))).length ≤ 10000000000000 := by
            have := HLEN.out; have := HNL.out; have := HZ2.out; simp [Sh.lbytes]; omega
          have HB := Lib.hid hb
          have HLQ := Lib.hid hlq
          clear hb hlq
          generalize Sh.lbytes ((n : Int) * 8) (8 - (t + 1)) = lb at *
          generalize hnq : (q ++ lb).length = nq at *
          have HNQ := Lib.hid hnq
          clear hnq
          go_wp2_with ((with_reducible refine append_byte (o := ⟨some 63, _, _, _, _, _⟩) rfl (.tmp 56) (.tmp 62) rfl w2 (.slice a6 nq c6) (q ++ lb) rfl ?_ ((n : Int) * 8 / 2 ^ (8 * t) % 256) rfl ?_ ?_ ?_); exact MT.out; exact (by unfold Sh.W8; omega); exact (by rw [HNQ.out]; exact HLQ.out); intro u6 w5 hp2; have HP3 := Lib.hid hp2; clear hp2)
          go_roundw
          case rel => exact ⟨t, by omega, by go_num, by rw [HB.out, ← List.append_assoc]; exact HP3.out⟩
          case measure => simp [intOf]
        | zero =>
          rw [show ((0 : Nat) : Int) - 1 = -1 from rfl]
          have MF := MT.out
          rw [show 8 - 0 = 8 from rfl, HC.out] at MF ⊢
          obtain ⟨b, hfl, hfb⟩ := Sh.length_full m
          have h8 := Sh.full_W m H8.out
          have hsha := Sh.sha_full m b hfl
          have H8F := Lib.hid h8
          have HSHA := Lib.hid hsha
          have HFL := Lib.hid hfl
          have MF := Lib.hid MF
          have h9 : m.length + 9 ≤ (Sh.full m).length := by simp [Sh.full, Sh.pad, Sh.lbytes]
          have hb1 : 1 ≤ b := by omega
          obtain ⟨gp, cp, hv, hgp0, hgp1⟩ := MF.out.form2 (by omega)
          rw [hv] at MF ⊢
          have hpp := at_of_own MF.out.1
          have hbw : Below w.heap.size w wr := HB1.out.trans ((HB2.out.trans (MF.out.2.mono HB2.out.size)).mono HB1.out.size)
          have hkw := own_kept HK.out (HB2.out.trans (MF.out.2.mono HB2.out.size))
          have hS := Lib.hid (Sits.mk (w := w) (base := w1.heap.size) (gk := gk) (gh := gh) (ch := ch) (gp := gp) (L := Sh.full m) (s := Sh.H0.cells) (at_of_own hkw) (by have := hbw.size; have := HB2.out.size; have := MF.out.2.size; omega) hpp hgp1 (own_kept HH.out MF.out.2) hbw)
          have hne1 : gk ≠ gh := by omega
          have hne2 : gp ≠ gh := by omega
          have hne3 : w.heap.size ≤ gh := by have := HB1.out.size; omega
          clear h8 h9 hsha H8 HC MT HN HM HP1 HP2 HSUCC HLEN hv hpp hbw hkw MF HB1 HB2 HK HH HR H1 H2
          generalize Sh.full m = L at *
          rw [hfl]
          go_wp2
          obtain ⟨wf, hwf⟩ : ∃ wf, wf = wr := ⟨_, rfl⟩
          rw [← hwf] at hS
          rw [← hwf]
          clear hwf
          clear hgp1
          have hbm : b ≤ 20000 := by have := HL.out; omega
          clear hfb
          go_loopw [8] (fun i wq => ∃ t : Nat, t ≤ b ∧ i = .int .i64 (64 * (t : Int)) ∧ Hid (Sits w w1.heap.size gk gh ch gp L (Sh.blocks t Sh.H0 L).cells wq)) (fun i _ => 64 * b - (intOf i).toNat)
          case atStart => exact ⟨0, Nat.zero_le _, rfl, hS⟩
          case round =>
            clear hS
            obtain ⟨t, ht, rfl, SI⟩ := hrel
            by_cases hlt : t < b
            · have hmore := Lib.hid (Sh.blocks_more t Sh.H0 L)
              have hp8 := Sh.blockOf_W L t H8F.out
              have hpg := Lib.hid (Sh.blockOf_get L t)
              have hP8 := Lib.hid hp8
              clear hp8
              have hok := Sh.blocks_ok t Sh.H0 L Sh.H0_ok
              generalize Sh.blocks t Sh.H0 L = st at *
              generalize Sh.blockOf L t = p at *
              go_wp2
              obtain ⟨wo, hwo⟩ : ∃ wo, wo = wr := ⟨_, rfl⟩
              rw [← hwo] at SI
              rw [← hwo]
              clear hwo
              go_loopw [9, 10] (fun v i wq => ∃ k : Nat, k ≤ 64 ∧ i = .int .i64 k ∧ Hid (Mine .u32 39 wo wq v (Sh.words p k))) (fun _ i _ => 64 - (intOf i).toNat)
              case atStart => exact ⟨0, Nat.zero_le _, rfl, Mine.nil _ _ _⟩
              case round =>
                obtain ⟨k, hk, rfl, MW⟩ := hrel
                obtain ⟨a9, c9, rfl⟩ := MW.out.form
                have hlw := Lib.hid (Sh.length_words p k)
                rw [hlw.out] at MW ⊢
                have SW := Lib.hid (SI.out.below MW.out.2)
                by_cases hk64 : k < 64
                · by_cases hk16 : k < 16
                  · as_aux_lemma =>
                      have hsw := Sh.words_low p k hk16 hP8.out
                      have HSW := Lib.hid hsw
                      clear hsw
                      generalize Sh.words p k = ws at *
                      go_wp2
                      go_loop [11, 12] (fun x j => ∃ j' : Nat, j' ≤ 4 ∧ x = .int .u32 (Sh.acc p (4 * k) j') ∧ j = .int .i64 j') (fun _ j => 4 - (intOf j).toNat)
                      case atStart => exact ⟨0, Nat.zero_le _, rfl, rfl⟩
                      case round =>
                        obtain ⟨j, hj, rfl, rfl⟩ := hrel
                        by_cases hj4 : j < 4
                        · have hcell := SW.out.pcell (64 * t + 4 * k + j) (by rw [HFL.out]; omega)
                          rw [show 64 * t + 4 * k + j = 64 * t + (4 * k + j) by omega, ← hpg.out (4 * k + j) (by omega), show 64 * t + (4 * k + j) = 64 * t + 4 * k + j by omega] at hcell
                          obtain ⟨hx0, hx1⟩ := Sh.acc_low p (4 * k) j hP8.out (by omega)
                          obtain ⟨hy0, hy1⟩ := W8_getD hP8.out (4 * k + j)
                          have HAC := Lib.hid (show Sh.acc p (4 * k) (j + 1) = Sh.acc p (4 * k) j * 256 + p.getD (4 * k + j) 0 from rfl)
                          generalize Sh.acc p (4 * k) j = x at *
                          generalize p.getD (4 * k + j) 0 = y at *
                          go_wp2
                          go_round
                          case rel => exact ⟨j + 1, by omega, by rw [HAC.out], by go_num⟩
                          case measure => simp [intOf]; omega
                        · obtain rfl : j = 4 := by omega
                          generalize Sh.acc p (4 * k) 4 = x at *
                          go_wp2_with ((with_reducible refine append_word (o := ⟨some 96, _, _, _, _, _⟩) rfl (.tmp 93) (.tmp 95) rfl wo (.slice a9 k c9) ws rfl ?_ x rfl ?_ ?_); exact MW.out; exact (by rw [hlw.out]; omega); intro u6 w5 hp2; have HP3 := Lib.hid hp2; clear hp2)
                          go_roundw
                          case rel => exact ⟨k + 1, by omega, by go_num, by rw [HSW.out]; exact HP3.out⟩
                          case measure => simp [intOf]; omega
                  · obtain ⟨g9, c9', hv9, hg9, hg9'⟩ := MW.out.form2 (by rw [hlw.out]; omega)
                    rw [hlw.out] at hv9
                    simp only [Value.slice.injEq, true_and] at hv9
                    obtain ⟨rfl, rfl⟩ := hv9
                    have hw8 := Sh.words_W p k
                    have h16 := MW.out.cell hlw.out.symm (k - 16) (by rw [hlw.out]; omega)
                    have h15 := MW.out.cell hlw.out.symm (k - 15) (by rw [hlw.out]; omega)
                    have h7 := MW.out.cell hlw.out.symm (k - 7) (by rw [hlw.out]; omega)
                    have h2 := MW.out.cell hlw.out.symm (k - 2) (by rw [hlw.out]; omega)
                    have b16 := W32_getD hw8 (k - 16)
                    have b15 := W32_getD hw8 (k - 15)
                    have b7 := W32_getD hw8 (k - 7)
                    have b2 := W32_getD hw8 (k - 2)
                    have hsw := Sh.words_high p k (by omega)
                    have HSW := Lib.hid hsw
                    clear hsw hw8
                    generalize Sh.words p k = ws at *
                    generalize ws.getD (k - 16) 0 = x16 at *
                    generalize ws.getD (k - 15) 0 = x15 at *
                    generalize ws.getD (k - 7) 0 = x7 at *
                    generalize ws.getD (k - 2) 0 = x2 at *
                    go_wp2
                    go_quiet (first | (go_at_call_of 19 (Value.int IntKind.i64 7); exact rturn_q _ 7 7 rfl _ _ b15 (by decide) (by decide)) | (go_at_call_of 19 (Value.int IntKind.i64 18); exact rturn_q _ 18 18 rfl _ _ b15 (by decide) (by decide)))
                    obtain ⟨w5, hw5⟩ : ∃ w5, w5 = wr.drewN nq := ⟨_, rfl⟩
                    have MW5 : Hid (Mine .u32 39 wo w5 (.slice (some ⟨g9, 0, none⟩) k c9) ws) := by rw [hw5]; exact MW.out.drewN nq
                    have j16 : w5.cell? ⟨g9, k - 16, none⟩ = some (.int .u32 x16) := by rw [hw5]; exact h16
                    have j7 : w5.cell? ⟨g9, k - 7, none⟩ = some (.int .u32 x7) := by rw [hw5]; exact h7
                    have j2 : w5.cell? ⟨g9, k - 2, none⟩ = some (.int .u32 x2) := by rw [hw5]; exact h2
                    rw [← hw5]
                    clear hw5 MW SW h16 h15 h7 h2
                    go_wp2
                    go_quiet (first | (go_at_call_of 19 (Value.int IntKind.i64 17); exact rturn_q _ 17 17 rfl _ _ b2 (by decide) (by decide)) | (go_at_call_of 19 (Value.int IntKind.i64 19); exact rturn_q _ 19 19 rfl _ _ b2 (by decide) (by decide)))
                    obtain ⟨w6, hw6⟩ : ∃ w6, w6 = w5.drewN nq := ⟨_, rfl⟩
                    have MW6 : Hid (Mine .u32 39 wo w6 (.slice (some ⟨g9, 0, none⟩) k c9) ws) := by rw [hw6]; exact MW5.out.drewN nq
                    have l16 : w6.cell? ⟨g9, k - 16, none⟩ = some (.int .u32 x16) := by rw [hw6]; exact j16
                    have l7 : w6.cell? ⟨g9, k - 7, none⟩ = some (.int .u32 x7) := by rw [hw6]; exact j7
                    rw [← hw6]
                    clear hw6 MW5 j16 j7 j2
                    go_wp2
                    have HX := Lib.hid (MW6.out.drewN 1)
                    have e16 : IntKind.i64.wrap ((k : Int) - 16) = ((k - 16 : Nat) : Int) := by rw [IntKind.wrap_i64]; omega
                    have e7 : IntKind.i64.wrap ((k : Int) - 7) = ((k - 7 : Nat) : Int) := by rw [IntKind.wrap_i64]; omega
                    have q16 : ((k - 16 : Nat) : Int) < (k : Int) := by omega
                    have q7 : ((k - 7 : Nat) : Int) < (k : Int) := by omega
                    go_region_law ((refine step_append_word rfl (.tmp 137) (.tmp 153) rfl wo (w6.drewN 1) (.slice (some ⟨g9, 0, none⟩) k c9) ws ?_ HX.out _ rfl ?_ ?_ ?_); exact (by simp [Act.eval]); exact (by simp [Act.eval]); exact (by rw [hlw.out]; omega); intro v' w8 hp3; have HP3 := Lib.hid hp3; clear hp3)
                    all_goals (clear HX MW6 l16 l7 e16 e7 q16 q7; go_wp2; go_roundw)
                    all_goals first
                      | exact ⟨k + 1, by omega, by go_num, by rw [HSW.out]; exact HP3.out⟩
                      | (simp [intOf]; omega)
                · have hk6 : ((k : Nat) : Int) = 64 := by omega
                  rw [hk6]
                  clear hk6
                  obtain rfl : k = 64 := by omega
                  rw [Sh.words_all] at MW
                  have SW2 := SW.out
                  have ML := MW.out
                  obtain ⟨g9, c9', hv9, hg9, hg9'⟩ := ML.form2 (by rw [Sh.length_sched]; decide)
                  rw [Sh.length_sched] at hv9
                  simp only [Value.slice.injEq, true_and] at hv9
                  obtain ⟨rfl, rfl⟩ := hv9
                  have hl8 : st.cells.length = 8 := rfl
                  have c0 := SW2.hcell hl8 0 (by omega)
                  have c1 := SW2.hcell hl8 1 (by omega)
                  have c2 := SW2.hcell hl8 2 (by omega)
                  have c3 := SW2.hcell hl8 3 (by omega)
                  have c4 := SW2.hcell hl8 4 (by omega)
                  have c5 := SW2.hcell hl8 5 (by omega)
                  have c6 := SW2.hcell hl8 6 (by omega)
                  have c7 := SW2.hcell hl8 7 (by omega)
                  rw [show st.cells.getD 0 0 = st.a from rfl] at c0
                  rw [show st.cells.getD 1 0 = st.b from rfl] at c1
                  rw [show st.cells.getD 2 0 = st.c from rfl] at c2
                  rw [show st.cells.getD 3 0 = st.d from rfl] at c3
                  rw [show st.cells.getD 4 0 = st.e from rfl] at c4
                  rw [show st.cells.getD 5 0 = st.f from rfl] at c5
                  rw [show st.cells.getD 6 0 = st.g from rfl] at c6
                  rw [show st.cells.getD 7 0 = st.h from rfl] at c7
                  have MS := Lib.hid ML
                  clear SW2 ML MW SI hl8 hlw
                  go_wp2
                  go_quiet (fail)
                  obtain ⟨w5, hw5⟩ : ∃ w5, w5 = wr.drewN nq := ⟨_, rfl⟩
                  have SV : Hid (Sits w w1.heap.size gk gh ch gp L st.cells w5) := by rw [hw5]; exact SW.out.drewN nq
                  have MV : Hid (Mine .u32 39 wo w5 (.slice (some ⟨g9, 0, none⟩) 64 c9) (Sh.sched p)) := by rw [hw5]; exact MS.out.drewN nq
                  rw [← hw5]
                  clear hw5 MS SW c0 c1 c2 c3 c4 c5 c6 c7
                  go_wp2
                  obtain ⟨RF, hRF⟩ : ∃ RF : Nat → Sh.S, RF = Sh.rounds KK (Sh.sched p) st := ⟨_, rfl⟩
                  have hmo := hmore.out
                  rw [← hRF] at hmo
                  have HR0 := Lib.hid (show RF 0 = st by rw [hRF]; rfl)
                  have HRS := Lib.hid (show ∀ k, RF (k + 1) = Sh.step (RF k) (KK.getD k 0) ((Sh.sched p).getD k 0) by intro k; rw [hRF]; rfl)
                  have HRO := Lib.hid (show ∀ k, (RF k).ok by intro k; rw [hRF]; exact Sh.rounds_ok _ _ _ hok k)
                  have HMO := Lib.hid hmo
                  clear hRF hmo hmore
                  go_loopw [15, 16, 17, 18, 19, 20, 21, 22, 23] (fun a b c d e f g x i wq => ∃ k : Nat, k ≤ 64 ∧ i = .int .i64 k ∧ a = .int .u32 (RF k).a ∧ b = .int .u32 (RF k).b ∧ c = .int .u32 (RF k).c ∧ d = .int .u32 (RF k).d ∧ e = .int .u32 (RF k).e ∧ f = .int .u32 (RF k).f ∧ g = .int .u32 (RF k).g ∧ x = .int .u32 (RF k).h ∧ Hid (Drew w5 wq)) (fun _ _ _ _ _ _ _ _ i _ => 64 - (intOf i).toNat)
                  case atStart => exact ⟨0, by omega, rfl, by rw [HR0.out], by rw [HR0.out], by rw [HR0.out], by rw [HR0.out], by rw [HR0.out], by rw [HR0.out], by rw [HR0.out], by rw [HR0.out], Drew.refl _⟩
                  case round =>
                    obtain ⟨k, hk, rfl, rfl, rfl, rfl, rfl, rfl, rfl, rfl, rfl, HD⟩ := hrel
                    have hrok := HRO.out k
                    by_cases hlt64 : k < 64
                    · as_aux_lemma =>
                        have hck := SV.out.kcell k hlt64
                        have hcw := MV.out.cell (Sh.length_sched p).symm k (by rw [Sh.length_sched]; exact hlt64)
                        have HS := Lib.hid (HRS.out k)
                        have HCK := Lib.hid hck
                        have HCW := Lib.hid hcw
                        clear hck hcw
                        clear HRS HRO HR0
                        generalize RF k = r at *
                        generalize KK.getD k 0 = kk at *
                        generalize (Sh.sched p).getD k 0 = ww at *
                        obtain ⟨ha, hbb, hcc, hdd, he, hff, hgg, hxx⟩ := hrok
                        clear hbb hcc hdd hff hgg hxx hok
                        go_wp2_with (first | (go_at_call_of 19 (Value.int IntKind.i64 6); refine (rturn_d _ 6 6 rfl _ he (by decide) (by decide)).mono ?_; rintro e w8 ⟨rfl, hd⟩; have HD := Lib.hid (Drew.trans HD.out hd); clear hd) | (go_at_call_of 19 (Value.int IntKind.i64 11); refine (rturn_d _ 11 11 rfl _ he (by decide) (by decide)).mono ?_; rintro e w8 ⟨rfl, hd⟩; have HD := Lib.hid (Drew.trans HD.out hd); clear hd) | (go_at_call_of 19 (Value.int IntKind.i64 25); refine (rturn_d _ 25 25 rfl _ he (by decide) (by decide)).mono ?_; rintro e w8 ⟨rfl, hd⟩; have HD := Lib.hid (Drew.trans HD.out hd); clear hd))
                        have hk7 := (Drew.cell HD.out ⟨gk, k, none⟩).trans HCK.out
                        have hc7 := (Drew.cell HD.out ⟨g9, k, none⟩).trans HCW.out
                        go_quiet (fail)
                        obtain ⟨w9, hw9⟩ : ∃ w9, w9 = w8.drewN nq := ⟨_, rfl⟩
                        rw [← hw9]
                        have HD := Lib.hid (Drew.trans HD.out ⟨_, hw9⟩)
                        clear hk7 hc7 hw9
                        have eU : (((r.h + bits BinOp.xor .u32 (bits BinOp.xor .u32 (Sh.rot r.e 6) (Sh.rot r.e 11)) (Sh.rot r.e 25) + bits BinOp.xor .u32 (bits BinOp.and .u32 r.e r.f) (bits BinOp.and .u32 (bits BinOp.xor .u32 (if IntKind.u32.signed = true then -1 else IntKind.u32.max) r.e) r.g) + kk) % 4294967296 + ww) % 4294967296) = Sh.t1 r kk ww := by
                          simp only [Sh.t1, Sh.ad_eq, Sh.xr, Sh.an, Sh.nt, show (if IntKind.u32.signed = true then (-1 : Int) else IntKind.u32.max) = IntKind.u32.max from rfl]
                          omega
                        rw [eU]
                        clear eU
                        have hu0 : Sh.W32 (Sh.t1 r kk ww) := Sh.wrap_W _
                        generalize hu1 : Sh.t1 r kk ww = uu at *
                        have HU := Lib.hid hu1
                        clear hu1
                        go_wp2_with (first | (go_at_call_of 19 (Value.int IntKind.i64 2); refine (rturn_d _ 2 2 rfl _ ha (by decide) (by decide)).mono ?_; rintro e w8 ⟨rfl, hd⟩; have HD := Lib.hid (Drew.trans HD.out hd); clear hd) | (go_at_call_of 19 (Value.int IntKind.i64 13); refine (rturn_d _ 13 13 rfl _ ha (by decide) (by decide)).mono ?_; rintro e w8 ⟨rfl, hd⟩; have HD := Lib.hid (Drew.trans HD.out hd); clear hd) | (go_at_call_of 19 (Value.int IntKind.i64 22); refine (rturn_d _ 22 22 rfl _ ha (by decide) (by decide)).mono ?_; rintro e w8 ⟨rfl, hd⟩; have HD := Lib.hid (Drew.trans HD.out hd); clear hd))
                        go_roundw
                        case rel =>
                          refine ⟨k + 1, by omega, by go_num, ?_, ?_, ?_, ?_, ?_, ?_, ?_, ?_, HD⟩ <;> rw [HS.out]
                          · refine congrArg _ ?_
                            simp only [Sh.step, HU.out, Sh.t2, Sh.ad_eq, Sh.xr, Sh.an]
                          all_goals first | rfl | skip
                          · refine congrArg _ ?_
                            simp only [Sh.step, HU.out, Sh.ad_eq]
                        case measure => simp [intOf]; omega
                    · obtain rfl : k = 64 := by omega
                      have hro := hrok
                      have SVW := Lib.hid (Sits.drew SV.out HD.out)
                      clear hrok SV MV HD hlt64 hk HRS HRO HR0
                      generalize RF 64 = r at *
                      have hgl : gh < wr.heap.size := by
                        have h1 := own_lt SVW.out.hh gh rfl
                        exact h1.2
                      have HGL := Lib.hid hgl
                      clear hgl
                      go_wp2
                      have SB : Hid (Sits w w1.heap.size gk gh ch gp L (plusAt st r 0) (wr.alloc (.cells #[.int .u32 r.a, .int .u32 r.b, .int .u32 r.c, .int .u32 r.d, .int .u32 r.e, .int .u32 r.f, .int .u32 r.g, .int .u32 r.h] 39))) := SVW.out.below ((Below.refl _ _).alloc (Nat.le_refl _) _)
                      have BB : Hid (Blk (wr.alloc (.cells #[.int .u32 r.a, .int .u32 r.b, .int .u32 r.c, .int .u32 r.d, .int .u32 r.e, .int .u32 r.f, .int .u32 r.g, .int .u32 r.h] 39)) wr.heap.size .u32 39 r.cells) := heap_alloc_new wr _
                      clear SVW
                      generalize wr.alloc (.cells #[.int .u32 r.a, .int .u32 r.b, .int .u32 r.c, .int .u32 r.d, .int .u32 r.e, .int .u32 r.f, .int .u32 r.g, .int .u32 r.h] 39) = wl at *
                      generalize wr.heap.size = gl at *
                      have hgl : gh < gl := HGL.out
                      have hgn : gl ≠ gh := by omega
                      go_loopw [29] (fun i wq => ∃ k : Nat, k ≤ 8 ∧ i = .int .i64 k ∧ Hid (Sits w w1.heap.size gk gh ch gp L (plusAt st r k) wq) ∧ Hid (Blk wq gl .u32 39 r.cells)) (fun i _ => 8 - (intOf i).toNat)
                      case atStart => exact ⟨0, by omega, rfl, SB, BB⟩
                      case round =>
                        clear SB BB
                        obtain ⟨k, hk, rfl, SB, BB⟩ := hrel
                        by_cases hlt8 : k < 8
                        · have c1 := SB.out.hcell rfl k hlt8
                          have f1 := SB.out.hfree k
                          have c2 := BB.out.cell k hlt8
                          rw [plusAt_get st r k hlt8] at c1
                          have hset := SB.out.put hne1 hne2 hne3 k (Sh.ad (st.cells.getD k 0) (r.cells.getD k 0))
                          rw [plusAt_set st r k hlt8] at hset
                          have hoth := fun x => BB.out.other (heap_setCell_other wr ⟨gh, k, none⟩ gl (.int .u32 x) hgn)
                          have HSET := Lib.hid hset
                          have HOTH := Lib.hid hoth
                          have HAD := Lib.hid (Sh.ad_eq (st.cells.getD k 0) (r.cells.getD k 0))
                          have b1 := cells_W st hok k
                          have b2 := cells_W r hro k
                          clear hset hoth hok hro
                          generalize st.cells.getD k 0 = x at *
                          generalize r.cells.getD k 0 = y at *
                          go_wp2
                          go_region
                          all_goals go_wp2
                          all_goals go_roundw
                          case rel => exact ⟨k + 1, by omega, by go_num, by rw [← HAD.out]; exact HSET.out.drewN 1, HOTH.out _⟩
                          case measure => simp [intOf]; omega
                        · obtain rfl : k = 8 := by omega
                          have HF : Hid (Sits w w1.heap.size gk gh ch gp L (Sh.blocks (t + 1) Sh.H0 L).cells wr) := by
                            rw [HMO.out]; exact SB
                          clear SB BB
                          go_wp2
                          go_roundw
                          case rel => exact ⟨t + 1, by omega, by go_num, HF⟩
                          case measure => simp [intOf]; omega
            · as_aux_lemma =>
                obtain rfl : t = b := by omega
                have hsh := HSHA.out
                have hok := Sh.blocks_ok t Sh.H0 L Sh.H0_ok
                have hsz : w.heap.size ≤ wr.heap.size := SI.out.bb.size
                generalize Sh.blocks t Sh.H0 L = st at *
                have HSH := Lib.hid hsh
                have HSZ := Lib.hid hsz
                clear hsh HSHA hsz
                go_wp2
                obtain ⟨wo, hwo⟩ : ∃ wo, wo = wr := ⟨_, rfl⟩
                rw [← hwo] at SI HSZ
                rw [← hwo]
                clear hwo
                go_loopw [30, 31] (fun v i wq => ∃ k : Nat, k ≤ 8 ∧ i = .int .i64 k ∧ Hid (Mine .u8 5 wo wq v ((st.cells.take k).flatMap Sh.outW))) (fun _ i _ => 8 - (intOf i).toNat)
                case atStart => exact ⟨0, Nat.zero_le _, rfl, Mine.nil _ _ _⟩
                case round =>
                  obtain ⟨k, hk, rfl, MO⟩ := hrel
                  by_cases hk8 : k < 8
                  · have htk := Lib.hid (take_out st k hk8)
                    have hx := cells_W st hok k
                    have HC8 := Lib.hid (fun wq (hb : Below wo.heap.size wo wq) => (SI.out.below hb).hcell rfl k hk8)
                    have hl8 : ((st.cells.take k).flatMap Sh.outW).length ≤ 32 := by
                      have h4 : ∀ l : List Int, (l.flatMap Sh.outW).length = 4 * l.length := by
                        intro l
                        induction l with
                        | nil => rfl
                        | cons a l ih => rw [List.flatMap_cons, List.length_append, ih]; simp [Sh.outW]; omega
                      rw [h4, List.length_take]; omega
                    have HL8 := Lib.hid hl8
                    clear hl8 hok
                    generalize (st.cells.take k).flatMap Sh.outW = ol at *
                    generalize st.cells.getD k 0 = x at *
                    go_wp2
                    rw [show decide ((k : Int) < 8) = true from decide_eq_true (by omega)]
                    obtain ⟨wp, hwp⟩ : ∃ wp, wp = wr := ⟨_, rfl⟩
                    rw [← hwp] at MO
                    rw [← hwp]
                    clear hwp
                    go_loopw [30, 32] (fun v i wq => ∃ t : Nat, t ≤ 4 ∧ i = .int .i64 ((t : Int) - 1) ∧ Hid (Mine .u8 5 wo wq v (ol ++ (Sh.outW x).take (4 - t)))) (fun _ i _ => (intOf i + 1).toNat)
                    case atStart => exact ⟨4, Nat.le_refl _, rfl, by rw [show ol ++ (Sh.outW x).take (4 - 4) = ol by simp]; exact MO⟩
                    case round =>
                      clear MO
                      obtain ⟨t, ht, rfl, MT⟩ := hrel
                      obtain ⟨a6, c6, rfl⟩ := MT.out.form
                      cases t with
                      | succ t =>
                        rw [show ((t + 1 : Nat) : Int) - 1 = (t : Int) by omega]
                        have hb := Sh.outW_take x hx (4 - (t + 1)) (by omega)
                        rw [show 3 - (4 - (t + 1)) = t by omega, show 4 - (t + 1) + 1 = 4 - t by omega] at hb
                        have HB := Lib.hid hb
                        have hlq : (ol ++ (Sh.outW x).take (4 - (t + 1))).length ≤ 10000000000000 := by
                          have := HL8.out
                          rw [List.length_append, List.length_take]
                          simp only [Sh.outW, List.length_cons, List.length_nil]
                          omega
                        have HLQ := Lib.hid hlq
                        have hc8 := HC8.out wr MT.out.2
                        obtain ⟨hx0, hx1⟩ := hx
                        clear hb hlq
                        generalize (Sh.outW x).take (4 - (t + 1)) = lb at *
                        generalize hnq : (ol ++ lb).length = nq at *
                        have HNQ := Lib.hid hnq
                        clear hnq
                        go_wp2_with ((with_reducible refine append_byte (o := ⟨some 287, _, _, _, _, _⟩) rfl (.tmp 277) (.tmp 286) rfl wo (.slice a6 nq c6) (ol ++ lb) rfl ?_ (x / 2 ^ (8 * t) % 256) rfl ?_ ?_ ?_); exact MT.out; exact (by unfold Sh.W8; omega); exact (by rw [HNQ.out]; exact HLQ.out); intro u6 w5 hp2; have HP3 := Lib.hid hp2; clear hp2)
                        go_roundw
                        case rel => exact ⟨t, by omega, by go_num, by rw [HB.out, ← List.append_assoc]; exact HP3⟩
                        case measure => simp [intOf]
                      | zero =>
                        rw [show ((0 : Nat) : Int) - 1 = -1 from rfl]
                        have MF := MT.out
                        rw [show (Sh.outW x).take (4 - 0) = Sh.outW x from rfl, ← htk.out] at MF
                        rw [show (Sh.outW x).take (4 - 0) = Sh.outW x from rfl, ← htk.out]
                        have HMF := Lib.hid MF
                        clear MF MT
                        generalize ((st.cells.take (k + 1)).flatMap Sh.outW).length = nq at *
                        go_wp2
                        go_roundw
                        case rel => exact ⟨k + 1, by omega, by go_num, HMF⟩
                        case measure => simp [intOf]; omega
                  · obtain rfl : k = 8 := by omega
                    have hfin : Hid (wr.ownsRow w.heap.size 5 1 u30 32 ((Sh.sha m).map (Value.int .u8))) := by
                      have h := MO.out.1
                      rw [show st.cells.take 8 = st.cells from rfl, show (st.cells.flatMap Sh.outW).length = 32 by simp [Sh.S.cells, Sh.outW]] at h
                      rw [HSH.out]
                      exact own_mono h HSZ.out
                    have hbf : Hid (Below w.heap.size w wr) := SI.out.bb.trans (MO.out.2.mono HSZ.out)
                    obtain ⟨a30, c30, rfl⟩ := MO.out.form
                    clear MO
                    go_wp2
                    go_ret
                    exact ⟨_, rfl, hfin.out, hbf.out⟩

theorem rsum : RSum := by
  intro w v m hM hl
  obtain ⟨a, c, rfl, -⟩ := id hM
  refine (rsum_probe w a _ c m hM hl).mono ?_
  rintro e w' ⟨v', rfl, h1, h2⟩
  obtain ⟨a', c', rfl, h3⟩ := slc_own h1 (Sh.sha_W m)
  refine ⟨a', 32, c', rfl, h3, h2, fun p hp => ?_⟩
  subst hp
  exact (own_lt h1 p.block rfl).1
end Go.Proofs.YtiodmmjjoodmoaaDoor
