/- The reference's Block. -/
import Derived.Test.YticoefnojgaplaaAo
namespace Go.Proofs.Yticoefnojgaplaa
open Go.RowKit

theorem Mine.below {e : TypeId} {k : IntKind} {w0 w w' : World} {v : Value} {xs : List Int} (h : Mine k e w0 w v xs) (hb : Below w.heap.size w w') : Mine k e w0 w' v xs := by
  obtain ⟨⟨h1, h2⟩, h3⟩ := h
  refine ⟨⟨h1, ?_⟩, h3.trans (hb.mono h3.size)⟩
  rcases h2 with h2 | ⟨g, cap, cur, a, b, c, d⟩
  · exact Or.inl h2
  · exact Or.inr ⟨g, cap, cur, a, b, (hb.block _ (lt_of_block c)).trans c, d⟩
theorem word_at (wq : World) (g : Nat) (K : List Int) (n : Nat) (hl : K.length = n) (h8 : ∀ x ∈ K, W8 x) (hb : Blk wq g .u8 5 K) (k : Nat) (hk : 4 * k + 4 ≤ n) (hn : n ≤ 1000) : Calls Try.prog 21 #[.slice (some ⟨g, 0, none⟩) n n, .int .i64 (4 * (k : Int))] wq fun e w' => e = .returned (.int .u32 (Ch.wd K k)) ∧ Below wq.heap.size wq w' := by
  subst hl
  have h := word_any wq (some ⟨g, 0, none⟩) K.length K (slc_blk hb rfl h8) (4 * k) hk (by omega)
  rw [show ((4 * k : Nat) : Int) = 4 * (k : Int) by omega] at h
  exact h
theorem Own.below {B : Nat} {w w' : World} {v : Value} {xs : List Int} (h : Own B w v xs) (hb : Below w.heap.size w w') : Own B w' v xs := by
  obtain ⟨⟨h1, h2⟩, h3, h4⟩ := h
  refine ⟨⟨h1, ?_⟩, h3, Nat.le_trans h4 hb.size⟩
  rcases h2 with h2 | ⟨g, cap, cur, a, b, c, d⟩
  · exact Or.inl h2
  · exact Or.inr ⟨g, cap, cur, a, b, (hb.block _ (lt_of_block c)).trans c, d⟩
set_option maxRecDepth 100000 in
set_option maxHeartbeats 4000000 in
theorem rBlock_own (w : World) (ak : Option Addr) (ck : Nat) (K : List Int) (hK : Slc w (.slice ak K.length ck) K) (n : Int) (hn : W32 n) (an : Option Addr) (cn : Nat) (N : List Int) (hN : Slc w (.slice an N.length cn) N) :
    Calls Try.prog 10 #[.slice ak K.length ck, .int .u32 n, .slice an N.length cn] w fun e w' => ∃ v', e = .returned v' ∧ Own w.heap.size w' v' (Ch.block (Ch.st (fit K 32) n (fit N 12))) ∧ Below w.heap.size w w' := by
  have HF1 : Hid (Calls Try.prog 20 #[.slice ak K.length ck, .int .i64 32] w fun e w' => e = .returned (.slice (some ⟨w.heap.size, 0, none⟩) 32 32) ∧ Blk w' w.heap.size .u8 5 (fit K 32) ∧ Below w.heap.size w w') := fit_any w ak ck K hK 32 (by decide)
  have HF2 : Hid (∀ w1, Below w.heap.size w w1 → Calls Try.prog 20 #[.slice an N.length cn, .int .i64 12] w1 fun e w' => e = .returned (.slice (some ⟨w1.heap.size, 0, none⟩) 12 12) ∧ Blk w' w1.heap.size .u8 5 (fit N 12) ∧ Below w1.heap.size w1 w') := fun w1 hb => fit_any w1 an cn N (hN.below hb (Nat.le_refl _)) 12 (by decide)
  have hk8 : ∀ x ∈ K, W8 x := by obtain ⟨_, _, _, _, h, _⟩ := hK; exact h
  have hn8 : ∀ x ∈ N, W8 x := by obtain ⟨_, _, _, _, h, _⟩ := hN; exact h
  have H8 := Lib.hid (fit_W8 hk8 32)
  have HL := Lib.hid (fit_length K 32)
  have N8 := Lib.hid (fit_W8 hn8 12)
  have NL := Lib.hid (fit_length N 12)
  clear hK hN hk8 hn8
  generalize fit K 32 = KK at *
  generalize fit N 12 = NN at *
  go_enter Try.func10, Try.ntmps10
  go_wp2_with (first
    | (go_at_call 20; refine (HF2.out w1 B1.out).mono ?_; rintro e w2 ⟨rfl, hb1, hb2⟩; have N2 := Lib.hid hb1; have K2 := Lib.hid (K1.out.other (hb2.block _ K1.out.lt)); have B2 := Lib.hid (B1.out.trans (hb2.mono B1.out.size)); clear hb1 hb2 B1 K1)
    | (go_at_call 20; refine HF1.out.mono ?_; rintro e w1 ⟨rfl, hb1, hb2⟩; have K1 := Lib.hid hb1; have B1 := Lib.hid hb2; clear hb1 hb2))
  clear HF1 HF2
  have M0 : Hid (Mine .u32 23 w2 (w2.alloc (.cells #[.int .u32 1634760805, .int .u32 857760878, .int .u32 2036477234, .int .u32 1797285236] 23)) (.slice (some ⟨w2.heap.size, 0, none⟩) 4 4) Ch.kons) :=
    ⟨⟨rfl, Or.inr ⟨w2.heap.size, 4, _, rfl, Nat.le_refl _, heap_alloc_new w2 _, by decide, by unfold maxLen; omega, by rfl, by rfl⟩⟩, (Below.refl _ _).alloc (Nat.le_refl _) _⟩
  change Code.wp _ _ _ _ (w2.alloc (.cells #[.int .u32 1634760805, .int .u32 857760878, .int .u32 2036477234, .int .u32 1797285236] 23))
  generalize w2.alloc (.cells #[.int .u32 1634760805, .int .u32 857760878, .int .u32 2036477234, .int .u32 1797285236] 23) = w3 at *
  generalize w1.heap.size = gn at *
  generalize (Value.slice (some ⟨w2.heap.size, 0, none⟩) 4 4) = v0 at *
  have HLN : Hid (∀ k, (Ch.pushw Ch.kons KK k).length = 4 + k) := fun k => Ch.pushw_length _ _ k
  go_loopw [7, 8] (fun u i wr => ∃ k : Nat, k ≤ 8 ∧ i = .int .i64 k ∧ Hid (Mine .u32 23 w2 wr u (Ch.pushw Ch.kons KK k))) (fun _ i _ => 8 - (intOf i).toNat)
  case atStart => exact ⟨0, by omega, rfl, M0⟩
  case round =>
    clear M0
    obtain ⟨k, hk, rfl, MM⟩ := hrel
    obtain ⟨av, cv, rfl⟩ := MM.out.form
    by_cases hlt : k < 8
    · have HW := Lib.hid (word_at wr w.heap.size KK 32 HL.out H8.out (K2.out.other (MM.out.2.block _ K2.out.lt)) k (by omega) (by decide))
      have HMO : Hid (Ch.pushw Ch.kons KK k ++ [Ch.wd KK k] = Ch.pushw Ch.kons KK (k + 1)) := rfl
      have HLE : Hid ((Ch.pushw Ch.kons KK k).length ≤ 1000) := by show _ ≤ _; rw [HLN.out]; omega
      generalize Ch.wd KK k = x at *
      generalize Ch.pushw Ch.kons KK k = S at *
      go_wp2_with (first
        | ((with_reducible refine append_word41 (o := ⟨some 31, _, _, _, _, _⟩) rfl (.tmp 25) (.tmp 30) rfl w2 (.slice av S.length cv) S rfl M4.out x rfl ?_ ?_); exact (Nat.le_trans HLE.out (by decide)); intro v5 w5 hv; have M5 := Lib.hid hv; clear hv)
        | (go_at_call 21; refine HW.out.mono ?_; rintro e w4 ⟨rfl, hb⟩; have M4 := Lib.hid (MM.out.below hb); clear hb))
      go_roundw
      case rel => exact ⟨k + 1, by omega, by go_num, by rw [← HMO.out]; exact M5⟩
      case measure => simp [intOf]; omega
    · have hk8 : ((k : Nat) : Int) = 8 := by omega
      rw [hk8]
      clear hk8
      obtain rfl : k = 8 := by omega
      have HL8 : Hid ((Ch.pushw Ch.kons KK 8).length = 12) := HLN.out 8
      have HST : Hid (Ch.pushw (Ch.pushw Ch.kons KK 8 ++ [n]) NN 3 = Ch.st KK n NN) := Ch.push_st KK n NN
      have HL9 : Hid (∀ j, (Ch.pushw (Ch.pushw Ch.kons KK 8 ++ [n]) NN j).length = 13 + j) := fun j => by rw [Ch.pushw_length, List.length_append, HL8.out]; rfl
      have HOK := Lib.hid (Ch.st_ok H8.out hn N8.out)
      clear HLN H8 HL
      generalize Ch.pushw Ch.kons KK 8 = S8 at *
      obtain ⟨n0, n1⟩ := hn
      go_wp2_with ((with_reducible refine append_word41 (o := ⟨some 35, _, _, _, _, _⟩) rfl (.tmp 32) (.tmp 34) rfl w2 (.slice av S8.length cv) S8 rfl MM.out n rfl ?_ ?_); exact (by rw [HL8.out]; decide); intro v5 w5 hv; have M5 := Lib.hid hv; clear hv)
      clear MM
      go_loopw [7, 9] (fun u i wr => ∃ k : Nat, k ≤ 3 ∧ i = .int .i64 k ∧ Hid (Mine .u32 23 w2 wr u (Ch.pushw (S8 ++ [n]) NN k))) (fun _ i _ => 3 - (intOf i).toNat)
      case atStart => exact ⟨0, by omega, rfl, M5⟩
      case round =>
        clear M5
        obtain ⟨k, hk, rfl, MM⟩ := hrel
        obtain ⟨av, cv, rfl⟩ := MM.out.form
        by_cases hlt : k < 3
        · have HW := Lib.hid (word_at wr gn NN 12 NL.out N8.out (N2.out.other (MM.out.2.block _ N2.out.lt)) k (by omega) (by decide))
          have HMO : Hid (Ch.pushw (S8 ++ [n]) NN k ++ [Ch.wd NN k] = Ch.pushw (S8 ++ [n]) NN (k + 1)) := rfl
          have HLE : Hid ((Ch.pushw (S8 ++ [n]) NN k).length ≤ 1000) := by show _ ≤ _; rw [HL9.out]; omega
          generalize Ch.wd NN k = x at *
          generalize Ch.pushw (S8 ++ [n]) NN k = S at *
          go_wp2_with (first
            | ((with_reducible refine append_word41 (o := ⟨some 46, _, _, _, _, _⟩) rfl (.tmp 40) (.tmp 45) rfl w2 (.slice av S.length cv) S rfl M4.out x rfl ?_ ?_); exact (Nat.le_trans HLE.out (by decide)); intro v5 w5 hv; have M5 := Lib.hid hv; clear hv)
            | (go_at_call 21; refine HW.out.mono ?_; rintro e w4 ⟨rfl, hb⟩; have M4 := Lib.hid (MM.out.below hb); clear hb))
          go_roundw
          case rel => exact ⟨k + 1, by omega, by go_num, by rw [← HMO.out]; exact M5⟩
          case measure => simp [intOf]; omega
        · have hk3 : ((k : Nat) : Int) = 3 := by omega
          rw [hk3]
          clear hk3
          obtain rfl : k = 3 := by omega
          rw [HST.out] at MM ⊢
          have HSL : Hid ((Ch.st KK n NN).length = 16) := Ch.st_length _ _ _
          obtain ⟨gs, cs, hv, hgs, RS⟩ := MM.out.rw (by rw [HSL.out]; decide)
          rw [HSL.out] at hv ⊢
          rw [hv]
          have hb3 := MM.out.2
          have BW := Lib.hid (B2.out.trans (hb3.mono B2.out.size))
          have RS0 := Lib.hid RS
          have HBK : Hid (Ch.block (Ch.st KK n NN) = Ch.outk (Ch.st KK n NN) (Ch.rounds (Ch.st KK n NN) 10) 16) := rfl
          clear HL9 HL8 HST hv hb3 MM N2 K2 B2 NL N8 RS hgs
          generalize hS : Ch.st KK n NN = S at *
          have HS := Lib.hid hS
          clear hS
          go_wp2_with ((with_reducible refine append_words41 (o := ⟨some 49, _, _, _, _, _⟩) rfl (.tmp 47) (.tmp 48) rfl rfl gs 0 cs S ?_ ?_ ?_ ?_); exact (by rw [HSL.out]; rfl); exact At.of_rw RS0.out; exact (by rw [HSL.out]; decide); intro v6 w6 hv; obtain ⟨gw, cw, hv6, hgw, RM⟩ := hv.rw (by rw [HSL.out]; decide); have RM0 := Lib.hid RM; have HGW := Lib.hid hgw; have B6 := Lib.hid (BW.out.trans (hv.2.mono BW.out.size)); have RS6 := Lib.hid (RS0.out.other (hv.2.block _ RS0.out.lt)); rw [HSL.out] at hv6; subst hv6; have HSW := Lib.hid RS0.out.lt; clear hv RM hgw RS0)
          have HGL : Hid (gs < gw ∧ w.heap.size ≤ gw) := ⟨Nat.lt_of_lt_of_le HSW.out HGW.out, Nat.le_trans BW.out.size HGW.out⟩
          clear BW HSW HGW
          go_loopw [11] (fun i wr => ∃ k : Nat, k ≤ 10 ∧ i = .int .i64 k ∧ Hid (Rw wr gw (Ch.rounds S k)) ∧ Hid (Rw wr gs S) ∧ Hid (Below w.heap.size w wr)) (fun i _ => 10 - (intOf i).toNat)
          case atStart => exact ⟨0, by omega, rfl, RM0, RS6, B6⟩
          case round =>
            clear RM0 RS6 B6
            obtain ⟨k, hk, rfl, RM, RS, BB⟩ := hrel
            by_cases hlt : k < 10
            · have HRL := Lib.hid (rounds_lit S k)
              have LX0 : Hid ((Ch.rounds S k).length = 16) := (Ch.rounds_length S k).trans HSL.out
              generalize Ch.rounds S k = X at *
              have LXX := LX0.out
              obtain ⟨X1, hX1⟩ : ∃ Z, Z = Ch.quarter X 0 4 8 12 := ⟨_, rfl⟩
              have HQ0 : Hid (∀ wq, Rw wq gw X → Calls Try.prog 22 #[.slice (some ⟨gw, 0, none⟩) 16 cw, .int .i64 0, .int .i64 4, .int .i64 8, .int .i64 12] wq fun e w' => e = .returned (.tuple #[]) ∧ Rw w' gw X1 ∧ Only gw wq w') := by
                intro wq h
                rw [hX1]
                exact rquarter_any wq gw cw _ h LXX 0 4 8 12 (by decide) (by decide) (by decide) (by decide)
              have LXX : X1.length = 16 := by rw [hX1, Ch.quarter_length]; exact LXX
              obtain ⟨X2, hX2⟩ : ∃ Z, Z = Ch.quarter X1 1 5 9 13 := ⟨_, rfl⟩
              have HQ1 : Hid (∀ wq, Rw wq gw X1 → Calls Try.prog 22 #[.slice (some ⟨gw, 0, none⟩) 16 cw, .int .i64 1, .int .i64 5, .int .i64 9, .int .i64 13] wq fun e w' => e = .returned (.tuple #[]) ∧ Rw w' gw X2 ∧ Only gw wq w') := by
                intro wq h
                rw [hX2]
                exact rquarter_any wq gw cw _ h LXX 1 5 9 13 (by decide) (by decide) (by decide) (by decide)
              have LXX : X2.length = 16 := by rw [hX2, Ch.quarter_length]; exact LXX
              obtain ⟨X3, hX3⟩ : ∃ Z, Z = Ch.quarter X2 2 6 10 14 := ⟨_, rfl⟩
              have HQ2 : Hid (∀ wq, Rw wq gw X2 → Calls Try.prog 22 #[.slice (some ⟨gw, 0, none⟩) 16 cw, .int .i64 2, .int .i64 6, .int .i64 10, .int .i64 14] wq fun e w' => e = .returned (.tuple #[]) ∧ Rw w' gw X3 ∧ Only gw wq w') := by
                intro wq h
                rw [hX3]
                exact rquarter_any wq gw cw _ h LXX 2 6 10 14 (by decide) (by decide) (by decide) (by decide)
              have LXX : X3.length = 16 := by rw [hX3, Ch.quarter_length]; exact LXX
              obtain ⟨X4, hX4⟩ : ∃ Z, Z = Ch.quarter X3 3 7 11 15 := ⟨_, rfl⟩
              have HQ3 : Hid (∀ wq, Rw wq gw X3 → Calls Try.prog 22 #[.slice (some ⟨gw, 0, none⟩) 16 cw, .int .i64 3, .int .i64 7, .int .i64 11, .int .i64 15] wq fun e w' => e = .returned (.tuple #[]) ∧ Rw w' gw X4 ∧ Only gw wq w') := by
                intro wq h
                rw [hX4]
                exact rquarter_any wq gw cw _ h LXX 3 7 11 15 (by decide) (by decide) (by decide) (by decide)
              have LXX : X4.length = 16 := by rw [hX4, Ch.quarter_length]; exact LXX
              obtain ⟨X5, hX5⟩ : ∃ Z, Z = Ch.quarter X4 0 5 10 15 := ⟨_, rfl⟩
              have HQ4 : Hid (∀ wq, Rw wq gw X4 → Calls Try.prog 22 #[.slice (some ⟨gw, 0, none⟩) 16 cw, .int .i64 0, .int .i64 5, .int .i64 10, .int .i64 15] wq fun e w' => e = .returned (.tuple #[]) ∧ Rw w' gw X5 ∧ Only gw wq w') := by
                intro wq h
                rw [hX5]
                exact rquarter_any wq gw cw _ h LXX 0 5 10 15 (by decide) (by decide) (by decide) (by decide)
              have LXX : X5.length = 16 := by rw [hX5, Ch.quarter_length]; exact LXX
              obtain ⟨X6, hX6⟩ : ∃ Z, Z = Ch.quarter X5 1 6 11 12 := ⟨_, rfl⟩
              have HQ5 : Hid (∀ wq, Rw wq gw X5 → Calls Try.prog 22 #[.slice (some ⟨gw, 0, none⟩) 16 cw, .int .i64 1, .int .i64 6, .int .i64 11, .int .i64 12] wq fun e w' => e = .returned (.tuple #[]) ∧ Rw w' gw X6 ∧ Only gw wq w') := by
                intro wq h
                rw [hX6]
                exact rquarter_any wq gw cw _ h LXX 1 6 11 12 (by decide) (by decide) (by decide) (by decide)
              have LXX : X6.length = 16 := by rw [hX6, Ch.quarter_length]; exact LXX
              obtain ⟨X7, hX7⟩ : ∃ Z, Z = Ch.quarter X6 2 7 8 13 := ⟨_, rfl⟩
              have HQ6 : Hid (∀ wq, Rw wq gw X6 → Calls Try.prog 22 #[.slice (some ⟨gw, 0, none⟩) 16 cw, .int .i64 2, .int .i64 7, .int .i64 8, .int .i64 13] wq fun e w' => e = .returned (.tuple #[]) ∧ Rw w' gw X7 ∧ Only gw wq w') := by
                intro wq h
                rw [hX7]
                exact rquarter_any wq gw cw _ h LXX 2 7 8 13 (by decide) (by decide) (by decide) (by decide)
              have LXX : X7.length = 16 := by rw [hX7, Ch.quarter_length]; exact LXX
              obtain ⟨X8, hX8⟩ : ∃ Z, Z = Ch.quarter X7 3 4 9 14 := ⟨_, rfl⟩
              have HQ7 : Hid (∀ wq, Rw wq gw X7 → Calls Try.prog 22 #[.slice (some ⟨gw, 0, none⟩) 16 cw, .int .i64 3, .int .i64 4, .int .i64 9, .int .i64 14] wq fun e w' => e = .returned (.tuple #[]) ∧ Rw w' gw X8 ∧ Only gw wq w') := by
                intro wq h
                rw [hX8]
                exact rquarter_any wq gw cw _ h LXX 3 4 9 14 (by decide) (by decide) (by decide) (by decide)
              have LXX : X8.length = 16 := by rw [hX8, Ch.quarter_length]; exact LXX
              have HRL : Hid (X8 = Ch.rounds S (k + 1)) := by show _ = _; rw [hX8, hX7, hX6, hX5, hX4, hX3, hX2, hX1]; exact HRL.out
              clear hX1 hX2 hX3 hX4 hX5 hX6 hX7 hX8 LXX LX0
              have hdl : decide ((k : Int) < 10) = true := by simp; omega
              go_wp2_with (first
                | (go_at_call 22; refine (HQ7.out x7 R7.out).mono ?_; rintro e x8 ⟨rfl, hr, ho⟩; have R8 := Lib.hid hr; have O8 := Lib.hid (O7.out.trans ho); clear hr ho)
                | (go_at_call 22; refine (HQ6.out x6 R6.out).mono ?_; rintro e x7 ⟨rfl, hr, ho⟩; have R7 := Lib.hid hr; have O7 := Lib.hid (O6.out.trans ho); clear hr ho)
                | (go_at_call 22; refine (HQ5.out x5 R5.out).mono ?_; rintro e x6 ⟨rfl, hr, ho⟩; have R6 := Lib.hid hr; have O6 := Lib.hid (O5.out.trans ho); clear hr ho)
                | (go_at_call 22; refine (HQ4.out x4 R4.out).mono ?_; rintro e x5 ⟨rfl, hr, ho⟩; have R5 := Lib.hid hr; have O5 := Lib.hid (O4.out.trans ho); clear hr ho)
                | (go_at_call 22; refine (HQ3.out x3 R3.out).mono ?_; rintro e x4 ⟨rfl, hr, ho⟩; have R4 := Lib.hid hr; have O4 := Lib.hid (O3.out.trans ho); clear hr ho)
                | (go_at_call 22; refine (HQ2.out x2 R2.out).mono ?_; rintro e x3 ⟨rfl, hr, ho⟩; have R3 := Lib.hid hr; have O3 := Lib.hid (O2.out.trans ho); clear hr ho)
                | (go_at_call 22; refine (HQ1.out x1 R1.out).mono ?_; rintro e x2 ⟨rfl, hr, ho⟩; have R2 := Lib.hid hr; have O2 := Lib.hid (O1.out.trans ho); clear hr ho)
                | (go_at_call 22; refine (HQ0.out wr RM.out).mono ?_; rintro e x1 ⟨rfl, hr, ho⟩; have R1 := Lib.hid hr; have O1 := Lib.hid ho; clear hr ho))
              go_roundw
              case rel => exact ⟨k + 1, by omega, by go_num, by show Rw _ _ _; rw [← HRL.out]; exact R8.out, RS.out.other (O8.out.block _ RS.out.lt (by have := HGL.out.1; simp; omega)), BB.out.trans (O8.out.toBelow HGL.out.2 BB.out.size)⟩
              case measure => simp [intOf]; omega
            · have hk10 : ((k : Nat) : Int) = 10 := by omega
              rw [hk10]
              clear hk10
              obtain rfl : k = 10 := by omega
              have LM : Hid ((Ch.rounds S 10).length = 16) := (Ch.rounds_length S 10).trans HSL.out
              generalize Ch.rounds S 10 = M at *
              go_wp2_with fail
              have OW0 : Hid (Own wr.heap.size wr (.slice none 0 0) (Ch.outk S M 0)) := Own.nil wr (Nat.le_refl _)
              have OB0 : Hid (Below wr.heap.size wr wr) := Below.refl _ _
              generalize hw8 : wr = w8 at RM RS BB OW0 OB0 ⊢
              clear hw8
              go_loopw [12, 13] (fun v i wr => ∃ k : Nat, k ≤ 16 ∧ i = .int .i64 k ∧ Hid (Own w8.heap.size wr v (Ch.outk S M k)) ∧ Hid (Below w8.heap.size w8 wr)) (fun _ i _ => 16 - (intOf i).toNat)
              case atStart => exact ⟨0, by omega, rfl, OW0, OB0⟩
              case round =>
                clear OW0 OB0
                obtain ⟨k, hk, rfl, OW, OB⟩ := hrel
                obtain ⟨av2, cv2, rfl⟩ := OW.out.form
                by_cases hlt : k < 16
                · have RMk := Lib.hid (RM.out.other (OB.out.block _ RM.out.lt))
                  have RSk := Lib.hid (RS.out.other (OB.out.block _ RS.out.lt))
                  have hLO : (Ch.outk S M k).length ≤ 1000 := by rw [Ch.outk_length]; omega
                  have HLO := Lib.hid hLO
                  clear hLO
                  go_wp2_with fail
                  refine Grow.region_wait (by kernel_rfl) 9 (fun i => List.getD (Grow.Spec.is (.slice (some ⟨gw, 0, none⟩) 16 cw) :: Grow.Spec.is (.int .i64 (k : Nat)) :: Grow.Spec.is (.pointer (some ⟨gw, k, none⟩)) :: Grow.Spec.is (.int .u32 (M.getD k 0)) :: Grow.Spec.is (.slice (some ⟨gs, 0, none⟩) 16 cs) :: Grow.Spec.is (.int .i64 (k : Nat)) :: Grow.Spec.is (.pointer (some ⟨gs, k, none⟩)) :: Grow.Spec.is (.int .u32 (S.getD k 0)) :: Grow.Spec.is (.int .u32 (Ch.ad (M.getD k 0) (S.getD k 0))) :: []) i (Grow.Spec.is undef)) (by kernel_rfl) ⟨
                    Grow.h2_move (Or.inl rfl) _ (Or.inl rfl) (fun ax wx hk => by have e : ax.eval (.tmp 10) = _ := hk.rest 10 (by kernel_rfl); rw [e]; rfl),
                    Grow.h2_move (Or.inl rfl) _ (Or.inl rfl) (fun ax wx hk => by have e : ax.eval (.tmp 13) = _ := hk.rest 13 (by kernel_rfl); rw [e]; rfl),
                    Grow.h2_idx41 (Or.inl rfl) 0 74 1 75 gw cw k hlt rfl (by kernel_rfl) (by kernel_rfl) rfl rfl rfl,
                    Grow.h2_load23 (Or.inl rfl) 2 76 gw k (M.getD k 0) rfl (by kernel_rfl) rfl RMk.out.lt (RMk.out.cell k (by rw [LM.out]; exact hlt)) rfl,
                    Grow.h2_move (Or.inl rfl) _ (Or.inl rfl) (fun ax wx hk => by have e : ax.eval (.tmp 7) = _ := hk.rest 7 (by kernel_rfl); rw [e]; rfl),
                    Grow.h2_move (Or.inl rfl) _ (Or.inl rfl) (fun ax wx hk => by have e : ax.eval (.tmp 13) = _ := hk.rest 13 (by kernel_rfl); rw [e]; rfl),
                    Grow.h2_idx41 (Or.inl rfl) 4 78 5 79 gs cs k hlt rfl (by kernel_rfl) (by kernel_rfl) rfl rfl rfl,
                    Grow.h2_load23 (Or.inl rfl) 6 80 gs k (S.getD k 0) rfl (by kernel_rfl) rfl RSk.out.lt (RSk.out.cell k (by rw [HSL.out]; exact hlt)) rfl,
                    Grow.h2_add23 (Or.inl rfl) 3 77 7 81 _ _ rfl (by kernel_rfl) (by kernel_rfl) rfl rfl rfl,
                    trivial⟩ ?_
                  intro o1 a1 x1 ho1 hb1 hts hk1 hdf hfr
                  obtain rfl := Option.some.inj ho1
                  clear ho1
                  have ev : a1.eval (.tmp 82) = .int .u32 (Ch.ad (M.getD k 0) (S.getD k 0)) := hk1 8 82 (by decide) rfl
                  refine ⟨rfl, Grow.wp_assign 14 (.tmp 82) rfl rfl ?_⟩
                  have ha := Grow.act_after hts hdf hfr
                  rw [show Grow.dsts _ 9 = [74, 75, 76, 77, 78, 79, 80, 81, 82] from by kernel_rfl] at ha
                  rw [ev]
                  simp only [Grow.putAll] at ha
                  generalize a1.eval (.tmp 74) = u74 at ha
                  generalize a1.eval (.tmp 75) = u75 at ha
                  generalize a1.eval (.tmp 76) = u76 at ha
                  generalize a1.eval (.tmp 77) = u77 at ha
                  generalize a1.eval (.tmp 78) = u78 at ha
                  generalize a1.eval (.tmp 79) = u79 at ha
                  generalize a1.eval (.tmp 80) = u80 at ha
                  generalize a1.eval (.tmp 81) = u81 at ha
                  generalize a1.eval (.tmp 82) = u82 at ha
                  simp [Act.put] at ha
                  obtain ⟨z0, z1⟩ := Ch.ad_W (M.getD k 0) (S.getD k 0)
                  obtain ⟨x, hX⟩ := Int.eq_ofNat_of_zero_le z0
                  have hx : x < 2 ^ 32 := by simp only [Nat.reducePow]; omega
                  have HOUT : Hid (Ch.outk S M k ++ Bt.le x 4 = Ch.outk S M (k + 1)) := by show _ = _; rw [Ch.outk, hX]; rfl
                  have OX : Hid (Own w8.heap.size x1 (.slice av2 (Ch.outk S M k).length cv2) (Ch.outk S M k ++ Bt.le x 0)) := by show Own _ _ _ _; rw [show Bt.le x 0 = [] from rfl, List.append_nil]; exact OW.out.below hb1
                  have OXB := Lib.hid (OB.out.trans (hb1.mono OB.out.size))
                  rw [hX]
                  clear hk1 hts hdf hfr ev hb1 z0 z1 hX RMk RSk OW OB
                  subst ha
                  generalize Ch.outk S M k = O0 at *
                  generalize (Value.slice av2 O0.length cv2) = vv0 at *
                  go_wp2_with fail
                  go_loopw [12, 15] (fun v i wr => ∃ j : Nat, j ≤ 4 ∧ i = .int .i64 j ∧ Hid (Own w8.heap.size wr v (O0 ++ Bt.le x j)) ∧ Hid (Below w8.heap.size w8 wr)) (fun _ i _ => 4 - (intOf i).toNat)
                  case atStart => exact ⟨0, by omega, rfl, OX, OXB⟩
                  case round =>
                    clear OX OXB
                    obtain ⟨j, hj, rfl, OJ, BJ⟩ := hrel
                    obtain ⟨ad, c, rfl⟩ := OJ.out.form
                    by_cases hlt2 : j < 4
                    · have hl : (O0 ++ Bt.le x j).length ≤ 10000000 := by have := HLO.out; rw [List.length_append, Bt.le_length]; omega
                      have HL2 := Lib.hid hl
                      have hmore : O0 ++ Bt.le x j ++ [((x / 2 ^ (8 * j) % 2 ^ 8 : Nat) : Int)] = O0 ++ Bt.le x (j + 1) := by rw [Bt.le_more, List.append_assoc]
                      have HMORE := Lib.hid hmore
                      have h8 : W8 ((x / 2 ^ (8 * j) % 2 ^ 8 : Nat) : Int) := by
                        have := Nat.mod_lt (x / 2 ^ (8 * j)) (show 0 < 2 ^ 8 by decide)
                        unfold W8; omega
                      have H8b := Lib.hid h8
                      have hcast : (x : Int) / 2 ^ (8 * j) % 256 = ((x / 2 ^ (8 * j) % 2 ^ 8 : Nat) : Int) := by simp
                      have hq0 : 0 ≤ (x : Int) / 2 ^ (8 * j) := Int.ediv_nonneg (by omega) (Int.le_of_lt (Int.pow_pos (by decide)))
                      have hq1 : (x : Int) / 2 ^ (8 * j) ≤ 4294967295 := Int.le_trans (Int.ediv_le_self _ (by omega)) (by simp only [Nat.reducePow] at hx; omega)
                      clear hl hmore h8
                      generalize O0 ++ Bt.le x j = ys at *
                      generalize hq : (x : Int) / 2 ^ (8 * j) = q at *
                      have HCAST := Lib.hid hcast
                      clear hcast
                      go_wp2_with (first
                        | ((with_reducible refine append_byte (o := ⟨some 94, _, _, _, _, _⟩) rfl (.tmp 87) (.tmp 93) rfl w8.heap.size (.slice ad ys.length c) ys rfl OJ.out (q % 256) ?_ rfl ?_ w8 BJ.out ?_); exact (by rw [HCAST.out]; exact H8b.out); exact (Nat.le_trans HL2.out (by decide)); intro v' w' hv hb; have HV := Lib.hid hv; have HB := Lib.hid hb; clear hv hb)
                        | (with_reducible refine build_byte (o := ⟨some 93, _, _, _, _, _⟩) rfl (.tmp 92) rfl (q % 256) rfl ?_))
                      go_roundw
                      case rel => exact ⟨j + 1, by omega, by go_num, by rw [← HMORE.out, ← HCAST.out]; exact HV, HB⟩
                      case measure => simp [intOf]; omega
                    · have hj4 : ((j : Nat) : Int) = 4 := by omega
                      rw [hj4]
                      clear hj4
                      obtain rfl : j = 4 := by omega
                      rw [HOUT.out] at OJ ⊢
                      go_wp2
                      go_roundw
                      case rel => exact ⟨k + 1, by omega, by go_num, OJ, BJ⟩
                      case measure => simp [intOf]; omega
                · obtain rfl : k = 16 := by omega
                  go_wp2
                  go_ret
                  exact ⟨_, rfl, by rw [show Ch.block (Ch.st KK n NN) = Ch.outk S M 16 from by rw [HS.out]; exact HBK.out]; exact OW.out.mono BB.out.size, BB.out.trans (OB.out.mono BB.out.size)⟩
theorem rBlock_any (w : World) (ak : Option Addr) (ck : Nat) (K : List Int) (hK : Slc w (.slice ak K.length ck) K) (n : Int) (hn : W32 n) (an : Option Addr) (cn : Nat) (N : List Int) (hN : Slc w (.slice an N.length cn) N) :
    Calls Try.prog 10 #[.slice ak K.length ck, .int .u32 n, .slice an N.length cn] w fun e w' => ∃ v', e = .returned v' ∧ Slc w' v' (Ch.block (Ch.st (fit K 32) n (fit N 12))) ∧ Below w.heap.size w w' := by
  refine (rBlock_own w ak ck K hK n hn an cn N hN).mono ?_
  rintro e w' ⟨v', rfl, h1, h2⟩
  exact ⟨v', rfl, h1.slc, h2⟩
end Go.Proofs.Yticoefnojgaplaa
