/- The law's walk: a nil reader has a fault; so has one that is asked for less than nothing, or more than eight. -/
import Derived.Test.YtpeibhhdhomnmaaI
namespace Go.Proofs.Ytpeibhhdhomnmaa
open Go.RowKit
theorem Rd.on {w w' : World} {B b : Nat} {st : Option (List UInt8)} (h : Rd w B b st) {C : Nat} (hb : Below C w w') (hC : w.heap.size ≤ C) : Rd w' B b st := by
  obtain ⟨h1, v, l, bad, h2, ⟨ao, cap, h3, h4, h5⟩, h6⟩ := h
  refine ⟨h1, v, l, bad, (hb.block b (Nat.lt_of_lt_of_le (Array.getElem?_eq_some_iff.1 h2).1 hC)).trans h2, ⟨ao, cap, h3, h4, h5.keep fun g cur hg => hb.block g (Nat.lt_of_lt_of_le (Array.getElem?_eq_some_iff.1 hg).1 hC)⟩, h6⟩
theorem Rp.of {w : World} {B b : Nat} {st : Option (List UInt8)} (h : Rd w B b st) : Rp w B (some ⟨b, 0, none⟩) st := .inr ⟨b, rfl, h⟩
theorem Rp.rd {w : World} {B b : Nat} {st : Option (List UInt8)} (h : Rp w B (some ⟨b, 0, none⟩) st) : Rd w B b st := by
  rcases h with ⟨h, -⟩ | ⟨b', h, h2⟩
  · cases h
  · cases h; exact h2
theorem nilR (w : World) : Rp w 0 none none := .inl ⟨rfl, rfl⟩
theorem num_nil (w : World) : Calls Try.prog 16 #[.pointer none, .int .i64 1] w fun e w' => e = .returned (.int .u64 0) ∧ w' = w :=
  (rnum_rd w 0 none none 1 (nilR w)).mono fun _ _ ⟨h1, _, h3⟩ => ⟨h1, h3.nil rfl⟩
theorem bytes_nil (w : World) : Calls Try.prog 17 #[.pointer none, .int .i64 9] w fun e w' => ∃ ao cap, e = .returned (.slice ao 0 cap) ∧ w' = w :=
  (rbytes_rd w 0 none none 9 (by decide) (nilR w)).mono fun _ _ ⟨ao, cap, h1, _, _, h3⟩ => ⟨ao, cap, h1, h3.nil rfl⟩
theorem flag_nil (w : World) : Calls Try.prog 18 #[.pointer none] w fun e w' => e = .returned (.bool false) ∧ w' = w :=
  (rflag_rd w 0 none none (nilR w)).mono fun _ _ ⟨h1, _, h3⟩ => ⟨h1, h3.nil rfl⟩
theorem count_nil (w : World) : Calls Try.prog 22 #[.pointer none, .int .i64 9] w fun e w' => e = .returned (.int .i64 0) ∧ w' = w :=
  (rcount_rd w 0 none none 9 (by decide) (nilR w)).mono fun _ _ ⟨h1, _, h3⟩ => ⟨h1, h3.nil rfl⟩
theorem end_nil (w : World) : Calls Try.prog 19 #[.pointer none] w fun e w' => e = .returned (.bool false) ∧ w' = w := end_any w 0 none none (nilR w)
theorem left_nil (w : World) : Calls Try.prog 21 #[.pointer none] w fun e w' => e = .returned (.int .i64 0) ∧ w' = w := left_any w 0 none none (nilR w)
theorem bad_nil (w : World) : Calls Try.prog 20 #[.pointer none] w fun e w' => e = .returned (.bool true) ∧ w' = w := bad_any w 0 none none (nilR w)
/-- A number of a size that is none. -/
theorem num_off (w : World) (B : Nat) (p : Option Addr) (st : Option (List UInt8)) (n : Int) (hn : n < 0 ∨ 8 < n) (h : Rp w B p st) : Calls Try.prog 16 #[.pointer p, .int .i64 n] w fun e w' => e = .returned (.int .u64 0) ∧ Rp w' B p none ∧ Tch w p w' := by
  have h1 := rnum_rd w B p st n h
  have e : numS st n = none := by
    unfold numS tkS
    split
    · rfl
    · cases st with
      | none => rfl
      | some l => rw [Option.bind_some, if_neg (by omega)]; rfl
  rw [e] at h1
  exact h1
theorem bytes_off (w : World) (B : Nat) (p : Option Addr) (st : Option (List UInt8)) (n : Int) (hn : n < 0) (h : Rp w B p st) : Calls Try.prog 17 #[.pointer p, .int .i64 n] w fun e w' => ∃ ao cap, e = .returned (.slice ao 0 cap) ∧ Rp w' B p none ∧ Tch w p w' := by
  have h1 := rbytes_rd w B p st n (by omega) h
  have e : byS st n = none := by
    unfold byS upS
    cases numS st 4 with
    | none => rfl
    | some x => rw [Option.bind_some, if_pos (.inl hn)]; rfl
  rw [e] at h1
  exact h1.mono fun _ _ ⟨ao, cap, h1, _, h2, h3⟩ => ⟨ao, cap, h1, h2, h3⟩
set_option maxHeartbeats 4000000 in
theorem nil_walk_a (w : World) (ao : Option Addr) (cap : Nat) (P : List UInt8) (n : Int) (hP : Byt w ao P) (hn0 : -9223372036854775808 ≤ n) (hn1 : n ≤ 9223372036854775807) (hn : 0 ≤ n ∧ n ≤ 8) :
    Calls Try.prog 6 #[.slice ao P.length cap, .int .i64 n] w fun e w' => e = .returned (.bool true) ∧ Below w.heap.size w w' := by
  obtain ⟨h0, h8⟩ := hn
  obtain ⟨m, hm⟩ : ∃ m : Int, IntKind.i64.wrap (n + 9) = m ∧ 8 < m ∧ m < 20 := ⟨n + 9, by simp [IntKind.wrap, IntKind.bits, IntKind.signed]; omega, by omega, by omega⟩
  obtain ⟨hm, hm1, hm2⟩ := hm
  obtain ⟨k, hk⟩ : ∃ k : Int, IntKind.i64.wrap (-m) = k ∧ k < 0 := ⟨-m, by simp [IntKind.wrap, IntKind.bits, IntKind.signed]; omega, by omega⟩
  obtain ⟨hk, hk1⟩ := hk
  have hm0 : 0 < m := by omega
  have HP := Lib.hid hP
  clear hP
  by_cases hl : 1000 < P.length
  · obtain ⟨L, hL⟩ : ∃ L, L = P.length := ⟨_, rfl⟩
    rw [← hL] at hl ⊢
    clear hL
    have hl2 : (1000 : Int) < L := by omega
    go_enter Try.func6, Try.ntmps6
    go_wp2_with (first
      | (go_at_call 7; refine (awake_any w).mono ?_; rintro e w1 ⟨rfl, hb1⟩; refine Hid.out ?_)
      | (go_at_call 7; refine (awake_any w1).mono ?_; rintro e w2 ⟨rfl, hb2⟩))
    refine Lib.hid ?_
    have ha := awake_any w1
    go_wp2_with (go_at_call 7; refine ha.mono ?_; rintro e w2 ⟨rfl, hb2⟩)
    go_ret
    exact ⟨rfl, hb1.trans (hb2.mono hb1.size)⟩
  · have hl2 : ¬ (1000 : Int) < (P.length : Nat) := by omega
    obtain ⟨L, hL⟩ : ∃ L, L = P.length := ⟨_, rfl⟩
    have HL := Lib.hid (And.intro hL hl)
    rw [← hL] at hl2 ⊢
    clear hL hl
    go_enter Try.func6, Try.ntmps6
    go_wp2_with (first
      | (go_at_call 7; refine (awake_any w).mono ?_; rintro e w1 ⟨rfl, hb1⟩)
      | (go_at_call 15; refine Hid.out ?_))
    refine Lib.hid ?_
    have hP1 := HP.out.on hb1 (Nat.le_refl _)
    have hR := read_any ao cap P w1 hP1 (by have := HL.out.2; omega)
    rw [← HL.out.1] at hR
    have HB1 := Lib.hid hb1
    have HP1 := Lib.hid hP1
    have HR := Lib.hid hR
    clear hb1 hP1 hR
    go_wp2_with (go_at_call 15; refine HR.out.mono ?_; rintro e w2 ⟨b, rfl, hrd, hb2⟩; have hN := num_off w2 _ _ _ m (by omega) (Rp.of hrd); refine Hid.out ?_)
    refine Lib.hid ?_
    go_wp2_with (first
      | (go_at_call 16; refine hN.mono ?_; rintro e w3 ⟨rfl, hR3, ht3⟩)
      | (go_at_call 13; refine Hid.out ?_))
    refine Lib.hid ?_
    have hb3 := hb2.trans (ht3.below (Rp.of hrd) hb2.size)
    have hP3 := HP1.out.on hb3 (Nat.le_refl _)
    have hC := rbytes_any [] P none ao 0 cap w3 (byt_nil _ _) hP3 (by have := HL.out.2; simp; omega)
    rw [← HL.out.1] at hC
    have HC := Lib.hid hC
    have HB3 := Lib.hid (HB1.out.trans (hb3.mono HB1.out.size))
    have HR3 := Lib.hid hR3
    clear hC hb3 hP3 hb2 ht3 hrd hN hR3 HR
    go_wp2_with (go_at_call 13; refine HC.out.mono ?_; rintro e w4 ⟨v4, rfl, hown4, hb4⟩; obtain ⟨a4, c4, hv4, hby4⟩ := own_byt hown4; generalize hM : ([] ++ be L 4 ++ P).length = M at hv4; subst hv4; refine Hid.out ?_)
    refine Lib.hid ?_
    have hR5 := read_any a4 c4 _ w4 hby4 (by have := HL.out.2; rw [List.length_append, List.length_append, be_len]; simp; omega)
    rw [hM] at hR5
    have HR4 := Lib.hid (HR3.out.rd.on hb4 (Nat.le_refl _))
    have HB4 := Lib.hid (HB3.out.trans (hb4.mono HB3.out.size))
    have HR5 := Lib.hid hR5
    clear hR5 hown4 hby4 hb4 HC HR3
    go_wp2_with (go_at_call 15; refine HR5.out.mono ?_; rintro e w5 ⟨b5, rfl, hrd5, hb5⟩; refine Hid.out ?_)
    refine Lib.hid ?_
    have hY := bytes_off w5 _ _ _ k (by omega) (Rp.of hrd5)
    have HY := Lib.hid hY
    have HR5' := Lib.hid (And.intro hrd5 hb5)
    clear hY hrd5 hb5 HR5
    go_wp2_with (go_at_call 17; refine HY.out.mono ?_; rintro e w6 ⟨a6, c6, rfl, hR6, ht6⟩; refine Hid.out ?_)
    refine Lib.hid ?_
    have hb6 := HR5'.out.2.trans (ht6.below (Rp.of HR5'.out.1) HR5'.out.2.size)
    have hBs := bad_any w6 _ _ _ (Rp.of (HR4.out.on hb6 (Nat.le_refl _)))
    have hBt := bad_any w6 _ _ _ hR6
    have HB6 := Lib.hid (HB4.out.trans (hb6.mono HB4.out.size))
    have n1 := bad_nil w6
    have n2 := end_nil w6
    have n3 := num_nil w6
    have n4 := bytes_nil w6
    have n5 := flag_nil w6
    have n6 := count_nil w6
    have n7 := left_nil w6
    clear hb6 hR6 ht6 HR5' HY
    go_wp2_with (first
      | (go_at_call 20; refine n1.mono ?_; clear n1; rintro e w7 ⟨rfl, rfl⟩)
      | (go_at_call 20; refine hBs.mono ?_; clear hBs; rintro e w7 ⟨rfl, rfl⟩)
      | (go_at_call 20; refine hBt.mono ?_; rintro e w7 ⟨rfl, rfl⟩)
      | (go_at_call 19; refine n2.mono ?_; rintro e w7 ⟨rfl, rfl⟩)
      | (go_at_call 16; refine n3.mono ?_; rintro e w7 ⟨rfl, rfl⟩)
      | (go_at_call 17; refine n4.mono ?_; rintro e w7 ⟨a7, c7, rfl, rfl⟩)
      | (go_at_call 18; refine n5.mono ?_; rintro e w7 ⟨rfl, rfl⟩)
      | (go_at_call 22; refine n6.mono ?_; rintro e w7 ⟨rfl, rfl⟩)
      | (go_at_call 21; refine n7.mono ?_; rintro e w7 ⟨rfl, rfl⟩))
    go_ret
    exact ⟨rfl, HB6.out⟩
set_option maxHeartbeats 4000000 in
theorem nil_walk_b (w : World) (ao : Option Addr) (cap : Nat) (P : List UInt8) (n : Int) (hP : Byt w ao P) (hn0 : -9223372036854775808 ≤ n) (hn1 : n ≤ 9223372036854775807) (hn : 8 < n) :
    Calls Try.prog 6 #[.slice ao P.length cap, .int .i64 n] w fun e w' => e = .returned (.bool true) ∧ Below w.heap.size w w' := by
  obtain ⟨k, hk⟩ : ∃ k : Int, IntKind.i64.wrap (-n) = k ∧ k < 0 := ⟨-n, by simp [IntKind.wrap, IntKind.bits, IntKind.signed]; omega, by omega⟩
  obtain ⟨hk, hk1⟩ := hk
  have h0 : 0 ≤ n := by omega
  have h8 : ¬ n ≤ 8 := by omega
  have hm0 : 0 < n := by omega
  have HP := Lib.hid hP
  clear hP
  by_cases hl : 1000 < P.length
  · obtain ⟨L, hL⟩ : ∃ L, L = P.length := ⟨_, rfl⟩
    rw [← hL] at hl ⊢
    clear hL
    have hl2 : (1000 : Int) < L := by omega
    go_enter Try.func6, Try.ntmps6
    go_wp2_with (first
      | (go_at_call 7; refine (awake_any w).mono ?_; rintro e w1 ⟨rfl, hb1⟩; refine Hid.out ?_)
      | (go_at_call 7; refine (awake_any w1).mono ?_; rintro e w2 ⟨rfl, hb2⟩))
    refine Lib.hid ?_
    have ha := awake_any w1
    go_wp2_with (go_at_call 7; refine ha.mono ?_; rintro e w2 ⟨rfl, hb2⟩)
    go_ret
    exact ⟨rfl, hb1.trans (hb2.mono hb1.size)⟩
  · have hl2 : ¬ (1000 : Int) < (P.length : Nat) := by omega
    obtain ⟨L, hL⟩ : ∃ L, L = P.length := ⟨_, rfl⟩
    have HL := Lib.hid (And.intro hL hl)
    rw [← hL] at hl2 ⊢
    clear hL hl
    go_enter Try.func6, Try.ntmps6
    go_wp2_with (first
      | (go_at_call 7; refine (awake_any w).mono ?_; rintro e w1 ⟨rfl, hb1⟩)
      | (go_at_call 15; refine Hid.out ?_))
    refine Lib.hid ?_
    have hP1 := HP.out.on hb1 (Nat.le_refl _)
    have hR := read_any ao cap P w1 hP1 (by have := HL.out.2; omega)
    rw [← HL.out.1] at hR
    have HB1 := Lib.hid hb1
    have HP1 := Lib.hid hP1
    have HR := Lib.hid hR
    clear hb1 hP1 hR
    go_wp2_with (go_at_call 15; refine HR.out.mono ?_; rintro e w2 ⟨b, rfl, hrd, hb2⟩; have hN := num_off w2 _ _ _ n (by omega) (Rp.of hrd); refine Hid.out ?_)
    refine Lib.hid ?_
    go_wp2_with (first
      | (go_at_call 16; refine hN.mono ?_; rintro e w3 ⟨rfl, hR3, ht3⟩)
      | (go_at_call 13; refine Hid.out ?_))
    refine Lib.hid ?_
    have hb3 := hb2.trans (ht3.below (Rp.of hrd) hb2.size)
    have hP3 := HP1.out.on hb3 (Nat.le_refl _)
    have hC := rbytes_any [] P none ao 0 cap w3 (byt_nil _ _) hP3 (by have := HL.out.2; simp; omega)
    rw [← HL.out.1] at hC
    have HC := Lib.hid hC
    have HB3 := Lib.hid (HB1.out.trans (hb3.mono HB1.out.size))
    have HR3 := Lib.hid hR3
    clear hC hb3 hP3 hb2 ht3 hrd hN hR3 HR
    go_wp2_with (go_at_call 13; refine HC.out.mono ?_; rintro e w4 ⟨v4, rfl, hown4, hb4⟩; obtain ⟨a4, c4, hv4, hby4⟩ := own_byt hown4; generalize hM : ([] ++ be L 4 ++ P).length = M at hv4; subst hv4; refine Hid.out ?_)
    refine Lib.hid ?_
    have hR5 := read_any a4 c4 _ w4 hby4 (by have := HL.out.2; rw [List.length_append, List.length_append, be_len]; simp; omega)
    rw [hM] at hR5
    have HR4 := Lib.hid (HR3.out.rd.on hb4 (Nat.le_refl _))
    have HB4 := Lib.hid (HB3.out.trans (hb4.mono HB3.out.size))
    have HR5 := Lib.hid hR5
    clear hR5 hown4 hby4 hb4 HC HR3
    go_wp2_with (go_at_call 15; refine HR5.out.mono ?_; rintro e w5 ⟨b5, rfl, hrd5, hb5⟩; refine Hid.out ?_)
    refine Lib.hid ?_
    have hY := bytes_off w5 _ _ _ k (by omega) (Rp.of hrd5)
    have HY := Lib.hid hY
    have HR5' := Lib.hid (And.intro hrd5 hb5)
    clear hY hrd5 hb5 HR5
    go_wp2_with (go_at_call 17; refine HY.out.mono ?_; rintro e w6 ⟨a6, c6, rfl, hR6, ht6⟩; refine Hid.out ?_)
    refine Lib.hid ?_
    have hb6 := HR5'.out.2.trans (ht6.below (Rp.of HR5'.out.1) HR5'.out.2.size)
    have hBs := bad_any w6 _ _ _ (Rp.of (HR4.out.on hb6 (Nat.le_refl _)))
    have hBt := bad_any w6 _ _ _ hR6
    have HB6 := Lib.hid (HB4.out.trans (hb6.mono HB4.out.size))
    have n1 := bad_nil w6
    have n2 := end_nil w6
    have n3 := num_nil w6
    have n4 := bytes_nil w6
    have n5 := flag_nil w6
    have n6 := count_nil w6
    have n7 := left_nil w6
    clear hb6 hR6 ht6 HR5' HY
    go_wp2_with (first
      | (go_at_call 20; refine n1.mono ?_; clear n1; rintro e w7 ⟨rfl, rfl⟩)
      | (go_at_call 20; refine hBs.mono ?_; clear hBs; rintro e w7 ⟨rfl, rfl⟩)
      | (go_at_call 20; refine hBt.mono ?_; rintro e w7 ⟨rfl, rfl⟩)
      | (go_at_call 19; refine n2.mono ?_; rintro e w7 ⟨rfl, rfl⟩)
      | (go_at_call 16; refine n3.mono ?_; rintro e w7 ⟨rfl, rfl⟩)
      | (go_at_call 17; refine n4.mono ?_; rintro e w7 ⟨a7, c7, rfl, rfl⟩)
      | (go_at_call 18; refine n5.mono ?_; rintro e w7 ⟨rfl, rfl⟩)
      | (go_at_call 22; refine n6.mono ?_; rintro e w7 ⟨rfl, rfl⟩)
      | (go_at_call 21; refine n7.mono ?_; rintro e w7 ⟨rfl, rfl⟩))
    go_ret
    exact ⟨rfl, HB6.out⟩
set_option maxHeartbeats 4000000 in
theorem nil_walk_c (w : World) (ao : Option Addr) (cap : Nat) (P : List UInt8) (n : Int) (hP : Byt w ao P) (hn0 : -9223372036854775808 ≤ n) (hn1 : n ≤ 9223372036854775807) (hn : n < 0) :
    Calls Try.prog 6 #[.slice ao P.length cap, .int .i64 n] w fun e w' => e = .returned (.bool true) ∧ Below w.heap.size w w' := by
  have h0 : ¬ 0 ≤ n := by omega
  have hm0 : ¬ 0 < n := by omega
  have HP := Lib.hid hP
  clear hP
  by_cases hl : 1000 < P.length
  · obtain ⟨L, hL⟩ : ∃ L, L = P.length := ⟨_, rfl⟩
    rw [← hL] at hl ⊢
    clear hL
    have hl2 : (1000 : Int) < L := by omega
    go_enter Try.func6, Try.ntmps6
    go_wp2_with (first
      | (go_at_call 7; refine (awake_any w).mono ?_; rintro e w1 ⟨rfl, hb1⟩; refine Hid.out ?_)
      | (go_at_call 7; refine (awake_any w1).mono ?_; rintro e w2 ⟨rfl, hb2⟩))
    refine Lib.hid ?_
    have ha := awake_any w1
    go_wp2_with (go_at_call 7; refine ha.mono ?_; rintro e w2 ⟨rfl, hb2⟩)
    go_ret
    exact ⟨rfl, hb1.trans (hb2.mono hb1.size)⟩
  · have hl2 : ¬ (1000 : Int) < (P.length : Nat) := by omega
    obtain ⟨L, hL⟩ : ∃ L, L = P.length := ⟨_, rfl⟩
    have HL := Lib.hid (And.intro hL hl)
    rw [← hL] at hl2 ⊢
    clear hL hl
    go_enter Try.func6, Try.ntmps6
    go_wp2_with (first
      | (go_at_call 7; refine (awake_any w).mono ?_; rintro e w1 ⟨rfl, hb1⟩)
      | (go_at_call 15; refine Hid.out ?_))
    refine Lib.hid ?_
    have hP1 := HP.out.on hb1 (Nat.le_refl _)
    have hR := read_any ao cap P w1 hP1 (by have := HL.out.2; omega)
    rw [← HL.out.1] at hR
    have HB1 := Lib.hid hb1
    have HP1 := Lib.hid hP1
    have HR := Lib.hid hR
    clear hb1 hP1 hR
    go_wp2_with (go_at_call 15; refine HR.out.mono ?_; rintro e w2 ⟨b, rfl, hrd, hb2⟩; have hN := num_off w2 _ _ _ n (by omega) (Rp.of hrd); refine Hid.out ?_)
    refine Lib.hid ?_
    go_wp2_with (first
      | (go_at_call 16; refine hN.mono ?_; rintro e w3 ⟨rfl, hR3, ht3⟩)
      | (go_at_call 13; refine Hid.out ?_))
    refine Lib.hid ?_
    have hb3 := hb2.trans (ht3.below (Rp.of hrd) hb2.size)
    have hP3 := HP1.out.on hb3 (Nat.le_refl _)
    have hC := rbytes_any [] P none ao 0 cap w3 (byt_nil _ _) hP3 (by have := HL.out.2; simp; omega)
    rw [← HL.out.1] at hC
    have HC := Lib.hid hC
    have HB3 := Lib.hid (HB1.out.trans (hb3.mono HB1.out.size))
    have HR3 := Lib.hid hR3
    clear hC hb3 hP3 hb2 ht3 hrd hN hR3 HR
    go_wp2_with (go_at_call 13; refine HC.out.mono ?_; rintro e w4 ⟨v4, rfl, hown4, hb4⟩; obtain ⟨a4, c4, hv4, hby4⟩ := own_byt hown4; generalize hM : ([] ++ be L 4 ++ P).length = M at hv4; subst hv4; refine Hid.out ?_)
    refine Lib.hid ?_
    have hR5 := read_any a4 c4 _ w4 hby4 (by have := HL.out.2; rw [List.length_append, List.length_append, be_len]; simp; omega)
    rw [hM] at hR5
    have HR4 := Lib.hid (HR3.out.rd.on hb4 (Nat.le_refl _))
    have HB4 := Lib.hid (HB3.out.trans (hb4.mono HB3.out.size))
    have HR5 := Lib.hid hR5
    clear hR5 hown4 hby4 hb4 HC HR3
    go_wp2_with (go_at_call 15; refine HR5.out.mono ?_; rintro e w5 ⟨b5, rfl, hrd5, hb5⟩; refine Hid.out ?_)
    refine Lib.hid ?_
    have hY := bytes_off w5 _ _ _ n (by omega) (Rp.of hrd5)
    have HY := Lib.hid hY
    have HR5' := Lib.hid (And.intro hrd5 hb5)
    clear hY hrd5 hb5 HR5
    go_wp2_with (go_at_call 17; refine HY.out.mono ?_; rintro e w6 ⟨a6, c6, rfl, hR6, ht6⟩; refine Hid.out ?_)
    refine Lib.hid ?_
    have hb6 := HR5'.out.2.trans (ht6.below (Rp.of HR5'.out.1) HR5'.out.2.size)
    have hBs := bad_any w6 _ _ _ (Rp.of (HR4.out.on hb6 (Nat.le_refl _)))
    have hBt := bad_any w6 _ _ _ hR6
    have HB6 := Lib.hid (HB4.out.trans (hb6.mono HB4.out.size))
    have n1 := bad_nil w6
    have n2 := end_nil w6
    have n3 := num_nil w6
    have n4 := bytes_nil w6
    have n5 := flag_nil w6
    have n6 := count_nil w6
    have n7 := left_nil w6
    clear hb6 hR6 ht6 HR5' HY
    go_wp2_with (first
      | (go_at_call 20; refine n1.mono ?_; clear n1; rintro e w7 ⟨rfl, rfl⟩)
      | (go_at_call 20; refine hBs.mono ?_; clear hBs; rintro e w7 ⟨rfl, rfl⟩)
      | (go_at_call 20; refine hBt.mono ?_; rintro e w7 ⟨rfl, rfl⟩)
      | (go_at_call 19; refine n2.mono ?_; rintro e w7 ⟨rfl, rfl⟩)
      | (go_at_call 16; refine n3.mono ?_; rintro e w7 ⟨rfl, rfl⟩)
      | (go_at_call 17; refine n4.mono ?_; rintro e w7 ⟨a7, c7, rfl, rfl⟩)
      | (go_at_call 18; refine n5.mono ?_; rintro e w7 ⟨rfl, rfl⟩)
      | (go_at_call 22; refine n6.mono ?_; rintro e w7 ⟨rfl, rfl⟩)
      | (go_at_call 21; refine n7.mono ?_; rintro e w7 ⟨rfl, rfl⟩))
    go_ret
    exact ⟨rfl, HB6.out⟩
/-- The law, for every input. -/
theorem nil_walk (w : World) (ao : Option Addr) (cap : Nat) (P : List UInt8) (n : Int) (hP : Byt w ao P) (hn0 : -9223372036854775808 ≤ n) (hn1 : n ≤ 9223372036854775807) :
    Calls Try.prog 6 #[.slice ao P.length cap, .int .i64 n] w fun e w' => e = .returned (.bool true) ∧ Below w.heap.size w w' := by
  by_cases h : n < 0
  · exact nil_walk_c w ao cap P n hP hn0 hn1 h
  · by_cases h8 : 8 < n
    · exact nil_walk_b w ao cap P n hP hn0 hn1 h8
    · exact nil_walk_a w ao cap P n hP hn0 hn1 (by omega)
end Go.Proofs.Ytpeibhhdhomnmaa
