/- A quarter and a mix of the code. -/
import Derived.Test.YticoefnojgaplaaAh
namespace Go.Proofs.Yticoefnojgaplaa
open Go.RowKit

theorem turn_lit (g : Nat) (t s o n : Nat) (m : Int) (hm : m = n) (ht : t < 16) (hs : s < 16) (ho : o < 16) (hn1 : 1 ≤ n) (hn2 : n ≤ 31) : Hid (∀ wq S, Blk wq g .u32 37 S → S.length = 16 → Calls Try.prog 48 #[.pointer (some ⟨g, 0, none⟩), .int .i64 t, .int .i64 s, .int .i64 o, .int .i64 m] wq fun e w' => e = .returned (.tuple #[]) ∧ Blk w' g .u32 37 (Ch.turn S t s o n) ∧ Only g wq w') := by
  subst hm
  exact fun wq S hS hl => turn_any wq g S hS hl t s o n ht hs ho hn1 hn2
set_option maxRecDepth 100000 in
set_option maxHeartbeats 1000000 in
theorem quarter_any (w : World) (g : Nat) (S : List Int) (hS : Blk w g .u32 37 S) (hl : S.length = 16) (a b c d : Nat) (ha : a < 16) (hb : b < 16) (hc : c < 16) (hd : d < 16) :
    Calls Try.prog 47 #[.pointer (some ⟨g, 0, none⟩), .int .i64 a, .int .i64 b, .int .i64 c, .int .i64 d] w fun e w' => e = .returned (.tuple #[]) ∧ Blk w' g .u32 37 (Ch.quarter S a b c d) ∧ Only g w w' := by
  have B0 := Lib.hid hS
  have L0 := Lib.hid hl
  have H1 := turn_lit g d a b 16 16 rfl hd ha hb (by decide) (by decide)
  have H2 := turn_lit g b c d 12 12 rfl hb hc hd (by decide) (by decide)
  have H3 := turn_lit g d a b 8 8 rfl hd ha hb (by decide) (by decide)
  have H4 := turn_lit g b c d 7 7 rfl hb hc hd (by decide) (by decide)
  have L1 : Hid ((Ch.turn S d a b 16).length = 16) := (Ch.turn_length _ _ _ _ _).trans hl
  have L2 : Hid ((Ch.turn (Ch.turn S d a b 16) b c d 12).length = 16) := (Ch.turn_length _ _ _ _ _).trans L1
  have L3 : Hid ((Ch.turn (Ch.turn (Ch.turn S d a b 16) b c d 12) d a b 8).length = 16) := (Ch.turn_length _ _ _ _ _).trans L2
  clear hS hl
  go_enter Try.func47, Try.ntmps47
  go_wp2_with (first
    | (go_at_call 48; refine (H4.out w3 _ B3.out L3.out).mono ?_; rintro e w4 ⟨rfl, hb, ho⟩; have B4 := Lib.hid hb; have O4 := Lib.hid (O3.out.trans ho); clear hb ho)
    | (go_at_call 48; refine (H3.out w2 _ B2.out L2.out).mono ?_; rintro e w3 ⟨rfl, hb, ho⟩; have B3 := Lib.hid hb; have O3 := Lib.hid (O2.out.trans ho); clear hb ho)
    | (go_at_call 48; refine (H2.out w1 _ B1.out L1.out).mono ?_; rintro e w2 ⟨rfl, hb, ho⟩; have B2 := Lib.hid hb; have O2 := Lib.hid (O1.out.trans ho); clear hb ho)
    | (go_at_call 48; refine (H1.out w _ B0.out L0.out).mono ?_; rintro e w1 ⟨rfl, hb, ho⟩; have B1 := Lib.hid hb; have O1 := Lib.hid ho; clear hb ho))
  go_end0
  exact ⟨rfl, B4.out, O4.out⟩
namespace Ch
/-- So many quarters of a mix. -/
def mixk (S : List Int) (sh : Nat) : Nat → List Int
  | 0 => S
  | k + 1 => quarter (mixk S sh k) k (4 + (k + sh) % 4) (8 + (k + 2 * sh) % 4) (12 + (k + 3 * sh) % 4)
theorem mixk_length (S : List Int) (sh : Nat) : ∀ k, (mixk S sh k).length = S.length
  | 0 => rfl
  | k + 1 => by rw [mixk, quarter_length, mixk_length S sh k]
theorem Ok.mixk {S : List Int} (h : Ok S) (sh : Nat) : ∀ k, Ok (mixk S sh k)
  | 0 => h
  | k + 1 => (Ok.mixk h sh k).quarter _ _ _ _
end Ch
set_option maxRecDepth 100000 in
set_option maxHeartbeats 1000000 in
theorem mix_any (w : World) (g : Nat) (S : List Int) (hS : Blk w g .u32 37 S) (hl : S.length = 16) (sh : Nat) (hsh : sh ≤ 1) :
    Calls Try.prog 39 #[.pointer (some ⟨g, 0, none⟩), .int .i64 sh] w fun e w' => e = .returned (.tuple #[]) ∧ Blk w' g .u32 37 (Ch.mixk S sh 4) ∧ Only g w w' := by
  have B0 := Lib.hid hS
  have L0 := Lib.hid hl
  clear hS hl
  go_enter Try.func39, Try.ntmps39
  go_wp2_with fail
  go_loopw [5] (fun i wr => ∃ k : Nat, k ≤ 4 ∧ i = .int .i64 k ∧ Hid (Blk wr g .u32 37 (Ch.mixk S sh k)) ∧ Hid (Only g w wr)) (fun i _ => 4 - (intOf i).toNat)
  case atStart => exact ⟨0, by omega, rfl, B0, Only.refl _ _⟩
  case round =>
    clear B0
    obtain ⟨k, hk, rfl, BK, OK⟩ := hrel
    by_cases hlt : k < 4
    · have hq := fun wq hB => quarter_any wq g (Ch.mixk S sh k) hB ((Ch.mixk_length S sh k).trans L0.out) k (4 + (k + sh) % 4) (8 + (k + 2 * sh) % 4) (12 + (k + 3 * sh) % 4) (by omega) (by omega) (by omega) (by omega)
      rw [show ((4 + (k + sh) % 4 : Nat) : Int) = 4 + ((k : Int) + sh) % 4 by omega, show ((8 + (k + 2 * sh) % 4 : Nat) : Int) = 8 + ((k : Int) + 2 * sh) % 4 by omega, show ((12 + (k + 3 * sh) % 4 : Nat) : Int) = 12 + ((k : Int) + 3 * sh) % 4 by omega] at hq
      have HQ : Hid (Calls Try.prog 47 #[.pointer (some ⟨g, 0, none⟩), .int .i64 k, .int .i64 (4 + ((k : Int) + sh) % 4), .int .i64 (8 + ((k : Int) + 2 * sh) % 4), .int .i64 (12 + ((k : Int) + 3 * sh) % 4)] wr fun e w' => e = .returned (.tuple #[]) ∧ Blk w' g .u32 37 (Ch.mixk S sh (k + 1)) ∧ Only g wr w') := hq wr BK.out
      clear hq
      go_wp2_with (go_at_call 47; refine HQ.out.mono ?_; rintro e w1 ⟨rfl, hb, ho⟩; have B1 := Lib.hid hb; have O1 := Lib.hid (OK.out.trans ho); clear hb ho)
      go_roundw
      case rel => exact ⟨k + 1, by omega, by go_num, B1, O1⟩
      case measure => simp [intOf]; omega
    · obtain rfl : k = 4 := by omega
      go_wp2
      go_end0
      exact ⟨rfl, BK.out, OK.out⟩
end Go.Proofs.Yticoefnojgaplaa
