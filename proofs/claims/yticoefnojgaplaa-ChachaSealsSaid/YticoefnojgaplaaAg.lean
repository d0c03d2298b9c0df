/- Words turned; a turn of the code. -/
import Derived.Test.YticoefnojgaplaaAf
namespace Go.Proofs.Yticoefnojgaplaa
open Go.RowKit

namespace Ch
/-- A word turned left by k. -/
def rol (x : Int) (k : Nat) : Int := bits .or .u32 (x * 2 ^ k % 4294967296) (x / 2 ^ (32 - k))
theorem wrap_W (x : Int) : W32 (IntKind.u32.wrap x) := by
  rw [IntKind.wrap_u32]; unfold W32; omega
theorem bits_W (op : BinOp) (x y : Int) : W32 (bits op .u32 x y) := by
  unfold bits
  exact wrap_W _
theorem rol_W (x : Int) (k : Nat) : W32 (rol x k) := bits_W _ _ _
def ad (x y : Int) : Int := IntKind.u32.wrap (x + y)
theorem ad_W (x y : Int) : W32 (ad x y) := wrap_W _
def xr (x y : Int) : Int := bits .xor .u32 x y
theorem xr_W (x y : Int) : W32 (xr x y) := bits_W _ _ _
/-- One turn: a sum, then a word turned. -/
def turn (S : List Int) (t s o n : Nat) : List Int :=
  (S.set s (ad (S.getD s 0) (S.getD o 0))).set t (rol (xr ((S.set s (ad (S.getD s 0) (S.getD o 0))).getD t 0) ((S.set s (ad (S.getD s 0) (S.getD o 0))).getD s 0)) n)
def quarter (S : List Int) (a b c d : Nat) : List Int := turn (turn (turn (turn S d a b 16) b c d 12) d a b 8) b c d 7
theorem turn_length (S : List Int) (t s o n : Nat) : (turn S t s o n).length = S.length := by simp [turn]
theorem quarter_length (S : List Int) (a b c d : Nat) : (quarter S a b c d).length = S.length := by simp [quarter, turn_length]
def Ok (S : List Int) : Prop := ∀ x ∈ S, W32 x
theorem Ok.set {S : List Int} (h : Ok S) (j : Nat) {x : Int} (hx : W32 x) : Ok (S.set j x) := by
  intro y hy
  rcases List.mem_or_eq_of_mem_set hy with hy | rfl
  · exact h y hy
  · exact hx
theorem Ok.turn {S : List Int} (h : Ok S) (t s o n : Nat) : Ok (turn S t s o n) := (h.set s (ad_W _ _)).set t (rol_W _ _)
theorem Ok.quarter {S : List Int} (h : Ok S) (a b c d : Nat) : Ok (quarter S a b c d) := (((h.turn _ _ _ _).turn _ _ _ _).turn _ _ _ _).turn _ _ _ _
theorem Ok.getD {S : List Int} (h : Ok S) (j : Nat) : W32 (S.getD j 0) := W32_getD h j
end Ch
def Drew (w w' : World) : Prop := ∃ n, w' = w.drewN n
theorem Drew.refl (w : World) : Drew w w := ⟨0, rfl⟩
theorem ret_int {k : IntKind} {a b : Int} (h : a = b) : Ending.returned (.int k a) = .returned (.int k b) := by rw [h]
theorem and31 (k : Nat) (h3 : k ≤ 31) : bits BinOp.and IntKind.u64 (k : Int) 31 = (k : Int) := by
  have : ∀ k : Fin 32, bits BinOp.and IntKind.u64 (k.val : Int) 31 = (k.val : Int) := by decide +kernel
  exact this ⟨k, by omega⟩
set_option maxHeartbeats 400000 in
theorem rotl_any (x : Int) (k : Nat) (w : World) (h : W32 x) (h2 : 1 ≤ k) (h3 : k ≤ 31) :
    Calls Try.prog 49 #[.int .u32 x, .int .i64 k] w fun e w' => e = .returned (.int .u32 (Ch.rol x k)) ∧ w = w' := by
  obtain ⟨h0, h1⟩ := h
  have hb := and31 k h3
  go_enter Try.func49, Try.ntmps49
  go_wp2
  go_ret
  refine ⟨ret_int ?_, rfl⟩
  unfold Ch.rol
  rfl
set_option maxHeartbeats 400000 in
theorem left_any (x : Int) (k : Nat) (w : World) (h : W32 x) (h2 : 1 ≤ k) (h3 : k ≤ 31) :
    Calls Try.prog 40 #[.int .u32 x, .int .i64 k] w fun e w' => e = .returned (.int .u32 (Ch.rol x k)) ∧ Drew w w' := by
  obtain ⟨h0, h1⟩ := h
  go_enter Try.func40, Try.ntmps40
  go_wp2_with fail
  go_quiet (fail)
  go_wp2
  go_ret
  exact ⟨rfl, ⟨_, rfl⟩⟩
end Go.Proofs.Yticoefnojgaplaa
