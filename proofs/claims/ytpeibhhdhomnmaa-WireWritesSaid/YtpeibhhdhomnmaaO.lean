/- A writer with the document's own bytes beside it. -/
import Derived.Test.YtpeibhhdhomnmaaN
namespace Go.Proofs.Ytpeibhhdhomnmaa
open Go.RowKit
/-- A writer, with the document's own bytes beside it. -/
def Both (w0 : World) (B : Nat) (wr : World) (aw : Option Addr) (N : Nat) (l : List UInt8) : Prop :=
  N = l.length ∧ (∃ vw, Wr wr B B vw l ∧ Byt wr aw l ∧ Apart aw l B vw) ∧ Below w0.heap.size w0 wr ∧ B ≤ wr.heap.size ∧ w0.heap.size ≤ B
theorem own_apart {w w1 : World} {B b : Nat} {v : Value} {l L : List UInt8} {ao : Option Addr} {n cap : Nat} (hW : Wr w B b v L) (hown : Own w1 w.heap.size (.slice ao n cap) l) : Apart ao l b v := by
  intro a e h0
  subst e
  have h := (World.ownsRow.lt hown a.block rfl).1
  have := hW.lt
  refine ⟨by omega, fun e => ?_⟩
  have := (World.ownsRow.lt hW.own _ e).2
  omega
theorem shl_wrap (s : Nat) (hs : s < 8) : IntKind.u64.wrap ((2 : Int) ^ (((8 * s : Nat) : Int)).toNat) = ((256 ^ s : Nat) : Int) := by
  have hp : 256 ^ s ≤ 256 ^ 7 := Nat.pow_le_pow_right (by decide) (by omega)
  have h7 : (256 : Nat) ^ 7 = 72057594037927936 := by decide
  have e2 : (2 : Int) ^ (8 * s) = ((256 ^ s : Nat) : Int) := by
    rw [show (256 : Nat) ^ s = 2 ^ (8 * s) by rw [Nat.pow_mul]]
    simp
  rw [Int.toNat_natCast, e2, IntKind.wrap_u64]
  clear e2
  rw [h7] at hp
  generalize 256 ^ s = p at *
  omega
end Go.Proofs.Ytpeibhhdhomnmaa
