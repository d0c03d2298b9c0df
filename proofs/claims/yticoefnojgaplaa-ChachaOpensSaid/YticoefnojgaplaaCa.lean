/- What came in as a slice of bytes. -/
import Derived.Test.YticoefnojgaplaaAf
import Derived.WalkKit
import Derived.ProofKit
import Derived.OpenShut
import Derived.ShutString
import Derived.ChangeOld
import Derived.Below
namespace Go.Proofs.Yticoefnojgaplaa
open Go.ChangeShapes Go.WideShapes Go.ChangeAt Go.RowKit

theorem own : ownKnob Try.prog.godebug = none := by kernel_rfl
theorem laidOut : laidOutB Try.prog = true := by kernel_rfl
/-- A slice of integers that came in. -/
def IsRow (k : IntKind) (w : World) (a : Option Addr) (len cap : Nat) (zs : List Int) : Prop :=
  (a = none ∧ len = 0 ∧ cap = 0 ∧ zs = []) ∨
  ∃ x, a = some x ∧ len ≤ cap ∧ cap ≤ maxLen ∧ zs.length = cap ∧ (∀ i, i < zs.length → w.cell? (x.add i) = some (.int k (zs.getD i 0))) ∧ ∀ n ∈ zs, (Lit.int k n).wf = true

theorem row_cells {k : IntKind} {w : World} {a : Option Addr} {len cap : Nat} {zs : List Int} (h : IsRow k w a len cap zs) : ∃ P : List Int, P.length = len ∧ len ≤ cap ∧ (∀ x ∈ P, (Lit.int k x).wf = true) ∧ (P = [] ∨ ∃ b off, a = some ⟨b, off, none⟩ ∧ b < w.heap.size ∧ At w k b off P) := by
  rcases h with ⟨rfl, rfl, rfl, rfl⟩ | ⟨x, rfl, hl, hm, hz, hcell, hwz⟩
  · exact ⟨[], rfl, Nat.le_refl _, by simp, Or.inl rfl⟩
  · refine ⟨zs.take len, by simp; omega, hl, fun y hy => hwz y (List.mem_of_mem_take hy), ?_⟩
    by_cases h0 : len = 0
    · exact Or.inl (by rw [h0]; rfl)
    · refine Or.inr ⟨x.block, x.off, ?_, ?_, ?_⟩
      · have := World.cell?_spot (hcell 0 (by omega))
        rw [Addr.add, if_pos rfl] at this
        cases x; simp_all
      · have := World.block_lt_of_cell? _ _ (hcell 0 (by omega))
        rwa [Addr.add, if_pos rfl] at this
      · intro j hj
        have hj' : j < len := by simp at hj; omega
        have hs := World.cell?_spot (hcell 0 (by omega))
        rw [Addr.add, if_pos rfl] at hs
        have hc := hcell j (by omega)
        obtain ⟨b, off, s⟩ := x
        obtain rfl : s = none := hs
        rw [Addr.add_mid] at hc
        rw [hc]
        simp [hj']
theorem slc_row8 {w : World} {a : Option Addr} {len cap : Nat} {zs : List Int} (h : IsRow .u8 w a len cap zs) : ∃ P : List Int, P.length = len ∧ Slc w (.slice a len cap) P := by
  obtain ⟨P, hl, hc, hw, hm⟩ := row_cells h
  refine ⟨P, hl, a, cap, by rw [hl], by omega, fun x hx => ?_, hm⟩
  have h2 : IntKind.u8.max = 255 := rfl
  have h1 : IntKind.u8.min = 0 := rfl
  have := hw x hx
  simp only [Lit.wf, Bool.and_eq_true, decide_eq_true_eq] at this
  unfold W8
  omega

end Go.Proofs.Yticoefnojgaplaa
