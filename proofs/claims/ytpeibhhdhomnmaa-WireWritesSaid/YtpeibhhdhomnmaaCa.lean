/- What came in as a slice of bytes, of numbers. -/
import Derived.Test.YtpeibhhdhomnmaaA
import Derived.WalkKit
import Derived.ProofKit
import Derived.OpenShut
import Derived.ShutString
import Derived.ChangeOld
import Derived.Below
namespace Go.Proofs.Ytpeibhhdhomnmaa
open Go.ChangeShapes Go.WideShapes Go.ChangeAt Go.RowKit

theorem own : ownKnob Try.prog.godebug = none := by kernel_rfl
theorem laidOut : laidOutB Try.prog = true := by kernel_rfl
/-- A slice of integers that came in. -/
def IsRow (k : IntKind) (w : World) (a : Option Addr) (len cap : Nat) (zs : List Int) : Prop :=
  (a = none ∧ len = 0 ∧ cap = 0 ∧ zs = []) ∨
  ∃ x, a = some x ∧ len ≤ cap ∧ cap ≤ maxLen ∧ zs.length = cap ∧ (∀ i, i < zs.length → w.cell? (x.add i) = some (.int k (zs.getD i 0))) ∧ ∀ n ∈ zs, (Lit.int k n).wf = true
theorem row_cells {k : IntKind} {w : World} {a : Option Addr} {len cap : Nat} {zs : List Int} (h : IsRow k w a len cap zs) : ∃ P : List Int, P.length = len ∧ len ≤ cap ∧ (∀ x ∈ P, (Lit.int k x).wf = true) ∧ (P = [] ∨ ∃ b off, a = some ⟨b, off, none⟩ ∧ b < w.heap.size ∧ ∀ j, j < P.length → w.cell? ⟨b, off + j, none⟩ = some (.int k (P.getD j 0))) := by
  rcases h with ⟨rfl, rfl, rfl, rfl⟩ | ⟨x, rfl, hl, hm, hz, hcell, hwz⟩
  · exact ⟨[], rfl, Nat.le_refl _, by simp, Or.inl rfl⟩
  · refine ⟨zs.take len, by simp; omega, hl, fun y hy => hwz y (List.mem_of_mem_take hy), ?_⟩
    by_cases h0 : len = 0
    · exact Or.inl (by rw [h0]; rfl)
    · refine Or.inr ⟨x.block, x.off, ?_, ?_, ?_⟩
      · have := World.cell?_spot (hcell 0 (by omega))
        rw [Addr.add, if_pos rfl] at this
        cases x; simp_all
      · have := World.block_lt_of_cell? _ _ (hcell 0 (by omega))
        rwa [Addr.add, if_pos rfl] at this
      · intro j hj
        have hj' : j < len := by simp at hj; omega
        have hs := World.cell?_spot (hcell 0 (by omega))
        rw [Addr.add, if_pos rfl] at hs
        have hc := hcell j (by omega)
        obtain ⟨b, off, s⟩ := x
        obtain rfl : s = none := hs
        rw [addr_mid] at hc
        rw [hc]
        simp [hj']
theorem byte_of {n : Int} (h : (Lit.int .u8 n).wf = true) : ((UInt8.ofNat n.toNat).toNat : Int) = n := by
  have h2 : IntKind.u8.max = 255 := rfl
  have h1 : IntKind.u8.min = 0 := rfl
  simp only [Lit.wf, Bool.and_eq_true, decide_eq_true_eq] at h
  rw [UInt8.toNat_ofNat']
  omega
theorem byt_ints {w : World} {a : Option Addr} {P : List Int} (hw : ∀ x ∈ P, (Lit.int .u8 x).wf = true) (h : P = [] ∨ ∃ b off, a = some ⟨b, off, none⟩ ∧ b < w.heap.size ∧ ∀ j, j < P.length → w.cell? ⟨b, off + j, none⟩ = some (.int .u8 (P.getD j 0))) : Byt w a (P.map fun x => UInt8.ofNat x.toNat) := by
  refine ⟨h.imp (fun h => by rw [h]; rfl) ?_⟩
  rintro ⟨b, off, h1, h2, h3⟩
  refine ⟨b, off, h1, h2, fun j hj => ?_⟩
  rw [List.length_map] at hj
  rw [h3 j hj, List.getD_eq_getElem?_getD, List.getD_eq_getElem?_getD, List.getElem?_map, List.getElem?_eq_getElem hj]
  simp only [Option.getD_some, Option.map_some]
  rw [byte_of (hw _ (List.getElem_mem hj))]
theorem row_byt {w : World} {a : Option Addr} {len cap : Nat} {zs : List Int} (h : IsRow .u8 w a len cap zs) : ∃ P : List UInt8, P.length = len ∧ Byt w a P := by
  obtain ⟨P, hl, _, hw, hm⟩ := row_cells h
  exact ⟨_, by rw [List.length_map]; exact hl, byt_ints hw hm⟩
theorem row_byt2 {w : World} {a : Option Addr} {len cap : Nat} {zs : List Int} (h : IsRow .u8 w a len cap zs) : ∃ P : List UInt8, P.length = len ∧ Byt w a P ∧ P.length ≤ cap := by
  obtain ⟨P, hl, hc, hw, hm⟩ := row_cells h
  exact ⟨_, by rw [List.length_map]; exact hl, byt_ints hw hm, by rw [List.length_map, hl]; exact hc⟩
end Go.Proofs.Ytpeibhhdhomnmaa
