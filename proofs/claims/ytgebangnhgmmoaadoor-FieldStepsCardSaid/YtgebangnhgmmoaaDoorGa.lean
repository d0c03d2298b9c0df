/- What the cards of layer 3's laws share: how arguments are opened, and what start-up laid. -/
import Derived.Test.YtgebangnhgmmoaaDoorCards
import Derived.Test.YtgebangnhgmmoaaDoorTie
import Derived.Test.YtgebangnhgmmoaaDoorG6
import Derived.WalkKit
import Derived.ProofKit
import Derived.OpenShut
import Derived.ChangeOld
import Derived.Below
import Derived.Deep.DeepHandedRow
import Derived.Lib.LaidTab
namespace Go.Proofs.YtgebangnhgmmoaaDoor
open Go.ChangeShapes Go.WideShapes Go.ChangeAt Go.RowKit
set_option linter.unusedVariables false

theorem own : ownKnob Tryd.prog.godebug = none := by kernel_rfl
theorem laidOut : laidOutB Tryd.prog = true := by kernel_rfl
theorem gTab : Tryd.prog.globalNamed "pawl/field.double" = some 0 := by kernel_rfl
theorem gTabType : (Tryd.prog.globals[0]?).map (·.type) = some 30 := by kernel_rfl
theorem cellsTab : Tryd.prog.cellsOf 30 = 5 := by kernel_rfl
theorem cells5 : Tryd.prog.cellsOf 5 = 1 := by kernel_rfl
theorem cells23 : Tryd.prog.cellsOf 23 = 32 := by kernel_rfl

/-- A slice of integers that came in. -/
def IsRow (k : IntKind) (w : World) (a : Option Addr) (len cap : Nat) (zs : List Int) : Prop :=
  (a = none ∧ len = 0 ∧ cap = 0 ∧ zs = []) ∨
  ∃ x, a = some x ∧ len ≤ cap ∧ cap ≤ maxLen ∧ zs.length = cap ∧ (∀ i, i < zs.length → w.cell? (x.add i) = some (.int k (zs.getD i 0))) ∧ ∀ n ∈ zs, (Lit.int k n).wf = true

theorem tab {W : World} (h : laidMetH Tryd.prog [("pawl/field.double", Rows.laid_pawl_field_double)] W) : Dbl W := by
  have ht : Lib.TabIs Tryd.prog W "pawl/field.double" .u64 Fe.two.cells := Lib.tabIs_of_head (rest := []) gTab gTabType Tryd.underlying30 Tryd.underlying28 cells28 cellsTab h
  have hc := fun i (hi : i < Fe.two.cells.length) => ht.cell gTab i hi
  refine ⟨?_, fun j hj => hc j hj⟩
  have := World.block_lt_of_cell? _ _ (hc 0 (by decide))
  simpa using this
noncomputable def laidWorld (os : Os) : World :=
  { World.holding Tryd.prog os ⟨#[], #[], []⟩ with heap := (World.holding Tryd.prog os ⟨#[], #[], []⟩).heap.modify 0 fun
      | .cells _ t frozen => .cells (Fe.two.cells.map (Value.int .u64)).toArray t frozen
      | o => o }

theorem row_cells {k : IntKind} {w : World} {a : Option Addr} {len cap : Nat} {zs : List Int} (h : IsRow k w a len cap zs) : ∃ P : List Int, P.length = len ∧ len ≤ cap ∧ (∀ x ∈ P, (Lit.int k x).wf = true) ∧ (P = [] ∨ ∃ b off, a = some ⟨b, off, none⟩ ∧ b < w.heap.size ∧ At w k b off P) := by
  rcases h with ⟨rfl, rfl, rfl, rfl⟩ | ⟨x, rfl, hl, hm, hz, hcell, hwz⟩
  · exact ⟨[], rfl, Nat.le_refl _, by simp, Or.inl rfl⟩
  · refine ⟨zs.take len, by simp; omega, hl, fun y hy => hwz y (List.mem_of_mem_take hy), ?_⟩
    by_cases h0 : len = 0
    · exact Or.inl (by rw [h0]; rfl)
    · refine Or.inr ⟨x.block, x.off, ?_, ?_, ?_⟩
      · have := World.cell?_spot (hcell 0 (by omega))
        rw [Addr.add, if_pos rfl] at this
        cases x; simp_all
      · have := World.block_lt_of_cell? _ _ (hcell 0 (by omega))
        rwa [Addr.add, if_pos rfl] at this
      · intro j hj
        have hj' : j < len := by simp at hj; omega
        have hs := World.cell?_spot (hcell 0 (by omega))
        rw [Addr.add, if_pos rfl] at hs
        have hc := hcell j (by omega)
        obtain ⟨b, off, s⟩ := x
        obtain rfl : s = none := hs
        rw [Addr.add_mid] at hc
        rw [hc]
        simp [hj']
theorem slc_row8 {w : World} {a : Option Addr} {len cap : Nat} {zs : List Int} (h : IsRow .u8 w a len cap zs) : ∃ P : List Int, P.length = len ∧ Slc w (.slice a len cap) P := by
  obtain ⟨P, hl, hc, hw, hm⟩ := row_cells h
  refine ⟨P, hl, a, cap, by rw [hl], by omega, fun x hx => ?_, hm⟩
  have h2 : IntKind.u8.max = 255 := rfl
  have h1 : IntKind.u8.min = 0 := rfl
  have := hw x hx
  simp only [Lit.wf, Bool.and_eq_true, decide_eq_true_eq] at this
  unfold W8
  omega

/-- 32 bytes that came in. -/
theorem open_arr {H : Type} {enc : TypeId × Value → H} {W : World} {base b0 : Nat} {r : Reach} {sp : Nat → Bool} {held : Bool} {v : Value} {d : DataW H} {p : List MemPlace} (hv : Value.okWide Tryd.prog W r b0 23 v) (h : DataW.Trod enc Tryd.prog W base sp held 23 v d p) : ∃ l : List Int, v = bv l ∧ l.length = 32 ∧ ∀ x ∈ l, W8 x := by
  unfold Value.okWide at hv
  rw [Tryd.underlying23] at hv
  obtain ⟨cs, rfl, hs, -⟩ := hv
  rw [cells23] at hs
  obtain ⟨fuel, hf⟩ := h
  obtain ⟨xs, m, -, -, -, hxl, hx⟩ := DataW.trod_array Tryd.underlying23 hf
  have hcs : (Value.agg cs).cells.toList = cs.toList := by simp [Value.cells]
  have hcell : ∀ i, (hi : i < cs.size) → ∃ n, cs[i] = .int .u8 n ∧ (Lit.int .u8 n).wf = true := by
    intro i hi
    have h1 := hx i (by omega)
    rw [cells5, Nat.mul_one, hcs] at h1
    have e : (cs.toList.drop i).take 1 = [cs[i]] := by
      rw [List.drop_eq_getElem_cons (by simpa using hi)]
      simp
    rw [e, List.getElem?_eq_getElem (by omega)] at h1
    obtain ⟨n, h2, -, h4⟩ := DataW.trod_int Tryd.underlying5 h1
    simp only [List.cons.injEq, and_true] at h2
    exact ⟨n, h2, h4⟩
  refine ⟨cs.toList.map (fun v => match v with | .int _ n => n | _ => 0), ?_, by simp [hs], ?_⟩
  · unfold bv
    congr 1
    refine Array.ext (by simp) fun i h1 h2 => ?_
    obtain ⟨n, hn, _⟩ := hcell i h1
    simp [hn]
  · intro x hx
    rw [List.mem_map] at hx
    obtain ⟨v, hv, rfl⟩ := hx
    obtain ⟨i, hi, rfl⟩ := List.mem_iff_getElem.1 hv
    obtain ⟨n, hn, hw⟩ := hcell i (by simpa using hi)
    have h2 : IntKind.u8.max = 255 := rfl
    have h1 : IntKind.u8.min = 0 := rfl
    simp only [Lit.wf, Bool.and_eq_true, decide_eq_true_eq] at hw
    simp only [Array.getElem_toList, hn]
    unfold W8
    omega
end Go.Proofs.YtgebangnhgmmoaaDoor
