/- What the cards of layer 10's laws share: how arguments are opened, and what start-up laid. -/
import Derived.Test.YteojlnbonhipbaaDoorCards
import Derived.Test.YteojlnbonhipbaaDoorTie
import Derived.Test.YteojlnbonhipbaaDoorA
import Derived.WalkKit
import Derived.ProofKit
import Derived.OpenShut
import Derived.ChangeOld
import Derived.Below
import Derived.Deep.DeepHandedRow
import Derived.Lib.LaidTab
namespace Go.Proofs.YteojlnbonhipbaaDoor
open Go.ChangeShapes Go.WideShapes Go.ChangeAt Go.RowKit
set_option linter.unusedVariables false

theorem own : ownKnob Tryd.prog.godebug = none := by kernel_rfl
theorem laidOut : laidOutB Tryd.prog = true := by kernel_rfl
theorem gTab : Tryd.prog.globalNamed "pawl/sha.round" = some 0 := by kernel_rfl
theorem gTabType : (Tryd.prog.globals[0]?).map (·.type) = some 98 := by kernel_rfl
theorem cellsTab : Tryd.prog.cellsOf 98 = 64 := by kernel_rfl
theorem cellsWord : Tryd.prog.cellsOf 25 = 1 := by kernel_rfl

/-- A slice of integers that came in. -/
def IsRow (k : IntKind) (w : World) (a : Option Addr) (len cap : Nat) (zs : List Int) : Prop :=
  (a = none ∧ len = 0 ∧ cap = 0 ∧ zs = []) ∨
  ∃ x, a = some x ∧ len ≤ cap ∧ cap ≤ maxLen ∧ zs.length = cap ∧ (∀ i, i < zs.length → w.cell? (x.add i) = some (.int k (zs.getD i 0))) ∧ ∀ n ∈ zs, (Lit.int k n).wf = true
/-- The table of rounds. -/
def KK : List Int := [1116352408, 1899447441, 3049323471, 3921009573, 961987163, 1508970993, 2453635748, 2870763221, 3624381080, 310598401, 607225278, 1426881987, 1925078388, 2162078206, 2614888103, 3248222580, 3835390401, 4022224774, 264347078, 604807628, 770255983, 1249150122, 1555081692, 1996064986, 2554220882, 2821834349, 2952996808, 3210313671, 3336571891, 3584528711, 113926993, 338241895, 666307205, 773529912, 1294757372, 1396182291, 1695183700, 1986661051, 2177026350, 2456956037, 2730485921, 2820302411, 3259730800, 3345764771, 3516065817, 3600352804, 4094571909, 275423344, 430227734, 506948616, 659060556, 883997877, 958139571, 1322822218, 1537002063, 1747873779, 1955562222, 2024104815, 2227730452, 2361852424, 2428436474, 2756734187, 3204031479, 3329325298]
theorem tab {W : World} (h : laidMetH Tryd.prog [("pawl/sha.round", Rows.laid_pawl_sha_round)] W) : 0 < W.heap.size ∧ ∀ j, j < KK.length → W.cell? ⟨0, 0 + j, none⟩ = some (.int .u32 (KK.getD j 0)) := by
  have ht : Lib.TabIs Tryd.prog W "pawl/sha.round" .u32 KK := Lib.tabIs_of_head (rest := []) gTab gTabType Tryd.underlying98 Tryd.underlying25 cellsWord cellsTab h
  have hc := fun i (hi : i < KK.length) => ht.cell gTab i hi
  refine ⟨?_, fun j hj => by rw [Nat.zero_add]; exact hc j hj⟩
  have := World.block_lt_of_cell? _ _ (hc 0 (by decide))
  simpa using this
noncomputable def laidWorld (os : Os) : World :=
  { World.holding Tryd.prog os ⟨#[], #[], []⟩ with heap := (World.holding Tryd.prog os ⟨#[], #[], []⟩).heap.modify 0 fun
      | .cells _ t frozen => .cells (KK.map (Value.int .u32)).toArray t frozen
      | o => o }
/-- A slice of bytes that came in. -/
theorem byt_row {w : World} {a : Option Addr} {len cap : Nat} {zs : List Int} (h : IsRow .u8 w a len cap zs) : ∃ P : List UInt8, P.length = len ∧ len ≤ cap ∧ Byt w a P := by
  rcases h with ⟨rfl, rfl, rfl, rfl⟩ | ⟨x, rfl, hl, hm, hz, hcell, hwz⟩
  · exact ⟨[], rfl, Nat.le_refl _, ⟨.inl rfl⟩⟩
  · refine ⟨(zs.take len).map fun z => UInt8.ofNat z.toNat, by simp; omega, hl, ?_⟩
    by_cases h0 : len = 0
    · exact ⟨.inl (by simp [h0])⟩
    · refine ⟨.inr ⟨x.block, x.off, ?_, ?_, ?_⟩⟩
      · have := World.cell?_spot (hcell 0 (by omega))
        rw [Addr.add, if_pos rfl] at this
        cases x; simp_all
      · have := World.block_lt_of_cell? _ _ (hcell 0 (by omega))
        rwa [Addr.add, if_pos rfl] at this
      · intro j hj
        have hj' : j < len := by simp at hj; omega
        have hs := World.cell?_spot (hcell 0 (by omega))
        rw [Addr.add, if_pos rfl] at hs
        have hc := hcell j (by omega)
        obtain ⟨b, off, s⟩ := x
        obtain rfl : s = none := hs
        rw [addr_mid] at hc
        rw [hc]
        have hjz : j < zs.length := by omega
        have hw := hwz (zs.getD j 0) (by rw [List.getD_eq_getElem?_getD, List.getElem?_eq_getElem hjz]; exact List.getElem_mem _)
        have h2 : IntKind.u8.max = 255 := rfl
        have h1 : IntKind.u8.min = 0 := rfl
        simp only [Lit.wf, Bool.and_eq_true, decide_eq_true_eq] at hw
        have e : (((zs.take len).map fun z => UInt8.ofNat z.toNat).getD j 0) = UInt8.ofNat (zs.getD j 0).toNat := by
          rw [List.getD_eq_getElem?_getD, List.getElem?_map, List.getElem?_take_of_lt hj', List.getD_eq_getElem?_getD, List.getElem?_eq_getElem hjz]
          rfl
        rw [e, UInt8.toNat_ofNat']
        congr 2
        omega
end Go.Proofs.YteojlnbonhipbaaDoor
