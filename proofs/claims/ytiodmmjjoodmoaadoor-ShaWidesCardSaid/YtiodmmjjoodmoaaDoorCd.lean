/- The statement ShaWides of layer 2, proved as its tied card: for every input it returns true, and changes nothing that was there. No condition of its own: what the table of rounds reads as is tied to the program's text. -/
import Derived.Test.YtiodmmjjoodmoaaDoorCards
import Derived.Test.YtiodmmjjoodmoaaDoorTie
import Derived.Test.YtiodmmjjoodmoaaDoorAj
import Derived.Test.YtiodmmjjoodmoaaDoorAl
import Derived.WalkKit
import Derived.ProofKit
import Derived.OpenShut
import Derived.ChangeOld
import Derived.Below
import Derived.Deep.DeepHandedRow
import Derived.Lib.LaidTab
namespace Go.Proofs.YtiodmmjjoodmoaaDoor
open Go.ChangeShapes Go.WideShapes Go.ChangeAt Go.RowKit
set_option linter.unusedVariables false

theorem own : ownKnob Tryd.prog.godebug = none := by kernel_rfl
theorem laidOut : laidOutB Tryd.prog = true := by kernel_rfl
theorem gTab : Tryd.prog.globalNamed "pawl/sha.round" = some 0 := by kernel_rfl
theorem gTabType : (Tryd.prog.globals[0]?).map (·.type) = some 60 := by kernel_rfl
theorem cellsTab : Tryd.prog.cellsOf 60 = 64 := by kernel_rfl
theorem cellsWord : Tryd.prog.cellsOf 39 = 1 := by kernel_rfl

/-- A slice of integers that came in. -/
def IsRow (k : IntKind) (w : World) (a : Option Addr) (len cap : Nat) (zs : List Int) : Prop :=
  (a = none ∧ len = 0 ∧ cap = 0 ∧ zs = []) ∨
  ∃ x, a = some x ∧ len ≤ cap ∧ cap ≤ maxLen ∧ zs.length = cap ∧ (∀ i, i < zs.length → w.cell? (x.add i) = some (.int k (zs.getD i 0))) ∧ ∀ n ∈ zs, (Lit.int k n).wf = true

theorem tab {W : World} (h : laidMetH Tryd.prog [("pawl/sha.round", Rows.laid_pawl_sha_round)] W) : Tab W := by
  have ht : Lib.TabIs Tryd.prog W "pawl/sha.round" .u32 KK := Lib.tabIs_of_head (rest := []) gTab gTabType Tryd.underlying60 Tryd.underlying39 cellsWord cellsTab h
  have hc := fun i (hi : i < KK.length) => ht.cell gTab i hi
  refine ⟨?_, fun j hj => by rw [Nat.zero_add]; exact hc j hj⟩
  have := World.block_lt_of_cell? _ _ (hc 0 (by decide))
  simpa using this
noncomputable def laidWorld (os : Os) : World :=
  { World.holding Tryd.prog os ⟨#[], #[], []⟩ with heap := (World.holding Tryd.prog os ⟨#[], #[], []⟩).heap.modify 0 fun
      | .cells _ t frozen => .cells (KK.map (Value.int .u32)).toArray t frozen
      | o => o }

theorem row_cells {k : IntKind} {w : World} {a : Option Addr} {len cap : Nat} {zs : List Int} (h : IsRow k w a len cap zs) : ∃ P : List Int, P.length = len ∧ len ≤ cap ∧ (∀ x ∈ P, (Lit.int k x).wf = true) ∧ (P = [] ∨ ∃ b off, a = some ⟨b, off, none⟩ ∧ b < w.heap.size ∧ At w k b off P) := by
  rcases h with ⟨rfl, rfl, rfl, rfl⟩ | ⟨x, rfl, hl, hm, hz, hcell, hwz⟩
  · exact ⟨[], rfl, Nat.le_refl _, by simp, Or.inl rfl⟩
  · refine ⟨zs.take len, by simp; omega, hl, fun y hy => hwz y (List.mem_of_mem_take hy), ?_⟩
    by_cases h0 : len = 0
    · exact Or.inl (by rw [h0]; rfl)
    · refine Or.inr ⟨x.block, x.off, ?_, ?_, ?_⟩
      · have := World.cell?_spot (hcell 0 (by omega))
        rw [Addr.add, if_pos rfl] at this
        cases x; simp_all
      · have := World.block_lt_of_cell? _ _ (hcell 0 (by omega))
        rwa [Addr.add, if_pos rfl] at this
      · intro j hj
        have hj' : j < len := by simp at hj; omega
        have hs := World.cell?_spot (hcell 0 (by omega))
        rw [Addr.add, if_pos rfl] at hs
        have hc := hcell j (by omega)
        obtain ⟨b, off, s⟩ := x
        obtain rfl : s = none := hs
        rw [Addr.add_mid] at hc
        rw [hc]
        simp [hj']
theorem slc_row8 {w : World} {a : Option Addr} {len cap : Nat} {zs : List Int} (h : IsRow .u8 w a len cap zs) : ∃ P : List Int, P.length = len ∧ Slc w (.slice a len cap) P := by
  obtain ⟨P, hl, hc, hw, hm⟩ := row_cells h
  refine ⟨P, hl, a, cap, by rw [hl], by omega, fun x hx => ?_, hm⟩
  have h2 : IntKind.u8.max = 255 := rfl
  have h1 : IntKind.u8.min = 0 := rfl
  have := hw x hx
  simp only [Lit.wf, Bool.and_eq_true, decide_eq_true_eq] at this
  unfold Sh.W8
  omega
theorem shaWides_walk {W : World} {a0 : Option Addr} {len0 cap0 : Nat} {z0 : List Int} (ht : Tab W) (w0 : IsRow .u8 W a0 len0 cap0 z0) :
    Calls Tryd.prog 7 #[.slice a0 len0 cap0] W fun e w' => e = .returned (.bool true) ∧ Below W.heap.size W w' := by
  obtain ⟨P, rfl, hP⟩ := slc_row8 w0
  exact wides_any rsum W ht a0 cap0 P hP

namespace shaWides
/-- What the walks give, for every argument and every world that holds the table. -/
theorem contract (H : Type) (enc : TypeId × Value → H) (W : World) (base : Nat) (args : Array Value) (ds gs : List (DataW H)) (before : List MemPlace)
    (hval : ∀ (j : Nat) t v, Tryd.f7.params[j]? = some t → args[j]? = some v → Value.okWide Tryd.prog W .any base t v)
    (hW : DataW.Whole enc Tryd.prog Tryd.f7.params.toList Rows.shaWidesSpec.vars false W args.toList ds gs before) (hL : laidMetH Tryd.prog Rows.shaWidesRow.laid W) :
    Calls Tryd.prog 7 args W fun e W' => ∃ v, e = .returned v ∧ Rows.shaWidesSpec.post enc Tryd.prog Tryd.f7 false true false false W args v W' := by
  have hW' := hW
  obtain ⟨p, q, hA0, hV, rfl, hfz, hnd⟩ := hW
  have hA : DataW.TrodAll enc Tryd.prog W 0 (fun _ => true) true Tryd.f7.params.toList args.toList ds p := hA0
  rw [Tryd.params7] at hA hval
  obtain ⟨v0, vs0, d0, ds0, p0, q0, hargs, rfl, rfl, h0, r0⟩ := trodAll_cons hA
  obtain ⟨rfl, rfl, rfl⟩ := trodAll_nil r0
  obtain rfl : args = #[v0] := by cases args; simp_all
  obtain ⟨rfl, rfl⟩ := trodVars_none hV
  obtain ⟨a0, len0, cap0, rfl⟩ := okWide_slice Tryd.underlying22 (hval 0 22 v0 rfl rfl)
  have k0 := h0
  have lt0 : ∀ x ∈ p0, x.block < W.heap.size := by obtain ⟨m, hm⟩ := k0; exact DataW.trod_lt m _ _ _ hm
  obtain ⟨z0, w0⟩ : ∃ zs, IsRow .u8 W a0 len0 cap0 zs := by
    obtain ⟨fuel, hf⟩ := h0
    rcases open_ints Tryd.underlying22 Tryd.underlying5 (by kernel_rfl) hf with ⟨hcs, _⟩ | ⟨x, l, c, zs, hcs, _, hl, hm, hz, _, hcell, hwz⟩
    · simp [Value.cells] at hcs
      obtain ⟨rfl, rfl, rfl⟩ := hcs
      exact ⟨[], .inl ⟨rfl, rfl, rfl, rfl⟩⟩
    · simp [Value.cells] at hcs
      obtain ⟨rfl, rfl, rfl⟩ := hcs
      exact ⟨zs, .inr ⟨_, rfl, hl, hm, by simpa using hz, hcell, hwz⟩⟩
  clear hA0
  refine (shaWides_walk (tab hL) w0).mono fun e W' ⟨he, bel⟩ => ?_
  subst he
  exact ⟨_, rfl, _, _, _, [], _, [], hW', trodAll_mk1 (shut_bool Tryd.underlying4 _), (trodAll_cons_mk (Below.trod laidOut (by kernel_rfl) (of_decide_eq_true (by kernel_rfl)) k0 bel lt0) (trodAll_mk0)), rfl, bel.frame _, fun h => by cases h⟩

theorem laid_met (os : Os) : laidMet Tryd.prog Rows.shaWidesRow.laid ((laidWorld os).forCall (fun _ _ => 0) ⟨#[], #[.slice none 0 0], []⟩).memory :=
  laidMet_of_run' 8 (by kernel_rfl) (by kernel_rfl)
theorem reads (os : Os) {H : Type} (enc : TypeId × Value → H) : ∃ places, DataW.whole enc Tryd.prog ((laidWorld os).forCall (fun _ _ => 0) ⟨#[], #[.slice none 0 0], []⟩).memory Tryd.f7.params.toList Rows.shaWidesSpec.vars false (#[.slice none 0 0] : Array Value).toList 8 = some ([.nil], [], places) :=
  ⟨[], by kernel_rfl⟩

set_option maxRecDepth 100000 in
theorem lifted (os : Os) (started : os.Started) (H : Type) (enc : TypeId × Value → H) (F : Stop.Interp) :
    ReturnsInHanded {} Tryd.checked os 7 .any ((OpenSpec.ofChange Rows.shaWidesSpec).preRow enc Tryd.prog Tryd.f7 Rows.shaWidesRow.domain false Rows.shaWidesRow.laid) (((OpenSpec.ofChange Rows.shaWidesSpec).at F).post enc Tryd.prog Tryd.f7 false true false false) := by
  obtain ⟨places, hx⟩ := reads os enc
  refine returnsInHanded_of_row (C := Tryd.checked) (s := OpenSpec.ofChange Rows.shaWidesSpec) own started (by kernel_rfl) Tryd.func7
    (witness_row_at (enc := enc) (C := Tryd.checked) false (laidWorld os) #[.slice none 0 0] rfl (by kernel_rfl) (by kernel_rfl) (by kernel_rfl)
      (OpenSpec.preRow_of_cond 8 hx (by kernel_rfl) (fun k hk => by cases hk) (by kernel_rfl) (laid_met os))) ?_
  intro W base args ds gs before hval hW _ _ _ hL _ _
  exact contract H enc W base args ds gs before hval hW hL

theorem said : Rows.ShaWidesSaid :=
  OpenClaim.holds_of_cond 7 Tryd.f7 rfl rfl rfl rfl rfl rfl rfl ⟨rfl, rfl, rfl, rfl, rfl⟩ rfl rfl rfl rfl rfl (by kernel_rfl) Tryd.func7 (by kernel_rfl)
    (of_decide_eq_true (by kernel_rfl)) (by unfold Func.isWrapper; first | (rw [if_pos (by decide +kernel)]; kernel_rfl) | (rw [if_neg (by decide +kernel)]; exact ⟨rfl, rfl⟩))
    (fun os started H enc _ F => by rw [OpenClaim.pre_eq_preRow]; exact lifted os started H enc F)

theorem plain (f : FuncId) (fn : Func) (hf : Tryd.pinned.checked.prog.funcNamed "pawl/pawllaw02.ShaWides" = some f) (hfn : Tryd.pinned.checked.prog.funcs[f]? = some fn) :
    false = Tryd.pinned.checked.prog.looks [] ∧ ∀ (j : Nat) t, fn.params[j]? = some t → Tryd.pinned.checked.prog.wantsStandIn t = false := by
  obtain rfl : f = 7 := Option.some.inj ((show Tryd.prog.funcNamed "pawl/pawllaw02.ShaWides" = some 7 by kernel_rfl).symm.trans hf) |>.symm
  obtain rfl : fn = Tryd.f7 := (Option.some.inj (Tryd.func7.symm.trans hfn)).symm
  refine ⟨by kernel_rfl, fun j t ht => ?_⟩
  rw [Tryd.params7] at ht
  have hm := Array.mem_of_getElem? ht
  simp only [List.mem_toArray, List.mem_cons, List.not_mem_nil, or_false] at hm
  have s22 : Tryd.prog.wantsStandIn 22 = false := by kernel_rfl
  rcases hm with rfl
  all_goals assumption

/-- ████ THE CARD ████ -/
theorem card : Rows.ShaWidesCardSaid :=
  Claim7.holds_tied_plain_at .later [] _ _ _ _ said (fun _ h => by cases h) (by kernel_rfl) (fun _ h => by cases h) shaWides_row_tie rfl ⟨rfl, rfl⟩ (by kernel_rfl) rfl plain (by kernel_rfl)
end shaWides

theorem shaWides_proved : Rows.ShaWidesCardSaid := shaWides.card

end Go.Proofs.YtiodmmjjoodmoaaDoor
