/- The statement ShaExpands of layer 2, proved as its tied card: for every input it returns true, and changes nothing that was there. No condition of its own: what the table of rounds reads as is tied to the program's text. -/
import Derived.Test.YtiodmmjjoodmoaaDoorCards
import Derived.Test.YtiodmmjjoodmoaaDoorTie
import Derived.Test.YtiodmmjjoodmoaaDoorAj
import Derived.Test.YtiodmmjjoodmoaaDoorAn
import Derived.WalkKit
import Derived.ProofKit
import Derived.OpenShut
import Derived.ChangeOld
import Derived.Below
import Derived.Deep.DeepHandedRow
import Derived.Lib.LaidTab
namespace Go.Proofs.YtiodmmjjoodmoaaDoor
open Go.ChangeShapes Go.WideShapes Go.ChangeAt Go.RowKit
set_option linter.unusedVariables false

theorem own : ownKnob Tryd.prog.godebug = none := by kernel_rfl
theorem laidOut : laidOutB Tryd.prog = true := by kernel_rfl
theorem gTab : Tryd.prog.globalNamed "pawl/sha.round" = some 0 := by kernel_rfl
theorem gTabType : (Tryd.prog.globals[0]?).map (·.type) = some 60 := by kernel_rfl
theorem cellsTab : Tryd.prog.cellsOf 60 = 64 := by kernel_rfl
theorem cellsWord : Tryd.prog.cellsOf 39 = 1 := by kernel_rfl

/-- A slice of integers that came in. -/
def IsRow (k : IntKind) (w : World) (a : Option Addr) (len cap : Nat) (zs : List Int) : Prop :=
  (a = none ∧ len = 0 ∧ cap = 0 ∧ zs = []) ∨
  ∃ x, a = some x ∧ len ≤ cap ∧ cap ≤ maxLen ∧ zs.length = cap ∧ (∀ i, i < zs.length → w.cell? (x.add i) = some (.int k (zs.getD i 0))) ∧ ∀ n ∈ zs, (Lit.int k n).wf = true

theorem tab {W : World} (h : laidMetH Tryd.prog [("pawl/sha.round", Rows.laid_pawl_sha_round)] W) : Tab W := by
  have ht : Lib.TabIs Tryd.prog W "pawl/sha.round" .u32 KK := Lib.tabIs_of_head (rest := []) gTab gTabType Tryd.underlying60 Tryd.underlying39 cellsWord cellsTab h
  have hc := fun i (hi : i < KK.length) => ht.cell gTab i hi
  refine ⟨?_, fun j hj => by rw [Nat.zero_add]; exact hc j hj⟩
  have := World.block_lt_of_cell? _ _ (hc 0 (by decide))
  simpa using this
noncomputable def laidWorld (os : Os) : World :=
  { World.holding Tryd.prog os ⟨#[], #[], []⟩ with heap := (World.holding Tryd.prog os ⟨#[], #[], []⟩).heap.modify 0 fun
      | .cells _ t frozen => .cells (KK.map (Value.int .u32)).toArray t frozen
      | o => o }

theorem row_cells {k : IntKind} {w : World} {a : Option Addr} {len cap : Nat} {zs : List Int} (h : IsRow k w a len cap zs) : ∃ P : List Int, P.length = len ∧ len ≤ cap ∧ (∀ x ∈ P, (Lit.int k x).wf = true) ∧ (P = [] ∨ ∃ b off, a = some ⟨b, off, none⟩ ∧ b < w.heap.size ∧ At w k b off P) := by
  rcases h with ⟨rfl, rfl, rfl, rfl⟩ | ⟨x, rfl, hl, hm, hz, hcell, hwz⟩
  · exact ⟨[], rfl, Nat.le_refl _, by simp, Or.inl rfl⟩
  · refine ⟨zs.take len, by simp; omega, hl, fun y hy => hwz y (List.mem_of_mem_take hy), ?_⟩
    by_cases h0 : len = 0
    · exact Or.inl (by rw [h0]; rfl)
    · refine Or.inr ⟨x.block, x.off, ?_, ?_, ?_⟩
      · have := World.cell?_spot (hcell 0 (by omega))
        rw [Addr.add, if_pos rfl] at this
        cases x; simp_all
      · have := World.block_lt_of_cell? _ _ (hcell 0 (by omega))
        rwa [Addr.add, if_pos rfl] at this
      · intro j hj
        have hj' : j < len := by simp at hj; omega
        have hs := World.cell?_spot (hcell 0 (by omega))
        rw [Addr.add, if_pos rfl] at hs
        have hc := hcell j (by omega)
        obtain ⟨b, off, s⟩ := x
        obtain rfl : s = none := hs
        rw [Addr.add_mid] at hc
        rw [hc]
        simp [hj']
theorem slc_row8 {w : World} {a : Option Addr} {len cap : Nat} {zs : List Int} (h : IsRow .u8 w a len cap zs) : ∃ P : List Int, P.length = len ∧ Slc w (.slice a len cap) P := by
  obtain ⟨P, hl, hc, hw, hm⟩ := row_cells h
  refine ⟨P, hl, a, cap, by rw [hl], by omega, fun x hx => ?_, hm⟩
  have h2 : IntKind.u8.max = 255 := rfl
  have h1 : IntKind.u8.min = 0 := rfl
  have := hw x hx
  simp only [Lit.wf, Bool.and_eq_true, decide_eq_true_eq] at this
  unfold Sh.W8
  omega
theorem shaExpands_walk {W : World} {a0 a1 : Option Addr} {len0 cap0 len1 cap1 : Nat} {z0 z1 : List Int} (n m : Int) (ht : Tab W) (w0 : IsRow .u8 W a0 len0 cap0 z0) (w1 : IsRow .u8 W a1 len1 cap1 z1) :
    Calls Tryd.prog 6 #[.slice a0 len0 cap0, .slice a1 len1 cap1, .int .i64 n, .int .i64 m] W fun e w' => e = .returned (.bool true) ∧ Below W.heap.size W w' := by
  obtain ⟨K, rfl, hK⟩ := slc_row8 w0
  obtain ⟨I, rfl, hI⟩ := slc_row8 w1
  exact expands_any rsum W ht a0 a1 cap0 cap1 K I n m hK hI

namespace shaExpands
/-- What the walks give, for every argument and every world that holds the table. -/
theorem contract (H : Type) (enc : TypeId × Value → H) (W : World) (base : Nat) (args : Array Value) (ds gs : List (DataW H)) (before : List MemPlace)
    (hval : ∀ (j : Nat) t v, Tryd.f6.params[j]? = some t → args[j]? = some v → Value.okWide Tryd.prog W .any base t v)
    (hW : DataW.Whole enc Tryd.prog Tryd.f6.params.toList Rows.shaExpandsSpec.vars false W args.toList ds gs before) (hL : laidMetH Tryd.prog Rows.shaExpandsRow.laid W) :
    Calls Tryd.prog 6 args W fun e W' => ∃ v, e = .returned v ∧ Rows.shaExpandsSpec.post enc Tryd.prog Tryd.f6 false true false false W args v W' := by
  have hW' := hW
  obtain ⟨p, q, hA0, hV, rfl, hfz, hnd⟩ := hW
  have hA : DataW.TrodAll enc Tryd.prog W 0 (fun _ => true) true Tryd.f6.params.toList args.toList ds p := hA0
  rw [Tryd.params6] at hA hval
  obtain ⟨v0, vs0, d0, ds0, p0, q0, hargs, rfl, rfl, h0, r0⟩ := trodAll_cons hA
  obtain ⟨v1, vs1, d1, ds1, p1, q1, rfl, rfl, rfl, h1, r1⟩ := trodAll_cons r0
  obtain ⟨v2, vs2, d2, ds2, p2, q2, rfl, rfl, rfl, h2, r2⟩ := trodAll_cons r1
  obtain ⟨v3, vs3, d3, ds3, p3, q3, rfl, rfl, rfl, h3, r3⟩ := trodAll_cons r2
  obtain ⟨rfl, rfl, rfl⟩ := trodAll_nil r3
  obtain rfl : args = #[v0, v1, v2, v3] := by cases args; simp_all
  obtain ⟨rfl, rfl⟩ := trodVars_none hV
  obtain ⟨a0, len0, cap0, rfl⟩ := okWide_slice Tryd.underlying22 (hval 0 22 v0 rfl rfl)
  have k0 := h0
  have lt0 : ∀ x ∈ p0, x.block < W.heap.size := by obtain ⟨m, hm⟩ := k0; exact DataW.trod_lt m _ _ _ hm
  obtain ⟨z0, w0⟩ : ∃ zs, IsRow .u8 W a0 len0 cap0 zs := by
    obtain ⟨fuel, hf⟩ := h0
    rcases open_ints Tryd.underlying22 Tryd.underlying5 (by kernel_rfl) hf with ⟨hcs, _⟩ | ⟨x, l, c, zs, hcs, _, hl, hm, hz, _, hcell, hwz⟩
    · simp [Value.cells] at hcs
      obtain ⟨rfl, rfl, rfl⟩ := hcs
      exact ⟨[], .inl ⟨rfl, rfl, rfl, rfl⟩⟩
    · simp [Value.cells] at hcs
      obtain ⟨rfl, rfl, rfl⟩ := hcs
      exact ⟨zs, .inr ⟨_, rfl, hl, hm, by simpa using hz, hcell, hwz⟩⟩
  obtain ⟨a1, len1, cap1, rfl⟩ := okWide_slice Tryd.underlying22 (hval 1 22 v1 rfl rfl)
  have k1 := h1
  have lt1 : ∀ x ∈ p1, x.block < W.heap.size := by obtain ⟨m, hm⟩ := k1; exact DataW.trod_lt m _ _ _ hm
  obtain ⟨z1, w1⟩ : ∃ zs, IsRow .u8 W a1 len1 cap1 zs := by
    obtain ⟨fuel, hf⟩ := h1
    rcases open_ints Tryd.underlying22 Tryd.underlying5 (by kernel_rfl) hf with ⟨hcs, _⟩ | ⟨x, l, c, zs, hcs, _, hl, hm, hz, _, hcell, hwz⟩
    · simp [Value.cells] at hcs
      obtain ⟨rfl, rfl, rfl⟩ := hcs
      exact ⟨[], .inl ⟨rfl, rfl, rfl, rfl⟩⟩
    · simp [Value.cells] at hcs
      obtain ⟨rfl, rfl, rfl⟩ := hcs
      exact ⟨zs, .inr ⟨_, rfl, hl, hm, by simpa using hz, hcell, hwz⟩⟩
  obtain ⟨a2, rfl, rfl, rfl, w2⟩ := open_int Tryd.underlying3 (hval 2 3 v2 rfl rfl) h2
  obtain ⟨a3, rfl, rfl, rfl, w3⟩ := open_int Tryd.underlying3 (hval 3 3 v3 rfl rfl) h3
  clear hA0
  refine (shaExpands_walk a2 a3 (tab hL) w0 w1).mono fun e W' ⟨he, bel⟩ => ?_
  subst he
  exact ⟨_, rfl, _, _, _, [], _, [], hW', trodAll_mk1 (shut_bool Tryd.underlying4 _), (trodAll_cons_mk (Below.trod laidOut (by kernel_rfl) (of_decide_eq_true (by kernel_rfl)) k0 bel lt0) (trodAll_cons_mk (Below.trod laidOut (by kernel_rfl) (of_decide_eq_true (by kernel_rfl)) k1 bel lt1) (trodAll_cons_mk (shut_int Tryd.underlying3 w2) (trodAll_cons_mk (shut_int Tryd.underlying3 w3) (trodAll_mk0))))), rfl, bel.frame _, fun h => by cases h⟩

theorem laid_met (os : Os) : laidMet Tryd.prog Rows.shaExpandsRow.laid ((laidWorld os).forCall (fun _ _ => 0) ⟨#[], #[.slice none 0 0, .slice none 0 0, .int .i64 0, .int .i64 0], []⟩).memory :=
  laidMet_of_run' 8 (by kernel_rfl) (by kernel_rfl)
theorem reads (os : Os) {H : Type} (enc : TypeId × Value → H) : ∃ places, DataW.whole enc Tryd.prog ((laidWorld os).forCall (fun _ _ => 0) ⟨#[], #[.slice none 0 0, .slice none 0 0, .int .i64 0, .int .i64 0], []⟩).memory Tryd.f6.params.toList Rows.shaExpandsSpec.vars false (#[.slice none 0 0, .slice none 0 0, .int .i64 0, .int .i64 0] : Array Value).toList 8 = some ([.nil, .nil, .lit (.int .i64 0), .lit (.int .i64 0)], [], places) :=
  ⟨[], by kernel_rfl⟩

set_option maxRecDepth 100000 in
theorem lifted (os : Os) (started : os.Started) (H : Type) (enc : TypeId × Value → H) (F : Stop.Interp) :
    ReturnsInHanded {} Tryd.checked os 6 .any ((OpenSpec.ofChange Rows.shaExpandsSpec).preRow enc Tryd.prog Tryd.f6 Rows.shaExpandsRow.domain false Rows.shaExpandsRow.laid) (((OpenSpec.ofChange Rows.shaExpandsSpec).at F).post enc Tryd.prog Tryd.f6 false true false false) := by
  obtain ⟨places, hx⟩ := reads os enc
  refine returnsInHanded_of_row (C := Tryd.checked) (s := OpenSpec.ofChange Rows.shaExpandsSpec) own started (by kernel_rfl) Tryd.func6
    (witness_row_at (enc := enc) (C := Tryd.checked) false (laidWorld os) #[.slice none 0 0, .slice none 0 0, .int .i64 0, .int .i64 0] rfl (by kernel_rfl) (by kernel_rfl) (by kernel_rfl)
      (OpenSpec.preRow_of_cond 8 hx (by kernel_rfl) (fun k hk => by cases hk) (by kernel_rfl) (laid_met os))) ?_
  intro W base args ds gs before hval hW _ _ _ hL _ _
  exact contract H enc W base args ds gs before hval hW hL

theorem said : Rows.ShaExpandsSaid :=
  OpenClaim.holds_of_cond 6 Tryd.f6 rfl rfl rfl rfl rfl rfl rfl ⟨rfl, rfl, rfl, rfl, rfl⟩ rfl rfl rfl rfl rfl (by kernel_rfl) Tryd.func6 (by kernel_rfl)
    (of_decide_eq_true (by kernel_rfl)) (by unfold Func.isWrapper; first | (rw [if_pos (by decide +kernel)]; kernel_rfl) | (rw [if_neg (by decide +kernel)]; exact ⟨rfl, rfl⟩))
    (fun os started H enc _ F => by rw [OpenClaim.pre_eq_preRow]; exact lifted os started H enc F)

theorem plain (f : FuncId) (fn : Func) (hf : Tryd.pinned.checked.prog.funcNamed "pawl/pawllaw02.ShaExpands" = some f) (hfn : Tryd.pinned.checked.prog.funcs[f]? = some fn) :
    false = Tryd.pinned.checked.prog.looks [] ∧ ∀ (j : Nat) t, fn.params[j]? = some t → Tryd.pinned.checked.prog.wantsStandIn t = false := by
  obtain rfl : f = 6 := Option.some.inj ((show Tryd.prog.funcNamed "pawl/pawllaw02.ShaExpands" = some 6 by kernel_rfl).symm.trans hf) |>.symm
  obtain rfl : fn = Tryd.f6 := (Option.some.inj (Tryd.func6.symm.trans hfn)).symm
  refine ⟨by kernel_rfl, fun j t ht => ?_⟩
  rw [Tryd.params6] at ht
  have hm := Array.mem_of_getElem? ht
  simp only [List.mem_toArray, List.mem_cons, List.not_mem_nil, or_false] at hm
  have s3 : Tryd.prog.wantsStandIn 3 = false := by kernel_rfl
  have s22 : Tryd.prog.wantsStandIn 22 = false := by kernel_rfl
  rcases hm with rfl | rfl | rfl | rfl
  all_goals assumption

/-- ████ THE CARD ████ -/
theorem card : Rows.ShaExpandsCardSaid :=
  Claim7.holds_tied_plain_at .later [] _ _ _ _ said (fun _ h => by cases h) (by kernel_rfl) (fun _ h => by cases h) shaExpands_row_tie rfl ⟨rfl, rfl⟩ (by kernel_rfl) rfl plain (by kernel_rfl)
end shaExpands

theorem shaExpands_proved : Rows.ShaExpandsCardSaid := shaExpands.card

end Go.Proofs.YtiodmmjjoodmoaaDoor
