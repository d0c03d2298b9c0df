/- The statement TermPuts of layer 7, proved as its tied card: any terms, put one after the other, are there once each, by their place; for every input it returns true, and changes nothing that was there. No condition of its own: what the three tables and two errors of the library read as is tied to the program's text. -/
import Derived.Test.YtghaknienffmjaaDoorMq
import Derived.ChangeMaps5
import Derived.SizedLaws
namespace Go.Proofs.YtghaknienffmjaaDoor
open Go.ChangeShapes Go.WideShapes Go.ChangeAt Go.RowKit Go.ChangeMaps Go.Joins
set_option linter.unusedVariables false
set_option maxRecDepth 100000
/-- A term that came in, whole. -/
theorem term_full {H : Type} {enc : TypeId × Value → H} {w : World} {r : Reach} {b0 base : Nat} {spare : Nat → Bool} {held : Bool} {v : Value} {d : DataW H} {p : List MemPlace}
    (hv : Value.okWide Tryd.prog w r b0 25 v) (h : DataW.Trod enc Tryd.prog w base spare held 25 v d p) : ∃ x : En, v = agV x ∧ x.1.Ok ∧ Nums w x.2.1 x.1.of := by
  obtain ⟨k, n, ao, len, cap, s, rfl⟩ := term_open hv h
  obtain ⟨fuel, hf⟩ := h
  obtain ⟨k', n', ao', of, cap', s', hcs, k0, k1, hn, hof, hN⟩ := cells_term (cs := [k, .slice ao len cap, .string s, n]) rfl hf
  simp only [List.cons.injEq, and_true, Value.slice.injEq, Value.string.injEq] at hcs
  obtain ⟨rfl, ⟨rfl, rfl, rfl⟩, rfl, rfl⟩ := hcs
  exact ⟨(⟨k', of, s.data.toList, n'⟩, ao, cap), rfl, ⟨k0, k1, hn, hof⟩, hN⟩

namespace termPuts
/-- What the walks give, for every argument and every world. -/
theorem contract (H : Type) (enc : TypeId × Value → H) (W : World) (base : Nat) (args : Array Value) (ds gs : List (DataW H)) (before : List MemPlace)
    (hval : ∀ (j : Nat) t v, Tryd.f3.params[j]? = some t → args[j]? = some v → Value.okWide Tryd.prog W .any base t v)
    (hW : DataW.Whole enc Tryd.prog Tryd.f3.params.toList Rows.termPutsSpec.vars false W args.toList ds gs before) (hsz0 : (DataW.weightsEach Tryd.prog (Tryd.f3.params.toList ++ Rows.termPutsSpec.plain.varTypes Tryd.prog) (ds ++ gs)).all (· ≤ reachBytes) = true) (hG : Gv W) :
    Calls Tryd.prog 3 args W fun e W' => ∃ v, e = .returned v ∧ Rows.termPutsSpec.post enc Tryd.prog Tryd.f3 false true false false W args v W' := by
  have hW' := hW
  obtain ⟨p, q, hA0, hV, rfl, hfz, hnd⟩ := hW
  have hA : DataW.TrodAll enc Tryd.prog W 0 (fun _ => true) true Tryd.f3.params.toList args.toList ds p := hA0
  have hsz := hsz0
  clear hsz0
  rw [Tryd.params3] at hA hval hsz
  obtain ⟨v0, vs0, d0, ds0, p0, q0, hargs, rfl, rfl, h0, r0⟩ := trodAll_cons hA
  obtain ⟨v1, vs1, d1, ds1, p1, q1, rfl, rfl, rfl, h1, r1⟩ := trodAll_cons r0
  obtain ⟨rfl, rfl, rfl⟩ := trodAll_nil r1
  obtain rfl : args = #[v0, v1] := by cases args; simp_all
  obtain ⟨rfl, rfl⟩ := trodVars_none hV
  have k0 := h0
  have lt0 : ∀ x ∈ p0, x.block < W.heap.size := by obtain ⟨m, hm⟩ := k0; exact DataW.trod_lt m _ _ _ hm
  have k1 := h1
  have lt1 : ∀ x ∈ p1, x.block < W.heap.size := by obtain ⟨m, hm⟩ := k1; exact DataW.trod_lt m _ _ _ hm
  obtain ⟨la, cap, Ts, rfl, hR⟩ := terms_open h0 (okWide_slice Tryd.underlying22 (hval 0 22 v0 rfl rfl))
  obtain ⟨x, rfl, hx, hNx⟩ := term_full (hval 1 25 v1 rfl rfl) h1
  clear hA0
  refine (puts_walk W hG la cap Ts hR x hx hNx).mono fun e W' ⟨he, bel⟩ => ?_
  subst he
  exact ⟨_, rfl, _, _, _, [], _, [], hW', trodAll_mk1 (shut_bool Tryd.underlying4 _), (trodAll_cons_mk (Below.trod laidOut (by kernel_rfl) (of_decide_eq_true (by kernel_rfl)) k0 bel lt0) (trodAll_cons_mk (Below.trod laidOut (by kernel_rfl) (of_decide_eq_true (by kernel_rfl)) k1 bel lt1) (trodAll_mk0))), rfl, bel.frame _, fun h => by cases h⟩

/-- One input. -/
def one : Array Value := #[.slice none 0 0, .agg #[.int .u8 0, .slice none 0 0, .string ⟨#[]⟩, .int .i64 0]]
theorem laid_met (os : Os) : laidMet Tryd.prog Rows.termPutsRow.laid ((laidWorld os).forCall (fun _ _ => 0) ⟨#[], one, []⟩).memory :=
  laidMet_of_run' 8 (by kernel_rfl) (by kernel_rfl)
theorem reads (os : Os) {H : Type} (enc : TypeId × Value → H) : ∃ places, DataW.whole enc Tryd.prog ((laidWorld os).forCall (fun _ _ => 0) ⟨#[], one, []⟩).memory Tryd.f3.params.toList Rows.termPutsSpec.vars false one.toList 8 = some ([.nil, .agg [.lit (.int .u8 0), .nil, .lit (.string []), .lit (.int .i64 0)]], [], places) :=
  ⟨[], by kernel_rfl⟩

theorem lifted (os : Os) (started : os.Started) (H : Type) (enc : TypeId × Value → H) (F : Stop.Interp) :
    ReturnsInHanded {} Tryd.checked os 3 .any ((OpenSpec.ofChange Rows.termPutsSpec).preRow enc Tryd.prog Tryd.f3 Rows.termPutsRow.domain false Rows.termPutsRow.laid) (((OpenSpec.ofChange Rows.termPutsSpec).at F).post enc Tryd.prog Tryd.f3 false true false false) := by
  obtain ⟨places, hx⟩ := reads os enc
  refine returnsInHanded_of_row (C := Tryd.checked) (s := OpenSpec.ofChange Rows.termPutsSpec) own started (by kernel_rfl) Tryd.func3
    (witness_row_at (enc := enc) (C := Tryd.checked) false (laidWorld os) one rfl (by kernel_rfl) (by kernel_rfl) (by kernel_rfl)
      (OpenSpec.preRow_of_cond 8 hx (by kernel_rfl) (fun k hk => by cases hk) (by kernel_rfl) (laid_met os))) ?_
  intro W base args ds gs before hval hW _ _ hsz hL hS _
  exact contract H enc W base args ds gs before hval hW hsz (gv_of hS hL)

theorem said : Rows.TermPutsSaid :=
  OpenClaim.holds_of_cond 3 Tryd.f3 rfl rfl rfl rfl rfl rfl rfl ⟨rfl, rfl, rfl, rfl, rfl⟩ rfl rfl rfl rfl rfl (by kernel_rfl) Tryd.func3 (by kernel_rfl)
    (of_decide_eq_true (by kernel_rfl)) (by unfold Func.isWrapper; first | (rw [if_pos (by decide +kernel)]; kernel_rfl) | (rw [if_neg (by decide +kernel)]; exact ⟨rfl, rfl⟩))
    (fun os started H enc _ F => by rw [OpenClaim.pre_eq_preRow]; exact lifted os started H enc F)

theorem plain (f : FuncId) (fn : Func) (hf : Tryd.pinned.checked.prog.funcNamed "pawl/pawllaw07.TermPuts" = some f) (hfn : Tryd.pinned.checked.prog.funcs[f]? = some fn) :
    true = Tryd.pinned.checked.prog.looks [] ∧ ∀ (j : Nat) t, fn.params[j]? = some t → Tryd.pinned.checked.prog.wantsStandIn t = false := by
  obtain rfl : f = 3 := Option.some.inj ((show Tryd.prog.funcNamed "pawl/pawllaw07.TermPuts" = some 3 by kernel_rfl).symm.trans hf) |>.symm
  obtain rfl : fn = Tryd.f3 := (Option.some.inj (Tryd.func3.symm.trans hfn)).symm
  refine ⟨by kernel_rfl, fun j t ht => ?_⟩
  rw [Tryd.params3] at ht
  have hm := Array.mem_of_getElem? ht
  simp only [List.mem_toArray, List.mem_cons, List.not_mem_nil, or_false] at hm
  have s22 : Tryd.prog.wantsStandIn 22 = false := by kernel_rfl
  have s25 : Tryd.prog.wantsStandIn 25 = false := by kernel_rfl
  rcases hm with rfl | rfl
  all_goals assumption

/-- ████ THE CARD ████ -/
theorem card : Rows.TermPutsCardSaid :=
  Claim7.holds_tied_plain_at .later [] _ _ _ _ said (fun _ h => by cases h) (by kernel_rfl) (fun _ h => by cases h) termPuts_row_tie rfl ⟨rfl, rfl⟩ (by kernel_rfl) rfl plain (by kernel_rfl)
end termPuts

theorem termPuts_proved : Rows.TermPutsCardSaid := termPuts.card

end Go.Proofs.YtghaknienffmjaaDoor
