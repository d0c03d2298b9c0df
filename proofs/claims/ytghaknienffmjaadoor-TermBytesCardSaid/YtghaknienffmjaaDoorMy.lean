/- The statement TermBytes of layer 7, proved as its tied card: the bytes that stand for a place, and back; bytes that stand for none; for every input it returns true, and changes nothing that was there. No condition of its own: what the three tables and two errors of the library read as is tied to the program's text. -/
import Derived.Test.YtghaknienffmjaaDoorMu
import Derived.ChangeMaps5
import Derived.SizedLaws
namespace Go.Proofs.YtghaknienffmjaaDoor
open Go.ChangeShapes Go.WideShapes Go.ChangeAt Go.RowKit Go.ChangeMaps Go.Joins
set_option linter.unusedVariables false
set_option maxRecDepth 100000
theorem cells38 : Tryd.prog.cellsOf 38 = 32 := by kernel_rfl
/-- 32 bytes that came in. -/
theorem open_arr {H : Type} {enc : TypeId × Value → H} {W : World} {base b0 : Nat} {r : Reach} {sp : Nat → Bool} {held : Bool} {v : Value} {d : DataW H} {p : List MemPlace} (hv : Value.okWide Tryd.prog W r b0 38 v) (h : DataW.Trod enc Tryd.prog W base sp held 38 v d p) : ∃ l : List Int, v = .agg ((l.map (Value.int .u8)).toArray) ∧ l.length = 32 ∧ ∀ x ∈ l, 0 ≤ x ∧ x ≤ 255 := by
  unfold Value.okWide at hv
  rw [Tryd.underlying38] at hv
  obtain ⟨cs, rfl, hs, -⟩ := hv
  rw [cells38] at hs
  obtain ⟨fuel, hf⟩ := h
  obtain ⟨xs, m, -, -, -, hxl, hx⟩ := DataW.trod_array Tryd.underlying38 hf
  have hcs : (Value.agg cs).cells.toList = cs.toList := by simp [Value.cells]
  have hcell : ∀ i, (hi : i < cs.size) → ∃ n, cs[i] = .int .u8 n ∧ (Lit.int .u8 n).wf = true := by
    intro i hi
    have h1 := hx i (by omega)
    rw [cells5, Nat.mul_one, hcs] at h1
    have e : (cs.toList.drop i).take 1 = [cs[i]] := by
      rw [List.drop_eq_getElem_cons (by simpa using hi)]
      simp
    rw [e, List.getElem?_eq_getElem (by omega)] at h1
    obtain ⟨n, h2, -, h4⟩ := DataW.trod_int Tryd.underlying5 h1
    simp only [List.cons.injEq, and_true] at h2
    exact ⟨n, h2, h4⟩
  refine ⟨cs.toList.map (fun v => match v with | .int _ n => n | _ => 0), ?_, by simp [hs], ?_⟩
  · congr 1
    refine Array.ext (by simp) fun i h1 h2 => ?_
    obtain ⟨n, hn, _⟩ := hcell i h1
    simp [hn]
  · intro x hx
    rw [List.mem_map] at hx
    obtain ⟨v, hv, rfl⟩ := hx
    obtain ⟨i, hi, rfl⟩ := List.mem_iff_getElem.1 hv
    obtain ⟨n, hn, hw⟩ := hcell i (by simpa using hi)
    have h2 : IntKind.u8.max = 255 := rfl
    have h1 : IntKind.u8.min = 0 := rfl
    simp only [Lit.wf, Bool.and_eq_true, decide_eq_true_eq] at hw
    simp only [Array.getElem_toList, hn]
    omega
/-- Bytes that came in. -/
theorem inp_open {H : Type} {enc : TypeId × Value → H} {W : World} {r : Reach} {b0 base : Nat} {spare : Nat → Bool} {held : Bool} {v : Value} {d : DataW H} {p : List MemPlace}
    (hv : Value.okWide Tryd.prog W r b0 37 v) (h : DataW.Trod enc Tryd.prog W base spare held 37 v d p) : ∃ ao c P, v = .slice ao (P : List Int).length c ∧ P.length ≤ c ∧ Byt W ao P ∧ ∀ x ∈ P, 0 ≤ x ∧ x ≤ 255 := by
  obtain ⟨a, l, c, rfl⟩ := okWide_slice Tryd.underlying37 hv
  obtain ⟨fuel, hf⟩ := h
  rcases open_ints Tryd.underlying37 Tryd.underlying5 cells5 hf with ⟨hcs, _⟩ | ⟨x, l', c', zs, hcs, _, hl2, hm2, hz, _, hcell, hwz⟩
  · simp [Value.cells] at hcs
    obtain ⟨rfl, rfl, rfl⟩ := hcs
    exact ⟨none, 0, [], rfl, Nat.le_refl _, ⟨.inl rfl⟩, fun x hx => absurd hx (List.not_mem_nil)⟩
  · simp [Value.cells] at hcs
    obtain ⟨rfl, rfl, rfl⟩ := hcs
    have hz2 : l ≤ zs.length := by rw [hz]; split <;> omega
    have e : (zs.take l).length = l := by rw [List.length_take, Nat.min_eq_left hz2]
    refine ⟨some x, c, zs.take l, by rw [e], by rw [e]; exact hl2, byt_of hl2 hz2 hcell, fun y hy => ?_⟩
    have h3 := hwz y (List.mem_of_mem_take hy)
    have h2 : IntKind.u8.max = 255 := rfl
    have h1 : IntKind.u8.min = 0 := rfl
    simp only [Lit.wf, Bool.and_eq_true, decide_eq_true_eq] at h3
    omega

namespace termBytes
/-- What the walks give, for every argument and every world. -/
theorem contract (H : Type) (enc : TypeId × Value → H) (W : World) (base : Nat) (args : Array Value) (ds gs : List (DataW H)) (before : List MemPlace)
    (hval : ∀ (j : Nat) t v, Tryd.f4.params[j]? = some t → args[j]? = some v → Value.okWide Tryd.prog W .any base t v)
    (hW : DataW.Whole enc Tryd.prog Tryd.f4.params.toList Rows.termBytesSpec.vars false W args.toList ds gs before) (hsz0 : (DataW.weightsEach Tryd.prog (Tryd.f4.params.toList ++ Rows.termBytesSpec.plain.varTypes Tryd.prog) (ds ++ gs)).all (· ≤ reachBytes) = true) (hG : Gv W) :
    Calls Tryd.prog 4 args W fun e W' => ∃ v, e = .returned v ∧ Rows.termBytesSpec.post enc Tryd.prog Tryd.f4 false true false false W args v W' := by
  have hW' := hW
  obtain ⟨p, q, hA0, hV, rfl, hfz, hnd⟩ := hW
  have hA : DataW.TrodAll enc Tryd.prog W 0 (fun _ => true) true Tryd.f4.params.toList args.toList ds p := hA0
  have hsz := hsz0
  clear hsz0
  rw [Tryd.params4] at hA hval hsz
  obtain ⟨v0, vs0, d0, ds0, p0, q0, hargs, rfl, rfl, h0, r0⟩ := trodAll_cons hA
  obtain ⟨v1, vs1, d1, ds1, p1, q1, rfl, rfl, rfl, h1, r1⟩ := trodAll_cons r0
  obtain ⟨v2, vs2, d2, ds2, p2, q2, rfl, rfl, rfl, h2, r2⟩ := trodAll_cons r1
  obtain ⟨v3, vs3, d3, ds3, p3, q3, rfl, rfl, rfl, h3, r3⟩ := trodAll_cons r2
  obtain ⟨rfl, rfl, rfl⟩ := trodAll_nil r3
  obtain rfl : args = #[v0, v1, v2, v3] := by cases args; simp_all
  obtain ⟨rfl, rfl⟩ := trodVars_none hV
  have k0 := h0
  have lt0 : ∀ x ∈ p0, x.block < W.heap.size := by obtain ⟨m, hm⟩ := k0; exact DataW.trod_lt m _ _ _ hm
  have k1 := h1
  have lt1 : ∀ x ∈ p1, x.block < W.heap.size := by obtain ⟨m, hm⟩ := k1; exact DataW.trod_lt m _ _ _ hm
  have k2 := h2
  have lt2 : ∀ x ∈ p2, x.block < W.heap.size := by obtain ⟨m, hm⟩ := k2; exact DataW.trod_lt m _ _ _ hm
  have k3 := h3
  have lt3 : ∀ x ∈ p3, x.block < W.heap.size := by obtain ⟨m, hm⟩ := k3; exact DataW.trod_lt m _ _ _ hm
  obtain ⟨n, rfl, -, -, wn⟩ := open_int Tryd.underlying5 (hval 0 5 v0 rfl rfl) h0
  obtain ⟨i, rfl, -, -, wi⟩ := open_int Tryd.underlying3 (hval 1 3 v1 rfl rfl) h1
  obtain ⟨po, pc, P, rfl, hpc, hp, hpb⟩ := inp_open (hval 2 37 v2 rfl rfl) h2
  obtain ⟨Q, rfl, hQ, hQb⟩ := open_arr (hval 3 38 v3 rfl rfl) h3
  clear hA0
  simp only [Lit.wf, Bool.and_eq_true, decide_eq_true_eq] at wn wi
  have e1 : IntKind.u8.min = 0 := rfl
  have e2 : IntKind.u8.max = 255 := rfl
  have e3 : IntKind.i64.min = -9223372036854775808 := rfl
  have e4 : IntKind.i64.max = 9223372036854775807 := rfl
  rw [e1, e2] at wn
  rw [e3, e4] at wi
  refine (tbytes_walk W hG n i wn wi po pc P hpc hp hpb Q hQ hQb).mono fun e W' ⟨he, bel⟩ => ?_
  subst he
  exact ⟨_, rfl, _, _, _, [], _, [], hW', trodAll_mk1 (shut_bool Tryd.underlying4 _), (trodAll_cons_mk (Below.trod laidOut (by kernel_rfl) (of_decide_eq_true (by kernel_rfl)) k0 bel lt0) (trodAll_cons_mk (Below.trod laidOut (by kernel_rfl) (of_decide_eq_true (by kernel_rfl)) k1 bel lt1) (trodAll_cons_mk (Below.trod laidOut (by kernel_rfl) (of_decide_eq_true (by kernel_rfl)) k2 bel lt2) (trodAll_cons_mk (Below.trod laidOut (by kernel_rfl) (of_decide_eq_true (by kernel_rfl)) k3 bel lt3) (trodAll_mk0))))), rfl, bel.frame _, fun h => by cases h⟩

/-- One input. -/
def one : Array Value := #[.int .u8 0, .int .i64 0, .slice none 0 0, .agg #[.int .u8 0, .int .u8 0, .int .u8 0, .int .u8 0, .int .u8 0, .int .u8 0, .int .u8 0, .int .u8 0, .int .u8 0, .int .u8 0, .int .u8 0, .int .u8 0, .int .u8 0, .int .u8 0, .int .u8 0, .int .u8 0, .int .u8 0, .int .u8 0, .int .u8 0, .int .u8 0, .int .u8 0, .int .u8 0, .int .u8 0, .int .u8 0, .int .u8 0, .int .u8 0, .int .u8 0, .int .u8 0, .int .u8 0, .int .u8 0, .int .u8 0, .int .u8 0]]
theorem laid_met (os : Os) : laidMet Tryd.prog Rows.termBytesRow.laid ((laidWorld os).forCall (fun _ _ => 0) ⟨#[], one, []⟩).memory :=
  laidMet_of_run' 8 (by kernel_rfl) (by kernel_rfl)
theorem reads (os : Os) {H : Type} (enc : TypeId × Value → H) : ∃ places, DataW.whole enc Tryd.prog ((laidWorld os).forCall (fun _ _ => 0) ⟨#[], one, []⟩).memory Tryd.f4.params.toList Rows.termBytesSpec.vars false one.toList 8 = some ([.lit (.int .u8 0), .lit (.int .i64 0), .nil, .agg [.lit (.int .u8 0), .lit (.int .u8 0), .lit (.int .u8 0), .lit (.int .u8 0), .lit (.int .u8 0), .lit (.int .u8 0), .lit (.int .u8 0), .lit (.int .u8 0), .lit (.int .u8 0), .lit (.int .u8 0), .lit (.int .u8 0), .lit (.int .u8 0), .lit (.int .u8 0), .lit (.int .u8 0), .lit (.int .u8 0), .lit (.int .u8 0), .lit (.int .u8 0), .lit (.int .u8 0), .lit (.int .u8 0), .lit (.int .u8 0), .lit (.int .u8 0), .lit (.int .u8 0), .lit (.int .u8 0), .lit (.int .u8 0), .lit (.int .u8 0), .lit (.int .u8 0), .lit (.int .u8 0), .lit (.int .u8 0), .lit (.int .u8 0), .lit (.int .u8 0), .lit (.int .u8 0), .lit (.int .u8 0)]], [], places) :=
  ⟨[], by kernel_rfl⟩

theorem lifted (os : Os) (started : os.Started) (H : Type) (enc : TypeId × Value → H) (F : Stop.Interp) :
    ReturnsInHanded {} Tryd.checked os 4 .any ((OpenSpec.ofChange Rows.termBytesSpec).preRow enc Tryd.prog Tryd.f4 Rows.termBytesRow.domain false Rows.termBytesRow.laid) (((OpenSpec.ofChange Rows.termBytesSpec).at F).post enc Tryd.prog Tryd.f4 false true false false) := by
  obtain ⟨places, hx⟩ := reads os enc
  refine returnsInHanded_of_row (C := Tryd.checked) (s := OpenSpec.ofChange Rows.termBytesSpec) own started (by kernel_rfl) Tryd.func4
    (witness_row_at (enc := enc) (C := Tryd.checked) false (laidWorld os) one rfl (by kernel_rfl) (by kernel_rfl) (by kernel_rfl)
      (OpenSpec.preRow_of_cond 8 hx (by kernel_rfl) (fun k hk => by cases hk) (by kernel_rfl) (laid_met os))) ?_
  intro W base args ds gs before hval hW _ _ hsz hL hS _
  exact contract H enc W base args ds gs before hval hW hsz (gv_of hS hL)

theorem said : Rows.TermBytesSaid :=
  OpenClaim.holds_of_cond 4 Tryd.f4 rfl rfl rfl rfl rfl rfl rfl ⟨rfl, rfl, rfl, rfl, rfl⟩ rfl rfl rfl rfl rfl (by kernel_rfl) Tryd.func4 (by kernel_rfl)
    (of_decide_eq_true (by kernel_rfl)) (by unfold Func.isWrapper; first | (rw [if_pos (by decide +kernel)]; kernel_rfl) | (rw [if_neg (by decide +kernel)]; exact ⟨rfl, rfl⟩))
    (fun os started H enc _ F => by rw [OpenClaim.pre_eq_preRow]; exact lifted os started H enc F)

theorem plain (f : FuncId) (fn : Func) (hf : Tryd.pinned.checked.prog.funcNamed "pawl/pawllaw07.TermBytes" = some f) (hfn : Tryd.pinned.checked.prog.funcs[f]? = some fn) :
    true = Tryd.pinned.checked.prog.looks [] ∧ ∀ (j : Nat) t, fn.params[j]? = some t → Tryd.pinned.checked.prog.wantsStandIn t = false := by
  obtain rfl : f = 4 := Option.some.inj ((show Tryd.prog.funcNamed "pawl/pawllaw07.TermBytes" = some 4 by kernel_rfl).symm.trans hf) |>.symm
  obtain rfl : fn = Tryd.f4 := (Option.some.inj (Tryd.func4.symm.trans hfn)).symm
  refine ⟨by kernel_rfl, fun j t ht => ?_⟩
  rw [Tryd.params4] at ht
  have hm := Array.mem_of_getElem? ht
  simp only [List.mem_toArray, List.mem_cons, List.not_mem_nil, or_false] at hm
  have s5 : Tryd.prog.wantsStandIn 5 = false := by kernel_rfl
  have s3 : Tryd.prog.wantsStandIn 3 = false := by kernel_rfl
  have s37 : Tryd.prog.wantsStandIn 37 = false := by kernel_rfl
  have s38 : Tryd.prog.wantsStandIn 38 = false := by kernel_rfl
  rcases hm with rfl | rfl | rfl | rfl
  all_goals assumption

/-- ████ THE CARD ████ -/
theorem card : Rows.TermBytesCardSaid :=
  Claim7.holds_tied_plain_at .later [] _ _ _ _ said (fun _ h => by cases h) (by kernel_rfl) (fun _ h => by cases h) termBytes_row_tie rfl ⟨rfl, rfl⟩ (by kernel_rfl) rfl plain (by kernel_rfl)
end termBytes

theorem termBytes_proved : Rows.TermBytesCardSaid := termBytes.card

end Go.Proofs.YtghaknienffmjaaDoor
