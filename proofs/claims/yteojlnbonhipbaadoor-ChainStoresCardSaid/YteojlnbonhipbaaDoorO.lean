/- slices.Concat of one key and none: a row of its own with that key. -/
import Derived.Test.YteojlnbonhipbaaDoorN
namespace Go.Proofs.YteojlnbonhipbaaDoor
open Go.RowKit
theorem info24 : (Tryd.prog.info? 24).map (fun i => (i.zero, i.size, i.bytes)) = some (some (.slice none 0 0), 1, 24) := by kernel_rfl
/-- One place made behind none. -/
theorem run_grow1 (w : World) (ty : TypeId) : ∃ c cur, (Builtin.append_ #[30, 3] ty #[.slice none 0 0, .int .i64 1]).run Tryd.prog w = .ok (.slice (some ⟨w.heap.size, 0, none⟩) 1 c) (w.drew.alloc (.cells cur 24)) ∧ 1 ≤ c ∧ c ≤ maxLen ∧ cur.size = c := by
  obtain ⟨i0, hi, hz0, hz1, hz2⟩ := info_parts info24
  have hge := grownCap_ge w 1 0 24
  have hcm2 : grownCap w 1 0 24 ≤ maxLen := grownCap_le_maxLen w 1 0 24 (by unfold maxLen; omega)
  have hzc : (Value.slice none 0 0).cells = #[Value.slice none 0 0] := rfl
  refine ⟨grownCap w 1 0 24, #[] ++ Builtin.zeroCells #[Value.slice none 0 0] 1 ++ Builtin.zeroCells #[Value.slice none 0 0] (grownCap w 1 0 24 - 1), ?_, hge, hcm2, ?_⟩
  · have hwr : IntKind.i64.wrap 1 = 1 := by rw [IntKind.wrap_i64]; omega
    have h48' : ¬ (281474976710656 < Builtin.nextslicecap 1 0 * 24) := by
      have := growslice_fits (need := 1) (old := 0) (bytes := 24) (by omega) (by omega)
      omega
    simp [Builtin.append_, run_underlying Tryd.underlying30, run_underlying Tryd.underlying3, sizeOf, typeInfo, zeroValue, hi, hz0, hz1, hz2, asInt, asIntOf, hwr, hzc, h48', Question.forced, newRow, grownCap, Builtin.firstCells]
    intro h
    exact absurd h (by decide)
  · simp [size_zeroCells]
    omega
theorem wpList_grow1 {w : World} {ops : Array Oper} {rest : List Oper} {o : Oper} {a : Act} {Q : Exit → Act → World → Prop} (hgd : o.guard = none) (s x : Operand)
    (ho : o.op = .call { callee := .builtin .append, args := #[s, x], argTypes := #[30, 3] }) (hs : a.eval s = .slice none 0 0) (hx : a.eval x = .int .i64 1)
    (h : ∀ c cur, 1 ≤ c → c ≤ maxLen → cur.size = c → wpList Tryd.prog ops Q rest (a.put o.dst (.slice (some ⟨w.heap.size, 0, none⟩) 1 c)) (w.drew.alloc (.cells cur 24))) : wpList Tryd.prog ops Q (o :: rest) a w := by
  refine wpList_plain hgd fun K hK => ?_
  obtain ⟨c, cur, hr, h1, h2, h3⟩ := run_grow1 w o.type
  unfold Oper.wp execOp
  simp only [ho, resolve, invoke, builtin, Sem.run_bind, Sem.run_pure, Result.andThen_ok, List.map_toArray, List.map_cons, List.map_nil, hs, hx, hr]
  exact hK _ _ (h c cur h1 h2 h3)
set_option maxHeartbeats 2000000 in
/-- slices.Grow of no slice, for one more. -/
theorem grow_one (w : World) : Calls Tryd.prog 91 #[.slice none 0 0, .int .i64 1] w fun e w' => ∃ c, e = .returned (.slice (some ⟨w.heap.size, 0, none⟩) 0 c) ∧ w'.ownsRow w.heap.size 24 1 (.slice (some ⟨w.heap.size, 0, none⟩) 0 c) 0 [] ∧ Below w.heap.size w w' := by
  go_enter Tryd.func91, Tryd.ntmps91
  go_wp2_with (at_builtin; refine wpList_grow1 rfl _ _ rfl rfl rfl ?_; intro c cur h1 h2 h3; have h0 : ¬ (c : Int) < 0 := by omega)
  go_ret
  refine ⟨c, rfl, ⟨rfl, .inr ⟨w.heap.size, c, cur, rfl, Nat.le_refl _, heap_alloc_new w.drew _, Nat.zero_le _, h2, by omega, by simp⟩⟩, (Below.refl _ w).drew.alloc (Nat.le_refl _) _⟩
end Go.Proofs.YteojlnbonhipbaaDoor
