/- slices.Concat of one key and none: a row of its own with that key. -/
import Derived.Test.YteojlnbonhipbaaDoorO
namespace Go.Proofs.YteojlnbonhipbaaDoor
open Go.RowKit
theorem wpList_append_none {w : World} {ops : Array Oper} {rest : List Oper} {o : Oper} {a : Act} {Q : Exit → Act → World → Prop} (hgd : o.guard = none) (s x : Operand)
    (ho : o.op = .call { callee := .builtin .append, args := #[s, x], argTypes := #[30, 30] }) (g n c : Nat) (hs : a.eval s = .slice (some ⟨g, 0, none⟩) n c) (hx : a.eval x = .slice none 0 0) (hnc : n ≤ c)
    (h : wpList Tryd.prog ops Q rest (a.put o.dst (.slice (some ⟨g, 0, none⟩) n c)) w) : wpList Tryd.prog ops Q (o :: rest) a w := by
  obtain ⟨i0, hi, hz0, hz1, hz2⟩ := info_parts info24
  refine wpList_plain hgd fun K hK => ?_
  have hr : (Builtin.append_ #[30, 30] o.type #[.slice (some ⟨g, 0, none⟩) n c, .slice none 0 0]).run Tryd.prog w = .ok (.slice (some ⟨g, 0, none⟩) n c) w := by
    simp [Builtin.append_, run_underlying Tryd.underlying30, sizeOf, typeInfo, hi, Builtin.lenOf, Builtin.firstCells, hnc, storeCells]
  unfold Oper.wp execOp
  simp only [ho, resolve, invoke, builtin, Sem.run_bind, Sem.run_pure, Result.andThen_ok, List.map_toArray, List.map_cons, List.map_nil, hs, hx, hr]
  exact hK _ _ h
set_option maxHeartbeats 4000000 in
theorem concat_one (w : World) (cb kb : Nat) (ko : Option Addr) (kn kc : Nat) (hc0 : w.cell? ⟨cb, 0, none⟩ = some (.slice (some ⟨kb, 0, none⟩) 1 1)) (hc1 : w.cell? ⟨cb, 1, none⟩ = some (.slice none 0 0)) (hk : w.cell? ⟨kb, 0, none⟩ = some (.slice ko kn kc)) (hcl : cb < w.heap.size) (hkl : kb < w.heap.size) :
    Calls Tryd.prog 88 #[.slice (some ⟨cb, 0, none⟩) 2 2] w fun e w' => ∃ v, e = .returned v ∧ w'.ownsRow w.heap.size 24 1 v 1 [.slice ko kn kc] ∧ Below w.heap.size w w' := by
  obtain ⟨i0, hi, hz0, hz1, hz2⟩ := info_parts info24
  go_enter Tryd.func88, Tryd.ntmps88
  go_wp2
  refine wp_loop_rounds 3 ?_
  rw [rounds_succ]
  go_wp2
  rw [rounds_succ]
  go_wp2
  rw [rounds_succ]
  go_wp2_with (go_at_call 91; refine (grow_one w).mono ?_; rintro e w1 ⟨c, rfl, hown1, hb1⟩; refine Hid.out ?_)
  refine Lib.hid ?_
  have d0 := (hb1.cell (p := ⟨cb, 0, none⟩) hcl).trans hc0
  have d1 := (hb1.cell (p := ⟨cb, 1, none⟩) hcl).trans hc1
  have dk := (hb1.cell (p := ⟨kb, 0, none⟩) hkl).trans hk
  clear hc0 hc1 hk
  go_wp2
  refine wp_loop_rounds 3 ?_
  rw [rounds_succ]
  go_wp2_with (at_builtin; refine wpList_append_own _ rfl _ _ 30 rfl w.heap.size 24 i0 (.slice none 0 0) 1 24 Tryd.underlying30 hi hz0 hz1 hz2 rfl (by decide) _ _ _ rfl hown1 ⟨kb, 0, none⟩ 1 1 [.slice ko kn kc] rfl rfl (fun j u hu => by
      match j, hu with
      | 0, hu => simp at hu; subst hu; exact dk
      | j + 1, hu => simp at hu) (fun x hx => by simp at hx; subst hx; rfl) (by unfold maxLen; omega) (by omega) hb1.size ?_; intro v2 w2 hown2 hgrow2 hnil2; refine Hid.out ?_)
  refine Lib.hid ?_
  have hb2 : Below w.heap.size w w2 := Below.grown hb1 hgrow2 hb1.size (fun j hj => (hown1.lt j hj).1)
  have e0 := (hb2.cell (p := ⟨cb, 0, none⟩) hcl).trans ((hb1.cell (p := ⟨cb, 0, none⟩) hcl).symm.trans d0)
  have e1 := (hb2.cell (p := ⟨cb, 1, none⟩) hcl).trans ((hb1.cell (p := ⟨cb, 1, none⟩) hcl).symm.trans d1)
  change w2.ownsRow w.heap.size 24 1 v2 1 [.slice ko kn kc] at hown2
  obtain ⟨g, c2, rfl, hc12⟩ : ∃ g c2, v2 = .slice (some ⟨g, 0, none⟩) 1 c2 ∧ 1 ≤ c2 := by
    rcases hown2.2 with ⟨-, h0⟩ | ⟨g, c2, cur, rfl, -, -, h1, -⟩
    · cases h0
    · exact ⟨g, c2, rfl, h1⟩
  clear d0 d1 dk hgrow2 hnil2 hown1 hb1
  go_wp2
  rw [rounds_succ]
  go_wp2_with (at_builtin; refine wpList_append_none rfl _ _ rfl g 1 c2 rfl rfl hc12 ?_)
  rw [rounds_succ]
  go_wp2
  go_ret
  exact ⟨_, rfl, hown2, hb2⟩
end Go.Proofs.YteojlnbonhipbaaDoor
