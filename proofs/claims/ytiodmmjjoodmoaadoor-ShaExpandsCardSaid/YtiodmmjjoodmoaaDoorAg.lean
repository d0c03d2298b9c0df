/- Layer 2's reference: what is appended is any slice, nil too. -/
import Derived.Test.YtiodmmjjoodmoaaDoorAf
namespace Go.Proofs.YtiodmmjjoodmoaaDoor
open Go.RowKit

theorem grown_refl (w : World) (r : Option Nat) : w.grownBy w r := ⟨rfl, rfl, rfl, Nat.le_refl _, fun _ _ _ => rfl⟩

/-- Bytes, nil or not, appended to what is owned. -/
theorem append_slc {w : World} {ops : Array Oper} {rest : List Oper} {o : Oper} {a : Act} {Q : Exit → Act → World → Prop} (hgd : o.guard = none) (s x : Operand)
    (ho : o.op = .call { callee := .builtin .append, args := #[s, x], argTypes := #[22, 22] })
    (base : Nat) (v : Value) (n : Nat) (xs : List Int) (hs : a.eval s = v) (hown : w.ownsRow base 5 1 v n (xs.map (Value.int .u8)))
    (am : Option Addr) (m c : Nat) (M : List Int) (hx : a.eval x = .slice am m c) (hM : Slc w (.slice am m c) M) (hlen : n + M.length ≤ 100000000000000) (hbase : base ≤ w.heap.size)
    (h : ∀ v' w', w'.ownsRow base 5 1 v' (n + M.length) ((xs ++ M).map (Value.int .u8)) → w.grownBy w' v.ownBlock → (v'.ownBlock = v.ownBlock ∨ v'.ownBlock = some w.heap.size) → wpList Tryd.prog ops Q rest (a.put o.dst v') w') :
    wpList Tryd.prog ops Q (o :: rest) a w := by
  obtain ⟨i0, hi, hz0, hz1, hz2⟩ := info_parts info5
  obtain rfl := slc_len hM
  cases am with
  | none =>
    obtain rfl : M = [] := by
      obtain ⟨_, _, hv, _, _, hm⟩ := hM
      rcases hm with hm | ⟨_, _, hb, _⟩
      · exact hm
      · cases hv; cases hb
    have hx' : a.eval x = .slice none 0 c := hx
    refine wpList_plain hgd fun K hK => ?_
    have hrun := run_append_none_cap (P := Tryd.prog) (w := w) base 22 o.type 5 i0 1 Tryd.underlying22 hi v n c _ hown
    unfold Oper.wp
    simp [execOp, ho, resolve, invoke, builtin, hs, hx', hrun, Result.andThen]
    exact hK _ _ (h v w (by rw [List.append_nil, List.length_nil, Nat.add_zero]; exact hown) (grown_refl _ _) (Or.inl rfl))
  | some ad =>
    refine wpList_append_own_at w hgd s x 22 ho base 5 i0 (.int .u8 0) 1 1 Tryd.underlying22 hi hz0 hz1 hz2 rfl (by decide) v n (xs.map (Value.int .u8)) hs hown ad M.length c (M.map (Value.int .u8)) hx (by rw [List.length_map, Nat.mul_one]) (slc_src hM) ?_ (by unfold maxLen; omega) (by omega) hbase ?_
    · intro u hu
      simp only [List.mem_map] at hu
      obtain ⟨y, _, rfl⟩ := hu; rfl
    · intro v' w' h1 h2 _ h4
      exact h v' w' (by rw [List.map_append]; exact h1) h2 h4
end Go.Proofs.YtiodmmjjoodmoaaDoor
