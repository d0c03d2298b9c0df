/- The law ChainStores: what its calls do to its list and its store. -/
import Derived.Test.YteojlnbonhipbaaDoorLe
namespace Go.Proofs.YteojlnbonhipbaaDoor
open Go.RowKit Go.Maps
variable {w V V' : World} {sb xb fa ka n : Nat} {X Y : List UInt8} {vs vm : Value} {Es M : List Se}
theorem Mid2.okx (h : Mid2 w V sb xb fa ka n X Y vs Es vm M) : ∃ o : UInt8, X = [o] ∧ o.toNat < 3 ∧ Y.length = 2 := by
  obtain ⟨-, h2, o, h3, h4⟩ := h.xl
  exact ⟨o, h3, h4, h2⟩
theorem Mid2.drop_c (h : Mid2 w V sb xb fa ka n X Y vs Es vm M) : Calls Tryd.prog 14 #[.pointer (some ⟨sb, 0, none⟩), .slice (some ⟨fa, 0, none⟩) 1 1, .int .u32 n] V fun e V' => e = .returned (.bool (decide (0 ≤ idxS (Es.map (·.1)) X n))) ∧ ∃ vs' E', E'.map (·.1) = ridS (Es.map (·.1)) X n ∧ Mid2 w V' sb xb fa ka n X Y vs' E' vm M := by
  have hc := drop_any V w.heap.size sb vs Es X (some ⟨fa, 0, none⟩) 1 n h.sto h.bx.1.byt (by have := h.len; omega) h.bel.size
  rw [h.xl.1] at hc
  refine hc.mono ?_
  rintro e V' ⟨rfl, hs⟩
  have hm := rid_map Es X n
  obtain ⟨vs', h2⟩ := h.op hs (by rw [hm]; exact h.ok.sub (ridS_sub _ _ _)) (Nat.le_trans (rid_len _ _ _) h.len)
  exact ⟨by rw [idx_map], vs', _, hm, h2⟩
theorem Mid2.put_c (h : Mid2 w V sb xb fa ka n X Y vs Es vm M) : Calls Tryd.prog 15 #[.pointer (some ⟨sb, 0, none⟩), .agg #[.slice (some ⟨fa, 0, none⟩) 1 1, .int .u32 n, .slice (some ⟨ka, 0, none⟩) 2 2]] V fun e V' => e = .returned (.tuple #[]) ∧ ∃ vs' E', E'.map (·.1) = putS (Es.map (·.1)) ⟨X, n, Y⟩ ∧ Mid2 w V' sb xb fa ka n X Y vs' E' vm M := by
  have hc := put_any' V w.heap.size sb vs Es ⟨X, n, Y⟩ ⟨some ⟨fa, 0, none⟩, 1, some ⟨ka, 0, none⟩, 2⟩ h.sto h.bx.1 h.bx.2 (by have := h.xl.1; show X.length ≤ _; omega) (by have := h.xl.2.1; show Y.length ≤ _; omega) (by have := h.len; omega) h.bel.size
  dsimp only at hc
  rw [h.xl.1, h.xl.2.1] at hc
  refine hc.mono ?_
  rintro e V' ⟨rfl, t, hs⟩
  have hm := put_map Es ⟨X, n, Y⟩ t
  have hl : (putE Es ⟨X, n, Y⟩ t).length ≤ 32 := by
    have := putS_len (Es.map (·.1)) ⟨X, n, Y⟩ (by rw [List.length_map]; exact h.len)
    rw [← hm, List.length_map] at this
    exact this
  obtain ⟨vs', h2⟩ := h.op hs (by rw [hm]; exact h.ok.put _ h.okx) hl
  exact ⟨rfl, vs', _, hm, h2⟩
theorem Mid2.same_c (h : Mid2 w V sb xb fa ka n X Y vs Es vm M) (hm : Es.map (·.1) = M.map (·.1)) : Calls Tryd.prog 16 #[.pointer (some ⟨sb, 0, none⟩), vm] V fun e V' => e = .returned (.bool true) ∧ Below V.heap.size V V' := by
  refine same_any V w.heap.size sb vs vm Es M h.sto h.lst hm (by have := h.len; omega) (fun e he => ?_)
  obtain ⟨o, h1, -, h3⟩ := h.ok.each e.1 (List.mem_map_of_mem he)
  rw [h1, h3]
  exact ⟨by simp, by decide⟩
theorem Mid2.push_c (h : Mid2 w V sb xb fa ka n X Y vs Es vm M) (hl : M.length ≤ 1000) : ∃ g off c w8, (Builtin.append_ #[36, 36] 36 #[vm, .slice (some ⟨V.heap.size, 0, none⟩) 1 1]).run Tryd.prog (V.alloc (.cells #[.slice (some ⟨fa, 0, none⟩) 1 1, .int .u32 n, .slice (some ⟨ka, 0, none⟩) 2 2] 47)) = .ok (.slice (some ⟨g, off, none⟩) (M.length + 1) c) w8 ∧
    M.length + 1 ≤ c ∧ Mid2 w w8 sb xb fa ka n X Y vs Es (.slice (some ⟨g, off, none⟩) (M.length + 1) c) (M ++ [(⟨X, n, Y⟩, ⟨some ⟨fa, 0, none⟩, 1, some ⟨ka, 0, none⟩, 2⟩)]) := by
  have hb := Joins.below_alloc1 V (.cells #[.slice (some ⟨fa, 0, none⟩) 1 1, .int .u32 n, .slice (some ⟨ka, 0, none⟩) 2 2] 47)
  have h1 := h.on hb
  have hn := cell_three_new V (.slice (some ⟨fa, 0, none⟩) 1 1) (.int .u32 n) (.slice (some ⟨ka, 0, none⟩) 2 2) 47
  have hsk : skV (⟨X, n, Y⟩, ⟨some ⟨fa, 0, none⟩, 1, some ⟨ka, 0, none⟩, 2⟩) = [.slice (some ⟨fa, 0, none⟩) 1 1, .int .u32 n, .slice (some ⟨ka, 0, none⟩) 2 2] := by
    show [Value.slice _ X.length _, _, Value.slice _ Y.length _] = _
    rw [h.xl.1, h.xl.2.1]
  obtain ⟨v', w8, hrun, hp⟩ := run_push h1.lst 36 (⟨X, n, Y⟩, ⟨some ⟨fa, 0, none⟩, 1, some ⟨ka, 0, none⟩, 2⟩) ⟨V.heap.size, 0, none⟩ 1 (by rw [hsk]; exact hn) h1.bx hl (Nat.le_trans h1.bel.size (Nat.le_refl _))
  have h2 := h1.swap hp (fun g hg => ⟨fun e => h1.ne g e hg, fun e => h1.xne.2 (e ▸ hg)⟩)
  rcases h2.lst.at_ with ⟨-, e⟩ | ⟨g, off, c, cur, rfl, -, -, hc, -⟩
  · simp at e
  · rw [List.length_append, List.length_singleton] at hrun hc h2
    exact ⟨g, off, c, w8, hrun, hc, h2⟩
theorem putS_of {S : List Sk} (X Y : List UInt8) (n : Nat) (t : Sl) (M1 : List Se) (h : ridS S X n = M1.map (·.1)) :
    (32 < M1.length + 1 → putS S ⟨X, n, Y⟩ = ((M1 ++ [((⟨X, n, Y⟩, t) : Se)]).drop 1).map (fun e => e.1)) ∧ (¬ 32 < M1.length + 1 → putS S ⟨X, n, Y⟩ = (M1 ++ [((⟨X, n, Y⟩, t) : Se)]).map (fun e => e.1)) := by
  unfold putS
  simp only [h, List.length_map]
  constructor
  · intro h1
    rw [if_pos h1, List.map_drop, List.map_append]
    rfl
  · intro h1
    rw [if_neg h1, List.map_append]
    rfl
theorem Mid2.cells (h : Mid2 w V sb xb fa ka n X Y vs Es vm M) : V.cell? ⟨xb, 0, none⟩ = some (.slice (some ⟨fa, 0, none⟩) 1 1) ∧ V.cell? ⟨xb, 1, none⟩ = some (.int .u32 n) ∧ V.cell? ⟨xb, 2, none⟩ = some (.slice (some ⟨ka, 0, none⟩) 2 2) := by
  refine ⟨?_, ?_, ?_⟩ <;> (rw [cell_of_row _ _ _ _ _ _ h.box]; rfl)
/-- An append that was run. -/
theorem wpList_append_run {w w' : World} {v xv v' : Value} (hrun : (Builtin.append_ #[36, 36] 36 #[v, xv]).run Tryd.prog w = .ok v' w') {ops : Array Oper} {rest : List Oper} {o : Oper} {a : Act} {Q : Exit → Act → World → Prop} (hgd : o.guard = none) (s x : Operand)
    (ho : o.op = .call { callee := .builtin .append, args := #[s, x], argTypes := #[36, 36] }) (hty : o.type = 36) (hs : a.eval s = v) (hx : a.eval x = xv)
    (h : wpList Tryd.prog ops Q rest (a.put o.dst v') w') : wpList Tryd.prog ops Q (o :: rest) a w := by
  refine wpList_plain hgd fun K hK => ?_
  unfold Oper.wp execOp
  simp only [ho, hty, resolve, invoke, builtin, Sem.run_bind, Sem.run_pure, Result.andThen_ok, List.map_toArray, List.map_cons, List.map_nil, hs, hx, hrun]
  exact hK _ _ h
theorem Lst.news {g off c N : Nat} {B : Nat} (h : Lst V B (.slice (some ⟨g, off, none⟩) N c) M) : ∀ j x, (sflat M)[j]? = some x → V.cell? ⟨g, off + j, none⟩ = some x := by
  intro j x hx
  have hj : j < M.length * 3 := by
    have := (List.getElem?_eq_some_iff.1 hx).1
    rwa [sflat_len] at this
  rcases h.at_ with ⟨e, -⟩ | ⟨g', off', cap, cur, e, h2, h3, h4, h5, h6⟩
  · cases e
  · simp only [Value.slice.injEq, Option.some.injEq, Addr.mk.injEq] at e
    obtain ⟨⟨rfl, rfl, -⟩, -, rfl⟩ := e
    rw [cell_of_row _ _ _ _ _ _ h3, h6 j hj, hx]
theorem Lst.cap {g off c N : Nat} {B : Nat} (h : Lst V B (.slice (some ⟨g, off, none⟩) N c) M) : N ≤ c := by
  rcases h.at_ with ⟨e, -⟩ | ⟨g', off', cap, cur, e, h2, h3, h4, -⟩
  · cases e
  · simp only [Value.slice.injEq] at e
    omega
/-- The list without one of its keys: first its head, in a row of its own, then the rest behind it. -/
theorem Mid2.head_c {g off c j0 r : Nat} (h : Mid2 w V sb xb fa ka n X Y vs Es (.slice (some ⟨g, off, none⟩) (j0 + 1 + r) c) M) (hm : j0 + 1 + r = M.length) (hl : M.length ≤ 32) :
    ∃ uo uc w8, (Builtin.append_ #[36, 36] 36 #[.slice none 0 0, .slice (some ⟨g, off, none⟩) j0 c]).run Tryd.prog V = .ok (.slice uo j0 uc) w8 ∧
      ∃ o2 c2 w9, (Builtin.append_ #[36, 36] 36 #[.slice uo j0 uc, .slice (if c = j0 + 1 then some ⟨g, off, none⟩ else some ⟨g, off + (j0 + 1) * 3, none⟩) r (c - (j0 + 1))]).run Tryd.prog w8 = .ok (.slice o2 (j0 + r) c2) w9 ∧ Mid2 w w9 sb xb fa ka n X Y vs Es (.slice o2 (j0 + r) c2) (M.take j0 ++ M.drop (j0 + 1)) := by
  have hnw := h.lst.news
  have hlt : (M.take j0).length = j0 := by rw [List.length_take]; omega
  obtain ⟨u, w8, hrun, hown, hb, hge⟩ := run_head (w := V) (B := w.heap.size) (M := M) j0 36 (by omega) ⟨g, off, none⟩ c (fun j x hx => by
    rw [sflat_take] at hx
    have hj : j < j0 * 3 := by
      have := (List.getElem?_eq_some_iff.1 hx).1
      rw [List.length_take] at this
      omega
    rw [List.getElem?_take_of_lt hj] at hx
    rw [addr_mid]
    exact hnw j x hx) (by omega) h.bel.size
  have h8 := h.on hb
  obtain ⟨uo, uc, rfl⟩ := own_slice hown
  obtain ⟨A, hA, hnews⟩ : ∃ A : Addr, (if c = j0 + 1 then (some (⟨g, off, none⟩ : Addr)) else some ⟨g, off + (j0 + 1) * 3, none⟩) = some A ∧ ∀ j x, (sflat (M.drop (j0 + 1)))[j]? = some x → w8.cell? (A.add j) = some x := by
    by_cases hc : c = j0 + 1
    · refine ⟨⟨g, off, none⟩, by simp [hc], fun j x hx => ?_⟩
      have hle : M.length ≤ c := by
        rcases h.lst.at_ with ⟨e, -⟩ | ⟨g', off', cap, cur, e, h2, h3, h4, -⟩
        · cases e
        · simp only [Value.slice.injEq] at e
          omega
      have h0 : (sflat (M.drop (j0 + 1))).length = 0 := by rw [sflat_len, List.length_drop]; omega
      rw [List.length_eq_zero_iff.1 h0] at hx
      simp at hx
    · refine ⟨⟨g, off + (j0 + 1) * 3, none⟩, by simp [hc], fun j x hx => ?_⟩
      rw [sflat_drop, List.getElem?_drop] at hx
      rw [addr_mid, Nat.add_assoc]
      exact h8.lst.news _ x hx
  obtain ⟨v', w9, hrun2, hp⟩ := run_rest (w := w8) (M := M) (R := M.take j0) (j0 + 1) hown (fun e he => h8.lst.each e (List.mem_of_mem_take he)) h8.lst 36 (by omega) A (c - (j0 + 1)) hnews (by omega) (by omega) h8.bel.size
  have h9 := h8.swap hp (fun b hb => ⟨fun e => by have := h.sto.vlt e; have := hge b hb; omega, fun e => by
    have := (Array.getElem?_eq_some_iff.1 h.box).1
    have := hge b hb
    omega⟩)
  have hl2 : (M.take j0 ++ M.drop (j0 + 1)).length = j0 + r := by rw [List.length_append, hlt, List.length_drop]; omega
  obtain ⟨o2, c2, rfl⟩ := hp.lst.slice
  rw [hlt] at hrun hrun2
  rw [hl2] at hrun2 h9
  rw [show M.length - (j0 + 1) = r by omega] at hrun2
  exact ⟨uo, uc, w8, hrun, o2, c2, w9, by rw [hA]; exact hrun2, h9⟩
/-- A key that is there. -/
theorem Mid2.get_c {j0 : Nat} (h : Mid2 w V sb xb fa ka n X Y vs Es vm M) (hm : Es.map (·.1) = M.map (·.1)) (hj : j0 < M.length) (hi : idxS (M.map (·.1)) X n = j0) :
    Calls Tryd.prog 13 #[.pointer (some ⟨sb, 0, none⟩), .slice (some ⟨fa, 0, none⟩) 1 1, .int .u32 n] V fun x V' => ∃ ao cap, x = .returned (.tuple #[.slice ao M[j0].1.key.length cap, .bool true]) ∧ By V' ao M[j0].1.key ∧ Below V.heap.size V V' := by
  have hjS : j0 < (M.map (·.1)).length := by rw [List.length_map]; exact hj
  have hg : (M.map (·.1))[j0] = M[j0].1 := List.getElem_map _
  have hle : (M.map (·.1)).length ≤ 32 := by rw [← hm, List.length_map]; exact h.len
  obtain ⟨o, -, -, h3⟩ := h.ok.each M[j0].1 (by rw [hm]; exact List.mem_map_of_mem (List.getElem_mem hj))
  have hc := get_st_some V w.heap.size sb (M.map (·.1)) X (some ⟨fa, 0, none⟩) 1 n j0 ⟨vs, Es, h.sto, hm⟩ h.bx.1.byt hle hjS hi (by rw [hg, h3]; decide)
  rw [h.xl.1] at hc
  refine hc.mono ?_
  rintro e V' ⟨ao, cap, rfl, h1, -, h2⟩
  rw [hg] at h1 ⊢
  exact ⟨ao, cap, rfl, h1, h2⟩
end Go.Proofs.YteojlnbonhipbaaDoor
