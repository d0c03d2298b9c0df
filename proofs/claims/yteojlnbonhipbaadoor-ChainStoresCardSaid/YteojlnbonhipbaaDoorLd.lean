/- The law ChainStores: its walk. -/
import Derived.Test.YteojlnbonhipbaaDoorLf
import Derived.Deep.QuietTactic
import Derived.BigQuiet
namespace Go.Proofs.YteojlnbonhipbaaDoor
open Go.RowKit Go.Maps
theorem Ok.miss {S : List Sk} (h : Ok S) (n : Nat) : ridS S [9] n = S := by
  unfold ridS
  refine List.eraseIdx_of_length_le (Nat.le_of_eq (Eq.symm (List.findIdx_eq_length.2 fun x hx => ?_)))
  obtain ⟨o, h1, h2, -⟩ := h.each x hx
  have : ¬ x.of = [9] := fun e => by
    rw [h1] at e
    injection e with e
    rw [e] at h2
    exact absurd h2 (by decide)
  simp [hit, this]
theorem Ok.last {S : List Sk} (h : Ok S) (hl : S.length ≤ 32) : (putS S ⟨[9], 9, []⟩).length = if S.length < 32 then S.length + 1 else 32 := by
  unfold putS
  simp only [h.miss]
  by_cases h2 : S.length < 32
  · rw [if_pos h2, if_neg (by omega), List.length_append, List.length_singleton]
  · rw [if_neg h2, if_pos (by omega), List.length_drop, List.length_append, List.length_singleton]; omega
theorem Ok.small {S : List Sk} (h : Ok S) (E : List Se) (hE : E.map (·.1) = S) : ∀ e ∈ E, e.1.of.length ≤ 1048576 ∧ e.1.key.length ≤ 1048576 := by
  intro e he
  obtain ⟨o, h1, -, h3⟩ := h.each e.1 (by rw [← hE]; exact List.mem_map_of_mem he)
  rw [h1, h3]
  exact ⟨by simp, by decide⟩
/-- What the builds of a round leave, whatever their order. -/
structure Bx (wr : World) (o n k xb fa ka : Nat) (W : World) : Prop where
  box : W.heap[xb]? = some (.cells #[.slice (some ⟨fa, 0, none⟩) 1 1, .int .u32 ((n : Int) % 40), .slice (some ⟨ka, 0, none⟩) 2 2] 47 (0, 0))
  of : W.heap[fa]? = some (.cells #[.int .u8 ((o : Int) % 3)] 5 (0, 0))
  key : W.heap[ka]? = some (.cells #[.int .u8 (k : Int), .int .u8 (n : Int)] 5 (0, 0))
  bel : Below wr.heap.size wr W
  ge : wr.heap.size ≤ xb
theorem three (w : World) (X Y Z : Obj) : ((((w.alloc X).alloc Y).alloc Z).drew).heap[w.heap.size]? = some X ∧ ((((w.alloc X).alloc Y).alloc Z).drew).heap[w.heap.size + 1]? = some Y ∧ ((((w.alloc X).alloc Y).alloc Z).drew).heap[w.heap.size + 1 + 1]? = some Z ∧ Below w.heap.size w (((w.alloc X).alloc Y).alloc Z).drew := by
  have b1 := Joins.below_alloc1 w X
  have b2 := Joins.below_alloc1 (w.alloc X) Y
  have b3 := Joins.below_alloc1 ((w.alloc X).alloc Y) Z
  have r1 := heap_alloc_new w X
  have r2 := heap_alloc_new (w.alloc X) Y
  have r3 := heap_alloc_new ((w.alloc X).alloc Y) Z
  have s1 : (w.alloc X).heap.size = w.heap.size + 1 := by simp
  have s2 : ((w.alloc X).alloc Y).heap.size = w.heap.size + 1 + 1 := by simp
  rw [s1] at r2
  rw [s2] at r3
  exact ⟨(b3.block _ (by omega)).trans ((b2.block _ (by omega)).trans r1), (b3.block _ (by omega)).trans r2, r3, ((b1.trans (b2.mono b1.size)).trans (b3.mono (Nat.le_trans b1.size b2.size))).drew⟩
theorem cut2 {X G : Prop} (h : X → G) (hx : X) : G := h hx
theorem bx1 (wr : World) (o n k ka xb fa : Nat) (h1 : ka = wr.heap.size + 1 + 1) (h2 : xb = wr.heap.size + 1) (h3 : fa = wr.heap.size) : Bx wr o n k xb fa ka (((wr.alloc (.cells #[.int .u8 ((o : Int) % 3)] 5)).alloc (.cells #[.slice (some ⟨fa, 0, none⟩) 1 1, .int .u32 ((n : Int) % 40), .slice (some ⟨ka, 0, none⟩) 2 2] 47)).alloc (.cells #[.int .u8 (k : Int), .int .u8 (n : Int)] 5)).drew := by
  subst h1 h2 h3
  exact ⟨(three wr _ _ _).2.1, (three wr _ _ _).1, (three wr _ _ _).2.2.1, (three wr _ _ _).2.2.2, by omega⟩
theorem bx2 (wr : World) (o n k ka xb fa : Nat) (h1 : ka = wr.heap.size + 1) (h2 : xb = wr.heap.size + 1 + 1) (h3 : fa = wr.heap.size) : Bx wr o n k xb fa ka (((wr.alloc (.cells #[.int .u8 ((o : Int) % 3)] 5)).alloc (.cells #[.int .u8 (k : Int), .int .u8 (n : Int)] 5)).alloc (.cells #[.slice (some ⟨fa, 0, none⟩) 1 1, .int .u32 ((n : Int) % 40), .slice (some ⟨ka, 0, none⟩) 2 2] 47)).drew := by
  subst h1 h2 h3
  exact ⟨(three wr _ _ _).2.2.1, (three wr _ _ _).1, (three wr _ _ _).2.1, (three wr _ _ _).2.2.2, by omega⟩
theorem bx3 (wr : World) (o n k ka xb fa : Nat) (h1 : ka = wr.heap.size + 1 + 1) (h2 : xb = wr.heap.size) (h3 : fa = wr.heap.size + 1) : Bx wr o n k xb fa ka (((wr.alloc (.cells #[.slice (some ⟨fa, 0, none⟩) 1 1, .int .u32 ((n : Int) % 40), .slice (some ⟨ka, 0, none⟩) 2 2] 47)).alloc (.cells #[.int .u8 ((o : Int) % 3)] 5)).alloc (.cells #[.int .u8 (k : Int), .int .u8 (n : Int)] 5)).drew := by
  subst h1 h2 h3
  exact ⟨(three wr _ _ _).1, (three wr _ _ _).2.1, (three wr _ _ _).2.2.1, (three wr _ _ _).2.2.2, by omega⟩
theorem bx4 (wr : World) (o n k ka xb fa : Nat) (h1 : ka = wr.heap.size + 1) (h2 : xb = wr.heap.size) (h3 : fa = wr.heap.size + 1 + 1) : Bx wr o n k xb fa ka (((wr.alloc (.cells #[.slice (some ⟨fa, 0, none⟩) 1 1, .int .u32 ((n : Int) % 40), .slice (some ⟨ka, 0, none⟩) 2 2] 47)).alloc (.cells #[.int .u8 (k : Int), .int .u8 (n : Int)] 5)).alloc (.cells #[.int .u8 ((o : Int) % 3)] 5)).drew := by
  subst h1 h2 h3
  exact ⟨(three wr _ _ _).1, (three wr _ _ _).2.2.1, (three wr _ _ _).2.1, (three wr _ _ _).2.2.2, by omega⟩
theorem bx5 (wr : World) (o n k ka xb fa : Nat) (h1 : ka = wr.heap.size) (h2 : xb = wr.heap.size + 1 + 1) (h3 : fa = wr.heap.size + 1) : Bx wr o n k xb fa ka (((wr.alloc (.cells #[.int .u8 (k : Int), .int .u8 (n : Int)] 5)).alloc (.cells #[.int .u8 ((o : Int) % 3)] 5)).alloc (.cells #[.slice (some ⟨fa, 0, none⟩) 1 1, .int .u32 ((n : Int) % 40), .slice (some ⟨ka, 0, none⟩) 2 2] 47)).drew := by
  subst h1 h2 h3
  exact ⟨(three wr _ _ _).2.2.1, (three wr _ _ _).2.1, (three wr _ _ _).1, (three wr _ _ _).2.2.2, by omega⟩
theorem bx6 (wr : World) (o n k ka xb fa : Nat) (h1 : ka = wr.heap.size) (h2 : xb = wr.heap.size + 1) (h3 : fa = wr.heap.size + 1 + 1) : Bx wr o n k xb fa ka (((wr.alloc (.cells #[.int .u8 (k : Int), .int .u8 (n : Int)] 5)).alloc (.cells #[.slice (some ⟨fa, 0, none⟩) 1 1, .int .u32 ((n : Int) % 40), .slice (some ⟨ka, 0, none⟩) 2 2] 47)).alloc (.cells #[.int .u8 ((o : Int) % 3)] 5)).drew := by
  subst h1 h2 h3
  exact ⟨(three wr _ _ _).2.1, (three wr _ _ _).2.2.1, (three wr _ _ _).1, (three wr _ _ _).2.2.2, by omega⟩
set_option maxRecDepth 20000 in
set_option maxHeartbeats 64000000 in
theorem stores_walk (w : World) (P Q A : List UInt8) (ao bo co : Option Addr) (pc qc ac : Nat) (hP : Byt w ao P) (hQ : Byt w bo Q) (hA : Byt w co A) :
    Calls Tryd.prog 5 #[.slice ao P.length pc, .slice bo Q.length qc, .slice co A.length ac] w fun e w' => e = .returned (.bool true) ∧ Below w.heap.size w w' := by
  have HA := Lib.hid (fun w => awake_any w)
  by_cases hl : 120 < P.length
  · have hl1 : (120 : Int) < P.length := by omega
    generalize P.length = p at *
    generalize Q.length = q at *
    generalize A.length = a at *
    clear hP hQ hA
    go_enter Tryd.func5, Tryd.ntmps5
    go_wp2_with (first
      | (go_at_call 7; refine (HA.out w).mono ?_; rintro e w1 ⟨rfl, hb1⟩; have HB1 := Lib.hid hb1; have HA1 := Lib.hid (HA.out w1); clear hb1 HA)
      | (go_at_call 7; refine HA1.out.mono ?_; rintro e w2 ⟨rfl, hb2⟩))
    go_ret
    exact ⟨rfl, HB1.out.trans (hb2.mono HB1.out.size)⟩
  · have hl1 : ¬ (120 : Int) < P.length := by omega
    have HY := Lib.hid (And.intro hP (And.intro hQ hA))
    obtain ⟨p, hp⟩ : ∃ p, p = P.length := ⟨_, rfl⟩
    obtain ⟨q, hq⟩ : ∃ q, q = Q.length := ⟨_, rfl⟩
    obtain ⟨a, ha⟩ : ∃ a, a = A.length := ⟨_, rfl⟩
    have HL := Lib.hid (And.intro hp (And.intro hq ha))
    rw [← hp] at hl hl1
    rw [← hp, ← hq, ← ha]
    clear hP hQ hA hp hq ha
    go_enter Tryd.func5, Tryd.ntmps5
    go_wp2_with (go_at_call 7; refine (HA.out w).mono ?_; rintro e w1 ⟨rfl, hb1⟩; have HB1 := Lib.hid hb1; clear hb1 HA)
    have hI : Inv w (w1.alloc (.cells #[.slice none 0 0] 38)) w1.heap.size (.slice none 0 0) [] := by
      have hb := HB1.out
      have b1 := Joins.below_alloc1 w1 (.cells #[.slice none 0 0] 38)
      obtain ⟨v, E, h1, h2⟩ := st_new w1 w.heap.size hb.size
      exact ⟨⟨v, E, h1, h2, fun g _ h => by cases h⟩, ⟨.inl ⟨rfl, rfl⟩, fun e he => absurd he (List.not_mem_nil)⟩, ⟨fun x hx => absurd hx (List.not_mem_nil), List.nodup_nil⟩, by simp, hb.trans (b1.mono hb.size)⟩
    have HI := Lib.hid hI
    clear hI
    generalize w1.alloc (.cells #[.slice none 0 0] 38) = w2 at *
    obtain ⟨sb, hsb⟩ : ∃ sb, sb = w1.heap.size := ⟨_, rfl⟩
    rw [← hsb] at HI ⊢
    clear hsb HB1
    go_loopw [8, 9] (fun vm i wr => ∃ k : Nat, i = .int .i64 k ∧ k ≤ 120 ∧ Hid (∃ M, Inv w wr sb vm M ∧ k ≤ 120))
      (fun _ i _ => 120 - (intOf i).toNat)
    case atStart => exact ⟨0, rfl, by omega, [], HI.out, by omega⟩
    case round =>
      obtain ⟨k, rfl, hk, HX⟩ := hrel
      by_cases hc : k < p ∧ k < q ∧ k < a
      · obtain ⟨M, hI, -⟩ := HX.out
        have hpP : k < P.length := by rw [← HL.out.1]; exact hc.1
        have hqQ : k < Q.length := by rw [← HL.out.2.1]; exact hc.2.1
        have haA : k < A.length := by rw [← HL.out.2.2]; exact hc.2.2
        have hcel : ∀ (o : Option Addr) (l : List UInt8), Byt w o l → k < l.length → ∃ b off, o = some ⟨b, off, none⟩ ∧ b < wr.heap.size ∧ wr.cell? ⟨b, off + k, none⟩ = some (.int .u8 (l.getD k 0).toNat) := by
          intro o l h hk
          rcases h.at_ with rfl | ⟨b, off, h1, h2, h3⟩
          · exact absurd hk (Nat.not_lt_zero _)
          · exact ⟨b, off, h1, Nat.lt_of_lt_of_le h2 hI.bel.size, (hI.bel.cell (p := ⟨b, off + k, none⟩) h2).trans (h3 k hk)⟩
        have hcw : ∃ b off, co = some ⟨b, off, none⟩ ∧ b < w.heap.size ∧ w.cell? ⟨b, off + k, none⟩ = some (.int .u8 (A.getD k 0).toNat) := by
          rcases HY.out.2.2.at_ with rfl | ⟨b, off, h1, h2, h3⟩
          · exact absurd haA (Nat.not_lt_zero _)
          · exact ⟨b, off, h1, h2, h3 k haA⟩
        obtain ⟨pb, po, rfl, plt, pcel⟩ := hcel ao P HY.out.1 hpP
        obtain ⟨qb, qo, rfl, qlt, qcel⟩ := hcel bo Q HY.out.2.1 hqQ
        obtain ⟨ab, aoff, rfl, alt, acel⟩ := hcw
        generalize P.getD k 0 = ov at *
        generalize Q.getD k 0 = nv at *
        generalize A.getD k 0 = tv at *
        have ho := ov.toNat_lt
        have hn := nv.toNat_lt
        have ht := tv.toNat_lt
        obtain ⟨o, hoe⟩ : ∃ o, o = ov.toNat := ⟨_, rfl⟩
        obtain ⟨n, hne⟩ : ∃ n, n = nv.toNat := ⟨_, rfl⟩
        obtain ⟨t, hte⟩ : ∃ t, t = tv.toNat := ⟨_, rfl⟩
        rw [← hoe] at pcel ho
        rw [← hne] at qcel hn
        rw [← hte] at acel ht
        have HO := Lib.hid (And.intro hoe (And.intro hne hte))
        have HI2 := Lib.hid hI
        obtain ⟨mo, mc, rfl⟩ := hI.ls.slice
        have hm32 := hI.len
        obtain ⟨m, hm⟩ : ∃ m, m = M.length := ⟨_, rfl⟩
        rw [← hm] at HI2 hm32 ⊢
        have HM := Lib.hid hm
        have h1 : (k : Int) < p := by omega
        have h2 : (k : Int) < q := by omega
        have h3 : (k : Int) < a := by omega
        clear hI HX hcel hpP hqQ haA hoe hne hte hm hc HY HI
        go_wp2
        have q1 : qb ≠ wr.heap.size := by omega
        have q2 : qb ≠ wr.heap.size + 1 := by omega
        have q3 : qb ≠ wr.heap.size + 1 + 1 := by omega
        have q4 : qb < wr.heap.size + 1 := by omega
        have q5 : qb < wr.heap.size + 1 + 1 := by omega
        have p1 : pb ≠ wr.heap.size := by omega
        have p2 : pb ≠ wr.heap.size + 1 := by omega
        have p3 : pb ≠ wr.heap.size + 1 + 1 := by omega
        have p4 : pb < wr.heap.size + 1 := by omega
        have p5 : pb < wr.heap.size + 1 + 1 := by omega
        apply cut2
        · intro key
          go_region
          all_goals first
            | (obtain ⟨ka, hka⟩ : ∃ ka, ka = wr.heap.size + 1 + 1 := ⟨_, rfl⟩; obtain ⟨xb, hxb⟩ : ∃ xb, xb = wr.heap.size + 1 := ⟨_, rfl⟩; obtain ⟨fa, hfa⟩ : ∃ fa, fa = wr.heap.size := ⟨_, rfl⟩; have F := bx1 wr o n k ka xb fa hka hxb hfa; rw [← hka, ← hxb, ← hfa]; obtain ⟨W, hW⟩ : ∃ W, W = (((wr.alloc (.cells #[.int .u8 ((o : Int) % 3)] 5)).alloc (.cells #[.slice (some ⟨fa, 0, none⟩) 1 1, .int .u32 ((n : Int) % 40), .slice (some ⟨ka, 0, none⟩) 2 2] 47)).alloc (.cells #[.int .u8 (k : Int), .int .u8 (n : Int)] 5)).drew := ⟨_, rfl⟩; rw [← hW] at F ⊢; clear hW hka hxb hfa; revert ka xb fa W F; exact key)
            | (obtain ⟨ka, hka⟩ : ∃ ka, ka = wr.heap.size + 1 := ⟨_, rfl⟩; obtain ⟨xb, hxb⟩ : ∃ xb, xb = wr.heap.size + 1 + 1 := ⟨_, rfl⟩; obtain ⟨fa, hfa⟩ : ∃ fa, fa = wr.heap.size := ⟨_, rfl⟩; have F := bx2 wr o n k ka xb fa hka hxb hfa; rw [← hxb, ← hka, ← hfa]; obtain ⟨W, hW⟩ : ∃ W, W = (((wr.alloc (.cells #[.int .u8 ((o : Int) % 3)] 5)).alloc (.cells #[.int .u8 (k : Int), .int .u8 (n : Int)] 5)).alloc (.cells #[.slice (some ⟨fa, 0, none⟩) 1 1, .int .u32 ((n : Int) % 40), .slice (some ⟨ka, 0, none⟩) 2 2] 47)).drew := ⟨_, rfl⟩; rw [← hW] at F ⊢; clear hW hka hxb hfa; revert ka xb fa W F; exact key)
            | (obtain ⟨ka, hka⟩ : ∃ ka, ka = wr.heap.size + 1 + 1 := ⟨_, rfl⟩; obtain ⟨xb, hxb⟩ : ∃ xb, xb = wr.heap.size := ⟨_, rfl⟩; obtain ⟨fa, hfa⟩ : ∃ fa, fa = wr.heap.size + 1 := ⟨_, rfl⟩; have F := bx3 wr o n k ka xb fa hka hxb hfa; rw [← hka, ← hfa, ← hxb]; obtain ⟨W, hW⟩ : ∃ W, W = (((wr.alloc (.cells #[.slice (some ⟨fa, 0, none⟩) 1 1, .int .u32 ((n : Int) % 40), .slice (some ⟨ka, 0, none⟩) 2 2] 47)).alloc (.cells #[.int .u8 ((o : Int) % 3)] 5)).alloc (.cells #[.int .u8 (k : Int), .int .u8 (n : Int)] 5)).drew := ⟨_, rfl⟩; rw [← hW] at F ⊢; clear hW hka hxb hfa; revert ka xb fa W F; exact key)
            | (obtain ⟨ka, hka⟩ : ∃ ka, ka = wr.heap.size + 1 := ⟨_, rfl⟩; obtain ⟨xb, hxb⟩ : ∃ xb, xb = wr.heap.size := ⟨_, rfl⟩; obtain ⟨fa, hfa⟩ : ∃ fa, fa = wr.heap.size + 1 + 1 := ⟨_, rfl⟩; have F := bx4 wr o n k ka xb fa hka hxb hfa; rw [← hfa, ← hka, ← hxb]; obtain ⟨W, hW⟩ : ∃ W, W = (((wr.alloc (.cells #[.slice (some ⟨fa, 0, none⟩) 1 1, .int .u32 ((n : Int) % 40), .slice (some ⟨ka, 0, none⟩) 2 2] 47)).alloc (.cells #[.int .u8 (k : Int), .int .u8 (n : Int)] 5)).alloc (.cells #[.int .u8 ((o : Int) % 3)] 5)).drew := ⟨_, rfl⟩; rw [← hW] at F ⊢; clear hW hka hxb hfa; revert ka xb fa W F; exact key)
            | (obtain ⟨ka, hka⟩ : ∃ ka, ka = wr.heap.size := ⟨_, rfl⟩; obtain ⟨xb, hxb⟩ : ∃ xb, xb = wr.heap.size + 1 + 1 := ⟨_, rfl⟩; obtain ⟨fa, hfa⟩ : ∃ fa, fa = wr.heap.size + 1 := ⟨_, rfl⟩; have F := bx5 wr o n k ka xb fa hka hxb hfa; rw [← hxb, ← hfa, ← hka]; obtain ⟨W, hW⟩ : ∃ W, W = (((wr.alloc (.cells #[.int .u8 (k : Int), .int .u8 (n : Int)] 5)).alloc (.cells #[.int .u8 ((o : Int) % 3)] 5)).alloc (.cells #[.slice (some ⟨fa, 0, none⟩) 1 1, .int .u32 ((n : Int) % 40), .slice (some ⟨ka, 0, none⟩) 2 2] 47)).drew := ⟨_, rfl⟩; rw [← hW] at F ⊢; clear hW hka hxb hfa; revert ka xb fa W F; exact key)
            | (obtain ⟨ka, hka⟩ : ∃ ka, ka = wr.heap.size := ⟨_, rfl⟩; obtain ⟨xb, hxb⟩ : ∃ xb, xb = wr.heap.size + 1 := ⟨_, rfl⟩; obtain ⟨fa, hfa⟩ : ∃ fa, fa = wr.heap.size + 1 + 1 := ⟨_, rfl⟩; have F := bx6 wr o n k ka xb fa hka hxb hfa; rw [← hfa, ← hxb, ← hka]; obtain ⟨W, hW⟩ : ∃ W, W = (((wr.alloc (.cells #[.int .u8 (k : Int), .int .u8 (n : Int)] 5)).alloc (.cells #[.slice (some ⟨fa, 0, none⟩) 1 1, .int .u32 ((n : Int) % 40), .slice (some ⟨ka, 0, none⟩) 2 2] 47)).alloc (.cells #[.int .u8 ((o : Int) % 3)] 5)).drew := ⟨_, rfl⟩; rw [← hW] at F ⊢; clear hW hka hxb hfa; revert ka xb fa W F; exact key)
        intro ka xb fa W F
        have e3 : ((o : Int) % 3) = ((o % 3 : Nat) : Int) := by omega
        have e40 : ((n : Int) % 40) = ((n % 40 : Nat) : Int) := by omega
        have hbox := F.box
        have hof := F.of
        rw [e3] at hof
        rw [e40] at hbox
        obtain ⟨o3, ho3⟩ : ∃ o3, o3 = o % 3 := ⟨_, rfl⟩
        obtain ⟨n40, hn40⟩ : ∃ n40, n40 = n % 40 := ⟨_, rfl⟩
        rw [← ho3] at hof
        rw [← hn40] at hbox
        have ho3' : o3 < 3 := by omega
        have x0 : W.cell? ⟨xb, 0, none⟩ = some (.slice (some ⟨fa, 0, none⟩) 1 1) := by rw [cell_of_row _ _ _ _ _ _ hbox]; rfl
        have x1 : W.cell? ⟨xb, 1, none⟩ = some (.int .u32 n40) := by rw [cell_of_row _ _ _ _ _ _ hbox]; rfl
        have y0 : W.cell? ⟨fa, 0, none⟩ = some (.int .u8 o3) := by rw [cell_of_row _ _ _ _ _ _ hof]; rfl
        have xlt := (Array.getElem?_eq_some_iff.1 hbox).1
        have ylt := (Array.getElem?_eq_some_iff.1 hof).1
        have HIW := Lib.hid (And.intro HI2 F)
        obtain ⟨X, hX⟩ : ∃ X : List UInt8, X = [UInt8.ofNat o3] := ⟨_, rfl⟩
        have hrow : ∀ (V : World), Below W.heap.size W V → ∀ j, j < m → ∃ (g off c b bo bc mn : Nat) (ob : UInt8), ∃ hj : j < M.length, Value.slice mo m mc = .slice (some ⟨g, off, none⟩) m c ∧ V.cell? ⟨g, off + j * 3, none⟩ = some (.slice (some ⟨b, bo, none⟩) 1 bc) ∧ V.cell? ⟨g, off + j * 3 + 1, none⟩ = some (.int .u32 mn) ∧ V.cell? ⟨b, bo, none⟩ = some (.int .u8 ob.toNat) ∧ hit X n40 M[j].1 = (decide (mn = n40) && decide (ob.toNat = o3)) := by
          intro V hV j hj
          have hjM : j < M.length := by rw [← HM.out]; exact hj
          have hls := ((HIW.out.1.ls).on HIW.out.2.bel).on hV
          obtain ⟨g, off, c, hv, -, m0, m1, -⟩ := hls.cells j hjM
          obtain ⟨ob, hb1, hb2, -⟩ := HIW.out.1.ok.each M[j].1 (List.mem_map_of_mem (List.getElem_mem hjM))
          have hby := (hls.each M[j] (List.getElem_mem hjM)).1.byt
          rw [hb1] at hby m0
          rcases hby.at_ with h | ⟨b, bo, hb3, -, hb4⟩
          · cases h
          · rw [hb3] at m0
            refine ⟨g, off, c, b, bo, _, M[j].1.n, ob, hjM, by rw [← HM.out] at hv; exact hv, m0, m1, hb4 0 (by simp), ?_⟩
            have : (M[j].1.of = X) ↔ ob.toNat = o3 := by
              rw [hb1, hX]
              constructor
              · intro h
                injection h with h
                rw [h, UInt8.toNat_ofNat']
                omega
              · intro h
                rw [← h]
                simp
            unfold hit
            simp only [this]
        have HR := Lib.hid hrow
        have HX := Lib.hid hX
        have hHS : ∃ vs Es, Mid2 w W sb xb fa ka n40 X [UInt8.ofNat k, UInt8.ofNat n] vs Es (.slice mo m mc) M ∧ Es.map (·.1) = M.map (·.1) := by
          obtain ⟨hi, hf⟩ := HIW.out
          obtain ⟨vs, Es, s1, s2, s3⟩ := hi.st
          have hlsw := hi.ls
          have hlE := congrArg List.length s2
          rw [List.length_map, List.length_map] at hlE
          have hge := hf.ge
          have hk2 : (UInt8.ofNat k).toNat = k := by rw [UInt8.toNat_ofNat']; omega
          have hn2 : (UInt8.ofNat n).toNat = n := by rw [UInt8.toNat_ofNat']; omega
          have ho2 : (UInt8.ofNat o3).toNat = o3 := by rw [UInt8.toNat_ofNat']; omega
          have hkr : W.heap[ka]? = some (.cells #[.int .u8 ((UInt8.ofNat k).toNat : Int), .int .u8 ((UInt8.ofNat n).toNat : Int)] 5 (0, 0)) := by rw [hk2, hn2]; exact hf.key
          have hor : W.heap[fa]? = some (.cells #[.int .u8 ((UInt8.ofNat o3).toNat : Int)] 5 (0, 0)) := by rw [ho2]; exact hof
          refine ⟨vs, Es, ⟨s1.on hf.bel, s3, fun e => ?_, hi.ls.on hf.bel, ⟨?_, fun e => ?_⟩, hbox, ⟨by rw [hX]; exact by_one _ _ _ _ hor, By.row (fr := (0, 0)) hkr⟩, ⟨by rw [hX]; rfl, rfl, UInt8.ofNat o3, hX, by rw [ho2]; exact ho3'⟩, s2 ▸ hi.ok, by rw [hlE]; exact hi.len, hi.bel.trans (hf.bel.mono hi.bel.size)⟩, s2⟩
          · have := s1.vlt e
            omega
          · have := (Array.getElem?_eq_some_iff.1 s1.row).1
            omega
          · have := (hlsw.lt e).1
            omega
        have HS := Lib.hid hHS
        clear hHS HIW
        have HOO := Lib.hid (And.intro ho3 hn40)
        clear hrow hX ho3 hn40 hbox hof F HI2 e3 e40 q1 q2 q3 q4 q5 p1 p2 p3 p4 p5
        go_wp2
        go_loopw [11, 12] (fun z i wi => ∃ kk : Nat, i = .int .i64 kk ∧ kk ≤ m ∧ ∃ zz : Int, z = .int .i64 zz ∧ -1 ≤ zz ∧ zz < m ∧ Hid (Below W.heap.size W wi ∧ At M X n40 kk zz))
          (fun _ i _ => m - (intOf i).toNat)
        case atStart => exact ⟨0, rfl, Nat.zero_le _, -1, rfl, by omega, by omega, Below.refl _ _, .inl ⟨rfl, fun j _ hj => absurd hj (Nat.not_lt_zero _)⟩⟩
        case round =>
          obtain ⟨kk, rfl, hkk, zz, rfl, hz1, hz2, HZ⟩ := hrel
          by_cases hkm : kk < m
          · have hk1 : (kk : Int) < m := by omega
            obtain ⟨g, off, c, b, bo, bc, mn, ob, hjM, hv, m0, m1, mb, hh⟩ := HR.out wr HZ.out.1 kk hkm
            obtain ⟨rfl, -, rfl⟩ : mo = some ⟨g, off, none⟩ ∧ True ∧ mc = c := by cases hv; exact ⟨rfl, trivial, rfl⟩
            have z0 := (HZ.out.1.cell (p := ⟨xb, 0, none⟩) xlt).trans x0
            have z1 := (HZ.out.1.cell (p := ⟨xb, 1, none⟩) xlt).trans x1
            have w0 := (HZ.out.1.cell (p := ⟨fa, 0, none⟩) ylt).trans y0
            have HH := Lib.hid hh
            have HJ := Lib.hid hjM
            clear hh hv HR
            by_cases hN : mn = n40
            · subst hN
              by_cases hob : ob.toNat = o3
              · rw [hob] at mb HH
                go_wp2
                go_quiet (fail)
                go_wp2
                refine ⟨⟨kk + 1, rfl, hkm, kk, rfl, by omega, by omega, HZ.out.1.trans ((bdrew wr nq).mono HZ.out.1.size), .inr ⟨kk, HJ.out, Nat.lt_succ_self _, rfl, by rw [HH.out]; simp⟩⟩, ?_⟩
                simp [intOf]; omega
              · have hob1 : ¬ (ob.toNat : Int) = o3 := by omega
                go_wp2
                go_quiet (fail)
                go_wp2
                refine ⟨⟨kk + 1, rfl, hkm, zz, rfl, hz1, hz2, HZ.out.1.trans ((bdrew wr nq).mono HZ.out.1.size), HZ.out.2.skip HJ.out (by rw [HH.out]; simp [hob])⟩, ?_⟩
                simp [intOf]; omega
            · have hN1 : ¬ (mn : Int) = n40 := by omega
              go_wp2
              go_quiet (fail)
              go_wp2
              refine ⟨⟨kk + 1, rfl, hkm, zz, rfl, hz1, hz2, HZ.out.1.trans ((bdrew wr nq).mono HZ.out.1.size), HZ.out.2.skip HJ.out (by rw [HH.out]; simp [hN])⟩, ?_⟩
              simp [intOf]; omega
          · obtain rfl : kk = m := by omega
            have hk1 : ¬ (kk : Int) < kk := by omega
            obtain ⟨vs, Es, hmW, hEM⟩ := HS.out
            have hmV := hmW.on HZ.out.1
            have z0 := (HZ.out.1.cell (p := ⟨xb, 0, none⟩) xlt).trans x0
            have z1 := (HZ.out.1.cell (p := ⟨xb, 1, none⟩) xlt).trans x1
            have hfound := At.found (M := M) (P := X) (n := n40) (z := zz) (by rw [← HM.out]; exact HZ.out.2) (hEM ▸ hmW.ok)
            have hXl := hmW.xl.1
            rcases hfound with ⟨rfl, hi, hr⟩ | ⟨j0, hj0, rfl, hi, hr⟩
            · have hg : Calls Tryd.prog 13 #[.pointer (some ⟨sb, 0, none⟩), .slice (some ⟨fa, 0, none⟩) 1 1, .int .u32 n40] wr fun x w' => x = .returned (.tuple #[.slice none 0 0, .bool false]) ∧ Below wr.heap.size wr w' := by
                have h := get_st_none wr w.heap.size sb (Es.map (·.1)) X (some ⟨fa, 0, none⟩) 1 n40 ⟨vs, Es, hmV.sto, rfl⟩ hmV.bx.1.byt (by rw [List.length_map]; exact hmV.len) (by rw [hEM]; exact hi)
                rw [hXl] at h
                exact h
              have HG := Lib.hid hg
              have HV := Lib.hid (And.intro hmV (And.intro hEM (And.intro hi hr)))
              clear hg hmV hmW hEM hi hr HS HR HX hXl HOO HZ x0 x1 y0 xlt ylt ho3'
              obtain ⟨m1, hm1⟩ : ∃ m1, m1 = kk := ⟨_, rfl⟩
              obtain ⟨M1, hM1⟩ : ∃ M1, M1 = M := ⟨_, rfl⟩
              rw [← hm1] at HV HM hm32 ⊢
              rw [← hM1] at HV HM ⊢
              clear hm1 hM1
              by_cases h4 : (t : Int) % 4 = 0
              · have h5 : (t : Int).tmod 4 = 0 := by rw [Int.tmod_eq_emod_of_nonneg (by omega)]; exact h4
                go_wp2_with (go_at_call 13; refine HG.out.mono ?_; rintro e w5 ⟨rfl, hb5⟩; have HV5 := Lib.hid (HV.out.1.on hb5); clear hb5)
                go_quiet (fail)
                have h6 := HV5.out.on (bdrew w5 nq)
                generalize w5.drewN nq = V6 at *
                have c6 := (h6.bel.cell (p := ⟨ab, aoff + k, none⟩) alt).trans acel
                have H6 : Hid (Mid2 w V6 sb xb fa ka n40 X [UInt8.ofNat k, UInt8.ofNat n] vs Es (.slice mo m1 mc) M1 ∧ ridS (Es.map (·.1)) X n40 = M1.map (·.1) ∧ m1 = M1.length ∧ m1 ≤ 32) := ⟨h6, by rw [HV.out.2.1]; exact HV.out.2.2.2, HM.out, hm32⟩
                have HIX : Hid (decide (0 ≤ idxS (Es.map (·.1)) X n40) = false) := by show _ = _; rw [HV.out.2.1, HV.out.2.2.1]; rfl
                clear h6 HG HV HV5
                obtain ⟨b0, b1, b2⟩ := H6.out.1.cells
                have hd := H6.out.1.drop_c
                rw [HIX.out, H6.out.2.1] at hd
                have HD := Lib.hid hd
                clear hd
                go_wp2_with (first | (go_at_call 14; refine HD.out.mono ?_; rintro e w7 ⟨rfl, vs7, E7, hE7, hm7⟩; have HS7 := Lib.hid (hm7.same_c hE7); have H7 := Lib.hid (And.intro hE7 hm7); clear hE7 hm7) | (go_at_call 16; refine HS7.out.mono ?_; rintro e w8 ⟨rfl, hb8⟩))
                refine ⟨⟨k + 1, rfl, by omega, M1, (H7.out.2.on hb8).inv H7.out.1, by omega⟩, ?_⟩
                simp [intOf]; omega
              · have h5 : ¬ (t : Int).tmod 4 = 0 := by rw [Int.tmod_eq_emod_of_nonneg (by omega)]; exact h4
                go_wp2_with (go_at_call 13; refine HG.out.mono ?_; rintro e w5 ⟨rfl, hb5⟩; have HV5 := Lib.hid (HV.out.1.on hb5); clear hb5)
                go_quiet (fail)
                have h6 := HV5.out.on (bdrew w5 nq)
                generalize w5.drewN nq = V6 at *
                have c6 := (h6.bel.cell (p := ⟨ab, aoff + k, none⟩) alt).trans acel
                have H6 : Hid (Mid2 w V6 sb xb fa ka n40 X [UInt8.ofNat k, UInt8.ofNat n] vs Es (.slice mo m1 mc) M1 ∧ ridS (Es.map (·.1)) X n40 = M1.map (·.1) ∧ m1 = M1.length ∧ m1 ≤ 32) := ⟨h6, by rw [HV.out.2.1]; exact HV.out.2.2.2, HM.out, hm32⟩
                have HIX : Hid (decide (0 ≤ idxS (Es.map (·.1)) X n40) = false) := by show _ = _; rw [HV.out.2.1, HV.out.2.2.1]; rfl
                clear h6 HG HV HV5
                obtain ⟨b0, b1, b2⟩ := H6.out.1.cells
                have HP := Lib.hid (H6.out.1.put_c)
                go_wp2_with (first | (go_at_call 15; refine HP.out.mono ?_; rintro e w7 ⟨rfl, vs7, E7, hE7, hm7⟩; refine Hid.out ?_))
                all_goals (
                  refine Lib.hid ?_
                  obtain ⟨d0, d1, d2⟩ := hm7.cells
                  obtain ⟨g, off, c, w8, hrun, hc, hm8⟩ := hm7.push_c (by have := H6.out.2.2.2; have := H6.out.2.2.1; omega)
                  have hps := putS_of X [UInt8.ofNat k, UInt8.ofNat n] n40 ⟨some ⟨fa, 0, none⟩, 1, some ⟨ka, 0, none⟩, 2⟩ M1 H6.out.2.1
                  rw [← H6.out.2.2.1] at hrun hc hm8 hps
                  have HRUN := Lib.hid hrun
                  clear hrun
                  have hm32' := H6.out.2.2.2
                  have HL1 := Lib.hid H6.out.2.2.1
                  clear hm7 HP H6 b0 b1 b2
                  by_cases h32 : 32 < m1 + 1
                  · have h32i : (32 : Int) < (m1 : Int) + 1 := by omega
                    have hE8 := hE7.trans (hps.1 h32)
                    have hm9 := hm8.tail (by rw [List.length_append, List.length_singleton, ← HL1.out])
                    have hs9 := hm9.same_c hE8
                    have H9 := Lib.hid (And.intro hm9 hE8)
                    have HS9 := Lib.hid hs9
                    have hc1 : ¬ c = 1 := by omega
                    have hc2 : 1 ≤ c := by omega
                    clear hm8 hm9 hs9 hE8 hps hE7
                    go_wp2_with (first | (at_builtin; refine wpList_append_run HRUN.out rfl _ _ rfl rfl rfl rfl ?_) | (go_at_call 16; refine HS9.out.mono ?_; rintro e w9 ⟨rfl, hb9⟩))
                    refine ⟨⟨k + 1, rfl, by omega, _, (H9.out.1.on hb9).inv H9.out.2, by omega⟩, ?_⟩
                    simp [intOf]; omega
                  · have h32i : ¬ (32 : Int) < (m1 : Int) + 1 := by omega
                    have hE8 := hE7.trans (hps.2 h32)
                    have hs9 := hm8.same_c hE8
                    have H9 := Lib.hid (And.intro hm8 hE8)
                    have HS9 := Lib.hid hs9
                    clear hm8 hs9 hE8 hps hE7
                    go_wp2_with (first | (at_builtin; refine wpList_append_run HRUN.out rfl _ _ rfl rfl rfl rfl ?_) | (go_at_call 16; refine HS9.out.mono ?_; rintro e w9 ⟨rfl, hb9⟩))
                    refine ⟨⟨k + 1, rfl, by omega, _, (H9.out.1.on hb9).inv H9.out.2, by omega⟩, ?_⟩
                    simp [intOf]; omega)
            · have hg := hmV.get_c hEM hj0 hi
              obtain ⟨KL, hKL⟩ : ∃ KL, KL = M[j0].1.key := ⟨_, rfl⟩
              obtain ⟨g, off, c, hv, hglt, -, -, m2⟩ := hmV.lst.cells j0 hj0
              have hkby := (hmV.lst.each M[j0] (List.getElem_mem hj0)).2
              rw [← hKL] at hg m2 hkby
              generalize M[j0].2.ka = ka2 at m2 hkby
              generalize M[j0].2.kc = kc2 at m2
              obtain ⟨r, hrr⟩ : ∃ r, kk = j0 + 1 + r := ⟨kk - (j0 + 1), by have := HM.out; omega⟩
              obtain ⟨rfl, -, rfl⟩ : mo = some ⟨g, off, none⟩ ∧ True ∧ mc = c := by cases hv; exact ⟨rfl, trivial, rfl⟩
              have HG := Lib.hid hg
              have HV := Lib.hid (And.intro hmV (And.intro hEM (And.intro hi hr)))
              have HK := Lib.hid hkby
              clear hv hg hkby hKL hmV hmW hEM hi hr HS HR HX hXl HOO HZ x0 x1 y0 xlt ylt ho3' hj0
              subst hrr
              by_cases h4 : (t : Int) % 4 = 0
              · have h5 : (t : Int).tmod 4 = 0 := by rw [Int.tmod_eq_emod_of_nonneg (by omega)]; exact h4
                go_wp2_with (go_at_call 13; refine HG.out.mono ?_; rintro e w5 ⟨xo, xc, rfl, hxb, hb5⟩; have HV5 := Lib.hid (HV.out.1.on hb5); have n2 := (hb5.cell (p := ⟨g, off + j0 * 3 + 2, none⟩) hglt).trans m2; have v1 := fun nn => conv_bytes (hxb.kp (Kp.of_below [] (bdrew w5 nn)) (List.not_mem_nil)).byt xc; have v2 := fun nn => conv_bytes ((HK.out.kp (Kp.of_below [] hb5) (List.not_mem_nil)).kp (Kp.of_below [] (bdrew w5 nn)) (List.not_mem_nil)).byt kc2; clear hb5 hxb)
                go_quiet (fail)
                clear v1 v2 n2
                have h6 := HV5.out.on (bdrew w5 nq)
                generalize w5.drewN nq = V6 at *
                have hcap := h6.lst.cap
                have hcA : j0 ≤ mc := by omega
                have hcB : j0 + 1 ≤ mc := by omega
                have hx0 : (0 : Int) ≤ (j0 : Int) + 1 := by omega
                have hx1 : (j0 : Int) + 1 ≤ (j0 : Int) + 1 + (r : Int) := by omega
                obtain ⟨uo, uc, w8a, hrunA, o2, c2, w9a, hrunB, hm9⟩ := h6.head_c HM.out (by rw [← HM.out]; exact hm32)
                obtain ⟨m1, hm1⟩ : ∃ m1, m1 = j0 + r := ⟨_, rfl⟩
                obtain ⟨M1, hM1⟩ : ∃ M1, M1 = M.take j0 ++ M.drop (j0 + 1) := ⟨_, rfl⟩
                rw [← hm1] at hrunB hm9
                rw [← hM1] at hm9
                have c6 := (hm9.bel.cell (p := ⟨ab, aoff + k, none⟩) alt).trans acel
                have H6 : Hid (Mid2 w w9a sb xb fa ka n40 X [UInt8.ofNat k, UInt8.ofNat n] vs Es (.slice o2 m1 c2) M1 ∧ ridS (Es.map (·.1)) X n40 = M1.map (·.1) ∧ m1 = M1.length ∧ m1 ≤ 32) := ⟨hm9, by rw [HV.out.2.1, hM1]; exact HV.out.2.2.2, by
                  have := HM.out
                  rw [hm1, hM1, List.length_append, List.length_take, List.length_drop]
                  omega, by omega⟩
                have HIX : Hid (decide (0 ≤ idxS (Es.map (·.1)) X n40) = true) := by show _ = _; rw [HV.out.2.1, HV.out.2.2.1]; simp
                have HA := Lib.hid hrunA
                have HB := Lib.hid hrunB
                clear h6 HG HV HV5 hrunA hrunB hm9 hm1 hM1
                obtain ⟨b0, b1, b2⟩ := H6.out.1.cells
                have hd := H6.out.1.drop_c
                rw [HIX.out, H6.out.2.1] at hd
                have HD := Lib.hid hd
                clear hd
                go_wp2_with (first | (at_builtin; refine wpList_append_run HA.out rfl _ _ rfl rfl rfl rfl ?_) | (at_builtin; refine wpList_append_run HB.out rfl _ _ rfl rfl rfl rfl ?_) | (go_at_call 14; refine HD.out.mono ?_; rintro e w7 ⟨rfl, vs7, E7, hE7, hm7⟩; have HS7 := Lib.hid (hm7.same_c hE7); have H7 := Lib.hid (And.intro hE7 hm7); clear hE7 hm7) | (go_at_call 16; refine HS7.out.mono ?_; rintro e w8 ⟨rfl, hb8⟩))
                refine ⟨⟨k + 1, rfl, by omega, M1, (H7.out.2.on hb8).inv H7.out.1, by omega⟩, ?_⟩
                simp [intOf]; omega
              · have h5 : ¬ (t : Int).tmod 4 = 0 := by rw [Int.tmod_eq_emod_of_nonneg (by omega)]; exact h4
                go_wp2_with (go_at_call 13; refine HG.out.mono ?_; rintro e w5 ⟨xo, xc, rfl, hxb, hb5⟩; have HV5 := Lib.hid (HV.out.1.on hb5); have n2 := (hb5.cell (p := ⟨g, off + j0 * 3 + 2, none⟩) hglt).trans m2; have v1 := fun nn => conv_bytes (hxb.kp (Kp.of_below [] (bdrew w5 nn)) (List.not_mem_nil)).byt xc; have v2 := fun nn => conv_bytes ((HK.out.kp (Kp.of_below [] hb5) (List.not_mem_nil)).kp (Kp.of_below [] (bdrew w5 nn)) (List.not_mem_nil)).byt kc2; clear hb5 hxb)
                go_quiet (fail)
                clear v1 v2 n2
                have h6 := HV5.out.on (bdrew w5 nq)
                generalize w5.drewN nq = V6 at *
                have hcap := h6.lst.cap
                have hcA : j0 ≤ mc := by omega
                have hcB : j0 + 1 ≤ mc := by omega
                have hx0 : (0 : Int) ≤ (j0 : Int) + 1 := by omega
                have hx1 : (j0 : Int) + 1 ≤ (j0 : Int) + 1 + (r : Int) := by omega
                obtain ⟨uo, uc, w8a, hrunA, o2, c2, w9a, hrunB, hm9⟩ := h6.head_c HM.out (by rw [← HM.out]; exact hm32)
                obtain ⟨m1, hm1⟩ : ∃ m1, m1 = j0 + r := ⟨_, rfl⟩
                obtain ⟨M1, hM1⟩ : ∃ M1, M1 = M.take j0 ++ M.drop (j0 + 1) := ⟨_, rfl⟩
                rw [← hm1] at hrunB hm9
                rw [← hM1] at hm9
                have c6 := (hm9.bel.cell (p := ⟨ab, aoff + k, none⟩) alt).trans acel
                have H6 : Hid (Mid2 w w9a sb xb fa ka n40 X [UInt8.ofNat k, UInt8.ofNat n] vs Es (.slice o2 m1 c2) M1 ∧ ridS (Es.map (·.1)) X n40 = M1.map (·.1) ∧ m1 = M1.length ∧ m1 ≤ 32) := ⟨hm9, by rw [HV.out.2.1, hM1]; exact HV.out.2.2.2, by
                  have := HM.out
                  rw [hm1, hM1, List.length_append, List.length_take, List.length_drop]
                  omega, by omega⟩
                have HIX : Hid (decide (0 ≤ idxS (Es.map (·.1)) X n40) = true) := by show _ = _; rw [HV.out.2.1, HV.out.2.2.1]; simp
                have HA := Lib.hid hrunA
                have HB := Lib.hid hrunB
                clear h6 HG HV HV5 hrunA hrunB hm9 hm1 hM1
                obtain ⟨b0, b1, b2⟩ := H6.out.1.cells
                have HP := Lib.hid (H6.out.1.put_c)
                go_wp2_with (first | (at_builtin; refine wpList_append_run HA.out rfl _ _ rfl rfl rfl rfl ?_) | (at_builtin; refine wpList_append_run HB.out rfl _ _ rfl rfl rfl rfl ?_) | (go_at_call 15; refine HP.out.mono ?_; rintro e w7 ⟨rfl, vs7, E7, hE7, hm7⟩; refine Hid.out ?_))
                all_goals (
                  refine Lib.hid ?_
                  obtain ⟨d0, d1, d2⟩ := hm7.cells
                  obtain ⟨g, off, c, w8, hrun, hc, hm8⟩ := hm7.push_c (by have := H6.out.2.2.2; have := H6.out.2.2.1; omega)
                  have hps := putS_of X [UInt8.ofNat k, UInt8.ofNat n] n40 ⟨some ⟨fa, 0, none⟩, 1, some ⟨ka, 0, none⟩, 2⟩ M1 H6.out.2.1
                  rw [← H6.out.2.2.1] at hrun hc hm8 hps
                  have HRUN := Lib.hid hrun
                  clear hrun
                  have hm32' := H6.out.2.2.2
                  have HL1 := Lib.hid H6.out.2.2.1
                  clear hm7 HP H6 b0 b1 b2
                  by_cases h32 : 32 < m1 + 1
                  · have h32i : (32 : Int) < (m1 : Int) + 1 := by omega
                    have hE8 := hE7.trans (hps.1 h32)
                    have hm9 := hm8.tail (by rw [List.length_append, List.length_singleton, ← HL1.out])
                    have hs9 := hm9.same_c hE8
                    have H9 := Lib.hid (And.intro hm9 hE8)
                    have HS9 := Lib.hid hs9
                    have hc1 : ¬ c = 1 := by omega
                    have hc2 : 1 ≤ c := by omega
                    clear hm8 hm9 hs9 hE8 hps hE7
                    go_wp2_with (first | (at_builtin; refine wpList_append_run HRUN.out rfl _ _ rfl rfl rfl rfl ?_) | (go_at_call 16; refine HS9.out.mono ?_; rintro e w9 ⟨rfl, hb9⟩))
                    refine ⟨⟨k + 1, rfl, by omega, _, (H9.out.1.on hb9).inv H9.out.2, by omega⟩, ?_⟩
                    simp [intOf]; omega
                  · have h32i : ¬ (32 : Int) < (m1 : Int) + 1 := by omega
                    have hE8 := hE7.trans (hps.2 h32)
                    have hs9 := hm8.same_c hE8
                    have H9 := Lib.hid (And.intro hm8 hE8)
                    have HS9 := Lib.hid hs9
                    clear hm8 hs9 hE8 hps hE7
                    go_wp2_with (first | (at_builtin; refine wpList_append_run HRUN.out rfl _ _ rfl rfl rfl rfl ?_) | (go_at_call 16; refine HS9.out.mono ?_; rintro e w9 ⟨rfl, hb9⟩))
                    refine ⟨⟨k + 1, rfl, by omega, _, (H9.out.1.on hb9).inv H9.out.2, by omega⟩, ?_⟩
                    simp [intOf]; omega)
      · obtain ⟨M, hI, -⟩ := HX.out
        obtain ⟨vs, Es, hS, hE, -⟩ := hI.st
        have hlen : Es.length = M.length := by rw [← List.length_map (f := (·.1)), hE, List.length_map]
        have hM32 := hI.len
        have hcp := copy_any wr w.heap.size sb vs Es hS (by omega) (hI.ok.small Es hE)
        have hsm := fun (W : World) (hb : Below wr.heap.size wr W) => same_any W w.heap.size sb vs u8 Es M (hS.on hb) (hI.ls.on hb) hE (by omega) (hI.ok.small Es hE)
        have hlast := hI.ok.last (by rw [List.length_map]; exact hM32)
        rw [List.length_map] at hlast
        obtain ⟨mo, mc, rfl⟩ := hI.ls.slice
        obtain ⟨m, hm⟩ : ∃ m, m = M.length := ⟨_, rfl⟩
        have HCP := Lib.hid hcp
        have HE := Lib.hid (And.intro hE (And.intro hI.bel hI.ok))
        rw [← hm] at hsm hlast hM32 ⊢
        have HSM := Lib.hid hsm
        obtain ⟨L, hL, hLL⟩ : ∃ L, L = (if m < 32 then m + 1 else 32) ∧ ((m < 32 ∧ L = m + 1) ∨ (m = 32 ∧ L = 32)) := ⟨_, rfl, by split <;> omega⟩
        rw [← hL] at hlast
        have HLAST := Lib.hid hlast
        have HM := Lib.hid hm
        clear hcp hsm hlast hS hI HX hE hlen hm hL
        have hcs : ¬ (k : Int) < p ∨ ((k : Int) < p ∧ ¬ (k : Int) < q) ∨ ((k : Int) < p ∧ (k : Int) < q ∧ ¬ (k : Int) < a) := by omega
        rcases hcs with h1 | ⟨h1, h2⟩ | ⟨h1, h2, h3⟩
        all_goals rcases hLL with ⟨h32, rfl⟩ | ⟨rfl, rfl⟩
        all_goals (
          go_wp2_with (first
            | (go_at_call 17; refine HCP.out.mono ?_; rintro e w3 ⟨cb, v3, F, rfl, hF, hS3, hb3⟩; have H3 := Lib.hid (And.intro hF (And.intro hS3 hb3)); clear hF hS3 hb3)
            | (go_at_call 15; refine Hid.out ?_))
          refine Lib.hid ?_
          obtain ⟨hF, hS3, hb3⟩ := H3.out
          have b4 := Joins.below_alloc1 w3 (.cells #[.int .u8 9] 5)
          have r4 := heap_alloc_new w3 (.cells #[.int .u8 9] 5)
          have hb4 := hb3.trans (b4.mono hb3.size)
          have hpu : Calls Tryd.prog 15 #[.pointer (some ⟨cb, 0, none⟩), .agg #[.slice (some ⟨w3.heap.size, 0, none⟩) 1 1, .int .u32 9, .slice none 0 0]] _ _ := put_st _ wr.heap.size cb (M.map (·.1)) ⟨[9], 9, []⟩ ⟨some ⟨w3.heap.size, 0, none⟩, 1, none, 0⟩ ⟨v3, F, hS3.on b4, hF.trans HE.out.1⟩ (by_one _ _ 9 (0, 0) r4) ⟨.inl rfl⟩ (by simp) (by decide) (by rw [List.length_map, ← HM.out]; exact hM32) hb4.size
          have HPU := Lib.hid hpu
          have HB4 := Lib.hid hb4
          clear hpu hF hS3 hb3 b4 r4 hb4 H3 HCP
          go_wp2_with (first
            | (go_at_call 15; refine HPU.out.mono ?_; rintro e w5 ⟨rfl, hS5, hb5, -⟩; have HB5 := Lib.hid (HB4.out.trans hb5); have HS5 := Lib.hid hS5; have HSM5 := Lib.hid (HSM.out w5 HB5.out); clear hb5 hS5 HPU)
            | (go_at_call 16; refine HSM5.out.mono ?_; rintro e w6 ⟨rfl, hb6⟩; have HLN := len_st w6 wr.heap.size cb _ (HS5.out.on hb6); rw [HLAST.out] at HLN; have HLEN := Lib.hid HLN; have HB6 := Lib.hid (HB5.out.trans (hb6.mono HB5.out.size)); clear hb6 HLN)
            | (go_at_call 12; refine HLEN.out.mono ?_; rintro e w7 ⟨rfl, hw⟩; obtain rfl := hw.symm; refine Hid.out ?_))
          refine Lib.hid ?_
          go_wp2
          go_ret
          exact ⟨by simp, HE.out.2.1.trans (HB6.out.mono HE.out.2.1.size)⟩)
end Go.Proofs.YteojlnbonhipbaaDoor
