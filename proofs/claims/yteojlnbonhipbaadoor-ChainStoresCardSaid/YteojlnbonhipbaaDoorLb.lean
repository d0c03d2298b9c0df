/- A store: Copy. A list of keys: the same as a store's. -/
import Derived.Test.YteojlnbonhipbaaDoorLa
import Derived.Deep.QuietTactic
import Derived.BigQuiet
namespace Go.Proofs.YteojlnbonhipbaaDoor
open Go.RowKit Go.Maps
theorem Rw.owns {w : World} {g N B : Nat} {F : List Se} (h : Rw w g N N F) (hB : B ≤ g) (hN : N ≤ 1000000) : w.ownsRow B 47 3 (.slice (some ⟨g, 0, none⟩) N N) N (sflat F) := by
  obtain ⟨cur, h1, h2, h3⟩ := h.blk
  have hl : (sflat F).length = N * 3 := by rw [sflat_len, h.len]
  refine ⟨hl, .inr ⟨g, N, cur, rfl, hB, h1, Nat.le_refl _, by unfold maxLen; omega, by omega, ?_⟩⟩
  refine List.ext_getElem? fun j => ?_
  by_cases hj : j < N * 3
  · rw [List.getElem?_take_of_lt hj, Array.getElem?_toList, h3 j hj]
  · rw [List.getElem?_eq_none (by rw [List.length_take]; omega), List.getElem?_eq_none (by omega)]
set_option maxHeartbeats 4000000 in
theorem copy_any (w : World) (B sb : Nat) (v : Value) (E : List Se) (hS : Sto w B sb v E) (hl : E.length ≤ 1000000) (hb : ∀ e ∈ E, e.1.of.length ≤ 1048576 ∧ e.1.key.length ≤ 1048576) :
    Calls Tryd.prog 17 #[.pointer (some ⟨sb, 0, none⟩)] w fun x w' => ∃ b v' F, x = .returned (.pointer (some ⟨b, 0, none⟩)) ∧ F.map (·.1) = E.map (·.1) ∧ Sto w' w.heap.size b v' F ∧ Below w.heap.size w w' := by
  have HA := Lib.hid (sall_any w B sb v E hS hl hb)
  have HN := Lib.hid (And.intro hl hS.sbB)
  clear hS hb hl
  generalize hN : E.length = N at *
  go_enter Tryd.func17, Tryd.ntmps17
  go_wp2_with (go_at_call 18; refine HA.out.mono ?_; rintro e w1 ⟨rfl, F, h1, h2, h3⟩; have HX := Lib.hid (And.intro h1 (And.intro h2 h3)); clear h1 h2 h3)
  go_ret
  obtain ⟨h1, h2, h3⟩ := HX.out
  have b1 := Joins.below_alloc1 w1 (.cells #[.slice (some ⟨w.heap.size, 0, none⟩) N N] 38)
  have h4 := h2.on b1
  exact ⟨w1.heap.size, .slice (some ⟨w.heap.size, 0, none⟩) N N, F, rfl, h1, ⟨h3.size, heap_alloc_new w1 _, (by rw [h2.len]; exact h4.owns (Nat.le_refl _) HN.out.1), h4.each⟩, h3.trans (b1.mono h3.size)⟩
theorem bdrew (w : World) (n : Nat) : Below w.heap.size w (w.drewN n) := ⟨rfl, rfl, rfl, Nat.le_refl _, fun _ _ => rfl⟩
/-- A list of keys: a slice that may begin within its row. -/
structure Lst (w : World) (B : Nat) (v : Value) (M : List Se) : Prop where
  at_ : (v = .slice none 0 0 ∧ M = []) ∨ ∃ g off cap cur, v = .slice (some ⟨g, off, none⟩) M.length cap ∧ B ≤ g ∧ w.heap[g]? = some (.cells cur 47 (0, 0)) ∧ M.length ≤ cap ∧ off + cap * 3 ≤ cur.size ∧ ∀ j, j < M.length * 3 → cur[off + j]? = (sflat M)[j]?
  each : ∀ e ∈ M, By w e.2.oa e.1.of ∧ By w e.2.ka e.1.key
theorem Lst.slice {w : World} {B : Nat} {v : Value} {M : List Se} (h : Lst w B v M) : ∃ ao cap, v = .slice ao M.length cap := by
  rcases h.at_ with ⟨rfl, rfl⟩ | ⟨g, off, cap, cur, rfl, -⟩
  · exact ⟨none, 0, rfl⟩
  · exact ⟨_, cap, rfl⟩
theorem Lst.on {w w' : World} {B : Nat} {v : Value} {M : List Se} (h : Lst w B v M) (hb : Below w.heap.size w w') : Lst w' B v M := by
  refine ⟨h.at_.imp id ?_, fun e he => ⟨(h.each e he).1.kp (Kp.of_below [] hb) (List.not_mem_nil), (h.each e he).2.kp (Kp.of_below [] hb) (List.not_mem_nil)⟩⟩
  rintro ⟨g, off, cap, cur, h1, h2, h3, h4⟩
  exact ⟨g, off, cap, cur, h1, h2, (hb.block g (Array.getElem?_eq_some_iff.1 h3).1).trans h3, h4⟩
theorem Lst.cells {w : World} {B : Nat} {v : Value} {M : List Se} (h : Lst w B v M) (i : Nat) (hi : i < M.length) :
    ∃ g off c, v = .slice (some ⟨g, off, none⟩) M.length c ∧ g < w.heap.size ∧ w.cell? ⟨g, off + i * 3, none⟩ = some (.slice M[i].2.oa M[i].1.of.length M[i].2.oc) ∧ w.cell? ⟨g, off + i * 3 + 1, none⟩ = some (.int .u32 M[i].1.n) ∧ w.cell? ⟨g, off + i * 3 + 2, none⟩ = some (.slice M[i].2.ka M[i].1.key.length M[i].2.kc) := by
  rcases h.at_ with ⟨-, rfl⟩ | ⟨g, off, cap, cur, rfl, hg, hc, h1, h2, h3⟩
  · exact absurd hi (Nat.not_lt_zero _)
  · have hcell : ∀ r, r < 3 → w.cell? ⟨g, off + i * 3 + r, none⟩ = (skV M[i])[r]? := fun r hr => by
      rw [cell_of_row w g _ cur 47 (0, 0) hc, ← sflat_get M i r hi hr, Nat.add_assoc, h3 _ (by omega)]
    exact ⟨g, off, cap, rfl, (Array.getElem?_eq_some_iff.1 hc).1, hcell 0 (by omega), hcell 1 (by omega), hcell 2 (by omega)⟩
theorem Rw.cells {w : World} {g N : Nat} {F : List Se} (h : Rw w g N N F) (i : Nat) (hi : i < F.length) :
    w.cell? ⟨g, i * 3, none⟩ = some (.slice F[i].2.oa F[i].1.of.length F[i].2.oc) ∧ w.cell? ⟨g, i * 3 + 1, none⟩ = some (.int .u32 F[i].1.n) ∧ w.cell? ⟨g, i * 3 + 2, none⟩ = some (.slice F[i].2.ka F[i].1.key.length F[i].2.kc) := by
  obtain ⟨cur, h1, h2, h3⟩ := h.blk
  have hl := h.len
  have hcell : ∀ r, r < 3 → w.cell? ⟨g, i * 3 + r, none⟩ = (skV F[i])[r]? := fun r hr => by
    rw [cell_of_row w g _ cur 47 (0, 0) h1, ← sflat_get F i r hi hr, h3 _ (by omega)]
  exact ⟨hcell 0 (by omega), hcell 1 (by omega), hcell 2 (by omega)⟩
set_option maxRecDepth 20000 in
set_option maxHeartbeats 8000000 in
theorem same_any (w : World) (B sb : Nat) (v vm : Value) (E M : List Se) (hS : Sto w B sb v E) (hM : Lst w B vm M) (hEM : E.map (·.1) = M.map (·.1)) (hl : E.length ≤ 1000000) (hb : ∀ e ∈ E, e.1.of.length ≤ 1048576 ∧ e.1.key.length ≤ 1048576) :
    Calls Tryd.prog 16 #[.pointer (some ⟨sb, 0, none⟩), vm] w fun x w' => x = .returned (.bool true) ∧ Below w.heap.size w w' := by
  have hlen : E.length = M.length := by rw [← List.length_map (f := (·.1)), hEM, List.length_map]
  have HA := Lib.hid (sall_any w B sb v E hS hl hb)
  have HLN := Lib.hid (fun W (h : Below w.heap.size w W) => slen_any W B sb v E (hS.on h))
  have HM := Lib.hid hM
  have HEM := Lib.hid hEM
  obtain ⟨ao, cap, rfl⟩ := hM.slice
  obtain ⟨N, hN⟩ : ∃ N, N = M.length := ⟨_, rfl⟩
  rw [hlen, ← hN] at HA HLN
  rw [hlen, ← hN] at hl
  have HN := Lib.hid hN
  rw [← hN]
  clear hN
  clear hS hM hEM hb hlen
  go_enter Tryd.func16, Tryd.ntmps16
  go_wp2_with (first
    | (go_at_call 18; refine HA.out.mono ?_; rintro e w1 ⟨rfl, F, h1, h2, h3⟩; have HL1 := Lib.hid (HLN.out w1 h3); have HX := Lib.hid (And.intro h1 (And.intro h2 h3)); clear h1 h2 h3)
    | (go_at_call 12; refine HL1.out.mono ?_; rintro e w2 ⟨rfl, hw⟩; obtain rfl := hw.symm))
  obtain ⟨hFE, hRw, hb⟩ := HX.out
  have hFM : F.map (·.1) = M.map (·.1) := hFE.trans HEM.out
  have hcell : ∀ (W : World), Below w1.heap.size w1 W → ∀ i, i < N → ∃ (x : Sk) (t u : Sl) (g off c : Nat), Value.slice ao N cap = .slice (some ⟨g, off, none⟩) N c ∧ W.cell? ⟨w.heap.size, i * 3, none⟩ = some (.slice t.oa x.of.length t.oc) ∧ W.cell? ⟨w.heap.size, i * 3 + 1, none⟩ = some (.int .u32 x.n) ∧ W.cell? ⟨w.heap.size, i * 3 + 2, none⟩ = some (.slice t.ka x.key.length t.kc) ∧
      W.cell? ⟨g, off + i * 3, none⟩ = some (.slice u.oa x.of.length u.oc) ∧ W.cell? ⟨g, off + i * 3 + 1, none⟩ = some (.int .u32 x.n) ∧ W.cell? ⟨g, off + i * 3 + 2, none⟩ = some (.slice u.ka x.key.length u.kc) ∧ Byt W t.oa x.of ∧ Byt W t.ka x.key ∧ Byt W u.oa x.of ∧ Byt W u.ka x.key := by
    intro W hW i hi
    have hiF : i < F.length := by rw [hRw.len]; exact hi
    have hiM : i < M.length := by rw [← HN.out]; exact hi
    have hM1 := (HM.out.on hb).on hW
    have hR1 := hRw.on hW
    obtain ⟨a0, a1, a2⟩ := hR1.cells i hiF
    obtain ⟨g, off, c, hv, -, m0, m1, m2⟩ := hM1.cells i hiM
    have e1 : F[i].1 = M[i].1 := by
      have h := congrArg (fun l => l[i]?) hFM
      simpa [List.getElem?_eq_getElem hiF, List.getElem?_eq_getElem hiM] using h
    have hf := hR1.each F[i] (List.getElem_mem hiF)
    have hm := hM1.each M[i] (List.getElem_mem hiM)
    rw [← e1] at m0 m1 m2 hm
    exact ⟨F[i].1, F[i].2, M[i].2, g, off, c, by rw [HN.out]; exact hv, a0, a1, a2, m0, m1, m2, hf.1.byt, hf.2.byt, hm.1.byt, hm.2.byt⟩
  have HC := Lib.hid hcell
  have HB := Lib.hid hb
  clear hcell hFE hRw hb hFM HX HM HEM HA HLN HL1
  go_loopw [6] (fun i wr => ∃ k : Nat, i = .int .i64 k ∧ k ≤ N ∧ Hid (Below w1.heap.size w1 wr))
    (fun i _ => N - (intOf i).toNat)
  case atStart => exact ⟨0, rfl, Nat.zero_le _, Below.refl _ _⟩
  case round =>
    obtain ⟨k, rfl, hk, HX⟩ := hrel
    by_cases hkN : k < N
    · have hk1 : (k : Int) < N := by omega
      obtain ⟨x, t, u, g, off, c, hv, a0, a1, a2, m0, m1, m2, y1, y2, y3, y4⟩ := HC.out wr HX.out k hkN
      obtain ⟨rfl, -, rfl⟩ : ao = some ⟨g, off, none⟩ ∧ True ∧ cap = c := by cases hv; exact ⟨rfl, trivial, rfl⟩
      have v1 := fun n => conv_bytes (y1.on (bdrew wr n) (Nat.le_refl _)) t.oc
      have v2 := fun n => conv_bytes (y2.on (bdrew wr n) (Nat.le_refl _)) t.kc
      have v3 := fun n => conv_bytes (y3.on (bdrew wr n) (Nat.le_refl _)) u.oc
      have v4 := fun n => conv_bytes (y4.on (bdrew wr n) (Nat.le_refl _)) u.kc
      clear y1 y2 y3 y4 HC hv
      go_wp2
      go_quiet (fail)
      go_wp2
      refine ⟨⟨k + 1, rfl, hkN, ?_⟩, ?_⟩
      · exact HX.out.trans ((bdrew wr nq).mono HX.out.size)
      · simp [intOf]; omega
    · obtain rfl : k = N := by omega
      have hk1 : ¬ (k : Int) < k := by omega
      go_wp2
      go_ret
      exact ⟨rfl, HB.out.trans (HX.out.mono HB.out.size)⟩
end Go.Proofs.YteojlnbonhipbaaDoor
