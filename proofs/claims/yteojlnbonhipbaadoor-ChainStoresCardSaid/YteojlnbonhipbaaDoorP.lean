/- The primitives over terms: a term put, a key read. -/
import Derived.Test.YteojlnbonhipbaaDoorOa
namespace Go.Proofs.YteojlnbonhipbaaDoor
open Go.RowKit Go.Maps
def TK : List (Option TypeId) := [some 83, some 130, none]
theorem Kp.tk {w w' : World} (h : Kp TK w w') : Kp PK w w' := h.mono (by decide)
/-- A table of these terms. -/
def Tb (w : World) (B tb : Nat) (L : List Tm) : Prop := ∃ tv mv E, Tab w B tb tv mv E ∧ E.map (·.1) = L
theorem Tb.on {w w' : World} {B tb : Nat} {L : List Tm} (h : Tb w B tb L) (hb : Below w.heap.size w w') : Tb w' B tb L := by
  obtain ⟨tv, mv, E, h1, h2⟩ := h
  exact ⟨tv, mv, E, h1.on hb, h2⟩
theorem Tb.lt {w : World} {B tb : Nat} {L : List Tm} (h : Tb w B tb L) : B ≤ tb ∧ tb < w.heap.size := by
  obtain ⟨tv, mv, E, h1, -⟩ := h
  exact ⟨h1.tbB, h1.lt⟩
theorem Tb.kp {ts : List (Option TypeId)} {w w' : World} {B tb : Nat} {L : List Tm} (h : Tb w B tb L) (k : Kp ts w w') (h1 : some 83 ∉ ts) (h2 : some 130 ∉ ts) (h3 : none ∉ ts) : Tb w' B tb L := by
  obtain ⟨tv, mv, E, h, e⟩ := h
  refine ⟨tv, mv, E, ⟨h.tbB, k.cells h.row h1, k.owns h.own h2, h.ne, h.each, h.nodup, ?_⟩, e⟩
  rcases h.mp with q | ⟨mb, D, q1, q2, q3, q4, ⟨es, c, q5, q6⟩, q7⟩
  · exact .inl q
  · exact .inr ⟨mb, D, q1, q2, q3, q4, ⟨es, c, k.keep mb _ q5 h3, q6⟩, q7⟩
/-- The terms, one put. -/
def ins (L : List Tm) (t : Tm) : List Tm := if t ∈ L then L else L ++ [t]
theorem ins_len (L : List Tm) (t : Tm) : L.length ≤ (ins L t).length ∧ (ins L t).length ≤ L.length + 1 := by
  unfold ins
  split <;> simp
theorem ins_pre (L : List Tm) (t : Tm) : L <+: ins L t := by
  unfold ins
  split
  · exact List.prefix_rfl
  · exact List.prefix_append _ _
theorem ins_lt (L : List Tm) (t : Tm) : L.idxOf t < (ins L t).length := by
  unfold ins
  by_cases h : t ∈ L
  · rw [if_pos h]; exact List.idxOf_lt_length_iff.2 h
  · rw [if_neg h, List.idxOf_eq_length h]; simp
theorem ins_mem (L : List Tm) (t : Tm) : t ∈ ins L t := by
  unfold ins
  by_cases h : t ∈ L
  · rw [if_pos h]; exact h
  · rw [if_neg h]; simp
/-- What a put returns, where the bytes are wanted. -/
theorem put_tb (t : Tm) (hf : Fit t) (ao : Option Addr) (cap : Nat) (w : World) (hN : Nums w ao t.of) (B tb : Nat) (L : List Tm) (hT : Tb w B tb L) (hB : B ≤ w.heap.size) (hL : L.length ≤ 1048576) :
    Calls Tryd.prog 93 #[.pointer (some ⟨tb, 0, none⟩), .agg #[.int .u8 t.k, .slice ao t.of.length cap, .string ⟨t.tx.toArray⟩, .int .i64 t.n]] w fun e w' => e = .returned (.int .i64 (L.idxOf t : Nat)) ∧ Tb w' B tb (ins L t) ∧ Below B w w' ∧ Kp TK w w' := by
  obtain ⟨tv, mv, E, hE, rfl⟩ := hT
  have hnd := hE.nodup
  refine (put_frame t hf ao cap w (gv w) hN B tb tv mv E hE hB (by simpa using hL)).mono ?_
  rintro e w' ⟨j, tv', mv', E', rfl, h1, h2, h3, h4⟩
  have hk : Kp TK w w' := by
    refine ⟨h2.size, fun b o hb ht => ?_⟩
    have hlt := (Array.getElem?_eq_some_iff.1 hb).1
    refine ((h4 b hlt ?_).1).trans hb
    rintro (rfl | hr | hm)
    · rw [hE.row] at hb
      cases hb
      exact ht (show some 83 ∈ TK by decide)
    · rcases hE.own.2 with ⟨rfl, -⟩ | ⟨g, cap', cur, rfl, -, hc, -⟩
      · cases hr
      · injection hr with hr
        have hr : g = b := hr
        rw [hr, hb] at hc
        cases hc
        exact ht (show some 130 ∈ TK by decide)
    · rcases hE.mp with ⟨rfl, -⟩ | ⟨mb, D, rfl, -, -, -, ⟨es, c, q5, -⟩, -⟩
      · cases hm
      · injection hm with hm
        injection hm with hm
        rw [hm, hb] at q5
        cases q5
        exact ht (show none ∈ TK by decide)
  rcases h3 with ⟨rfl, hj, hjt⟩ | ⟨hn, rfl, a, c, rfl, -⟩
  · have hm : t ∈ E'.map (·.1) := hjt ▸ List.mem_map_of_mem (List.getElem_mem hj)
    have hi : (E'.map (·.1)).idxOf t = j := by
      have h5 : (E'.map (·.1))[j]'(by simpa using hj) = t := by simpa using hjt
      rw [← h5]
      exact hnd.idxOf_getElem _ _
    refine ⟨by rw [hi], ⟨tv', mv', E', h1, ?_⟩, h2, hk⟩
    unfold ins
    rw [if_pos hm]
  · refine ⟨by rw [List.idxOf_eq_length hn, List.length_map], ⟨tv', mv', _, h1, ?_⟩, h2, hk⟩
    unfold ins
    rw [if_neg hn, List.map_append]
    rfl
set_option maxHeartbeats 2000000 in
/-- A term put by the primitives: the bytes of its place. -/
theorem tput_any (t : Tm) (hf : Fit t) (ao : Option Addr) (cap : Nat) (w : World) (hN : Nums w ao t.of) (B tb : Nat) (L : List Tm) (hT : Tb w B tb L) (hB : B ≤ w.heap.size) (hL : L.length ≤ 1048576) :
    Calls Tryd.prog 89 #[.agg #[.pointer (some ⟨tb, 0, none⟩)], .agg #[.int .u8 t.k, .slice ao t.of.length cap, .string ⟨t.tx.toArray⟩, .int .i64 t.n]] w fun e w' => ∃ g, e = .returned (.slice (some ⟨g, 0, none⟩) 32 32) ∧ w.heap.size ≤ g ∧ By w' (some ⟨g, 0, none⟩) (keyB (L.idxOf t)) ∧ Tb w' B tb (ins L t) ∧ Below B w w' ∧ Kp TK w w' := by
  have hb0 := Joins.below_alloc2 w (.cells #[.pointer (some ⟨tb, 0, none⟩)] 73) (.cells #[.int .u8 t.k, .slice ao t.of.length cap, .string ⟨t.tx.toArray⟩, .int .i64 t.n] 130)
  have hput := put_tb t hf ao cap _ (hN.on hb0 (Nat.le_refl _)) B tb L (hT.on hb0) (Nat.le_trans hB hb0.size) hL
  have hil : (L.idxOf t : Nat) ≤ 1048576 := Nat.le_trans List.idxOf_le_length hL
  have c0 : ((w.alloc (.cells #[.pointer (some ⟨tb, 0, none⟩)] 73)).alloc (.cells #[.int .u8 t.k, .slice ao t.of.length cap, .string ⟨t.tx.toArray⟩, .int .i64 t.n] 130)).cell? ⟨w.heap.size, 0, none⟩ = some (.pointer (some ⟨tb, 0, none⟩)) := by
    rw [cell_of_row _ _ _ _ _ _ ((Below.heap_alloc _ _ w.heap.size (by simp)).trans (heap_alloc_new w _))]; rfl
  obtain ⟨n, hn⟩ : ∃ n, n = t.of.length := ⟨_, rfl⟩
  obtain ⟨s, hs⟩ : ∃ s : ByteArray, s = ⟨t.tx.toArray⟩ := ⟨_, rfl⟩
  obtain ⟨i, hi⟩ : ∃ i : Nat, i = L.idxOf t := ⟨_, rfl⟩
  rw [← hn, ← hs] at hput hb0 c0 ⊢
  rw [← hi] at hput hil ⊢
  have HP := Lib.hid hput
  have HB := Lib.hid hb0
  clear hput hb0 hT hN hn hs hi hf
  generalize t.k = k at *
  generalize t.n = m at *
  go_enter Tryd.func89, Tryd.ntmps89
  go_wp2_with (first
    | (go_at_call 93; refine HP.out.mono ?_; rintro e w1 ⟨rfl, hT1, hb1, hk1⟩; have hby := bytes_any w1 i i (by rw [IntKind.wrap_u64]; omega); have HBy := Lib.hid hby; have HR := Lib.hid (And.intro hT1 (And.intro hb1 hk1)); clear hby hT1 hb1 hk1)
    | (go_at_call 92; refine HBy.out.mono ?_; rintro e w2 ⟨rfl, hr2, hb2⟩))
  go_ret
  obtain ⟨hT1, hb1, hk1⟩ := HR.out
  have hw0 := HB.out
  refine ⟨w1.heap.size, rfl, ?_, keyB_row hr2, hT1.on hb2, ((hw0.mono hB).trans hb1).trans (hb2.mono (Nat.le_trans hB (Nat.le_trans hw0.size hb1.size))), ((Kp.of_below TK hw0).trans hk1).trans (Kp.of_below TK hb2)⟩
  exact Nat.le_trans hw0.size hb1.size
end Go.Proofs.YteojlnbonhipbaaDoor
