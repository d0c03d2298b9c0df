/- A store: remove, Drop. -/
import Derived.Test.YteojlnbonhipbaaDoorYa
namespace Go.Proofs.YteojlnbonhipbaaDoor
open Go.RowKit Go.Maps
/-- What a store's function leaves. -/
structure Sop (B sb : Nat) (v : Value) (w : World) (E : List Se) (w' : World) : Prop where
  fr : ∀ b, b < w.heap.size → b ≠ sb → v.ownBlock ≠ some b → w'.heap[b]? = w.heap[b]?
  sto : ∃ v', Sto w' B sb v' E ∧ (v'.ownBlock = v.ownBlock ∨ ∃ g, v'.ownBlock = some g ∧ w.heap.size ≤ g)
  below : Below B w w'
  kp : Kp SK w w'
theorem Kp.s47 {w w' : World} (h : Kp [some 47] w w') : Kp SK w w' := h.mono (by decide)
theorem Kp.s38 {w w' : World} (h : Kp [some 38] w w') : Kp SK w w' := h.mono (by decide)
set_option maxHeartbeats 4000000 in
theorem remove_any (w : World) (B sb : Nat) (v : Value) (E : List Se) (k M : Nat) (hS : Sto w B sb v E) (hN : E.length = k + 1 + M) (hl : E.length ≤ 1048576) :
    Calls Tryd.prog 25 #[.pointer (some ⟨sb, 0, none⟩), .int .i64 k] w fun e w' => e = .returned (.tuple #[]) ∧ Sop B sb v w (E.take k ++ E.drop (k + 1)) w' := by
  have hd := delete_any w B v E k M hS.own hN hl
  have c0 : w.cell? ⟨sb, 0, none⟩ = some v := by rw [cell_of_row _ _ _ _ _ _ hS.row]; rfl
  have hw1 : wrap64 ((k : Int) + 1) = (k : Int) + 1 := by unfold wrap64; omega
  obtain ⟨vo, vc, rfl⟩ := own_slice hS.own
  have HS := Lib.hid hS
  obtain ⟨N, hNN⟩ : ∃ N, N = E.length := ⟨_, rfl⟩
  rw [← hNN] at hd c0 hN hl
  have HD := Lib.hid hd
  have HN := Lib.hid (And.intro hNN hN)
  clear hS hd hN hNN
  go_enter Tryd.func25, Tryd.ntmps25
  go_wp2_with (go_at_call 32; refine HD.out.mono ?_; rintro e w1 ⟨v', rfl, hown, hk, hb, hfr, hob⟩; refine Hid.out ?_)
  refine Lib.hid ?_
  have hS := HS.out
  have hr := hk.cells hS.row (by decide)
  have f0 : w1.frozen? ⟨sb, 0, none⟩ = false := by simp [World.frozen?, hr]
  have d0 : w1.cell? ⟨sb, 0, none⟩ = some (.slice vo N vc) := by rw [cell_of_row _ _ _ _ _ _ hr, HN.out.1]; rfl
  obtain ⟨vo2, vc2, rfl⟩ := own_slice hown
  have HX := Lib.hid (And.intro hown (And.intro hk (And.intro hb (And.intro hr (And.intro hfr hob)))))
  clear hown hk hb hr hS hfr hob
  go_wp2
  refine bodyPost_end (results_none rfl _ _ _) rfl ?_
  obtain ⟨hown, hk, hb, hr, hfr, hob⟩ := HX.out
  have k2 := Kp.set (i := 0) hr (.slice vo2 (k + M) vc2)
  have hr2 := heap_setCell_same w1 sb 0 _ 38 (.slice vo2 (k + M) vc2) hr
  have hlen : (E.take k ++ E.drop (k + 1)).length = k + M := by rw [List.length_append, List.length_take, List.length_drop, ← HN.out.1, HN.out.2]; omega
  refine ⟨rfl, (fun b _ h1 h2 => (Below.heap_setCell _ _ _ _ h1).trans (hfr b (by rw [HN.out.1]; exact h2))), ⟨_, ⟨HS.out.sbB, hr2, by rw [hlen]; exact k2.owns hown (by decide), fun e he => ?_⟩, .inl (by rw [← HN.out.1]; exact hob)⟩, hb.setCell (p := ⟨sb, 0, none⟩) HS.out.sbB _, hk.s47.trans k2.s38⟩
  have he2 : e ∈ E := by
    rcases List.mem_append.1 he with h | h
    · exact List.mem_of_mem_take h
    · exact List.mem_of_mem_drop h
  have h := HS.out.each e he2
  exact ⟨(h.1.kp hk (by decide)).kp k2 (by decide), (h.2.kp hk (by decide)).kp k2 (by decide)⟩
/-- The keys without one. -/
def rid (E : List Se) (P : List UInt8) (n : Nat) : List Se := E.eraseIdx (E.findIdx (fun e => hit P n e.1))
theorem rid_miss (E : List Se) (P : List UInt8) (n : Nat) (h : ¬ 0 ≤ idx E P n) : rid E P n = E := by
  unfold idx at h
  split at h
  · omega
  · rename_i h2
    exact List.eraseIdx_of_length_le (by omega)
theorem rid_hit (E : List Se) (P : List UInt8) (n : Nat) (h : 0 ≤ idx E P n) : ∃ k M, idx E P n = (k : Nat) ∧ E.length = k + 1 + M ∧ rid E P n = E.take k ++ E.drop (k + 1) := by
  unfold idx at h ⊢
  split at h
  · rename_i h2
    rw [if_pos h2]
    exact ⟨_, E.length - E.findIdx (fun e => hit P n e.1) - 1, rfl, by omega, List.eraseIdx_eq_take_drop_succ _ _⟩
  · omega
set_option maxHeartbeats 4000000 in
theorem drop_any (w : World) (B sb : Nat) (v : Value) (E : List Se) (P : List UInt8) (fo : Option Addr) (fc n : Nat) (hS : Sto w B sb v E) (hP : Byt w fo P) (hl : E.length ≤ 1048576) (hB : B ≤ w.heap.size) :
    Calls Tryd.prog 14 #[.pointer (some ⟨sb, 0, none⟩), .slice fo P.length fc, .int .u32 n] w fun e w' => e = .returned (.bool (decide (0 ≤ idx E P n))) ∧ Sop B sb v w (rid E P n) w' := by
  have hf := find_any w B sb v E P fo fc n hS hP hl
  by_cases h0 : 0 ≤ idx E P n
  · obtain ⟨k, M, h1, h2, h3⟩ := rid_hit E P n h0
    have hrm := fun w1 (hb : Below w.heap.size w w1) => remove_any w1 B sb v E k M (hS.on hb) h2 hl
    rw [← h3] at hrm
    have hd : decide (0 ≤ idx E P n) = true := by simp [h0]
    rw [hd] at hf ⊢
    rw [h1] at hf
    have HF := Lib.hid hf
    have HR := Lib.hid hrm
    clear hf hrm hS hP h1 h2 h3 h0 hd
    go_enter Tryd.func14, Tryd.ntmps14
    go_wp2_with (first
      | (go_at_call 23; refine HF.out.mono ?_; rintro e w1 ⟨rfl, hb1⟩; have HR1 := Lib.hid (HR.out w1 hb1); have HB := Lib.hid hb1; clear hb1)
      | (go_at_call 25; refine HR1.out.mono ?_; rintro e w2 ⟨rfl, hs2⟩))
    go_ret
    exact ⟨rfl, (fun b h1 h2 h3 => (hs2.fr b (Nat.lt_of_lt_of_le h1 HB.out.size) h2 h3).trans (HB.out.block b h1)), ⟨_, hs2.sto.choose_spec.1, hs2.sto.choose_spec.2.imp id (fun ⟨g, e, h⟩ => ⟨g, e, Nat.le_trans HB.out.size h⟩)⟩, (HB.out.mono hB).trans hs2.below, (Kp.of_below SK HB.out).trans hs2.kp⟩
  · rw [rid_miss E P n h0]
    have hd : decide (0 ≤ idx E P n) = false := by simp [h0]
    rw [hd] at hf ⊢
    have HF := Lib.hid hf
    have HS := Lib.hid hS
    generalize idx E P n = i at *
    clear hf hS hP hd
    go_enter Tryd.func14, Tryd.ntmps14
    go_wp2_with (go_at_call 23; refine HF.out.mono ?_; rintro e w1 ⟨rfl, hb1⟩)
    go_ret
    exact ⟨rfl, (fun b h1 _ _ => hb1.block b h1), ⟨v, HS.out.on hb1, .inl rfl⟩, hb1.mono hB, Kp.of_below SK hb1⟩
set_option maxHeartbeats 4000000 in
theorem drop_nil (w : World) (n : Nat) (xo : Option Addr) (xn xc : Nat) : Calls Tryd.prog 14 #[.pointer none, .slice xo xn xc, .int .u32 n] w fun e w' => e = .returned (.bool false) ∧ Below w.heap.size w w' := by
  have HF := Lib.hid (find_nil w n xo xn xc)
  go_enter Tryd.func14, Tryd.ntmps14
  go_wp2_with (go_at_call 23; refine HF.out.mono ?_; rintro e w1 ⟨rfl, hb1⟩)
  go_ret
  exact ⟨rfl, hb1⟩
end Go.Proofs.YteojlnbonhipbaaDoor
