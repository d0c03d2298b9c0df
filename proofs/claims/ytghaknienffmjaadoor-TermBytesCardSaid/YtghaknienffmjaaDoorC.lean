/- The document's examples: the parts, the marks; 'awake'. -/
import Derived.Test.YtghaknienffmjaaDoorB
import Derived.OwnWalk
namespace Go.Proofs.YtghaknienffmjaaDoor
open Go.RowKit
theorem owns_below {w w' : World} {base size n : Nat} {e : TypeId} {v : Value} {xs : List Value} (h : w.ownsRow base e size v n xs) (hb : Below w.heap.size w w') : w'.ownsRow base e size v n xs := by
  obtain ⟨h1, h2⟩ := h
  refine ⟨h1, ?_⟩
  rcases h2 with h2 | ⟨g, cap, cur, hv, hg, hc, h3⟩
  · exact .inl h2
  · exact .inr ⟨g, cap, cur, hv, hg, by rw [hb.block g (Array.getElem?_eq_some_iff.1 hc).1]; exact hc, h3⟩
theorem info9 : (Tryd.prog.info? 9).map (fun i => (i.zero, i.size, i.bytes)) = some (some (.string ByteArray.empty), 1, 16) := by kernel_rfl
set_option maxHeartbeats 2000000 in
theorem parts_ex (w : World) (m : Int) (hm : w.cell? ⟨1, 0, none⟩ = some (.int .i64 m)) (h1 : 1 < w.heap.size) :
    Calls Tryd.prog 20 #[.string ⟨#[50, 58, 97, 98, 48, 58]⟩] w fun e w' => ∃ v, e = .returned (.tuple #[v, .int .i64 0]) ∧ w'.ownsRow w.heap.size 9 1 v 2 [.string ⟨#[97, 98]⟩, .string ⟨#[]⟩] ∧ Below w.heap.size w w' := by
  obtain ⟨i0, hi, hz0, hz1, hz2⟩ := info_parts info9
  go_enter Tryd.func20, Tryd.ntmps20
  go_wp2
  refine wp_loop_rounds 3 ?_
  rw [rounds_succ]
  go_wp2_with (first
    | (go_at_call 25; refine (cut_one _ m hm).mono ?_; rintro e w1 ⟨rfl, hb1⟩)
    | (go_at_call 26; refine (clone_any _ _ (by decide)).mono ?_; rintro e w2 ⟨rfl, hb2⟩)
    | (at_builtin; refine wpList_append_own _ rfl _ _ 48 rfl w.heap.size 9 i0 (.string ByteArray.empty) 1 16 Tryd.underlying48 hi hz0 hz1 hz2 rfl (by decide) _ _ _ rfl (World.ownsRow_nil _ _ _ _) ⟨w2.heap.size, 0, none⟩ 1 1 [.string ⟨#[97, 98]⟩] rfl rfl (cell_one_new _ _ _) (fun x hx => by simp at hx; subst hx; rfl) (by unfold maxLen; omega) (by omega) (by have := hb1.size; have := hb2.size; simp; omega) ?_; intro v' w3 hown3 hgrow3 hnil3))
  change w3.ownsRow w.heap.size 9 1 v' 1 [.string ⟨#[97, 98]⟩] at hown3
  have hb3 : Below w.heap.size w w3 := Below.grown ((hb1.trans (hb2.mono hb1.size)).alloc (by have := hb1.size; have := hb2.size; omega) _) hgrow3 (by have := hb1.size; have := hb2.size; simp; omega) (fun j hj => by cases hj)
  have hm3 : w3.cell? ⟨1, 0, none⟩ = some (.int .i64 m) := (hb3.cell h1).trans hm
  clear hgrow3 hnil3 hb1 hb2
  rw [rounds_succ]
  go_wp2_with (first
    | (go_at_call 25; refine (cut_two _ m hm3).mono ?_; rintro e w4 ⟨rfl, hb4⟩)
    | (go_at_call 26; refine (clone_any _ _ (by decide)).mono ?_; rintro e w5 ⟨rfl, hb5⟩)
    | (at_builtin; have hown5 := owns_below (owns_below hown3 hb4) hb5; refine wpList_append_own _ rfl _ _ 48 rfl w.heap.size 9 i0 (.string ByteArray.empty) 1 16 Tryd.underlying48 hi hz0 hz1 hz2 rfl (by decide) _ _ _ rfl (hown5.alloc _) ⟨w5.heap.size, 0, none⟩ 1 1 [.string ⟨#[]⟩] rfl rfl (cell_one_new _ _ _) (fun x hx => by simp at hx; subst hx; rfl) (by unfold maxLen; omega) (by omega) (by have := hb3.size; have := hb4.size; have := hb5.size; simp; omega) ?_; intro v'' w6 hown6 hgrow6 hnil6))
  change w6.ownsRow w.heap.size 9 1 v'' 2 [.string ⟨#[97, 98]⟩, .string ⟨#[]⟩] at hown6
  have hb6 : Below w.heap.size w w6 := Below.grown (((hb3.trans (hb4.mono hb3.size)).trans (hb5.mono (by have := hb3.size; have := hb4.size; omega))).alloc (by have := hb3.size; have := hb4.size; have := hb5.size; omega) _) hgrow6 (by have := hb3.size; have := hb4.size; have := hb5.size; simp; omega) (fun j hj => (hown3.lt j hj).1)
  clear hgrow6 hnil6 hown5 hown3 hb3 hb4 hb5
  rw [rounds_succ]
  go_wp2
  go_ret2
  exact ⟨_, rfl, hown6, hb6⟩
end Go.Proofs.YtghaknienffmjaaDoor
