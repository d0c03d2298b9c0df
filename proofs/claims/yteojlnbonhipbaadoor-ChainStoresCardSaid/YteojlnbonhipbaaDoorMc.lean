/- Numbers copied; two terms compared. -/
import Derived.Test.YteojlnbonhipbaaDoorMb
namespace Go.Proofs.YteojlnbonhipbaaDoor
open Go.RowKit
theorem nums_own {w : World} {B : Nat} {v : Value} {zs : List Int} (h : w.ownsRow B 3 1 v zs.length (zs.map (Value.int .i64))) : ∃ ao cap, v = .slice ao zs.length cap ∧ Nums w ao zs ∧ ∀ a, ao = some a → B ≤ a.block := by
  obtain ⟨hl, ⟨rfl, h0⟩ | ⟨g, cap, cur, rfl, hg, hc, h1, h2, h3, h4⟩⟩ := h
  · obtain rfl : zs = [] := List.length_eq_zero_iff.1 h0
    exact ⟨none, 0, rfl, ⟨fun j hj => absurd hj (Nat.not_lt_zero _)⟩, fun a ha => by cases ha⟩
  · refine ⟨_, cap, rfl, ⟨fun j hj => ⟨g, 0, rfl, (Array.getElem?_eq_some_iff.1 hc).1, ?_⟩⟩, fun a ha => by cases ha; exact hg⟩
    rw [Nat.zero_add, cell_of_row w g j cur 3 (0, 0) hc]
    have h5 : cur[j]? = (cur.toList.take (zs.length * 1))[j]? := by rw [List.getElem?_take_of_lt (by omega), Array.getElem?_toList]
    rw [h5, h4, List.getElem?_map, List.getElem?_eq_getElem hj, List.getD_eq_getElem?_getD, List.getElem?_eq_getElem hj]
    rfl
/-- slices.Clone of numbers. -/
theorem info3 : (Tryd.prog.info? 3).map (fun i => (i.zero, i.size, i.bytes)) = some (some (.int .i64 0), 1, 8) := by kernel_rfl
theorem eq_nil125 (w : World) (ao : Option Addr) (n c : Nat) : (binOp .eql 125 (.slice ao n c) (.slice none 0 0)).run Tryd.prog w = .ok (.bool ao.isNone) w := Lib.run_eql_slice_nil w _ _ ao n c 0 0 Tryd.underlying125
theorem Nums.news {w : World} {a : Addr} {zs : List Int} (h : Nums w (some a) zs) : ∀ j u, (zs.map (Value.int .i64))[j]? = some u → w.cell? (a.add j) = some u := by
  intro j u hu
  have hj : j < zs.length := by
    have := (List.getElem?_eq_some_iff.1 hu).1
    rwa [List.length_map] at this
  obtain ⟨b, off, e, -, h3⟩ := h.at_ j hj
  cases e
  rw [addr_mid, h3, ← hu, List.getElem?_map, List.getElem?_eq_getElem hj, List.getD_eq_getElem?_getD, List.getElem?_eq_getElem hj]
  rfl
set_option maxHeartbeats 1000000 in
theorem clone_nums (ao : Option Addr) (cap : Nat) (zs : List Int) (w : World) (hN : Nums w ao zs) (hL : zs.length ≤ 1048576) :
    Calls Tryd.prog 96 #[.slice ao zs.length cap] w fun e w' => ∃ ao' cap', e = .returned (.slice ao' zs.length cap') ∧ Nums w' ao' zs ∧ (∀ a, ao' = some a → w.heap.size ≤ a.block) ∧ Below w.heap.size w w' := by
  obtain ⟨i0, hi, hz0, hz1, hz2⟩ := info_parts info3
  have he := eq_nil125
  obtain ⟨n, hn⟩ : ∃ n, n = zs.length := ⟨_, rfl⟩
  rw [← hn] at hL ⊢
  have HN := Lib.hid hn
  have HH := Lib.hid hN
  clear hn hN
  cases ao with
  | none =>
    go_enter Tryd.func96, Tryd.ntmps96
    go_wp2
    go_ret
    have h0 : n = 0 := by
      rcases Nat.eq_zero_or_pos n with h | h
      · exact h
      · obtain ⟨b, off, e, -⟩ := HH.out.at_ 0 (by rw [← HN.out]; exact h)
        cases e
    subst h0
    exact ⟨none, 0, rfl, ⟨fun j hj => by rw [← HN.out] at hj; omega⟩, (fun a ha => by cases ha), Below.refl _ _⟩
  | some a =>
    have hnews : ∀ j u, (zs.map (Value.int .i64))[j]? = some u → (w.alloc (.cells #[] 3)).cell? (a.add j) = some u := (HH.out.on (Joins.below_alloc1 w (.cells #[] 3)) (Nat.le_refl _)).news
    have hone : ∀ u ∈ zs.map (Value.int .i64), u.oneCell' = true := by
      intro u hu
      simp only [List.mem_map] at hu
      obtain ⟨b, -, rfl⟩ := hu
      rfl
    obtain ⟨b, off, s⟩ := a
    have HNW := Lib.hid hnews
    have HO := Lib.hid hone
    clear hnews hone
    go_enter Tryd.func96, Tryd.ntmps96
    go_wp2_with (at_builtin; refine wpList_append_own_at _ rfl _ _ 125 rfl w.heap.size 3 i0 (.int .i64 0) 1 8 Tryd.underlying125 hi hz0 hz1 hz2 rfl (by decide) _ _ _ rfl (World.ownsRow_made w #[] 0 (Nat.le_refl _) (Nat.zero_le _) (by simp)) ⟨b, off, s⟩ n cap (zs.map (Value.int .i64)) rfl (by rw [List.length_map, HN.out]; omega) HNW.out HO.out (by unfold maxLen; omega) (by omega) (by simp) ?_; intro v' w' hown hgrow _ _)
    go_ret
    have h := hown
    rw [Nat.zero_add, List.nil_append, HN.out] at h
    obtain ⟨ao', cap', rfl, h2, h3⟩ := nums_own h
    exact ⟨ao', cap', by rw [HN.out]; rfl, h2, h3, ((Below.refl _ w).alloc (Nat.le_refl _) _).grown hgrow (by simp) (by intro k hk; have := Option.some.inj hk; simp at this; omega)⟩
end Go.Proofs.YteojlnbonhipbaaDoor
