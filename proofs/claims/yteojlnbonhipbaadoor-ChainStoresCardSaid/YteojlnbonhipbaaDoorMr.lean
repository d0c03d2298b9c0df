/- The bytes that stand for a place. -/
import Derived.Test.YteojlnbonhipbaaDoorMn
import Derived.Deep.OwnRows
import Derived.Deep.RegionWith
import Derived.Deep.OwnRows
import Derived.Deep.RegionWith
namespace Go.Proofs.YteojlnbonhipbaaDoor
open Go.RowKit Go.Maps
/-- A slice of bytes that lies there, by numbers. -/
structure BytI (w : World) (ao : Option Addr) (P : List Int) : Prop where
  at_ : P = [] ∨ ∃ b off, ao = some ⟨b, off, none⟩ ∧ b < w.heap.size ∧ ∀ j, j < P.length → w.cell? ⟨b, off + j, none⟩ = some (.int .u8 (P.getD j 0))
/-- The bytes of a place; of the eight of the number the first k. -/
def bf (u k j : Nat) : Int := if j = 0 then 84 else if j ≤ k then ((u / 256 ^ (j - 1) % 256 : Nat) : Int) else 0
def bl (u k : Nat) : List Int := (List.range 32).map (bf u k)
def bt (u k : Nat) : Array Value := ((bl u k).map (Value.int .u8)).toArray
theorem made32 : madeCells #[Value.int .u8 0] 32 = Array.replicate 32 (.int .u8 0) := by kernel_rfl
theorem bt_get (u k j : Nat) (hj : j < 32) : (bt u k)[j]? = some (.int .u8 (bf u k j)) := by simp [bt, bl, hj]
theorem bt_size (u k : Nat) : (bt u k).size = 32 := by simp [bt, bl]
theorem bt_start (u : Nat) : ((madeCells #[Value.int .u8 0] 32).setIfInBounds 0 (.int .u8 84)) = bt u 0 := by
  rw [made32]
  refine Array.ext (by simp [bt_size]) fun j h1 h2 => ?_
  have h3 : j < 32 := by simpa [bt_size] using h2
  have h4 := bt_get u 0 j h3
  rw [Array.getElem?_eq_getElem h2] at h4
  rw [Option.some.inj h4, Array.getElem_setIfInBounds (by simpa using h3)]
  by_cases e : j = 0
  · subst e; rfl
  · have e2 : ¬ (0 = j) := fun h => e h.symm
    have e3 : ¬ j ≤ 0 := by omega
    simp [e2, e, bf]
theorem bt_next (u k : Nat) (hk : k < 8) : (bt u k).setIfInBounds (1 + k) (.int .u8 ((u / 256 ^ k % 256 : Nat) : Int)) = bt u (k + 1) := by
  refine Array.ext (by simp [bt_size]) fun j h1 h2 => ?_
  have h3 : j < 32 := by simpa [bt_size] using h2
  have h4 := bt_get u (k + 1) j h3
  have h5 := bt_get u k j h3
  rw [Array.getElem?_eq_getElem h2] at h4
  rw [Array.getElem?_eq_getElem (by rw [bt_size]; exact h3)] at h5
  rw [Option.some.inj h4, Array.getElem_setIfInBounds (by rw [bt_size]; exact h3), Option.some.inj h5]
  unfold bf
  by_cases e : 1 + k = j
  · subst e
    rw [if_pos rfl, if_neg (by omega), if_pos (by omega), Nat.add_sub_cancel_left]
  · rw [if_neg e]
    by_cases e0 : j = 0
    · rw [if_pos e0, if_pos e0]
    · rw [if_neg e0, if_neg e0]
      by_cases e1 : j ≤ k
      · rw [if_pos e1, if_pos (by omega)]
      · rw [if_neg e1, if_neg (by omega)]
set_option maxRecDepth 20000 in
set_option maxHeartbeats 4000000 in
theorem bytes_any (w : World) (i : Int) (u : Nat) (hu : IntKind.u64.wrap i = (u : Int)) :
    Calls Tryd.prog 92 #[.int .i64 i] w fun e w' => e = .returned (.slice (some ⟨w.heap.size, 0, none⟩) 32 32) ∧ w'.heap[w.heap.size]? = some (.cells (bt u 8) 5 (0, 0)) ∧ Below w.heap.size w w' := by
  obtain ⟨i0, hi, hz0, hz1, hz2⟩ := info_parts info5
  go_enter Tryd.func92, Tryd.ntmps92
  go_wp2_with (at_make; refine wpList_make_row _ rfl _ _ 24 rfl 5 i0 (.int .u8 0) Tryd.underlying24 hi hz0 hz1 rfl .i64 .i64 32 rfl rfl (by rw [hz2]; decide) (by decide) ?_; refine Hid.out ?_)
  refine Lib.hid ?_
  have h0 := heap_alloc_new w (.cells (madeCells #[.int .u8 0] 32) 5)
  have hb0 := Joins.below_alloc1 w (.cells (madeCells #[.int .u8 0] 32) 5)
  generalize w.alloc (.cells (madeCells #[.int .u8 0] 32) 5) = w1 at *
  have c0 : w1.cell? ⟨w.heap.size, 0, none⟩ = some (.int .u8 0) := by rw [cell_of_row _ _ _ _ _ _ h0, made32]; rfl
  have f0 : w1.frozen? ⟨w.heap.size, 0, none⟩ = false := by simp [World.frozen?, h0]
  have h1 := heap_setCell_same w1 w.heap.size 0 _ 5 (.int .u8 84) h0
  rw [bt_start u] at h1
  have hb1 := hb0.setCell (p := ⟨w.heap.size, 0, none⟩) (Nat.le_refl _) (.int .u8 84)
  clear h0 hb0
  go_wp2_with fail
  go_loopw [8] (fun v wr => ∃ k : Nat, v = .int .i64 k ∧ k ≤ 8 ∧ wr.heap[w.heap.size]? = some (.cells (bt u k) 5 (0, 0)) ∧ Below w.heap.size w wr) (fun v _ => 8 - (intOf v).toNat)
  case atStart => exact ⟨0, rfl, by omega, h1, hb1⟩
  case round =>
    obtain ⟨k, rfl, hk, hrow, hbr⟩ := hrel
    by_cases hk8 : k < 8
    · have hk2 : (k : Int) < 8 := by omega
      have c1 : wr.cell? ⟨w.heap.size, 1 + k, none⟩ = some (.int .u8 (bf u k (1 + k))) := by rw [cell_of_row _ _ _ _ _ _ hrow]; exact bt_get u k _ (by omega)
      have f1 : wr.frozen? ⟨w.heap.size, 1 + k, none⟩ = false := by simp [World.frozen?, hrow]
      have e1 : (u : Int) / 2 ^ (8 * k) % 256 = ((u / 256 ^ k % 256 : Nat) : Int) := by
        rw [Int.natCast_emod, Int.natCast_ediv, Int.natCast_pow, Int.pow_mul]
        rfl
      have hr2 := heap_setCell_same wr w.heap.size (1 + k) _ 5 (.int .u8 ((u / 256 ^ k % 256 : Nat) : Int)) hrow
      rw [bt_next u k hk8] at hr2
      have hb2 := hbr.setCell (p := ⟨w.heap.size, 1 + k, none⟩) (Nat.le_refl _) (.int .u8 ((u / 256 ^ k % 256 : Nat) : Int))
      rw [← e1] at hr2 hb2
      have HH := Lib.hid (And.intro hr2 hb2)
      clear e1 hr2 hb2 hrow hbr
      go_wp2_with fail
      exact ⟨⟨k + 1, rfl, by omega, HH.out.1, HH.out.2⟩, by simp [intOf]; omega⟩
    · obtain rfl : k = 8 := by omega
      have hk2 : ¬ ((8 : Nat) : Int) < 8 := by omega
      go_wp2_with fail
      go_ret
      exact ⟨rfl, hrow, hbr⟩
set_option maxHeartbeats 2000000 in
theorem zero_any (w : World) (ao : Option Addr) (cap : Nat) (P : List Int) (hP : P.length ≤ 281474976710656) (h : BytI w ao P) :
    Calls Tryd.prog 97 #[.slice ao P.length cap] w fun e w' => e = .returned (.bool (decide (∀ x ∈ P, x = 0))) ∧ w' = w := by
  obtain ⟨n, hn⟩ : ∃ n, n = P.length := ⟨_, rfl⟩
  rw [← hn] at hP ⊢
  have HN := Lib.hid hn
  clear hn
  go_enter Tryd.func97, Tryd.ntmps97
  go_wp2_with fail
  go_loopw [7] (fun v wr => ∃ k : Nat, v = .int .i64 k ∧ k ≤ n ∧ Hid (∀ j, j < k → P.getD j 0 = 0) ∧ wr = w) (fun v _ => n - (intOf v).toNat)
  case atStart => exact ⟨0, rfl, by omega, fun j hj => absurd hj (Nat.not_lt_zero _), rfl⟩
  case round =>
    obtain ⟨k, rfl, hk, HZ, hw⟩ := hrel
    obtain rfl := hw
    by_cases hkn : k < n
    · have hk2 : (k : Int) < n := by omega
      rcases h.at_ with rfl | ⟨b, off, rfl, hbl, hc⟩
      · have := HN.out; simp at this; omega
      · have hc1 := hc k (by rw [← HN.out]; exact hkn)
        obtain ⟨x, hx⟩ : ∃ x, x = P.getD k 0 := ⟨_, rfl⟩
        rw [← hx] at hc1
        have HX := Lib.hid hx
        clear hx hc h
        by_cases hx0 : x = 0
        · subst hx0
          go_wp2_with fail
          refine ⟨⟨k + 1, rfl, by omega, fun j hj => ?_, trivial⟩, by simp [intOf]; omega⟩
          by_cases e : j = k
          · rw [e]; exact HX.out.symm
          · exact HZ.out j (by omega)
        · have hne : ¬ x = 0 := hx0
          go_wp2_with fail
          go_ret
          have hd : decide (∀ x ∈ P, x = 0) = false := decide_eq_false fun hall => hx0 (by
            rw [HX.out, List.getD_eq_getElem?_getD, List.getElem?_eq_getElem (by rw [← HN.out]; exact hkn)]
            exact hall _ (List.getElem_mem _))
          exact ⟨congrArg (fun b => Ending.returned (Value.bool b)) hd.symm, rfl⟩
    · obtain rfl : k = n := by omega
      have hk2 : ¬ (k : Int) < k := by omega
      go_wp2_with fail
      go_ret
      have hd : decide (∀ x ∈ P, x = 0) = true := decide_eq_true fun x hx => by
        obtain ⟨j, hj, rfl⟩ := List.getElem_of_mem hx
        have := HZ.out j (by rw [HN.out]; exact hj)
        rwa [List.getD_eq_getElem?_getD, List.getElem?_eq_getElem hj] at this
      exact ⟨congrArg (fun b => Ending.returned (Value.bool b)) hd.symm, rfl⟩
end Go.Proofs.YteojlnbonhipbaaDoor
