/- What stays, by the kinds of blocks; slices of bytes; the bytes of a place. -/
import Derived.Test.YteojlnbonhipbaaDoorMt
namespace Go.Proofs.YteojlnbonhipbaaDoor
open Go.RowKit Go.Maps
/-- The kind of a block: the type of its cells, or none. -/
def kind : Obj → Option TypeId
  | .cells _ t _ => some t
  | _ => none
/-- What lies there stays, but for blocks of the kinds ts. -/
structure Kp (ts : List (Option TypeId)) (w w' : World) : Prop where
  size : w.heap.size ≤ w'.heap.size
  keep : ∀ (b : Nat) o, w.heap[b]? = some o → kind o ∉ ts → w'.heap[b]? = some o
theorem Kp.refl (ts : List (Option TypeId)) (w : World) : Kp ts w w := ⟨Nat.le_refl _, fun _ _ h _ => h⟩
theorem Kp.trans {ts : List (Option TypeId)} {a b c : World} (h : Kp ts a b) (k : Kp ts b c) : Kp ts a c := ⟨Nat.le_trans h.size k.size, fun i o h1 h2 => k.keep i o (h.keep i o h1 h2) h2⟩
theorem Kp.of_below {w w' : World} (ts : List (Option TypeId)) (h : Below w.heap.size w w') : Kp ts w w' := ⟨h.size, fun b _ h1 _ => (h.block b (Array.getElem?_eq_some_iff.1 h1).1).trans h1⟩
theorem Kp.mono {ts us : List (Option TypeId)} {w w' : World} (h : Kp ts w w') (hs : ∀ t ∈ ts, t ∈ us) : Kp us w w' := ⟨h.size, fun b o h1 h2 => h.keep b o h1 (fun h3 => h2 (hs _ h3))⟩
/-- The kinds that the primitives' tables are of; those of stores. -/
def PK : List (Option TypeId) := [some 83, some 130, some 61, none]
def SK : List (Option TypeId) := [some 38, some 47]
def AK : List (Option TypeId) := [some 83, some 130, some 61, none, some 38, some 47]
theorem Kp.pk {w w' : World} (h : Kp PK w w') : Kp AK w w' := h.mono (by decide)
theorem Kp.sk {w w' : World} (h : Kp SK w w') : Kp AK w w' := h.mono (by decide)
theorem Kp.cells {ts : List (Option TypeId)} {w w' : World} (h : Kp ts w w') {b : Nat} {cs : Array Value} {t : TypeId} {fr : Nat × Nat} (hb : w.heap[b]? = some (.cells cs t fr)) (ht : some t ∉ ts) : w'.heap[b]? = some (.cells cs t fr) := h.keep b _ hb ht
theorem Kp.owns {ts : List (Option TypeId)} {w w' : World} {B size n : Nat} {e : TypeId} {v : Value} {xs : List Value} (h : Kp ts w w') (hr : w.ownsRow B e size v n xs) (ht : some e ∉ ts) : w'.ownsRow B e size v n xs := by
  obtain ⟨h1, h2⟩ := hr
  refine ⟨h1, ?_⟩
  rcases h2 with h2 | ⟨g, cap, cur, hv, hg, hc, h3⟩
  · exact .inl h2
  · exact .inr ⟨g, cap, cur, hv, hg, h.cells hc ht, h3⟩
/-- Bytes that lie there, in a block of bytes. -/
structure By (w : World) (ao : Option Addr) (P : List UInt8) : Prop where
  at_ : P = [] ∨ ∃ b off cs fr, ao = some ⟨b, off, none⟩ ∧ w.heap[b]? = some (.cells cs 5 fr) ∧ ∀ j, j < P.length → cs[off + j]? = some (.int .u8 (P.getD j 0).toNat)
theorem By.kp {ts : List (Option TypeId)} {w w' : World} {ao : Option Addr} {P : List UInt8} (h : By w ao P) (k : Kp ts w w') (ht : some 5 ∉ ts) : By w' ao P :=
  ⟨h.at_.imp id (fun ⟨b, off, cs, fr, h1, h2, h3⟩ => ⟨b, off, cs, fr, h1, k.cells h2 ht, h3⟩)⟩
theorem By.byt {w : World} {ao : Option Addr} {P : List UInt8} (h : By w ao P) : Byt w ao P :=
  ⟨h.at_.imp id (fun ⟨b, off, cs, fr, h1, h2, h3⟩ => ⟨b, off, h1, (Array.getElem?_eq_some_iff.1 h2).1, fun j hj => by rw [cell_of_row _ _ _ _ _ _ h2]; exact h3 j hj⟩)⟩
theorem Own.by_ {w : World} {B : Nat} {v : Value} {l : List UInt8} (h : Own w B v l) : ∃ ao cap, v = .slice ao l.length cap ∧ By w ao l ∧ l.length ≤ cap := by
  obtain ⟨hl, ⟨rfl, h0⟩ | ⟨g, cap, cur, rfl, hg, hc, h1, h2, h3, h4⟩⟩ := h
  · obtain rfl : l = [] := List.length_eq_zero_iff.1 h0
    exact ⟨none, 0, rfl, ⟨.inl rfl⟩, Nat.le_refl _⟩
  · refine ⟨_, cap, rfl, ⟨.inr ⟨g, 0, cur, (0, 0), rfl, hc, fun j hj => ?_⟩⟩, h1⟩
    rw [Nat.zero_add]
    have h5 : cur[j]? = (cur.toList.take (l.length * 1))[j]? := by rw [List.getElem?_take_of_lt (by omega), Array.getElem?_toList]
    rw [h5, h4, Lib.byteCells, List.getElem?_map, List.getElem?_eq_getElem hj, List.getD_eq_getElem?_getD, List.getElem?_eq_getElem hj]
    rfl
/-- A row of bytes that was just laid. -/
theorem By.row {w : World} {g : Nat} {l : List UInt8} {fr : Nat × Nat} (h : w.heap[g]? = some (.cells (Lib.byteCells l).toArray 5 fr)) : By w (some ⟨g, 0, none⟩) l :=
  ⟨.inr ⟨g, 0, _, fr, rfl, h, fun j hj => by
    rw [Nat.zero_add, List.getElem?_toArray, Lib.byteCells, List.getElem?_map, List.getElem?_eq_getElem hj, List.getD_eq_getElem?_getD, List.getElem?_eq_getElem hj]
    rfl⟩⟩
theorem bl_len (u : Nat) : (bl u 8).length = 32 := by simp [bl]
theorem bl_get (u k j : Nat) (hj : j < 32) : (bl u k).getD j 0 = bf u k j := by simp [bl, List.getD_eq_getElem?_getD, hj]
theorem bl_byte (u k : Nat) : ∀ x ∈ bl u k, 0 ≤ x ∧ x ≤ 255 := by
  intro x hx
  obtain ⟨j, hj, rfl⟩ := List.mem_map.1 hx
  unfold bf
  split
  · decide
  · split
    · have := Nat.mod_lt (u / 256 ^ (j - 1)) (show 256 > 0 by decide)
      omega
    · decide
theorem byti_bt {w : World} {g : Nat} (u : Nat) (h : w.heap[g]? = some (.cells (bt u 8) 5 (0, 0))) : BytI w (some ⟨g, 0, none⟩) (bl u 8) := by
  refine ⟨.inr ⟨g, 0, rfl, (Array.getElem?_eq_some_iff.1 h).1, fun j hj => ?_⟩⟩
  rw [bl_len] at hj
  rw [Nat.zero_add, cell_of_row _ _ _ _ _ _ h, bt_get u 8 j hj, bl_get u 8 j hj]
theorem bl_val (u : Nat) : ∀ k, k ≤ 8 → val8 (bl u 8) k = u % 256 ^ k
  | 0, _ => by simp [val8, Nat.mod_one]
  | k + 1, hk => by
    have ih := bl_val u k (by omega)
    have e : (bl u 8).getD (1 + k) 0 = ((u / 256 ^ k % 256 : Nat) : Int) := by
      rw [bl_get u 8 (1 + k) (by omega)]
      unfold bf
      rw [if_neg (by omega), if_pos (by omega), Nat.add_sub_cancel_left]
    rw [val8, ih, e, Int.toNat_natCast, Nat.pow_succ, Nat.mod_mul]
    rw [Nat.mul_comm]
theorem bl_tail (u : Nat) : ∀ x ∈ (bl u 8).drop 9, x = 0 := by
  intro x hx
  obtain ⟨j, hj, rfl⟩ := List.getElem_of_mem hx
  rw [List.getElem_drop]
  simp only [List.length_drop, bl_len] at hj
  have := bl_get u 8 (9 + j) (by omega)
  rw [List.getD_eq_getElem?_getD, List.getElem?_eq_getElem (by rw [bl_len]; omega)] at this
  refine (show _ = bf u 8 (9 + j) from this).trans ?_
  unfold bf
  rw [if_neg (by omega), if_neg (by omega)]
theorem bl_stands (u N : Nat) (hu : u < 18446744073709551616) : Stands (bl u 8) N ↔ u < N := by
  have e : val8 (bl u 8) 8 = u := by rw [bl_val u 8 (Nat.le_refl _)]; exact Nat.mod_eq_of_lt hu
  unfold Stands
  rw [e, bl_len]
  exact ⟨fun h => h.2.2.2, fun h => ⟨by decide, by rw [bl_get u 8 0 (by decide)]; rfl, bl_tail u, h⟩⟩
theorem bl_val8 (u : Nat) (hu : u < 18446744073709551616) : val8 (bl u 8) 8 = u := by rw [bl_val u 8 (Nat.le_refl _)]; exact Nat.mod_eq_of_lt hu
/-- The bytes of a place. -/
def keyB (u : Nat) : List UInt8 := (bl u 8).map fun z => UInt8.ofNat z.toNat
theorem keyB_len (u : Nat) : (keyB u).length = 32 := by simp [keyB, bl]
theorem keyB_cells (u : Nat) : Lib.byteCells (keyB u) = (bl u 8).map (Value.int .u8) := by
  unfold Lib.byteCells keyB
  rw [List.map_map]
  refine List.map_congr_left fun x hx => ?_
  have h := bl_byte u 8 x hx
  show Value.int .u8 ((UInt8.ofNat x.toNat).toNat : Int) = _
  rw [UInt8.toNat_ofNat']
  congr 1
  omega
theorem byti_of {w : World} {ao : Option Addr} {u : Nat} (h : By w ao (keyB u)) : BytI w ao (bl u 8) := by
  refine ⟨.inr ?_⟩
  rcases h.at_ with h | ⟨b, off, cs, fr, h1, h2, h3⟩
  · have := congrArg List.length h
    rw [keyB_len] at this
    cases this
  · refine ⟨b, off, h1, (Array.getElem?_eq_some_iff.1 h2).1, fun j hj => ?_⟩
    rw [bl_len] at hj
    rw [cell_of_row _ _ _ _ _ _ h2, h3 j (by rw [keyB_len]; exact hj)]
    have e : ((keyB u).map fun b => Value.int .u8 (b.toNat : Int))[j]? = ((bl u 8).map (Value.int .u8))[j]? := by rw [← keyB_cells]; rfl
    have h5 : j < (keyB u).length := by rw [keyB_len]; exact hj
    have h6 : j < (bl u 8).length := by rw [bl_len]; exact hj
    rw [List.getElem?_map, List.getElem?_map, List.getElem?_eq_getElem h5, List.getElem?_eq_getElem h6] at e
    rw [List.getD_eq_getElem?_getD, List.getElem?_eq_getElem h5, List.getD_eq_getElem?_getD, List.getElem?_eq_getElem h6]
    exact e
theorem keyB_inj {u v : Nat} (hu : u < 18446744073709551616) (hv : v < 18446744073709551616) (h : keyB u = keyB v) : u = v := by
  have h1 : (bl u 8).map (Value.int .u8) = (bl v 8).map (Value.int .u8) := by rw [← keyB_cells, ← keyB_cells, h]
  have h2 : bl u 8 = bl v 8 := (List.map_inj_right (fun a b h => by injection h)).1 h1
  rw [← bl_val8 u hu, ← bl_val8 v hv, h2]
theorem keyB_row {w : World} {g u : Nat} (h : w.heap[g]? = some (.cells (bt u 8) 5 (0, 0))) : By w (some ⟨g, 0, none⟩) (keyB u) := By.row (fr := (0, 0)) (by rw [keyB_cells]; exact h)
end Go.Proofs.YteojlnbonhipbaaDoor
