/- A table of atoms, and what bytes are read as beside it. -/
import Derived.Test.YtghaknienffmjaaDoorMt
import Derived.Test.YtghaknienffmjaaDoorMl
namespace Go.Proofs.YtghaknienffmjaaDoor
open Go.RowKit Go.Maps
def atom (j : Nat) : Tm := ⟨1, [], [], j⟩
theorem atom_ok (j : Nat) (h : j ≤ 1048576) : Fit (atom j) := fit_of 1 j [] (by omega) (by omega) ⟨by omega, by omega⟩ (fun i hi => by simp at hi) (by simp)
/-- A table of so many atoms. -/
def Atoms (E : List En) (k : Nat) : Prop := E.map (·.1) = (List.range k).map atom
theorem Atoms.len {E : List En} {k : Nat} (h : Atoms E k) : E.length = k := by
  have := congrArg List.length h
  simpa using this
theorem Atoms.none {E : List En} {k : Nat} (h : Atoms E k) : E = [] ↔ k = 0 := by
  rw [← h.len]
  exact List.length_eq_zero_iff.symm
theorem atom_inj {a b : Nat} (h : atom a = atom b) : a = b := by
  injection h with _ _ _ h
  omega
theorem Atoms.put {w w' : World} {B tb : Nat} {tv mv : Value} {E : List En} {k : Nat} {e : Ending} (h : Atoms E k) (hr : PutF w B tb tv mv E (atom k) e w') :
    ∃ tv' mv' E', e = .returned (.int .i64 (k : Nat)) ∧ Tab w' B tb tv' mv' E' ∧ Atoms E' (k + 1) ∧ Below B w w' := by
  obtain ⟨j, tv', mv', E', rfl, h1, h2, h3, -⟩ := hr
  have hn : atom k ∉ E.map (·.1) := by
    rw [h]
    intro hm
    obtain ⟨j, hj, hjk⟩ := List.mem_map.1 hm
    have := atom_inj hjk
    have := List.mem_range.1 hj
    omega
  rcases h3 with ⟨rfl, hj, hjt⟩ | ⟨-, rfl, a, c, rfl, -⟩
  · exact absurd (hjt ▸ List.mem_map_of_mem (List.getElem_mem hj)) hn
  · refine ⟨tv', mv', _, by rw [h.len], h1, ?_, h2⟩
    unfold Atoms
    rw [List.map_append, h, List.range_succ, List.map_append]
    rfl
theorem bl_len (u : Nat) : (bl u 8).length = 32 := by simp [bl]
theorem bl_get (u k j : Nat) (hj : j < 32) : (bl u k).getD j 0 = bf u k j := by simp [bl, List.getD_eq_getElem?_getD, hj]
theorem bl_byte (u k : Nat) : ∀ x ∈ bl u k, 0 ≤ x ∧ x ≤ 255 := by
  intro x hx
  obtain ⟨j, hj, rfl⟩ := List.mem_map.1 hx
  unfold bf
  split
  · decide
  · split
    · have := Nat.mod_lt (u / 256 ^ (j - 1)) (show 256 > 0 by decide)
      omega
    · decide
theorem byt_bt {w : World} {g : Nat} (u : Nat) (h : w.heap[g]? = some (.cells (bt u 8) 5 (0, 0))) : Byt w (some ⟨g, 0, none⟩) (bl u 8) := by
  refine ⟨.inr ⟨g, 0, rfl, (Array.getElem?_eq_some_iff.1 h).1, fun j hj => ?_⟩⟩
  rw [bl_len] at hj
  rw [Nat.zero_add, cell_of_row _ _ _ _ _ _ h, bt_get u 8 j hj, bl_get u 8 j hj]
theorem bl_val (u : Nat) : ∀ k, k ≤ 8 → val8 (bl u 8) k = u % 256 ^ k
  | 0, _ => by simp [val8, Nat.mod_one]
  | k + 1, hk => by
    have ih := bl_val u k (by omega)
    have e : (bl u 8).getD (1 + k) 0 = ((u / 256 ^ k % 256 : Nat) : Int) := by
      rw [bl_get u 8 (1 + k) (by omega)]
      unfold bf
      rw [if_neg (by omega), if_pos (by omega), Nat.add_sub_cancel_left]
    rw [val8, ih, e, Int.toNat_natCast, Nat.pow_succ, Nat.mod_mul]
    rw [Nat.mul_comm]
theorem bl_tail (u : Nat) : ∀ x ∈ (bl u 8).drop 9, x = 0 := by
  intro x hx
  obtain ⟨j, hj, rfl⟩ := List.getElem_of_mem hx
  rw [List.getElem_drop]
  simp only [List.length_drop, bl_len] at hj
  have := bl_get u 8 (9 + j) (by omega)
  rw [List.getD_eq_getElem?_getD, List.getElem?_eq_getElem (by rw [bl_len]; omega)] at this
  refine (show _ = bf u 8 (9 + j) from this).trans ?_
  unfold bf
  rw [if_neg (by omega), if_neg (by omega)]
theorem bl_stands (u N : Nat) (hu : u < 18446744073709551616) : Stands (bl u 8) N ↔ u < N := by
  have e : val8 (bl u 8) 8 = u := by rw [bl_val u 8 (Nat.le_refl _)]; exact Nat.mod_eq_of_lt hu
  unfold Stands
  rw [e, bl_len]
  exact ⟨fun h => h.2.2.2, fun h => ⟨by decide, by rw [bl_get u 8 0 (by decide)]; rfl, bl_tail u, h⟩⟩
theorem bl_val8 (u : Nat) (hu : u < 18446744073709551616) : val8 (bl u 8) 8 = u := by rw [bl_val u 8 (Nat.le_refl _)]; exact Nat.mod_eq_of_lt hu
theorem div_step (u t : Nat) : u / 256 ^ (t + 1) * 256 + u / 256 ^ t % 256 = u / 256 ^ t := by
  rw [Nat.pow_succ, ← Nat.div_div_eq_div_mul]
  have := Nat.div_add_mod (u / 256 ^ t) 256
  omega
/-- The number of a place. -/
theorem u_of (i : Int) (hi : Tm.I64 i) : ∃ u : Nat, IntKind.u64.wrap i = (u : Int) ∧ u < 18446744073709551616 ∧ (0 ≤ i → (u : Int) = i) ∧ (i < 0 → 9223372036854775808 ≤ u) := by
  obtain ⟨h1, h2⟩ := hi
  rw [IntKind.wrap_u64]
  refine ⟨(i % 18446744073709551616).toNat, by omega, by omega, fun h => by omega, fun h => by omega⟩
/-- A store into a block that is none of the table's. -/
theorem Tab.setOther {w : World} {tb : Nat} {tv mv : Value} {E : List En} (h : Tab w tb tb tv mv E) (b i : Nat) (u : Value) (hb : b < tb) (hE : ∀ e ∈ E, e.1.of = []) : Tab (w.setCell ⟨b, i, none⟩ u) tb tb tv mv E := by
  refine h.grown (g := b) ⟨rfl, rfl, rfl, by simp [World.setCell], fun k hk hne => Below.heap_setCell _ _ _ _ (fun e => hne (by have e : k = b := e; rw [e]))⟩ ?_ (fun e he a _ hne => absurd (hE e he) hne)
  rintro (e | e | e)
  · omega
  · have := (h.own.lt b e).1
    omega
  · rcases h.mp with ⟨q, -⟩ | ⟨mb, D, q, -, -, q2, -⟩
    · rw [e] at q; cases q
    · rw [e] at q
      injection q with q
      injection q with q
      omega
theorem Atoms.of {E : List En} {k : Nat} (h : Atoms E k) : ∀ e ∈ E, e.1.of = [] := by
  intro e he
  have hm : e.1 ∈ E.map (·.1) := List.mem_map_of_mem he
  rw [h] at hm
  obtain ⟨j, -, hj⟩ := List.mem_map.1 hm
  rw [← hj]
  rfl
theorem Atoms.noraw {E : List En} {k : Nat} (h : Atoms E k) (P : List Int) : raw P ∉ E.map (·.1) := by
  rw [h]
  intro hm
  obtain ⟨j, -, hj⟩ := List.mem_map.1 hm
  have : (atom j).k = (raw P).k := by rw [hj]
  exact absurd this (by show ¬ (1 : Int) = 2; decide)
theorem byt_row {w : World} {g : Nat} {t : TypeId} {fr : Nat × Nat} {L : List Int} (h : w.heap[g]? = some (.cells (L.map (Value.int .u8)).toArray t fr)) : Byt w (some ⟨g, 0, none⟩) L := by
  refine ⟨.inr ⟨g, 0, rfl, (Array.getElem?_eq_some_iff.1 h).1, fun j hj => ?_⟩⟩
  rw [Nat.zero_add, cell_of_row _ _ _ _ _ _ h]
  simp [List.getD_eq_getElem?_getD, hj]
theorem foot_lt {w : World} {B tb : Nat} {tv mv : Value} {E : List En} (h : Tab w B tb tv mv E) (b : Nat) (hb : Foot tb tv mv b) : b < w.heap.size := by
  rcases hb with rfl | q | q
  · exact h.lt
  · exact (h.own.lt b q).2
  · rcases h.mp with ⟨q2, -⟩ | ⟨mb, D, q2, -, -, -, q3, -⟩
    · rw [q] at q2; cases q2
    · rw [q] at q2
      injection q2 with q2
      injection q2 with q2
      subst q2
      exact q3.lt
/-- The array, and the table. -/
structure Sq (w wx : World) (tb : Nat) (Q : List Int) (tv mv : Value) (E : List En) : Prop where
  tab : Tab wx tb tb tv mv E
  row : wx.heap[w.heap.size]? = some (.cells (Q.map (Value.int .u8)).toArray 38 (0, 0))
  lo : w.heap.size < tb
  bel : Below w.heap.size w wx
  hi : tb ≤ wx.heap.size
theorem Sq.on {w wx w' : World} {tb : Nat} {Q : List Int} {tv mv : Value} {E : List En} (h : Sq w wx tb Q tv mv E) (hb : Below wx.heap.size wx w') : Sq w w' tb Q tv mv E :=
  ⟨h.tab.on hb, (hb.block _ (Nat.lt_of_lt_of_le h.lo h.hi)).trans h.row, h.lo, h.bel.trans (hb.mono h.bel.size), Nat.le_trans h.hi hb.size⟩
theorem Sq.uniq {w wx : World} {tb : Nat} {Q : List Int} {tv mv : Value} {E : List En} (h : Sq w wx tb Q tv mv E) {a b : Nat} (ha : a < E.length) (hb : b < E.length) (e : (E[a]'ha).1 = (E[b]'hb).1) : a = b := by
  have hn := List.pairwise_iff_getElem.1 h.tab.nodup
  rcases Nat.lt_trichotomy a b with q | q | q
  · exact absurd (by rw [List.getElem_map, List.getElem_map]; exact e) (hn a b (by simpa using ha) (by simpa using hb) q)
  · exact q
  · exact absurd (by rw [List.getElem_map, List.getElem_map]; exact e.symm) (hn b a (by simpa using hb) (by simpa using ha) q)
/-- Where a term was put. -/
def Cas (E : List En) (t : Tm) (j : Nat) (E' : List En) : Prop := (E' = E ∧ ∃ h : j < E.length, (E[j]'h).1 = t) ∨ (t ∉ E.map (·.1) ∧ j = E.length ∧ ∃ a c, E' = E ++ [(t, a, c)])
/-- A block that is none of the table's stays. -/
def Keeps (wx w' : World) (tb : Nat) (tv mv tv' mv' : Value) : Prop := ∀ b, b < wx.heap.size → ¬ Foot tb tv mv b → w'.heap[b]? = wx.heap[b]? ∧ ¬ Foot tb tv' mv' b
theorem Sq.put {w wx w' : World} {tb : Nat} {tv mv : Value} {Q : List Int} {E : List En} {t : Tm} {e : Ending} (h : Sq w wx tb Q tv mv E) (hr : PutF wx tb tb tv mv E t e w') : ∃ j tv' mv' E', e = .returned (.int .i64 (j : Nat)) ∧ Sq w w' tb Q tv' mv' E' ∧ Cas E t j E' ∧ Keeps wx w' tb tv mv tv' mv' := by
  obtain ⟨j, tv', mv', E', rfl, h1, h2, h3, h4⟩ := hr
  refine ⟨j, tv', mv', E', rfl, ⟨h1, (h2.block _ h.lo).trans h.row, h.lo, h.bel.trans (h2.mono (Nat.le_of_lt h.lo)), Nat.le_trans h.hi h2.size⟩, ?_, h4⟩
  rcases h3 with h3 | ⟨q1, q2, a, c, q3, -⟩
  · exact .inl h3
  · exact .inr ⟨q1, q2, a, c, q3⟩
theorem Cas.at_ {E E' : List En} {t : Tm} {j : Nat} (h : Cas E t j E') : ∃ h : j < E'.length, (E'[j]'h).1 = t := by
  rcases h with ⟨rfl, h⟩ | ⟨-, rfl, a, c, rfl⟩
  · exact h
  · exact ⟨by simp, by simp⟩
theorem Cas.len {E E' : List En} {t : Tm} {j : Nat} (h : Cas E t j E') : E'.length ≤ E.length + 1 := by
  rcases h with ⟨rfl, h⟩ | ⟨-, rfl, a, c, rfl⟩
  · omega
  · simp
/-- Bytes that came in. -/
structure Inp (w : World) (po : Option Addr) (pcap : Nat) (P : List Int) : Prop where
  byt : Byt w po P
  cap : P.length ≤ pcap
  byte : ∀ x ∈ P, 0 ≤ x ∧ x ≤ 255
  len : P.length ≤ 281474976710656
theorem Sq.inp {w wx : World} {tb : Nat} {Q : List Int} {tv mv : Value} {E : List En} (h : Sq w wx tb Q tv mv E) (hQ : Q.length = 32) (hb : ∀ x ∈ Q, 0 ≤ x ∧ x ≤ 255) : Inp wx (some ⟨w.heap.size, 0, none⟩) 32 Q :=
  ⟨byt_row h.row, by omega, hb, by omega⟩
theorem Inp.on {w w' : World} {po : Option Addr} {pcap : Nat} {P : List Int} (h : Inp w po pcap P) (hb : Below w.heap.size w w') : Inp w' po pcap P := ⟨h.byt.on hb, h.cap, h.byte, h.len⟩
theorem Sq.read_not {w wx : World} {tb : Nat} {Q P : List Int} {tv mv : Value} {E : List En} {po : Option Addr} {pcap : Nat} (h : Sq w wx tb Q tv mv E) (hG : Gv w) (hE : E.length ≤ 1000) (hp : Inp wx po pcap P) (hs : ¬ Stands P E.length) :
    Calls Tryd.prog 17 #[.pointer (some ⟨tb, 0, none⟩), .slice po P.length pcap] wx fun e w' => ∃ j tv' mv' E', e = .returned (.int .i64 (j : Nat)) ∧ Sq w w' tb Q tv' mv' E' ∧ Cas E (raw P) j E' ∧ Keeps wx w' tb tv mv tv' mv' :=
  (Go.Proofs.YtghaknienffmjaaDoor.read_not wx (hG.on h.bel) tb tb tv mv E h.tab h.hi (by omega) po pcap P hp.len hp.cap hp.byt hp.byte hs).mono fun e w' hr => h.put hr
theorem Sq.read_yes {w wx : World} {tb : Nat} {Q P : List Int} {tv mv : Value} {E : List En} {po : Option Addr} {pcap : Nat} (h : Sq w wx tb Q tv mv E) (hE : E.length ≤ 1000) (hp : Inp wx po pcap P) (hs : Stands P E.length) :
    Calls Tryd.prog 17 #[.pointer (some ⟨tb, 0, none⟩), .slice po P.length pcap] wx fun e w' => e = .returned (.int .i64 (val8 P 8 : Nat)) ∧ w' = wx :=
  Go.Proofs.YtghaknienffmjaaDoor.read_yes wx tb tb tv mv E h.tab (by omega) po pcap P hp.len hp.cap hp.byt hp.byte hs
theorem Sq.place_not {w wx : World} {tb : Nat} {Q P : List Int} {tv mv : Value} {E : List En} {po : Option Addr} {pcap : Nat} (h : Sq w wx tb Q tv mv E) (hE : E.length ≤ 1000) (hp : Inp wx po pcap P) (hs : ¬ Stands P E.length) :
    Calls Tryd.prog 15 #[.pointer (some ⟨tb, 0, none⟩), .slice po P.length pcap] wx fun e w' => e = .returned (.tuple #[.int .i64 0, .bool false]) ∧ w' = wx :=
  Go.Proofs.YtghaknienffmjaaDoor.place_not wx tb tb tv mv E h.tab (by omega) po pcap P hp.len hp.cap hp.byt hp.byte hs
theorem Sq.place_yes {w wx : World} {tb : Nat} {Q P : List Int} {tv mv : Value} {E : List En} {po : Option Addr} {pcap : Nat} (h : Sq w wx tb Q tv mv E) (hE : E.length ≤ 1000) (hp : Inp wx po pcap P) (hs : Stands P E.length) :
    Calls Tryd.prog 15 #[.pointer (some ⟨tb, 0, none⟩), .slice po P.length pcap] wx fun e w' => e = .returned (.tuple #[.int .i64 (val8 P 8 : Nat), .bool true]) ∧ w' = wx :=
  Go.Proofs.YtghaknienffmjaaDoor.place_yes wx tb tb tv mv E h.tab (by omega) po pcap P hp.len hp.cap hp.byt hp.byte hs
theorem Sq.get {w wx : World} {tb : Nat} {Q P : List Int} {tv mv : Value} {E : List En} (h : Sq w wx tb Q tv mv E) (j : Nat) (hj : ∃ h : j < E.length, (E[j]'h).1 = raw P) :
    Calls Tryd.prog 13 #[.pointer (some ⟨tb, 0, none⟩), .int .i64 j] wx fun e w' => ∃ ao cap, e = .returned (.tuple #[.agg #[.int .u8 2, .slice ao 0 cap, .string (strOfNums P), .int .i64 0], .bool true]) ∧ Below wx.heap.size wx w' := by
  obtain ⟨hj1, hj2⟩ := hj
  refine (get_in h.tab j hj1).mono ?_
  rintro e w' ⟨ao, cap, rfl, -, hb⟩
  rw [hj2]
  exact ⟨ao, cap, rfl, hb⟩
theorem Sq.get_any {w wx : World} {tb : Nat} {Q : List Int} {tv mv : Value} {E : List En} (h : Sq w wx tb Q tv mv E) (j : Nat) (hj : j < E.length) :
    Calls Tryd.prog 13 #[.pointer (some ⟨tb, 0, none⟩), .int .i64 j] wx fun e w' => ∃ (k n : Int) (ao : Option Addr) (l cap : Nat) (s : ByteArray), e = .returned (.tuple #[.agg #[.int .u8 k, .slice ao l cap, .string s, .int .i64 n], .bool true]) ∧ Below wx.heap.size wx w' := by
  refine (get_in h.tab j hj).mono ?_
  rintro e w' ⟨ao, cap, rfl, -, hb⟩
  exact ⟨_, _, ao, _, cap, _, rfl, hb⟩
theorem Boxed.keep {b : Nat} {k o s n : Value} {w w' : World} (h : Boxed b k o s n w) (e : w'.heap[b]? = w.heap[b]?) : Boxed b k o s n w' := by
  have hc : ∀ j, w'.cell? ⟨b, j, none⟩ = w.cell? ⟨b, j, none⟩ := fun j => World.cell?_of_block (w := w) (a := ⟨b, j, none⟩) e
  refine ⟨?_, (hc 0).trans h.c0, (hc 1).trans h.c1, (hc 2).trans h.c2, (hc 3).trans h.c3⟩
  have := h.lt
  have h2 : w.heap[b]? = some w.heap[b] := Array.getElem?_eq_getElem this
  rw [h2] at e
  exact (Array.getElem?_eq_some_iff.1 e).1
end Go.Proofs.YtghaknienffmjaaDoor
