/- A table in memory: its terms, their numbers, the map of their names. -/
import Derived.Test.YteojlnbonhipbaaDoorMc
import Derived.Maps.OwnSet
import Derived.Maps.OwnOps
import Derived.Maps.AppendAt
import Derived.Maps.Views
import Derived.Maps.OwnSet
import Derived.Maps.OwnOps
import Derived.Maps.AppendAt
import Derived.Maps.Views
namespace Go.Proofs.YteojlnbonhipbaaDoor
open Go.RowKit Go.Maps
/-- A term of a table: where its numbers lie, with what capacity. -/
abbrev En := Tm × Option Addr × Nat
def enV (e : En) : List Value := [.int .u8 e.1.k, .slice e.2.1 e.1.of.length e.2.2, .string ⟨e.1.tx.toArray⟩, .int .i64 e.1.n]
def flat (E : List En) : List Value := E.flatMap enV
theorem flat_snoc (E : List En) (e : En) : flat (E ++ [e]) = flat E ++ enV e := by simp [flat]
/-- The text of a name. -/
def nmB (t : Tm) : ByteArray := ⟨t.name.toArray⟩
/-- What may be put. -/
structure Fit (t : Tm) : Prop where
  ok : t.Ok
  of : t.of.length ≤ 1048576
  tx : t.tx.length ≤ 281474976710656
/-- The map of the names. -/
structure Keys (D : DataW Unit) (E : List En) : Prop where
  has : ∀ t : Tm, t.Ok → Maps.has D (.string (nmB t).data.toList) = decide (t ∈ E.map (·.1))
  at_ : ∀ j (h : j < E.length) z, D.atKey (.string (nmB E[j].1).data.toList) z = .lit (.int .i64 j)
/-- A table: its struct in block tb, its terms, its map. -/
structure Tab (w : World) (B tb : Nat) (tv mv : Value) (E : List En) : Prop where
  tbB : B ≤ tb
  row : w.heap[tb]? = some (.cells #[tv, mv] 83 (0, 0))
  own : w.ownsRow B 130 4 tv E.length (flat E)
  ne : tv.ownBlock ≠ some tb
  each : ∀ e ∈ E, Fit e.1 ∧ True
  nodup : (E.map (·.1)).Nodup
  mp : (mv = .map none ∧ E = []) ∨ ∃ mb D, mv = .map (some mb) ∧ mb ≠ tb ∧ tv.ownBlock ≠ some mb ∧ B ≤ mb ∧ w.ownsMap Tryd.prog 9 (plainElem (H := Unit) Tryd.prog 3) mb E.length D ∧ Keys D E
theorem Tab.lt {w : World} {B tb : Nat} {tv mv : Value} {E : List En} (h : Tab w B tb tv mv E) : tb < w.heap.size := (Array.getElem?_eq_some_iff.1 h.row).1
theorem Tab.on {w w' : World} {B tb : Nat} {tv mv : Value} {E : List En} (h : Tab w B tb tv mv E) (hb : Below w.heap.size w w') : Tab w' B tb tv mv E := by
  refine ⟨h.tbB, (hb.block tb h.lt).trans h.row, owns_on h.own hb, h.ne, h.each, h.nodup, ?_⟩
  · rcases h.mp with h1 | ⟨mb, D, h1, h2, h3, h4, h5, h6⟩
    · exact .inl h1
    · exact .inr ⟨mb, D, h1, h2, h3, h4, h5.kept (row := none) ⟨hb.os, hb.tape, hb.output, hb.size, fun k hk _ => hb.block k hk⟩ (by simp), h6⟩
theorem law : Keyed Tryd.prog 9 := string_keyed Tryd.underlying9
theorem zero3 (w : World) : (zeroValue 3).run Tryd.prog w = .ok (.int .i64 0) w := by kernel_rfl
theorem nm_len (t : Tm) (h : Fit t) : (nmB t).size ≤ 281474976710656 + 23068700 := by
  have h1 := Tm.hd_len t.k t.n t.of h.ok.n h.ok.of t.of.length (Nat.le_refl _)
  have h2 := congrArg List.length (Tm.hd_all t)
  have := h.of
  have := h.tx
  simp only [List.length_append, List.length_singleton] at h2
  show t.name.toArray.size ≤ _
  rw [List.size_toArray]
  omega
theorem nm_key (t : Tm) (h : Fit t) : keyOf Tryd.prog 9 (.string (nmB t)) = some (.string (nmB t).data.toList) := Go.WideMaps.keyOf_string_mk Tryd.underlying9 (by have := nm_len t h; unfold maxLen; omega)
theorem keys_nil : Keys (.map [] : DataW Unit) [] := ⟨fun t _ => by simp [Maps.has], fun j h => absurd h (Nat.not_lt_zero _)⟩
theorem nm_ne {t u : Tm} (ht : t.Ok) (hu : u.Ok) (h : t ≠ u) : (Lit.string (nmB t).data.toList) ≠ Lit.string (nmB u).data.toList := fun e => h (Tm.name_inj ht hu (by injection e))
theorem keys_put {D : DataW Unit} {E : List En} (h : Keys D E) (hD : IsMap D) (hE : ∀ e ∈ E, e.1.Ok) (t : Tm) (ht : t.Ok) (hn : t ∉ E.map (·.1)) (a : Option Addr) (c : Nat) : Keys (D.put (.string (nmB t).data.toList) (.lit (.int .i64 E.length))) (E ++ [(t, a, c)]) := by
  refine ⟨fun u hu => ?_, fun j hj z => ?_⟩
  · by_cases e : u = t
    · subst e
      rw [has_put_same hD (by trivial)]
      simp
    · rw [has_put_other (nm_ne hu ht e), h.has u hu]
      simp [e]
  · by_cases e : j < E.length
    · have hne : E[j].1 ≠ t := fun h' => hn (h' ▸ List.mem_map_of_mem (List.getElem_mem e))
      rw [List.getElem_append_left e]
      rw [atKey_put_other (nm_ne (hE _ (List.getElem_mem e)) ht hne), h.at_ j e]
    · have e2 : j = E.length := by simp at hj; omega
      subst e2
      rw [List.getElem_append_right (Nat.le_refl _)]
      simp only [Nat.sub_self, List.getElem_cons_zero]
      rw [atKey_put_same hD (by trivial)]
end Go.Proofs.YteojlnbonhipbaaDoor
