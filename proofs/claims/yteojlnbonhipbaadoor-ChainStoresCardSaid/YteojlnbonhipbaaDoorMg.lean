/- A table behind an append of a term. -/
import Derived.Test.YteojlnbonhipbaaDoorMe
namespace Go.Proofs.YteojlnbonhipbaaDoor
open Go.RowKit Go.Maps
/-- The blocks that a table writes. -/
def Foot (tb : Nat) (tv mv : Value) (b : Nat) : Prop := b = tb ∨ tv.ownBlock = some b ∨ mv = .map (some b)
theorem own_set {w : World} {B n size b i : Nat} {e : TypeId} {v u : Value} {xs : List Value} (h : w.ownsRow B e size v n xs) (hne : v.ownBlock ≠ some b) : (w.setCell ⟨b, i, none⟩ u).ownsRow B e size v n xs := by
  obtain ⟨h1, h2⟩ := h
  refine ⟨h1, ?_⟩
  rcases h2 with h2 | ⟨g, cap, cur, rfl, hg, hc, h3⟩
  · exact .inl h2
  · refine .inr ⟨g, cap, cur, rfl, hg, ?_, h3⟩
    rw [Below.heap_setCell _ _ _ _ (fun e => hne (by have e : g = b := e; rw [e]; rfl))]
    exact hc
theorem own_slice {w : World} {B n size : Nat} {e : TypeId} {v : Value} {xs : List Value} (h : w.ownsRow B e size v n xs) : ∃ ao c, v = .slice ao n c := by
  rcases h.2 with ⟨rfl, rfl⟩ | ⟨g, cap, cur, rfl, -⟩
  · exact ⟨none, 0, rfl⟩
  · exact ⟨_, cap, rfl⟩
/-- Numbers do not lie in a table's struct, nor in a map. -/
theorem nums_not {w : World} {B tb : Nat} {tv mv : Value} {E : List En} (h : Tab w B tb tv mv E) {b off : Nat} {x : Int} (hc : w.cell? ⟨b, off, none⟩ = some (.int .i64 x)) : b ≠ tb := by
  rintro rfl
  obtain ⟨ao, c, rfl⟩ := own_slice h.own
  rw [cell_of_row _ _ _ _ _ _ h.row] at hc
  have hm : ∀ y, mv ≠ .int .i64 y := by
    rcases h.mp with ⟨rfl, -⟩ | ⟨mb, D, rfl, -⟩ <;> intro y e <;> cases e
  match off, hc with
  | 0, hc => simp at hc
  | 1, hc => simp at hc; exact hm x hc
  | n + 2, hc => simp at hc
theorem nums_map {w : World} {mb off : Nat} {es : Array MapEntry} {c : Nat} (h : w.heap[mb]? = some (.map es c)) {b : Nat} {x : Int} (hc : w.cell? ⟨b, off, none⟩ = some (.int .i64 x)) : b ≠ mb := by
  rintro rfl
  simp [World.cell?, h] at hc
theorem put_fin {w w6 w7 : World} {B tb mb : Nat} {tv mv0 v' : Value} {E : List En} {D : DataW Unit} {t : Tm} {ao' : Option Addr} {cap' : Nat} {O : Obj}
    (hT : Tab w B tb tv mv0 E) (hf : Fit t) (hnew : t ∉ E.map (·.1)) (hb : Below B w w6) (hsz : w.heap.size < w6.heap.size)
    (tb6 : w6.heap[tb]? = some (.cells #[tv, .map (some mb)] 83 (0, 0)))
    (map6 : w6.ownsMap Tryd.prog 9 (plainElem (H := Unit) Tryd.prog 3) mb (E.length + 1) (D.put (.string (nmB t).data.toList) (.lit (.int .i64 E.length))))
    (hK : Keys D E) (hDm : IsMap D) (m1 : mb ≠ tb) (m2 : tv.ownBlock ≠ some mb) (m3 : B ≤ mb) (hBw : B ≤ w.heap.size)
    (_ : mb < w.heap.size → ∃ es c, w.heap[mb]? = some (.map es c))
    (fr : ∀ b, b < w.heap.size → b ≠ tb → b ≠ mb → w6.heap[b]? = w.heap[b]?)
    (_ : Nums w6 ao' t.of) (_ : ∀ a, ao' = some a → a.block ≠ tb ∧ tv.ownBlock ≠ some a.block)
    (hown : w7.ownsRow B 130 4 v' (E.length + 1) (flat E ++ enV (t, ao', cap'))) (hg : (w6.alloc O).grownBy w7 tv.ownBlock) (hloc : v'.ownBlock = tv.ownBlock ∨ v'.ownBlock = some (w6.alloc O).heap.size) :
    w7.cell? ⟨tb, 0, none⟩ = some tv ∧ w7.frozen? ⟨tb, 0, none⟩ = false ∧ Tab (w7.setCell ⟨tb, 0, none⟩ v') B tb v' (.map (some mb)) (E ++ [(t, ao', cap')]) ∧ Below B w (w7.setCell ⟨tb, 0, none⟩ v') ∧
      ∀ b, b < w.heap.size → b ≠ tb → b ≠ mb → tv.ownBlock ≠ some b → (w7.setCell ⟨tb, 0, none⟩ v').heap[b]? = w.heap[b]? ∧ v'.ownBlock ≠ some b := by
  have hOs : (w6.alloc O).heap.size = w6.heap.size + 1 := by simp
  have htl := (Array.getElem?_eq_some_iff.1 tb6).1
  have hml : mb < w6.heap.size := map6.lt
  have hold : ∀ b, b < w6.heap.size → some b ≠ tv.ownBlock → w7.heap[b]? = w6.heap[b]? := fun b h1 h2 => (hg.block b (by omega) h2).trans (Below.heap_alloc w6 O b h1)
  have hset : ∀ b, b < w6.heap.size → some b ≠ tv.ownBlock → b ≠ tb → (w7.setCell ⟨tb, 0, none⟩ v').heap[b]? = w6.heap[b]? := fun b h1 h2 h3 => (Below.heap_setCell _ _ _ _ h3).trans (hold b h1 h2)
  have hlo : ∀ b, b < w6.heap.size → tv.ownBlock ≠ some b → v'.ownBlock ≠ some b := fun b h1 h2 h3 => by
    rcases hloc with h | h
    · exact h2 (h ▸ h3)
    · rw [h, hOs] at h3
      injection h3 with h3
      omega
  have hrow7 : w7.heap[tb]? = some (.cells #[tv, .map (some mb)] 83 (0, 0)) := (hold tb htl (fun e => hT.ne e.symm)).trans tb6
  have hrf := heap_setCell_same w7 tb 0 _ 83 v' hrow7
  have hsize : w6.heap.size ≤ (w7.setCell ⟨tb, 0, none⟩ v').heap.size := by
    have := hg.size
    have e : (w7.setCell ⟨tb, 0, none⟩ v').heap.size = w7.heap.size := by simp [World.setCell]
    omega
  have htv : ∀ g, tv.ownBlock = some g → B ≤ g := fun g h => (hT.own.lt g h).1
  refine ⟨by rw [cell_of_row _ _ _ _ _ _ hrow7]; rfl, by simp [World.frozen?, hrow7], ⟨hT.tbB, hrf, ?_, hlo tb htl hT.ne, fun e he => ?_, ?_, .inr ⟨mb, _, rfl, m1, hlo mb hml m2, m3, ?_, keys_put hK hDm (fun e he => (hT.each e he).1.ok) t hf.ok hnew ao' cap'⟩⟩, ?_, fun b q1 q2 q3 q4 => ⟨(hset b (by omega) (fun e => q4 e.symm) q2).trans (fr b q1 q2 q3), hlo b (by omega) q4⟩⟩
  · rw [flat_snoc, List.length_append, List.length_singleton]
    exact own_set hown (hlo tb htl hT.ne)
  · rw [List.mem_append, List.mem_singleton] at he
    rcases he with he | rfl
    · exact hT.each e he
    · exact ⟨hf, trivial⟩
  · rw [List.map_append, List.nodup_append]
    refine ⟨hT.nodup, by simp, fun a ha b hb2 => ?_⟩
    rw [List.map_singleton, List.mem_singleton] at hb2
    subst hb2
    rintro rfl
    exact hnew ha
  · rw [List.length_append, List.length_singleton]
    have h1 := map6.alloc O
    have h2 := h1.kept hg (fun e => m2 e.symm)
    exact h2.setCell m1 _
  · have h1 : Below B w w7 := Below.grown (hb.alloc (by omega) O) hg (by omega) htv
    exact h1.setCell hT.tbB _
end Go.Proofs.YteojlnbonhipbaaDoor
