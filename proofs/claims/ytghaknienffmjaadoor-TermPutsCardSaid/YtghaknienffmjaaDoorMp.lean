/- The first loop of the law over puts: terms put one after the other, and the list of those that were new. -/
import Derived.Test.YtghaknienffmjaaDoorMo
import Derived.Test.YtghaknienffmjaaDoorMm
import Derived.Test.YtghaknienffmjaaDoorMl
namespace Go.Proofs.YtghaknienffmjaaDoor
open Go.RowKit Go.Maps
/-- A term as the code hands it on. -/
def agV (e : En) : Value := .agg #[.int .u8 e.1.k, .slice e.2.1 e.1.of.length e.2.2, .string ⟨e.1.tx.toArray⟩, .int .i64 e.1.n]
theorem tx_eq {a b : List UInt8} : ((⟨a.toArray⟩ : ByteArray) = ⟨b.toArray⟩) ↔ a = b := by
  constructor
  · intro h
    injection h with h
    have := congrArg Array.toList h
    simpa using this
  · rintro rfl; rfl
theorem tm_eq (t u : Tm) : (t.k = u.k ∧ t.n = u.n ∧ (⟨t.tx.toArray⟩ : ByteArray) = ⟨u.tx.toArray⟩ ∧ t.of = u.of) ↔ t = u := by
  rw [tx_eq]
  cases t; cases u
  constructor
  · rintro ⟨h1, h2, h3, h4⟩
    simp_all
  · intro h
    simp_all
theorem same_tm (e f : En) (w : World) (hN : Nums w e.2.1 e.1.of) (hN' : Nums w f.2.1 f.1.of) (hl : e.1.of.length ≤ 1048576) :
    Calls Tryd.prog 10 #[agV e, agV f] w fun x w' => x = .returned (.bool (decide (e.1 = f.1))) ∧ Below w.heap.size w w' := by
  refine (same_any e.1.k e.1.n f.1.k f.1.n e.1.of f.1.of ⟨e.1.tx.toArray⟩ ⟨f.1.tx.toArray⟩ e.2.1 f.2.1 e.2.2 f.2.2 w hN hN' hl).mono fun x w' ⟨h1, h2⟩ => ⟨h1.trans ?_, h2⟩
  congr 3
  exact propext (tm_eq e.1 f.1)
theorem Terms.on {w w' : World} {la : Option Addr} {Ts : List En} (h : Terms w la Ts) (hb : Below w.heap.size w w') : Terms w' la Ts := by
  refine ⟨fun j hj => ?_⟩
  obtain ⟨b, off, h1, h2, h3, h4, h5⟩ := h.at_ j hj
  exact ⟨b, off, h1, Nat.lt_of_lt_of_le h2 hb.size, fun r hr => (hb.cell (p := ⟨b, off + (j * 4 + r), none⟩) h2).trans (h3 r hr), h4.on hb (Nat.le_refl _), h5⟩
/-- The four cells of a term that came in. -/
theorem Terms.cells {w : World} {la : Option Addr} {Ts : List En} (h : Terms w la Ts) (j : Nat) (hj : j < Ts.length) :
    ∃ b off, la = some ⟨b, off, none⟩ ∧ b < w.heap.size ∧ w.cell? ⟨b, off + j * 4, none⟩ = some (.int .u8 Ts[j].1.k) ∧ w.cell? ⟨b, off + j * 4 + 1, none⟩ = some (.slice Ts[j].2.1 Ts[j].1.of.length Ts[j].2.2) ∧ w.cell? ⟨b, off + j * 4 + 2, none⟩ = some (.string ⟨Ts[j].1.tx.toArray⟩) ∧ w.cell? ⟨b, off + j * 4 + 3, none⟩ = some (.int .i64 Ts[j].1.n) ∧ Nums w Ts[j].2.1 Ts[j].1.of ∧ Ts[j].1.Ok := by
  obtain ⟨b, off, h1, h2, h3, h4, h5⟩ := h.at_ j hj
  refine ⟨b, off, h1, h2, ?_, ?_, ?_, ?_, h4, h5⟩
  · exact h3 0 (by omega)
  · exact h3 1 (by omega)
  · exact h3 2 (by omega)
  · exact h3 3 (by omega)
/-- What the first loop keeps. -/
structure MS (w1 wr : World) (B tb : Nat) (vm : Value) (Ms : List En) : Prop where
  own : wr.ownsRow B 25 4 vm Ms.length (flat Ms)
  tab : ∃ tv mv E, Tab wr B tb tv mv E ∧ E.map (·.1) = Ms.map (·.1) ∧ ∀ g, vm.ownBlock = some g → ¬ Foot tb tv mv g ∧ ∀ e ∈ E, ∀ a, e.2.1 = some a → e.1.of ≠ [] → a.block ≠ g
  bel : Below B w1 wr
  low : B ≤ w1.heap.size
  each : ∀ e ∈ Ms, Fit e.1 ∧ Nums w1 e.2.1 e.1.of
theorem MS.on {w1 wr w' : World} {B tb : Nat} {vm : Value} {Ms : List En} (h : MS w1 wr B tb vm Ms) (hb : Below wr.heap.size wr w') (hB : B ≤ wr.heap.size) : MS w1 w' B tb vm Ms := by
  obtain ⟨tv, mv, E, h1, h2, h3⟩ := h.tab
  exact ⟨owns_below h.own hb, ⟨tv, mv, E, h1.on hb, h2, h3⟩, h.bel.trans (hb.mono hB), h.low, h.each⟩
theorem len_of {E Ms : List En} (h : E.map (·.1) = Ms.map (·.1)) : E.length = Ms.length := by
  have := congrArg List.length h
  simpa using this
theorem get_of {E Ms : List En} (h : E.map (·.1) = Ms.map (·.1)) (j : Nat) (h1 : j < E.length) (h2 : j < Ms.length) : E[j].1 = Ms[j].1 := by
  have := congrArg (fun l : List Tm => l[j]?) h
  simpa [h1, h2] using this
/-- The same, ahead of a put of t: the list may hold t already where the table doesn't. -/
structure MG (w1 wr : World) (B tb : Nat) (vm : Value) (Ms : List En) (t : Tm) (tv mv : Value) (E : List En) : Prop where
  own : wr.ownsRow B 25 4 vm Ms.length (flat Ms)
  tab : Tab wr B tb tv mv E
  ext : ∃ ext, Ms.map (·.1) = E.map (·.1) ++ ext ∧ (ext = [] ∨ (ext = [t] ∧ t ∉ E.map (·.1)))
  foot : ∀ g, vm.ownBlock = some g → ¬ Foot tb tv mv g ∧ ∀ e ∈ E, ∀ a, e.2.1 = some a → e.1.of ≠ [] → a.block ≠ g
  bel : Below B w1 wr
  low : B ≤ w1.heap.size
  each : ∀ e ∈ Ms, Fit e.1 ∧ Nums w1 e.2.1 e.1.of
theorem MG.len {w1 wr : World} {B tb : Nat} {vm tv mv : Value} {Ms E : List En} {t : Tm} (h : MG w1 wr B tb vm Ms t tv mv E) : E.length ≤ Ms.length := by
  obtain ⟨x, h1, -⟩ := h.ext
  have := congrArg List.length h1
  simp at this
  omega
theorem MS.old {w1 wr : World} {B tb : Nat} {vm : Value} {Ms : List En} (h : MS w1 wr B tb vm Ms) (t : Tm) : ∃ tv mv E, MG w1 wr B tb vm Ms t tv mv E := by
  obtain ⟨tv, mv, E, h1, h2, h3⟩ := h.tab
  exact ⟨tv, mv, E, h.own, h1, ⟨[], by rw [List.append_nil, h2], .inl rfl⟩, h3, h.bel, h.low, h.each⟩
theorem MS.new {w1 wr w2 : World} {B tb : Nat} {vm v2 : Value} {Ms : List En} {O : Obj} (h : MS w1 wr B tb vm Ms) (e : En) (hf : Fit e.1) (hN : Nums w1 e.2.1 e.1.of) (hn : ∀ j (hj : j < Ms.length), Ms[j].1 ≠ e.1)
    (hown : w2.ownsRow B 25 4 v2 (Ms.length + 1) (flat Ms ++ enV e)) (hg : (wr.alloc O).grownBy w2 vm.ownBlock) (hat : v2.ownBlock = vm.ownBlock ∨ v2.ownBlock = some (wr.alloc O).heap.size) :
    ∃ tv mv E, MG w1 w2 B tb v2 (Ms ++ [e]) e.1 tv mv E := by
  obtain ⟨tv, mv, E, h1, h2, h3⟩ := h.tab
  have hA := h1.on (Joins.below_alloc1 wr O)
  have hs : (wr.alloc O).heap.size = wr.heap.size + 1 := by simp
  have hfoot : ∀ b, Foot tb tv mv b → b < wr.heap.size := by
    rintro b (rfl | q | q)
    · exact h1.lt
    · exact (h1.own.lt b q).2
    · rcases h1.mp with ⟨q2, -⟩ | ⟨mb, D, q2, -, -, -, q3, -⟩
      · rw [q] at q2; cases q2
      · rw [q] at q2
        injection q2 with q2
        injection q2 with q2
        subst q2
        exact q3.lt
  have hT : Tab w2 B tb tv mv E := by
    cases ho : vm.ownBlock with
    | none =>
      rw [ho] at hg
      refine hA.on ⟨hg.os, hg.tape, hg.output, hg.size, fun k hk => hg.block k hk (by simp)⟩
    | some g =>
      rw [ho] at hg
      exact hA.grown hg (h3 g ho).1 (h3 g ho).2
  refine ⟨tv, mv, E, ?_, hT, ⟨[e.1], by simp [h2], .inr ⟨rfl, fun hm => ?_⟩⟩, fun g hgv => ?_, ?_, h.low, fun x hx => ?_⟩
  · rw [flat_snoc, List.length_append, List.length_singleton]
    exact hown
  · rw [h2] at hm
    obtain ⟨x, hx, hxt⟩ := List.mem_map.1 hm
    obtain ⟨j, hj, rfl⟩ := List.getElem_of_mem hx
    exact hn j hj hxt
  · rcases hat with q | q
    · exact h3 g (q ▸ hgv)
    · rw [q, hs] at hgv
      injection hgv with hgv
      refine ⟨fun hF => ?_, fun x hx a ha hne => ?_⟩
      · have := hfoot g hF; omega
      · obtain ⟨-, q2, -⟩ := h1.each x hx
        obtain ⟨b, off, r1, r2, -⟩ := q2.at_ 0 (List.length_pos_iff.2 hne)
        rw [ha] at r1
        injection r1 with r1
        subst r1
        have r2 : b < wr.heap.size := r2
        show b ≠ g
        omega
  · exact Below.grown (h.bel.alloc (Nat.le_trans h.low h.bel.size) O) hg (by have := h.bel.size; have := h.low; omega) (fun k hk => (h.own.lt k hk).1)
  · rw [List.mem_append, List.mem_singleton] at hx
    rcases hx with hx | rfl
    · exact h.each x hx
    · exact ⟨hf, hN⟩
/-- Nothing of the table is in the row's block, and the row goes on behind a put. -/
theorem MG.put {w1 wr w' : World} {B tb : Nat} {vm tv mv : Value} {Ms E : List En} {t : Tm} {e : Ending} (h : MG w1 wr B tb vm Ms t tv mv E) (q : Nat) (hq : q < Ms.length) (hqt : Ms[q].1 = t)
    (hp : PutF wr B tb tv mv E t e w') :
    e = .returned (.int .i64 (q : Nat)) ∧ MS w1 w' B tb vm Ms := by
  obtain ⟨j, tv', mv', E', rfl, h1, h2, h3, h4⟩ := hp
  obtain ⟨ext, hx, hx2⟩ := h.ext
  have hT := h.tab
  have hF := h.foot
  have hrow : w'.ownsRow B 25 4 vm Ms.length (flat Ms) := by
    obtain ⟨a1, a2⟩ := h.own
    refine ⟨a1, ?_⟩
    rcases a2 with a2 | ⟨g, cap, cur, rfl, hg, hc, a3⟩
    · exact .inl a2
    · refine .inr ⟨g, cap, cur, rfl, hg, ?_, a3⟩
      rw [(h4 g (Array.getElem?_eq_some_iff.1 hc).1 (hF g rfl).1).1]
      exact hc
  have hfoot : ∀ g, vm.ownBlock = some g → ¬ Foot tb tv' mv' g := fun g hg => (h4 g (h.own.lt g hg).2 (hF g hg).1).2
  rcases h3 with ⟨rfl, hj, hjt⟩ | ⟨hn, rfl, a, c, rfl, ha⟩
  · have he : ext = [] := by
      rcases hx2 with rfl | ⟨rfl, hn⟩
      · rfl
      · exact absurd (hjt ▸ List.mem_map_of_mem (List.getElem_mem hj)) hn
    subst he
    rw [List.append_nil] at hx
    have hjq : j = q := by
      have hn := List.pairwise_iff_getElem.1 hT.nodup
      have hl := len_of hx
      have e1 : E'[j].1 = E'[q].1 := by rw [hjt, get_of hx.symm q (by omega) hq, hqt]
      rcases Nat.lt_trichotomy j q with hlt | hlt | hlt
      · exact absurd (by rw [List.getElem_map, List.getElem_map]; exact e1) (hn j q (by simpa using hj) (by simp; omega) hlt)
      · exact hlt
      · exact absurd (by rw [List.getElem_map, List.getElem_map]; exact e1.symm) (hn q j (by simp; omega) (by simpa using hj) hlt)
    subst hjq
    exact ⟨rfl, hrow, ⟨tv', mv', E', h1, hx.symm, fun g hg => ⟨hfoot g hg, (hF g hg).2⟩⟩, h.bel.trans h2, h.low, h.each⟩
  · have he : ext = [t] := by
      rcases hx2 with rfl | ⟨rfl, -⟩
      · rw [List.append_nil] at hx
        exact absurd (hx ▸ hqt ▸ List.mem_map_of_mem (List.getElem_mem hq)) hn
      · rfl
    subst he
    have hl : Ms.length = E.length + 1 := by
      have := congrArg List.length hx
      simpa using this
    have hql : q = E.length := by
      rcases Nat.lt_or_ge q E.length with hlt | hge
      · have e1 : Ms[q].1 = E[q].1 := by
          have := congrArg (fun l : List Tm => l[q]?) hx
          simpa [hq, hlt, List.getElem?_append_left] using this
        exact absurd (hqt ▸ e1 ▸ List.mem_map_of_mem (List.getElem_mem hlt)) hn
      · omega
    subst hql
    refine ⟨rfl, hrow, ⟨tv', mv', _, h1, by rw [hx]; simp, fun g hg => ⟨hfoot g hg, fun e he a' ha' hne => ?_⟩⟩, h.bel.trans h2, h.low, h.each⟩
    rw [List.mem_append, List.mem_singleton] at he
    rcases he with he | rfl
    · exact (hF g hg).2 e he a' ha' hne
    · have := ha a' ha'
      have := (h.own.lt g hg).2
      omega
end Go.Proofs.YtghaknienffmjaaDoor
