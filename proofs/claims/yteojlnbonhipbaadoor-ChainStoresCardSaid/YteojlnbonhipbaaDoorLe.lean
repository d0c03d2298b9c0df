/- The law ChainStores: its list and its store, between a round's steps. -/
import Derived.Test.YteojlnbonhipbaaDoorLc
import Derived.Test.YteojlnbonhipbaaDoorZg
namespace Go.Proofs.YteojlnbonhipbaaDoor
open Go.RowKit Go.Maps
/-- The keys of the law's list: each of one byte, of one of three; no two alike. -/
structure Ok (S : List Sk) : Prop where
  each : ∀ x ∈ S, ∃ o : UInt8, x.of = [o] ∧ o.toNat < 3 ∧ x.key.length = 2
  nodup : (S.map fun x => (x.n, x.of)).Nodup
theorem ridS_sub (S : List Sk) (X : List UInt8) (n : Nat) : (ridS S X n).Sublist S := List.eraseIdx_sublist _ _
theorem Ok.sub {S T : List Sk} (h : Ok S) (hs : T.Sublist S) : Ok T := ⟨fun x hx => h.each x (hs.subset hx), List.Pairwise.sublist (hs.map _) h.nodup⟩
theorem hit_iff (X : List UInt8) (n : Nat) (y : Sk) : hit X n y = true ↔ y.n = n ∧ y.of = X := by simp [hit]
theorem Ok.uniq {S : List Sk} (h : Ok S) (X : List UInt8) (n i j : Nat) (hi : i < S.length) (hj : j < S.length) (h1 : hit X n S[i] = true) (h2 : hit X n S[j] = true) : i = j := by
  have hp := List.pairwise_iff_getElem.1 h.nodup
  rw [hit_iff] at h1 h2
  have key : ∀ a b (ha : a < S.length) (hb : b < S.length), a < b → S[a].n = n ∧ S[a].of = X → S[b].n = n ∧ S[b].of = X → False := by
    intro a b ha hb hab e1 e2
    have := hp a b (by rw [List.length_map]; exact ha) (by rw [List.length_map]; exact hb) hab
    rw [List.getElem_map, List.getElem_map, e1.1, e1.2, e2.1, e2.2] at this
    exact this rfl
  rcases Nat.lt_trichotomy i j with e | e | e
  · exact (key i j hi hj e h1 h2).elim
  · exact e
  · exact (key j i hj hi e h2 h1).elim
theorem Ok.none {S : List Sk} (h : Ok S) (X : List UInt8) (n : Nat) : ∀ y ∈ ridS S X n, hit X n y = false := by
  intro y hy
  unfold ridS at hy
  obtain ⟨j, hj, hne, rfl⟩ := List.mem_eraseIdx_iff_getElem.1 hy
  cases hh : hit X n S[j] with
  | false => rfl
  | true =>
    have hlt : S.findIdx (hit X n) < S.length := List.findIdx_lt_length.2 ⟨_, List.getElem_mem hj, hh⟩
    have := h.uniq X n j _ hj hlt hh (List.findIdx_getElem (w := hlt))
    exact absurd this hne
theorem Ok.put {S : List Sk} (h : Ok S) (x : Sk) (hx : ∃ o : UInt8, x.of = [o] ∧ o.toNat < 3 ∧ x.key.length = 2) : Ok (putS S x) := by
  have h1 : Ok (ridS S x.of x.n ++ [x]) := by
    have hr := h.sub (ridS_sub S x.of x.n)
    refine ⟨fun y hy => ?_, ?_⟩
    · rcases List.mem_append.1 hy with hy | hy
      · exact hr.each y hy
      · rw [List.mem_singleton.1 hy]; exact hx
    · rw [List.map_append]
      refine List.pairwise_append.2 ⟨hr.nodup, List.pairwise_singleton _ _, fun a ha b hb => ?_⟩
      obtain ⟨y, hy, rfl⟩ := List.mem_map.1 ha
      obtain rfl := List.mem_singleton.1 hb
      intro e
      have hn := h.none x.of x.n y hy
      have : hit x.of x.n y = true := (hit_iff _ _ _).2 ⟨congrArg (·.1) e, congrArg (·.2) e⟩
      rw [this] at hn
      cases hn
  unfold putS
  split
  · exact h1.sub (List.drop_sublist _ _)
  · exact h1
/-- The place that the law has found. -/
def At (M : List Se) (P : List UInt8) (n kk : Nat) (z : Int) : Prop := (z = -1 ∧ ∀ j (hj : j < M.length), j < kk → hit P n M[j].1 = false) ∨ ∃ j0, ∃ h : j0 < M.length, j0 < kk ∧ z = j0 ∧ hit P n M[j0].1 = true
theorem At.skip {M : List Se} {P : List UInt8} {n kk : Nat} {z : Int} (h : At M P n kk z) (hk : kk < M.length) (hh : hit P n M[kk].1 = false) : At M P n (kk + 1) z := by
  rcases h with ⟨h1, h2⟩ | ⟨j0, h1, h2, h3, h4⟩
  · refine .inl ⟨h1, fun j hj hjk => ?_⟩
    by_cases e : j = kk
    · subst e; exact hh
    · exact h2 j hj (by omega)
  · exact .inr ⟨j0, h1, by omega, h3, h4⟩
theorem At.found {M : List Se} {P : List UInt8} {n : Nat} {z : Int} (h : At M P n M.length z) (hok : Ok (M.map (·.1))) :
    (z = -1 ∧ idxS (M.map (·.1)) P n = -1 ∧ ridS (M.map (·.1)) P n = M.map (·.1)) ∨ ∃ j0, ∃ _ : j0 < M.length, z = j0 ∧ idxS (M.map (·.1)) P n = j0 ∧ ridS (M.map (·.1)) P n = (M.take j0 ++ M.drop (j0 + 1)).map (·.1) := by
  rcases h with ⟨h1, h2⟩ | ⟨j0, h1, -, h3, h4⟩
  · have hf : (M.map (·.1)).findIdx (hit P n) = (M.map (·.1)).length := List.findIdx_eq_length.2 fun x hx => by
      obtain ⟨e, he, rfl⟩ := List.mem_map.1 hx
      obtain ⟨j, hj, rfl⟩ := List.getElem_of_mem he
      exact h2 j hj hj
    refine .inl ⟨h1, ?_, ?_⟩
    · unfold idxS
      rw [hf, if_neg (Nat.lt_irrefl _)]
    · unfold ridS
      exact List.eraseIdx_of_length_le (by rw [hf]; exact Nat.le_refl _)
  · have hl : j0 < (M.map (·.1)).length := by rw [List.length_map]; exact h1
    have hg : hit P n (M.map (·.1))[j0] = true := by rw [List.getElem_map]; exact h4
    have hf : (M.map (·.1)).findIdx (hit P n) = j0 := by
      have hlt : (M.map (·.1)).findIdx (hit P n) < (M.map (·.1)).length := List.findIdx_lt_length.2 ⟨_, List.getElem_mem hl, hg⟩
      exact hok.uniq P n _ _ hlt hl (List.findIdx_getElem (w := hlt)) hg
    refine .inr ⟨j0, h1, h3, ?_, ?_⟩
    · unfold idxS
      rw [hf, if_pos hl]
    · unfold ridS
      rw [hf, List.eraseIdx_eq_take_drop_succ, List.map_append, List.map_take, List.map_drop]
theorem Lst.fr {V V' : World} {B : Nat} {vm : Value} {M : List Se} (h : Lst V B vm M) (hb : ∀ g, vm.ownBlock = some g → g < V.heap.size → V'.heap[g]? = V.heap[g]?) (hk : Kp SK V V') : Lst V' B vm M := by
  refine ⟨h.at_.imp id ?_, fun e he => ⟨(h.each e he).1.kp hk (by decide), (h.each e he).2.kp hk (by decide)⟩⟩
  rintro ⟨g, off, cap, cur, rfl, h2, h3, h4⟩
  exact ⟨g, off, cap, cur, rfl, h2, (hb g rfl (Array.getElem?_eq_some_iff.1 h3).1).trans h3, h4⟩
theorem Lst.lt {V : World} {B : Nat} {vm : Value} {M : List Se} (h : Lst V B vm M) {g : Nat} (hg : vm.ownBlock = some g) : g < V.heap.size ∧ ∃ cur, V.heap[g]? = some (.cells cur 47 (0, 0)) := by
  rcases h.at_ with ⟨rfl, -⟩ | ⟨g', off, cap, cur, rfl, -, hc, -⟩
  · cases hg
  · injection hg with hg
    have hg : g' = g := hg
    subst hg
    exact ⟨(Array.getElem?_eq_some_iff.1 hc).1, cur, hc⟩
theorem Sto.vlt {V : World} {B sb : Nat} {vs : Value} {E : List Se} (h : Sto V B sb vs E) {g : Nat} (hg : vs.ownBlock = some g) : g < V.heap.size := by
  rcases h.own.2 with ⟨rfl, -⟩ | ⟨g', cap, cur, rfl, -, hc, -⟩
  · cases hg
  · injection hg with hg
    have hg : g' = g := hg
    subst hg
    exact (Array.getElem?_eq_some_iff.1 hc).1
theorem Sto.fr {V V' : World} {B sb : Nat} {vs : Value} {E : List Se} (h : Sto V B sb vs E) (hb : ∀ g, vs.ownBlock = some g → V'.heap[g]? = V.heap[g]?) (hk : Kp [some 47] V V') : Sto V' B sb vs E := by
  refine ⟨h.sbB, hk.cells h.row (by decide), ?_, fun e he => ⟨(h.each e he).1.kp hk (by decide), (h.each e he).2.kp hk (by decide)⟩⟩
  obtain ⟨h1, h2⟩ := h.own
  refine ⟨h1, ?_⟩
  rcases h2 with h2 | ⟨g, cap, cur, rfl, hg, hc, h3⟩
  · exact .inl h2
  · exact .inr ⟨g, cap, cur, rfl, hg, (hb g rfl).trans hc, h3⟩
/-- What stands at the head of a round. -/
structure Inv (w wr : World) (sb : Nat) (vm : Value) (M : List Se) : Prop where
  st : ∃ vs Es, Sto wr w.heap.size sb vs Es ∧ Es.map (·.1) = M.map (·.1) ∧ ∀ g, vs.ownBlock = some g → vm.ownBlock ≠ some g
  ls : Lst wr w.heap.size vm M
  ok : Ok (M.map (·.1))
  len : M.length ≤ 32
  bel : Below w.heap.size w wr
/-- What stands within a round: the store, the law's list; the key in its box. -/
structure Mid2 (w V : World) (sb xb fa ka n : Nat) (X Y : List UInt8) (vs : Value) (Es : List Se) (vm : Value) (M : List Se) : Prop where
  sto : Sto V w.heap.size sb vs Es
  ne : ∀ g, vs.ownBlock = some g → vm.ownBlock ≠ some g
  nex : vs.ownBlock ≠ some xb
  lst : Lst V w.heap.size vm M
  xne : sb ≠ xb ∧ vm.ownBlock ≠ some xb
  box : V.heap[xb]? = some (.cells #[.slice (some ⟨fa, 0, none⟩) 1 1, .int .u32 (n : Int), .slice (some ⟨ka, 0, none⟩) 2 2] 47 (0, 0))
  bx : By V (some ⟨fa, 0, none⟩) X ∧ By V (some ⟨ka, 0, none⟩) Y
  xl : X.length = 1 ∧ Y.length = 2 ∧ ∃ o : UInt8, X = [o] ∧ o.toNat < 3
  ok : Ok (Es.map (·.1))
  len : Es.length ≤ 32
  bel : Below w.heap.size w V
section
variable {w V V' : World} {sb xb fa ka n : Nat} {X Y : List UInt8} {vs vm : Value} {Es M : List Se}
theorem Mid2.on (h : Mid2 w V sb xb fa ka n X Y vs Es vm M) (hb : Below V.heap.size V V') : Mid2 w V' sb xb fa ka n X Y vs Es vm M :=
  ⟨h.sto.on hb, h.ne, h.nex, h.lst.on hb, h.xne, (hb.block _ (Array.getElem?_eq_some_iff.1 h.box).1).trans h.box, ⟨h.bx.1.kp (Kp.of_below [] hb) (List.not_mem_nil), h.bx.2.kp (Kp.of_below [] hb) (List.not_mem_nil)⟩, h.xl, h.ok, h.len, h.bel.trans (hb.mono h.bel.size)⟩
/-- Another list, the store untouched. -/
theorem Mid2.swap {u vm' : Value} {M1 : List Se} (h : Mid2 w V sb xb fa ka n X Y vs Es vm M) (hp : Psh w.heap.size u V V' vm' M1) (hu : ∀ g, u.ownBlock = some g → vs.ownBlock ≠ some g ∧ g ≠ xb) : Mid2 w V' sb xb fa ka n X Y vs Es vm' M1 := by
  have hxl := (Array.getElem?_eq_some_iff.1 h.box).1
  refine ⟨h.sto.fr (fun g hg => hp.fr g (h.sto.vlt hg) (fun e => (hu g e).1 hg)) hp.kp, fun g hg e => ?_, h.nex, hp.lst, ⟨h.xne.1, fun e => ?_⟩, (hp.fr xb hxl (fun e => (hu xb e).2 rfl)).trans h.box, ⟨h.bx.1.kp hp.kp (by decide), h.bx.2.kp hp.kp (by decide)⟩, h.xl, h.ok, h.len, h.bel.trans hp.below⟩
  · rcases hp.loc with e2 | ⟨g', e2, hg'⟩
    · exact (hu g (e2 ▸ e)).1 hg
    · rw [e2] at e
      injection e with e
      have := h.sto.vlt hg
      omega
  · rcases hp.loc with e2 | ⟨g', e2, hg'⟩
    · exact (hu xb (e2 ▸ e)).2 rfl
    · rw [e2] at e
      injection e with e
      omega
/-- The store's function done. -/
theorem Mid2.op {E' : List Se} (h : Mid2 w V sb xb fa ka n X Y vs Es vm M) (hs : Sop w.heap.size sb vs V E' V') (hok : Ok (E'.map (·.1))) (hl : E'.length ≤ 32) : ∃ vs', Mid2 w V' sb xb fa ka n X Y vs' E' vm M := by
  obtain ⟨vs', s1, s2⟩ := hs.sto
  have hxl := (Array.getElem?_eq_some_iff.1 h.box).1
  refine ⟨vs', s1, fun g hg e => ?_, fun e => ?_, h.lst.fr (fun g hg hgl => hs.fr g hgl (fun e => ?_) (fun e => h.ne g e hg)) hs.kp, h.xne, (hs.fr xb hxl (fun e => h.xne.1 e.symm) h.nex).trans h.box, ⟨h.bx.1.kp hs.kp (by decide), h.bx.2.kp hs.kp (by decide)⟩, h.xl, hok, hl, h.bel.trans hs.below⟩
  · rcases s2 with e2 | ⟨g', e2, hg'⟩
    · exact h.ne g (e2 ▸ hg) e
    · rw [e2] at hg
      injection hg with hg
      have := (h.lst.lt e).1
      omega
  · rcases s2 with e2 | ⟨g', e2, hg'⟩
    · exact h.nex (e2 ▸ e)
    · rw [e2] at e
      injection e with e
      omega
  · obtain ⟨cur, hc⟩ := (h.lst.lt hg).2
    rw [e, h.sto.row] at hc
    cases hc
theorem Mid2.inv (h : Mid2 w V sb xb fa ka n X Y vs Es vm M) (hm : Es.map (·.1) = M.map (·.1)) : Inv w V sb vm M := by
  have hl := congrArg List.length hm
  rw [List.length_map, List.length_map] at hl
  exact ⟨⟨vs, Es, h.sto, hm, h.ne⟩, h.lst, hm ▸ h.ok, hl ▸ h.len, h.bel⟩
/-- The list without its first. -/
theorem Mid2.tail {g off c : Nat} {r : Nat} (h : Mid2 w V sb xb fa ka n X Y vs Es (.slice (some ⟨g, off, none⟩) (r + 1) c) M) (hr : M.length = r + 1) : Mid2 w V sb xb fa ka n X Y vs Es (.slice (some ⟨g, off + 3, none⟩) r (c - 1)) (M.drop 1) := by
  refine ⟨h.sto, h.ne, h.nex, ⟨.inr ?_, fun e he => h.lst.each e (List.mem_of_mem_drop he)⟩, h.xne, h.box, h.bx, h.xl, h.ok, h.len, h.bel⟩
  rcases h.lst.at_ with ⟨e, -⟩ | ⟨g', off', cap, cur, e, h2, h3, h4, h5, h6⟩
  · cases e
  · simp only [Value.slice.injEq, Option.some.injEq, Addr.mk.injEq] at e
    obtain ⟨⟨rfl, rfl, -⟩, -, rfl⟩ := e
    refine ⟨g, off + 3, c - 1, cur, by rw [List.length_drop, hr]; rfl, h2, h3, by rw [List.length_drop, hr]; omega, by omega, fun j hj => ?_⟩
    rw [List.length_drop] at hj
    rw [sflat_drop, List.getElem?_drop, ← h6 _ (by omega)]
    congr 1
    omega
end
end Go.Proofs.YteojlnbonhipbaaDoor
