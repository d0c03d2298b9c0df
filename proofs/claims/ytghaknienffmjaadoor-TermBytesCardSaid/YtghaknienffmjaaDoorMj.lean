/- The law's walk: two atoms agree on one thing, whichever's public part is known; others on others. -/
import Derived.Test.YtghaknienffmjaaDoorMi
namespace Go.Proofs.YtghaknienffmjaaDoor
open Go.RowKit Go.Maps
/-- The table has the term at that place. -/
def At (E : List En) (j : Nat) (t : Tm) : Prop := (E.map (·.1))[j]? = some t
theorem At.lt {E : List En} {j : Nat} {t : Tm} (h : At E j t) : j < E.length := by
  have := (List.getElem?_eq_some_iff.1 h).1
  simpa using this
theorem At.get {E : List En} {j : Nat} {t : Tm} (h : At E j t) : (E[j]'h.lt).1 = t := by
  have := (List.getElem?_eq_some_iff.1 h).2
  simpa using this
theorem At.mono {E E' : List En} {j : Nat} {t : Tm} (h : At E j t) (hp : E <+: E') : At E' j t := by
  obtain ⟨x, rfl⟩ := hp
  unfold At at *
  rw [List.map_append, List.getElem?_append_left (List.getElem?_eq_some_iff.1 h).1]
  exact h
theorem At.of {E : List En} {j : Nat} {t : Tm} (h : ∃ h : j < E.length, E[j].1 = t) : At E j t := by
  obtain ⟨h1, h2⟩ := h
  unfold At
  rw [List.getElem?_map, List.getElem?_eq_getElem h1, ← h2]
  rfl
theorem At.one {E : List En} {j k : Nat} {t : Tm} (hn : (E.map (·.1)).Nodup) (h1 : At E j t) (h2 : At E k t) : j = k := by
  obtain ⟨a1, a2⟩ := List.getElem?_eq_some_iff.1 h1
  obtain ⟨b1, b2⟩ := List.getElem?_eq_some_iff.1 h2
  have hn := List.pairwise_iff_getElem.1 hn
  rcases Nat.lt_trichotomy j k with h | h | h
  · exact absurd (a2.trans b2.symm) (hn j k a1 b1 h)
  · exact h
  · exact absurd (b2.trans a2.symm) (hn k j b1 a1 h)
theorem At.same {E : List En} {j : Nat} {t u : Tm} (h1 : At E j t) (h2 : At E j u) : t = u := by
  unfold At at h1 h2
  rw [h1] at h2
  injection h2
/-- A table, and what has been put. -/
structure St (w0 w : World) (B tb : Nat) (E : List En) (n : Nat) : Prop where
  tab : ∃ tv mv, Tab w B tb tv mv E
  len : E.length ≤ n
  bel : Below B w0 w
theorem St.more {w0 w w' : World} {B tb n : Nat} {E : List En} {t : Tm} {e : Ending} (h : St w0 w B tb E n) (hr : PutR w B tb E t e w') : ∃ j E', e = .returned (.int .i64 (j : Nat)) ∧ St w0 w' B tb E' (n + 1) ∧ E <+: E' ∧ At E' j t := by
  obtain ⟨j, tv, mv, E', h1, h2, h3, h4, h5, h6⟩ := hr
  exact ⟨j, E', h1, ⟨⟨tv, mv, h2⟩, by have := h.len; omega, h.bel.trans h3⟩, h4, At.of h6⟩
set_option maxHeartbeats 400000 in
theorem new_any (w : World) : Calls Tryd.prog 9 #[] w fun e w' => e = .returned (.pointer (some ⟨w.heap.size, 0, none⟩)) ∧ w' = w.alloc (.cells #[.slice none 0 0, .map none] 56) := by
  go_enter Tryd.func9, Tryd.ntmps9
  go_wp2
  go_ret
  exact ⟨rfl, rfl⟩
theorem tab_new (w : World) : Tab (w.alloc (.cells #[.slice none 0 0, .map none] 56)) w.heap.size w.heap.size (.slice none 0 0) (.map none) [] :=
  ⟨Nat.le_refl _, heap_alloc_new w _, World.ownsRow_nil _ _ _ _, by simp [Value.ownBlock], fun e he => absurd he (List.not_mem_nil), List.Pairwise.nil, .inl ⟨rfl, rfl⟩⟩
theorem put_atom {w0 w : World} {tb n : Nat} {E : List En} (h : St w0 w w0.heap.size tb E n) (hn : n ≤ 1000) (hG : Gv w0) (v : Int) (hv : Tm.I64 v) :
    Calls Tryd.prog 11 #[.pointer (some ⟨tb, 0, none⟩), .agg #[.int .u8 1, .slice none 0 0, .string ⟨#[]⟩, .int .i64 v]] w (PutR w w0.heap.size tb E ⟨1, [], [], v⟩) := by
  obtain ⟨⟨tv, mv, hT⟩, hl, hb⟩ := h
  exact put_any ⟨1, [], [], v⟩ (fit_of 1 v [] (by omega) (by omega) hv (fun i hi => by simp at hi) (by simp)) none 0 w (hG.on hb) ⟨fun j hj => absurd hj (Nat.not_lt_zero _)⟩ _ tb tv mv E hT hb.size (by omega)
theorem put_pub {w0 w : World} {tb n : Nat} {E : List En} (h : St w0 w w0.heap.size tb E n) (hn : n ≤ 1000) (hG : Gv w0) (a : Nat) (ha : a ≤ 1048576) :
    Calls Tryd.prog 11 #[.pointer (some ⟨tb, 0, none⟩), .agg #[.int .u8 3, .slice (some ⟨w.heap.size, 0, none⟩) 1 1, .string ⟨#[]⟩, .int .i64 0]] (w.alloc (.cells #[.int .i64 (a : Int)] 3)) (PutR w w0.heap.size tb E ⟨3, [(a : Int)], [], 0⟩) := by
  obtain ⟨⟨tv, mv, hT⟩, hl, hb⟩ := h
  have hbA := Joins.below_alloc1 w (.cells #[.int .i64 (a : Int)] 3)
  exact (put_any ⟨3, [(a : Int)], [], 0⟩ (fit_of 3 0 _ (by omega) (by omega) ⟨by omega, by omega⟩ (fun i hi => by simp at hi; subst hi; exact ⟨by omega, by omega⟩) (by simp)) (some ⟨w.heap.size, 0, none⟩) 1 _ (hG.on (hb.trans (hbA.mono hb.size))) (nums_one w a) _ tb tv mv E (hT.on hbA) (Nat.le_trans hb.size hbA.size) (by omega)).mono fun e w' h => h.of (hbA.mono hb.size)
theorem agr_pub {w0 w : World} {tb n : Nat} {E : List En} (h : St w0 w w0.heap.size tb E n) (hn : n ≤ 1000) (hG : Gv w0) (x y a : Nat) (hx : x ≤ 1048576) (ha : a ≤ 1048576) (hy : At E y ⟨3, [(a : Int)], [], 0⟩) :
    Calls Tryd.prog 18 #[.pointer (some ⟨tb, 0, none⟩), .int .i64 x, .int .i64 y] w (PutR w w0.heap.size tb E ⟨4, [min (x : Int) a, max (x : Int) a], [], 0⟩) := by
  obtain ⟨⟨tv, mv, hT⟩, hl, hb⟩ := h
  exact agree_pub w (hG.on hb) _ tb tv mv E hT hb.size (by omega) x y a hy.lt hy.get hx ha
theorem agr_atom {w0 w : World} {tb n : Nat} {E : List En} (h : St w0 w w0.heap.size tb E n) (hn : n ≤ 1000) (hG : Gv w0) (x y : Nat) (v : Int) (hx : x ≤ 1048576) (hy : At E y ⟨1, [], [], v⟩) :
    Calls Tryd.prog 18 #[.pointer (some ⟨tb, 0, none⟩), .int .i64 x, .int .i64 y] w (PutR w w0.heap.size tb E ⟨4, [(x : Int), (y : Int)], [], 1⟩) := by
  obtain ⟨⟨tv, mv, hT⟩, hl, hb⟩ := h
  exact agree_atom w (hG.on hb) _ tb tv mv E hT hb.size (by omega) x y v hy.lt hy.get hx
set_option maxRecDepth 20000 in
set_option maxHeartbeats 8000000 in
theorem agree_walk (w : World) (hG : Gv w) (a b c : Int) (ha : Tm.I64 a) (hb : Tm.I64 b) (hc : Tm.I64 c) :
    Calls Tryd.prog 5 #[.int .i64 a, .int .i64 b, .int .i64 c] w fun e w' => e = .returned (.bool true) ∧ Below w.heap.size w w' := by
  have hnew := new_any w
  have HG := Lib.hid hG
  have HA := Lib.hid (And.intro ha (And.intro hb hc))
  clear hG ha hb hc
  go_enter Tryd.func5, Tryd.ntmps5
  go_wp2_with (go_at_call 9; refine hnew.mono ?_; rintro e w1 ⟨rfl, rfl⟩; refine Hid.out ?_)
  refine Lib.hid ?_
  clear hnew
  have hS : St w (w.alloc (.cells #[.slice none 0 0, .map none] 56)) w.heap.size w.heap.size [] 0 := ⟨⟨_, _, tab_new w⟩, Nat.le_refl _, Joins.below_alloc1 _ _⟩
  obtain ⟨tb, htb⟩ : ∃ tb, tb = w.heap.size := ⟨_, rfl⟩
  rw [← htb]
  have hS0 : St w (w.alloc (.cells #[.slice none 0 0, .map none] 56)) w.heap.size tb [] 0 := by rw [htb]; exact hS
  generalize w.alloc (.cells #[.slice none 0 0, .map none] 56) = w0 at *
  have S0 := Lib.hid hS0
  clear hS hS0 htb
  have hcall := put_atom S0.out (by omega) HG.out a HA.out.1
  have HC := Lib.hid hcall
  clear hcall
  go_wp2_with (go_at_call 11; refine HC.out.mono ?_; rintro e w1 hr; obtain ⟨x, E1, rfl, hs, hp, hat⟩ := S0.out.more hr; clear hr; refine Hid.out ?_)
  refine Lib.hid ?_
  have S1 := Lib.hid hs
  have P1 := Lib.hid hat
  clear hs hp hat HC S0
  have hcall := put_atom S1.out (by omega) HG.out b HA.out.2.1
  have HC := Lib.hid hcall
  clear hcall
  go_wp2_with (go_at_call 11; refine HC.out.mono ?_; rintro e w2 hr; obtain ⟨y, E2, rfl, hs, hp, hat⟩ := S1.out.more hr; clear hr; refine Hid.out ?_)
  refine Lib.hid ?_
  have S2 := Lib.hid hs
  have P2 := Lib.hid hat
  have P1n := Lib.hid (P1.out.mono hp)
  clear P1
  have P1 := P1n
  clear P1n
  clear hs hp hat HC S1
  have hcall := put_atom S2.out (by omega) HG.out c HA.out.2.2
  have HC := Lib.hid hcall
  clear hcall
  go_wp2_with (go_at_call 11; refine HC.out.mono ?_; rintro e w3 hr; obtain ⟨z, E3, rfl, hs, hp, hat⟩ := S2.out.more hr; clear hr; refine Hid.out ?_)
  refine Lib.hid ?_
  have S3 := Lib.hid hs
  have P3 := Lib.hid hat
  have P1n := Lib.hid (P1.out.mono hp)
  clear P1
  have P1 := P1n
  clear P1n
  have P2n := Lib.hid (P2.out.mono hp)
  clear P2
  have P2 := P2n
  clear P2n
  clear hs hp hat HC S2
  have hcall := put_pub S3.out (by omega) HG.out x (by have := P1.out.lt; have := S3.out.len; omega)
  have HC := Lib.hid hcall
  clear hcall
  go_wp2_with (go_at_call 11; refine HC.out.mono ?_; rintro e w4 hr; obtain ⟨p, E4, rfl, hs, hp, hat⟩ := S3.out.more hr; clear hr; refine Hid.out ?_)
  refine Lib.hid ?_
  have S4 := Lib.hid hs
  have P4 := Lib.hid hat
  have P1n := Lib.hid (P1.out.mono hp)
  clear P1
  have P1 := P1n
  clear P1n
  have P2n := Lib.hid (P2.out.mono hp)
  clear P2
  have P2 := P2n
  clear P2n
  have P3n := Lib.hid (P3.out.mono hp)
  clear P3
  have P3 := P3n
  clear P3n
  clear hs hp hat HC S3
  have hcall := put_pub S4.out (by omega) HG.out y (by have := P2.out.lt; have := S4.out.len; omega)
  have HC := Lib.hid hcall
  clear hcall
  go_wp2_with (go_at_call 11; refine HC.out.mono ?_; rintro e w5 hr; obtain ⟨q, E5, rfl, hs, hp, hat⟩ := S4.out.more hr; clear hr; refine Hid.out ?_)
  refine Lib.hid ?_
  have S5 := Lib.hid hs
  have P5 := Lib.hid hat
  have P1n := Lib.hid (P1.out.mono hp)
  clear P1
  have P1 := P1n
  clear P1n
  have P2n := Lib.hid (P2.out.mono hp)
  clear P2
  have P2 := P2n
  clear P2n
  have P3n := Lib.hid (P3.out.mono hp)
  clear P3
  have P3 := P3n
  clear P3n
  have P4n := Lib.hid (P4.out.mono hp)
  clear P4
  have P4 := P4n
  clear P4n
  clear hs hp hat HC S4
  have hcall := put_pub S5.out (by omega) HG.out z (by have := P3.out.lt; have := S5.out.len; omega)
  have HC := Lib.hid hcall
  clear hcall
  go_wp2_with (go_at_call 11; refine HC.out.mono ?_; rintro e w6 hr; obtain ⟨r, E6, rfl, hs, hp, hat⟩ := S5.out.more hr; clear hr; refine Hid.out ?_)
  refine Lib.hid ?_
  have S6 := Lib.hid hs
  have P6 := Lib.hid hat
  have P1n := Lib.hid (P1.out.mono hp)
  clear P1
  have P1 := P1n
  clear P1n
  have P2n := Lib.hid (P2.out.mono hp)
  clear P2
  have P2 := P2n
  clear P2n
  have P3n := Lib.hid (P3.out.mono hp)
  clear P3
  have P3 := P3n
  clear P3n
  have P4n := Lib.hid (P4.out.mono hp)
  clear P4
  have P4 := P4n
  clear P4n
  have P5n := Lib.hid (P5.out.mono hp)
  clear P5
  have P5 := P5n
  clear P5n
  clear hs hp hat HC S5
  have hA := (let ⟨m, hm⟩ := (HG.out.on S6.out.bel).mx; awake_any w6 m hm (by have := (HG.out.on S6.out.bel).sz; omega) : Calls Tryd.prog 8 #[] w6 fun e w' => e = .returned (.bool true) ∧ Below w6.heap.size w6 w')
  have HC := Lib.hid hA
  clear hA
  go_wp2_with (go_at_call 8; refine HC.out.mono ?_; rintro e w6' ⟨rfl, hbl⟩; refine Hid.out ?_)
  refine Lib.hid ?_
  have hs6 : St w w6' w.heap.size tb E6 6 := by
    obtain ⟨⟨tv, mv, hT⟩, hl, hb⟩ := S6.out
    exact ⟨⟨tv, mv, hT.on hbl⟩, hl, hb.trans (hbl.mono hb.size)⟩
  clear HC S6 hbl
  have S6 := Lib.hid hs6
  clear hs6
  have hcall := agr_pub S6.out (by omega) HG.out x q y (by have := P1.out.lt; have := S6.out.len; omega) (by have := P2.out.lt; have := S6.out.len; omega) P5.out
  have HC := Lib.hid hcall
  clear hcall
  go_wp2_with (go_at_call 18; refine HC.out.mono ?_; rintro e w7 hr; obtain ⟨r1, E7, rfl, hs, hp, hat⟩ := S6.out.more hr; clear hr; refine Hid.out ?_)
  refine Lib.hid ?_
  have S7 := Lib.hid hs
  have P7 := Lib.hid hat
  have P1n := Lib.hid (P1.out.mono hp)
  clear P1
  have P1 := P1n
  clear P1n
  have P2n := Lib.hid (P2.out.mono hp)
  clear P2
  have P2 := P2n
  clear P2n
  have P3n := Lib.hid (P3.out.mono hp)
  clear P3
  have P3 := P3n
  clear P3n
  have P4n := Lib.hid (P4.out.mono hp)
  clear P4
  have P4 := P4n
  clear P4n
  have P5n := Lib.hid (P5.out.mono hp)
  clear P5
  have P5 := P5n
  clear P5n
  have P6n := Lib.hid (P6.out.mono hp)
  clear P6
  have P6 := P6n
  clear P6n
  clear hs hp hat HC S6
  have hcall := agr_pub S7.out (by omega) HG.out y p x (by have := P2.out.lt; have := S7.out.len; omega) (by have := P1.out.lt; have := S7.out.len; omega) P4.out
  have HC := Lib.hid hcall
  clear hcall
  go_wp2_with (go_at_call 18; refine HC.out.mono ?_; rintro e w8 hr; obtain ⟨r2, E8, rfl, hs, hp, hat⟩ := S7.out.more hr; clear hr; refine Hid.out ?_)
  refine Lib.hid ?_
  have S8 := Lib.hid hs
  have P8 := Lib.hid hat
  have P1n := Lib.hid (P1.out.mono hp)
  clear P1
  have P1 := P1n
  clear P1n
  have P2n := Lib.hid (P2.out.mono hp)
  clear P2
  have P2 := P2n
  clear P2n
  have P3n := Lib.hid (P3.out.mono hp)
  clear P3
  have P3 := P3n
  clear P3n
  have P4n := Lib.hid (P4.out.mono hp)
  clear P4
  have P4 := P4n
  clear P4n
  have P5n := Lib.hid (P5.out.mono hp)
  clear P5
  have P5 := P5n
  clear P5n
  have P6n := Lib.hid (P6.out.mono hp)
  clear P6
  have P6 := P6n
  clear P6n
  have P7n := Lib.hid (P7.out.mono hp)
  clear P7
  have P7 := P7n
  clear P7n
  clear hs hp hat HC S7
  have hnd := (let ⟨tv, mv, hT⟩ := S8.out.tab; hT.nodup : (E8.map (·.1)).Nodup)
  have e12 : (r1 : Int) = r2 := by
    have h := P8.out
    rw [show min (y : Int) x = min (x : Int) y by omega, show max (y : Int) x = max (x : Int) y by omega] at h
    rw [At.one hnd P7.out h]
  clear hnd
  have hcall := agr_pub S8.out (by omega) HG.out x q y (by have := P1.out.lt; have := S8.out.len; omega) (by have := P2.out.lt; have := S8.out.len; omega) P5.out
  have HC := Lib.hid hcall
  clear hcall
  go_wp2_with (go_at_call 18; refine HC.out.mono ?_; rintro e w9 hr; obtain ⟨r3, E9, rfl, hs, hp, hat⟩ := S8.out.more hr; clear hr; refine Hid.out ?_)
  refine Lib.hid ?_
  have S9 := Lib.hid hs
  have P9 := Lib.hid hat
  have P1n := Lib.hid (P1.out.mono hp)
  clear P1
  have P1 := P1n
  clear P1n
  have P2n := Lib.hid (P2.out.mono hp)
  clear P2
  have P2 := P2n
  clear P2n
  have P3n := Lib.hid (P3.out.mono hp)
  clear P3
  have P3 := P3n
  clear P3n
  have P4n := Lib.hid (P4.out.mono hp)
  clear P4
  have P4 := P4n
  clear P4n
  have P5n := Lib.hid (P5.out.mono hp)
  clear P5
  have P5 := P5n
  clear P5n
  have P6n := Lib.hid (P6.out.mono hp)
  clear P6
  have P6 := P6n
  clear P6n
  have P7n := Lib.hid (P7.out.mono hp)
  clear P7
  have P7 := P7n
  clear P7n
  have P8n := Lib.hid (P8.out.mono hp)
  clear P8
  have P8 := P8n
  clear P8n
  clear hs hp hat HC S8
  have hcall := agr_pub S9.out (by omega) HG.out x r z (by have := P1.out.lt; have := S9.out.len; omega) (by have := P3.out.lt; have := S9.out.len; omega) P6.out
  have HC := Lib.hid hcall
  clear hcall
  go_wp2_with (go_at_call 18; refine HC.out.mono ?_; rintro e w10 hr; obtain ⟨r4, E10, rfl, hs, hp, hat⟩ := S9.out.more hr; clear hr; refine Hid.out ?_)
  refine Lib.hid ?_
  have S10 := Lib.hid hs
  have P10 := Lib.hid hat
  have P1n := Lib.hid (P1.out.mono hp)
  clear P1
  have P1 := P1n
  clear P1n
  have P2n := Lib.hid (P2.out.mono hp)
  clear P2
  have P2 := P2n
  clear P2n
  have P3n := Lib.hid (P3.out.mono hp)
  clear P3
  have P3 := P3n
  clear P3n
  have P4n := Lib.hid (P4.out.mono hp)
  clear P4
  have P4 := P4n
  clear P4n
  have P5n := Lib.hid (P5.out.mono hp)
  clear P5
  have P5 := P5n
  clear P5n
  have P6n := Lib.hid (P6.out.mono hp)
  clear P6
  have P6 := P6n
  clear P6n
  have P7n := Lib.hid (P7.out.mono hp)
  clear P7
  have P7 := P7n
  clear P7n
  have P8n := Lib.hid (P8.out.mono hp)
  clear P8
  have P8 := P8n
  clear P8n
  have P9n := Lib.hid (P9.out.mono hp)
  clear P9
  have P9 := P9n
  clear P9n
  clear hs hp hat HC S9
  have hnd := (let ⟨tv, mv, hT⟩ := S10.out.tab; hT.nodup : (E10.map (·.1)).Nodup)
  have e34 : ((r3 : Int) == r4) = (b == c) := by
    by_cases hbc : b = c
    · have h3 := P3.out
      rw [← hbc] at h3
      have hyz := At.one hnd P2.out h3
      have h := P10.out
      rw [← hyz] at h
      have h34 := At.one hnd P9.out h
      rw [h34, hbc]
      simp
    · have h34 : r3 ≠ r4 := fun e => by
        have h := P10.out
        rw [← e] at h
        have hs := At.same P9.out h
        simp only [Tm.mk.injEq, List.cons.injEq] at hs
        obtain ⟨-, ⟨h1, h2, -⟩, -, -⟩ := hs
        have hyz : y = z := by omega
        have h3 := P3.out
        rw [← hyz] at h3
        have h4 := At.same P2.out h3
        simp only [Tm.mk.injEq] at h4
        exact hbc h4.2.2.2
      have h5 : ((r3 : Int) == r4) = false := by
        rw [beq_eq_false_iff_ne]
        omega
      have h6 : (b == c) = false := beq_eq_false_iff_ne.2 hbc
      rw [h5, h6]
  clear hnd
  have hcall := agr_atom S10.out (by omega) HG.out x y b (by have := P1.out.lt; have := S10.out.len; omega) P2.out
  have HC := Lib.hid hcall
  clear hcall
  go_wp2_with (go_at_call 18; refine HC.out.mono ?_; rintro e w11 hr; obtain ⟨r5, E11, rfl, hs, hp, hat⟩ := S10.out.more hr; clear hr; refine Hid.out ?_)
  refine Lib.hid ?_
  have S11 := Lib.hid hs
  have P11 := Lib.hid hat
  have P1n := Lib.hid (P1.out.mono hp)
  clear P1
  have P1 := P1n
  clear P1n
  have P2n := Lib.hid (P2.out.mono hp)
  clear P2
  have P2 := P2n
  clear P2n
  have P3n := Lib.hid (P3.out.mono hp)
  clear P3
  have P3 := P3n
  clear P3n
  have P4n := Lib.hid (P4.out.mono hp)
  clear P4
  have P4 := P4n
  clear P4n
  have P5n := Lib.hid (P5.out.mono hp)
  clear P5
  have P5 := P5n
  clear P5n
  have P6n := Lib.hid (P6.out.mono hp)
  clear P6
  have P6 := P6n
  clear P6n
  have P7n := Lib.hid (P7.out.mono hp)
  clear P7
  have P7 := P7n
  clear P7n
  have P8n := Lib.hid (P8.out.mono hp)
  clear P8
  have P8 := P8n
  clear P8n
  have P9n := Lib.hid (P9.out.mono hp)
  clear P9
  have P9 := P9n
  clear P9n
  have P10n := Lib.hid (P10.out.mono hp)
  clear P10
  have P10 := P10n
  clear P10n
  clear hs hp hat HC S10
  have hcall := agr_pub S11.out (by omega) HG.out x q y (by have := P1.out.lt; have := S11.out.len; omega) (by have := P2.out.lt; have := S11.out.len; omega) P5.out
  have HC := Lib.hid hcall
  clear hcall
  go_wp2_with (go_at_call 18; refine HC.out.mono ?_; rintro e w12 hr; obtain ⟨r6, E12, rfl, hs, hp, hat⟩ := S11.out.more hr; clear hr; refine Hid.out ?_)
  refine Lib.hid ?_
  have S12 := Lib.hid hs
  have P12 := Lib.hid hat
  have P1n := Lib.hid (P1.out.mono hp)
  clear P1
  have P1 := P1n
  clear P1n
  have P2n := Lib.hid (P2.out.mono hp)
  clear P2
  have P2 := P2n
  clear P2n
  have P3n := Lib.hid (P3.out.mono hp)
  clear P3
  have P3 := P3n
  clear P3n
  have P4n := Lib.hid (P4.out.mono hp)
  clear P4
  have P4 := P4n
  clear P4n
  have P5n := Lib.hid (P5.out.mono hp)
  clear P5
  have P5 := P5n
  clear P5n
  have P6n := Lib.hid (P6.out.mono hp)
  clear P6
  have P6 := P6n
  clear P6n
  have P7n := Lib.hid (P7.out.mono hp)
  clear P7
  have P7 := P7n
  clear P7n
  have P8n := Lib.hid (P8.out.mono hp)
  clear P8
  have P8 := P8n
  clear P8n
  have P9n := Lib.hid (P9.out.mono hp)
  clear P9
  have P9 := P9n
  clear P9n
  have P10n := Lib.hid (P10.out.mono hp)
  clear P10
  have P10 := P10n
  clear P10n
  have P11n := Lib.hid (P11.out.mono hp)
  clear P11
  have P11 := P11n
  clear P11n
  clear hs hp hat HC S11
  have e56 : ((r5 : Int) != r6) = true := by
    have h : r5 ≠ r6 := fun e => by
      have h := P12.out
      rw [← e] at h
      have hs := At.same P11.out h
      simp only [Tm.mk.injEq] at hs
      exact absurd hs.2.2.2 (by decide)
    simp only [bne_iff_ne, ne_eq]
    omega
  have hB := S12.out.bel
  clear S12 P1 P2 P3 P4 P5 P6 P7 P8 P9 P10 P11 P12
  go_wp2
  go_ret
  exact ⟨rfl, hB⟩
end Go.Proofs.YtghaknienffmjaaDoor
