/- A store: a key looked for. -/
import Derived.Test.YteojlnbonhipbaaDoorU
namespace Go.Proofs.YteojlnbonhipbaaDoor
open Go.RowKit Go.Maps
theorem toList_data' (s : ByteArray) : s.toList = s.data.toList := ByteArray.toList_eq s
theorem str_eq (P Q : List UInt8) : (((⟨P.toArray⟩ : ByteArray).toList == (⟨Q.toArray⟩ : ByteArray).toList) : Bool) = decide (P = Q) := by
  rw [toList_data', toList_data']
  by_cases h : P = Q <;> simp [h]
set_option maxHeartbeats 2000000 in
/-- bytes.Equal. -/
theorem equal_any (w : World) (ao bo : Option Addr) (P Q : List UInt8) (ac bc : Nat) (hP : Byt w ao P) (hQ : Byt w bo Q) :
    Calls Tryd.prog 31 #[.slice ao P.length ac, .slice bo Q.length bc] w fun e w' => e = .returned (.bool (decide (P = Q))) ∧ w' = w := by
  have h1 := conv_bytes hP ac
  have h2 := conv_bytes hQ bc
  have HS := Lib.hid (str_eq P Q)
  obtain ⟨D, hD⟩ : ∃ D, D = decide (P = Q) := ⟨_, rfl⟩
  rw [← hD] at HS ⊢
  generalize (⟨P.toArray⟩ : ByteArray) = s at *
  generalize (⟨Q.toArray⟩ : ByteArray) = t at *
  generalize P.length = p at *
  generalize Q.length = q at *
  clear hP hQ hD
  go_enter Tryd.func31, Tryd.ntmps31
  go_wp2
  rw [HS.out]
  go_ret
  exact ⟨rfl, rfl⟩
/-- A key of a store. -/
structure Sk where
  of : List UInt8
  n : Nat
  key : List UInt8
  deriving DecidableEq
/-- Where its bytes lie. -/
structure Sl where
  oa : Option Addr
  oc : Nat
  ka : Option Addr
  kc : Nat
abbrev Se := Sk × Sl
def skV (e : Se) : List Value := [.slice e.2.oa e.1.of.length e.2.oc, .int .u32 e.1.n, .slice e.2.ka e.1.key.length e.2.kc]
def sflat (E : List Se) : List Value := E.flatMap skV
theorem sflat_snoc (E : List Se) (e : Se) : sflat (E ++ [e]) = sflat E ++ skV e := by simp [sflat]
theorem sflat_get : ∀ (E : List Se) (i r : Nat) (hi : i < E.length), r < 3 → (sflat E)[i * 3 + r]? = (skV E[i])[r]?
  | e :: E, 0, r, _, hr => by
    have : r < (skV e).length := hr
    simp only [sflat, List.flatMap_cons, Nat.zero_mul, Nat.zero_add, List.getElem_cons_zero]
    rw [List.getElem?_append_left this]
  | e :: E, i + 1, r, hi, hr => by
    have h := sflat_get E i r (by simpa using hi) hr
    have hl : (skV e).length = 3 := rfl
    simp only [sflat, List.flatMap_cons, List.getElem_cons_succ] at h ⊢
    rw [List.getElem?_append_right (by omega), hl, show (i + 1) * 3 + r - 3 = i * 3 + r by omega]
    exact h
def hit (P : List UInt8) (n : Nat) (x : Sk) : Bool := decide (x.n = n) && decide (x.of = P)
set_option maxHeartbeats 4000000 in
/-- The closure: is it that key? -/
theorem find1_any (w : World) (e : Se) (P : List UInt8) (fo : Option Addr) (fc n nb ob : Nat) (hE : Byt w e.2.oa e.1.of) (hP : Byt w fo P) (hn : w.cell? ⟨nb, 0, none⟩ = some (.int .u32 n)) (ho : w.cell? ⟨ob, 0, none⟩ = some (.slice fo P.length fc)) (hnl : nb < w.heap.size) (hol : ob < w.heap.size) :
    Calls Tryd.prog 30 #[.agg (skV e).toArray, .pointer (some ⟨nb, 0, none⟩), .pointer (some ⟨ob, 0, none⟩)] w fun x w' => x = .returned (.bool (hit P n e.1)) ∧ Below w.heap.size w w' := by
  have hb0 := Joins.below_alloc1 w (.cells #[.slice e.2.oa e.1.of.length e.2.oc, .int .u32 e.1.n, .slice e.2.ka e.1.key.length e.2.kc] 47)
  have hr0 := heap_alloc_new w (.cells #[.slice e.2.oa e.1.of.length e.2.oc, .int .u32 e.1.n, .slice e.2.ka e.1.key.length e.2.kc] 47)
  have heq := fun W (hb : Below w.heap.size w W) => equal_any W e.2.oa fo e.1.of P e.2.oc fc (hE.on hb (Nat.le_refl _)) (hP.on hb (Nat.le_refl _))
  have c0 : (w.alloc (.cells #[.slice e.2.oa e.1.of.length e.2.oc, .int .u32 e.1.n, .slice e.2.ka e.1.key.length e.2.kc] 47)).cell? ⟨w.heap.size, 0, none⟩ = some (.slice e.2.oa e.1.of.length e.2.oc) := by rw [cell_of_row _ _ _ _ _ _ hr0]; rfl
  have c1 : (w.alloc (.cells #[.slice e.2.oa e.1.of.length e.2.oc, .int .u32 e.1.n, .slice e.2.ka e.1.key.length e.2.kc] 47)).cell? ⟨w.heap.size, 1, none⟩ = some (.int .u32 e.1.n) := by rw [cell_of_row _ _ _ _ _ _ hr0]; rfl
  have cn := (hb0.cell (p := ⟨nb, 0, none⟩) hnl).trans hn
  have co := (hb0.cell (p := ⟨ob, 0, none⟩) hol).trans ho
  have HH : Hid (hit P n e.1 = (decide (e.1.n = n) && decide (e.1.of = P))) := rfl
  obtain ⟨⟨of, m, key⟩, ⟨oa, oc, ka, kc⟩⟩ := e
  dsimp only at *
  show Calls Tryd.prog 30 #[.agg #[.slice oa of.length oc, .int .u32 m, .slice ka key.length kc], .pointer (some ⟨nb, 0, none⟩), .pointer (some ⟨ob, 0, none⟩)] w _
  have HEQ := Lib.hid (heq _ hb0)
  have HB := Lib.hid hb0
  generalize hit P n ⟨of, m, key⟩ = R at *
  generalize decide (of = P) = D at *
  clear heq hb0 hr0 hn ho hE hP
  by_cases h : m = n
  · subst h
    go_enter Tryd.func30, Tryd.ntmps30
    go_wp2_with (go_at_call 31; refine HEQ.out.mono ?_; rintro e w1 ⟨rfl, hw⟩; obtain rfl := hw.symm)
    go_ret
    exact ⟨by rw [HH.out]; simp, HB.out⟩
  · have h1 : ¬ ((m : Int) = n) := by omega
    go_enter Tryd.func30, Tryd.ntmps30
    go_wp2_with (go_at_call 31; refine HEQ.out.mono ?_; rintro e w1 ⟨rfl, hw⟩; obtain rfl := hw.symm)
    go_ret
    exact ⟨by rw [HH.out]; simp [h], HB.out⟩
/-- A store: its struct in block sb, its keys. -/
structure Sto (w : World) (B sb : Nat) (v : Value) (E : List Se) : Prop where
  sbB : B ≤ sb
  row : w.heap[sb]? = some (.cells #[v] 38 (0, 0))
  own : w.ownsRow B 47 3 v E.length (sflat E)
  each : ∀ e ∈ E, By w e.2.oa e.1.of ∧ By w e.2.ka e.1.key
theorem Sto.on {w w' : World} {B sb : Nat} {v : Value} {E : List Se} (h : Sto w B sb v E) (hb : Below w.heap.size w w') : Sto w' B sb v E :=
  ⟨h.sbB, (hb.block sb (Array.getElem?_eq_some_iff.1 h.row).1).trans h.row, owns_on h.own hb, fun e he => ⟨(h.each e he).1.kp (Kp.of_below [] hb) (List.not_mem_nil), (h.each e he).2.kp (Kp.of_below [] hb) (List.not_mem_nil)⟩⟩
theorem Sto.kp {ts : List (Option TypeId)} {w w' : World} {B sb : Nat} {v : Value} {E : List Se} (h : Sto w B sb v E) (k : Kp ts w w') (hs : some 38 ∉ ts ∧ some 47 ∉ ts ∧ some 5 ∉ ts) : Sto w' B sb v E :=
  ⟨h.sbB, k.cells h.row hs.1, k.owns h.own hs.2.1, fun e he => ⟨(h.each e he).1.kp k hs.2.2, (h.each e he).2.kp k hs.2.2⟩⟩
theorem srow_cells {w : World} {B : Nat} {v : Value} {E : List Se} (h : w.ownsRow B 47 3 v E.length (sflat E)) (i : Nat) (hi : i < E.length) :
    ∃ g c, v = .slice (some ⟨g, 0, none⟩) E.length c ∧ g < w.heap.size ∧ w.cell? ⟨g, i * 3, none⟩ = some (.slice E[i].2.oa E[i].1.of.length E[i].2.oc) ∧ w.cell? ⟨g, i * 3 + 1, none⟩ = some (.int .u32 E[i].1.n) ∧ w.cell? ⟨g, i * 3 + 2, none⟩ = some (.slice E[i].2.ka E[i].1.key.length E[i].2.kc) := by
  rcases h.2 with ⟨-, h0⟩ | ⟨g, cap, cur, rfl, hg, hc, h1, h2, h3, h4⟩
  · omega
  · have hcell : ∀ r, r < 3 → w.cell? ⟨g, i * 3 + r, none⟩ = (skV E[i])[r]? := fun r hr => by
      rw [cell_of_row w g _ cur 47 (0, 0) hc, ← sflat_get E i r hi hr, ← h4]
      rw [List.getElem?_take_of_lt (by omega), Array.getElem?_toList]
    exact ⟨g, cap, rfl, (Array.getElem?_eq_some_iff.1 hc).1, hcell 0 (by omega), hcell 1 (by omega), hcell 2 (by omega)⟩
/-- The place of a key; -1 if there is none. -/
def idx (E : List Se) (P : List UInt8) (n : Nat) : Int := if E.findIdx (fun e => hit P n e.1) < E.length then (E.findIdx (fun e => hit P n e.1) : Nat) else -1
theorem idx_hit (E : List Se) (P : List UInt8) (n k : Nat) (hk : k < E.length) (h : hit P n E[k].1 = true) (hb : ∀ j (hj : j < E.length), j < k → hit P n E[j].1 = false) : idx E P n = k := by
  have e : E.findIdx (fun e => hit P n e.1) = k := (List.findIdx_eq hk).2 ⟨h, fun j hj => by simpa using hb j (by omega) hj⟩
  unfold idx
  rw [e, if_pos hk]
theorem idx_miss (E : List Se) (P : List UInt8) (n : Nat) (h : ∀ j (hj : j < E.length), hit P n E[j].1 = false) : idx E P n = -1 := by
  have e : E.findIdx (fun e => hit P n e.1) = E.length := by
    refine List.findIdx_eq_length.2 fun x hx => ?_
    obtain ⟨j, hj, rfl⟩ := List.getElem_of_mem hx
    simpa using h j hj
  unfold idx
  rw [e, if_neg (Nat.lt_irrefl _)]
set_option maxRecDepth 20000 in
set_option maxHeartbeats 8000000 in
theorem index_any (w : World) (B : Nat) (v : Value) (E : List Se) (P : List UInt8) (fo : Option Addr) (fc n nb ob : Nat) (hown : w.ownsRow B 47 3 v E.length (sflat E)) (hE : ∀ e ∈ E, By w e.2.oa e.1.of) (hP : Byt w fo P) (hn : w.cell? ⟨nb, 0, none⟩ = some (.int .u32 n)) (ho : w.cell? ⟨ob, 0, none⟩ = some (.slice fo P.length fc)) (hnl : nb < w.heap.size) (hol : ob < w.heap.size) (hl : E.length ≤ 1048576) :
    Calls Tryd.prog 29 #[v, .func (.func 30) #[] #[.pointer (some ⟨nb, 0, none⟩), .pointer (some ⟨ob, 0, none⟩)]] w fun x w' => x = .returned (.int .i64 (idx E P n)) ∧ Below w.heap.size w w' := by
  have hcl := fun W (hb : Below w.heap.size w W) (i : Nat) (hi : i < E.length) => find1_any W E[i] P fo fc n nb ob ((hE E[i] (List.getElem_mem hi)).byt.on hb (Nat.le_refl _)) (hP.on hb (Nat.le_refl _)) ((hb.cell (p := ⟨nb, 0, none⟩) hnl).trans hn) ((hb.cell (p := ⟨ob, 0, none⟩) hol).trans ho) (Nat.lt_of_lt_of_le hnl hb.size) (Nat.lt_of_lt_of_le hol hb.size)
  have hcell := fun (i : Nat) (hi : i < E.length) => srow_cells hown i hi
  obtain ⟨ao, cap, hv⟩ := own_slice hown
  obtain ⟨N, hN⟩ : ∃ N, N = E.length := ⟨_, rfl⟩
  rw [← hN] at hv
  subst hv
  have HCL := Lib.hid hcl
  have HCE := Lib.hid hcell
  have HN := Lib.hid hN
  clear hcl hcell hown hE hP hn ho
  rw [← hN] at hl
  clear hN
  go_enter Tryd.func29, Tryd.ntmps29
  go_wp2
  go_loopw [5, 8] (fun _ i wr => ∃ k : Nat, i = .int .i64 k ∧ k ≤ N ∧ Hid (Below w.heap.size w wr ∧ ∀ j (hj : j < E.length), j < k → hit P n E[j].1 = false))
    (fun _ i _ => N - (intOf i).toNat)
  case atStart => exact ⟨0, rfl, Nat.zero_le _, Below.refl _ _, fun j _ hj => absurd hj (Nat.not_lt_zero _)⟩
  case round =>
    obtain ⟨k, rfl, hk, HX⟩ := hrel
    by_cases hkN : k < N
    · have hk1 : (k : Int) < N := by omega
      have hkE : k < E.length := by rw [← HN.out]; exact hkN
      obtain ⟨g, c, hv, hg, x0, x1, x2⟩ := HCE.out k hkE
      obtain ⟨rfl, -, rfl⟩ : ao = some ⟨g, 0, none⟩ ∧ True ∧ cap = c := by cases hv; exact ⟨rfl, trivial, rfl⟩
      have hb := HX.out.1
      have y0 := (hb.cell (p := ⟨g, k * 3, none⟩) hg).trans x0
      have y1 := (hb.cell (p := ⟨g, k * 3 + 1, none⟩) hg).trans x1
      have y2 := (hb.cell (p := ⟨g, k * 3 + 2, none⟩) hg).trans x2
      have hc : Calls Tryd.prog 30 #[.agg #[.slice E[k].2.oa E[k].1.of.length E[k].2.oc, .int .u32 E[k].1.n, .slice E[k].2.ka E[k].1.key.length E[k].2.kc], .pointer (some ⟨nb, 0, none⟩), .pointer (some ⟨ob, 0, none⟩)] wr _ := HCL.out wr hb k hkE
      have HC := Lib.hid hc
      clear hc x0 x1 x2 hb hv
      obtain ⟨R, hR⟩ : ∃ R, R = hit P n E[k].1 := ⟨_, rfl⟩
      rw [← hR] at HC
      have HR := Lib.hid hR
      clear hR
      cases R with
      | true =>
        go_wp2_with (go_at_call 30; refine HC.out.mono ?_; rintro e w1 ⟨rfl, hb1⟩)
        go_ret
        exact ⟨by rw [idx_hit E P n k hkE HR.out.symm HX.out.2]; rfl, HX.out.1.trans (hb1.mono HX.out.1.size)⟩
      | false =>
        go_wp2_with (go_at_call 30; refine HC.out.mono ?_; rintro e w1 ⟨rfl, hb1⟩)
        refine ⟨⟨k + 1, rfl, hkN, HX.out.1.trans (hb1.mono HX.out.1.size), fun j hj hjk => ?_⟩, ?_⟩
        · by_cases e : j = k
          · subst e; exact HR.out.symm
          · exact HX.out.2 j hj (by omega)
        · simp [intOf]; omega
    · obtain rfl : k = N := by omega
      have hk1 : ¬ (k : Int) < k := by omega
      go_wp2
      go_ret
      exact ⟨by rw [idx_miss E P n (fun j hj => HX.out.2 j hj (by rw [HN.out]; exact hj))]; rfl, HX.out.1⟩
end Go.Proofs.YteojlnbonhipbaaDoor
