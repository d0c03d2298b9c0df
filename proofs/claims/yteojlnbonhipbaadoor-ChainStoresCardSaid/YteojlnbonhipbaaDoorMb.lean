/- The name of a term: what the code returns, for every term. -/
import Derived.Test.YteojlnbonhipbaaDoorA
import Derived.Test.YteojlnbonhipbaaDoorMa
import Derived.Test.YteojlnbonhipbaaDoorSh
import Derived.Deep.RegionLaw
import Derived.Maps.AppendAt
import Derived.Deep.RegionLaw
namespace Go.Proofs.YteojlnbonhipbaaDoor
open Go.RowKit
/-- A term in a variable of the call's own. -/
structure Boxed (b : Nat) (k o s n : Value) (w : World) : Prop where
  lt : b < w.heap.size
  c0 : w.cell? ⟨b, 0, none⟩ = some k
  c1 : w.cell? ⟨b, 1, none⟩ = some o
  c2 : w.cell? ⟨b, 2, none⟩ = some s
  c3 : w.cell? ⟨b, 3, none⟩ = some n
theorem Boxed.new (w : World) (k o s n : Value) : Boxed w.heap.size k o s n (w.alloc (.cells #[k, o, s, n] 130)) :=
  ⟨by simp, by rw [cell_of_row _ _ _ _ _ _ (heap_alloc_new w _)]; rfl, by rw [cell_of_row _ _ _ _ _ _ (heap_alloc_new w _)]; rfl, by rw [cell_of_row _ _ _ _ _ _ (heap_alloc_new w _)]; rfl, by rw [cell_of_row _ _ _ _ _ _ (heap_alloc_new w _)]; rfl⟩
theorem Boxed.on {b B : Nat} {k o s n : Value} {w w' : World} (h : Boxed b k o s n w) (hb : Below B w w') (hB : b < B) : Boxed b k o s n w' :=
  ⟨Nat.lt_of_lt_of_le h.lt hb.size, (hb.cell hB).trans h.c0, (hb.cell hB).trans h.c1, (hb.cell hB).trans h.c2, (hb.cell hB).trans h.c3⟩
set_option maxHeartbeats 2000000 in
/-- AppendInt of a number of one or two digits: no table is read. -/
theorem appint_small (B n : Nat) (i : Int) (h0 : 0 ≤ i) (h1 : i < 100) (sv : Value) (xs : List Value) (w : World) (hown : w.ownsRow B 5 1 sv n xs) (hBw : B ≤ w.heap.size) (hlim : n + 20 ≤ 140737488355328) :
    Calls Tryd.prog 98 #[sv, .int .i64 i, .int .i64 10] w fun e w' => ∃ v', e = .returned v' ∧ w'.ownsRow B 5 1 v' (n + (Lib.itoa i).length) (xs ++ Lib.byteCells (Lib.itoa i)) ∧ Below B w w' ∧ Lib.OthersKept 5 none w w' := by
  obtain ⟨u, rfl⟩ : ∃ u : Nat, i = u := ⟨i.toNat, by omega⟩
  have hc := Tryd.internal_strconv_AppendUint_10_small B n u (by omega) sv xs w hown hBw hlim
  have hcv : IntKind.u64.wrap (u : Int) = (u : Int) := by simp [IntKind.wrap, IntKind.bits, IntKind.signed]; omega
  rw [← Lib.itoa_nonneg] at hc
  have HC := Lib.hid hc
  clear hc hown hlim
  have h2 : Calls Tryd.prog 99 #[sv, .int .i64 u, .int .i64 10] w fun e w' => ∃ v', e = .returned v' ∧ w'.ownsRow B 5 1 v' (n + (Lib.itoa u).length) (xs ++ Lib.byteCells (Lib.itoa u)) ∧ Below B w w' ∧ Lib.OthersKept 5 none w w' := by
    go_enter Tryd.func99, Tryd.ntmps99
    go_wp2_with (go_at_call 100; refine HC.out.mono ?_; rintro e w1 ⟨v1, rfl, hr⟩)
    go_ret
    exact ⟨v1, rfl, hr⟩
  go_enter Tryd.func98, Tryd.ntmps98
  go_wp2_with (go_at_call 99; refine h2.mono ?_; rintro e w1 ⟨v1, rfl, hr⟩)
  go_ret
  exact ⟨v1, rfl, hr⟩
/-- Numbers that lie there. -/
structure Nums (w : World) (ao : Option Addr) (zs : List Int) : Prop where
  at_ : ∀ j, j < zs.length → ∃ b off, ao = some ⟨b, off, none⟩ ∧ b < w.heap.size ∧ w.cell? ⟨b, off + j, none⟩ = some (.int .i64 (zs.getD j 0))
theorem Nums.on {w w' : World} {ao : Option Addr} {zs : List Int} (h : Nums w ao zs) {B : Nat} (hb : Below B w w') (hB : w.heap.size ≤ B) : Nums w' ao zs := by
  refine ⟨fun j hj => ?_⟩
  obtain ⟨b, off, h1, h2, h3⟩ := h.at_ j hj
  exact ⟨b, off, h1, Nat.lt_of_lt_of_le h2 (Nat.le_trans (Nat.le_refl _) hb.size), (hb.cell (p := ⟨b, off + j, none⟩) (by show b < B; omega)).trans h3⟩
theorem own_conv {w : World} {B : Nat} {v : Value} {l : List UInt8} (h : w.ownsRow B 5 1 v l.length (Lib.byteCells l)) (hl : 0 < l.length) : ∃ g c, v = .slice (some ⟨g, 0, none⟩) l.length c ∧ (convert 24 9 (.slice (some ⟨g, 0, none⟩) l.length c)).run Tryd.prog w = .ok (.string ⟨l.toArray⟩) w := by
  have h' := h
  rcases h.2 with ⟨-, h0⟩ | ⟨g, cap, cur, rfl, -⟩
  · omega
  · exact ⟨g, cap, rfl, run_convert_bytes_back (P := Tryd.prog) w 24 9 5 ⟨g, 0, none⟩ cap l Tryd.underlying24 Tryd.underlying5 Tryd.underlying9 (fun j hj => h'.cells (g := g) rfl j _ (by simp [Lib.byteCells, hj]))⟩
namespace Tm
/-- The name up to the first so many numbers. -/
def hd (k n : Int) (of : List Int) (j : Nat) : List UInt8 := UInt8.ofNat k.toNat :: (Lib.itoa n ++ ((of.take j).map fun i => 44 :: Lib.itoa i).flatten)
theorem hd_zero (k n : Int) (of : List Int) : hd k n of 0 = UInt8.ofNat k.toNat :: Lib.itoa n := by simp [hd]
theorem hd_succ (k n : Int) (of : List Int) (j : Nat) (hj : j < of.length) : hd k n of (j + 1) = hd k n of j ++ [44] ++ Lib.itoa (of.getD j 0) := by
  unfold hd
  rw [List.take_add_one, List.getElem?_eq_getElem hj, List.getD_eq_getElem?_getD, List.getElem?_eq_getElem hj, List.map_append, List.flatten_append]
  simp
theorem body_eq : ∀ (of : List Int) (tx : List UInt8), body of tx = ((of.map fun i => 44 :: Lib.itoa i).flatten) ++ 58 :: tx
  | [], tx => rfl
  | i :: r, tx => by
    simp only [body, List.map_cons, List.flatten_cons, body_eq r tx, List.cons_append, List.append_assoc]
theorem hd_all (t : Tm) : hd t.k t.n t.of t.of.length ++ [58] ++ t.tx = t.name := by
  unfold hd name
  rw [List.take_length, body_eq]
  simp
theorem hd_len (k n : Int) (of : List Int) (hn : I64 n) (hof : ∀ i ∈ of, I64 i) : ∀ j, j ≤ of.length → (hd k n of j).length ≤ 22 + 22 * j
  | 0, _ => by
    rw [hd_zero, List.length_cons]
    have := Lib.itoa_length_le n (by have := hn.1; omega) (by have := hn.2; omega)
    omega
  | j + 1, h => by
    have ih := hd_len k n of hn hof j (by omega)
    have hi := hof (of.getD j 0) (by rw [List.getD_eq_getElem?_getD, List.getElem?_eq_getElem (by omega)]; exact List.getElem_mem _)
    have := Lib.itoa_length_le (of.getD j 0) (by have := hi.1; omega) (by have := hi.2; omega)
    rw [hd_succ _ _ _ _ (by omega), List.length_append, List.length_append, List.length_singleton]
    omega
end Tm
/-- A term as a value. -/
def tmV (t : Tm) (ao : Option Addr) (cap : Nat) : Value := .agg #[.int .u8 t.k, .slice ao t.of.length cap, .string ⟨t.tx.toArray⟩, .int .i64 t.n]
set_option maxHeartbeats 8000000 in
theorem name_any (k n : Int) (of : List Int) (s : ByteArray) (ao : Option Addr) (cap : Nat) (w : World) (_ : Gv w) (hk0 : 0 ≤ k) (hk1 : k ≤ 255) (hn : Tm.I64 n) (hof : ∀ i ∈ of, Tm.I64 i) (hN : Nums w ao of) (hL : of.length ≤ 1048576) (hs : s.size ≤ 281474976710656) :
    Calls Tryd.prog 95 #[.agg #[.int .u8 k, .slice ao of.length cap, .string s, .int .i64 n]] w fun e w' => e = .returned (.string ⟨(Tm.hd k n of of.length ++ [58] ++ s.data.toList).toArray⟩) ∧ Below w.heap.size w w' := by
  obtain ⟨i0, hi, hz0, hz1, hz2⟩ := info_parts info5
  have hln := Lib.itoa_length_le n (by have := hn.1; omega) (by have := hn.2; omega)
  obtain ⟨L, hLd⟩ : ∃ L, L = of.length := ⟨_, rfl⟩
  have hHl := Tm.hd_len k n of hn hof
  have hb0 := Joins.below_alloc1 w (.cells #[.int .u8 k, .slice ao of.length cap, .string s, .int .i64 n] 130)
  have hx0 := Boxed.new w (.int .u8 k) (.slice ao of.length cap) (.string s) (.int .i64 n)
  rw [← hLd] at hb0 hx0 hL hHl ⊢
  have hsz0 : (w.alloc (.cells #[.int .u8 k, .slice ao L cap, .string s, .int .i64 n] 130)).heap.size = w.heap.size + 1 := by simp
  have HX := Lib.hid hx0
  have HH := Lib.hid hHl
  have HB := Lib.hid hb0
  have HLd := Lib.hid hLd
  have HLn := Lib.hid hln
  have c0 := hx0.c0
  have c1 := hx0.c1
  have c2 := hx0.c2
  have c3 := hx0.c3
  clear hx0 hHl hb0 hLd hln
  go_enter Tryd.func95, Tryd.ntmps95
  go_wp2_with (go_at_call 98; refine Hid.out ?_)
  refine Lib.hid ?_
  generalize w.alloc (.cells #[.int .u8 k, .slice ao L cap, .string s, .int .i64 n] 130) = w0 at *
  have hown0 : (w0.alloc (.cells #[.int .u8 k] 5)).ownsRow (w.heap.size + 1) 5 1 (.slice (some ⟨w.heap.size + 1, 0, none⟩) 1 1) 1 [.int .u8 k] :=
    ⟨rfl, .inr ⟨w.heap.size + 1, 1, #[.int .u8 k], rfl, Nat.le_refl _, by rw [← hsz0]; exact heap_alloc_new w0 _, Nat.le_refl _, by unfold maxLen; omega, rfl, rfl⟩⟩
  have hb00 : Below (w.heap.size + 1) w0 (w0.alloc (.cells #[.int .u8 k] 5)) := (Below.refl _ _).alloc (by omega) _
  have hcall := appint_small (w.heap.size + 1) 1 n hn.1 hn.2 _ _ _ hown0 (by have := hb00.size; omega) (by omega)
  have HC := Lib.hid hcall
  clear hcall hown0
  go_wp2_with (go_at_call 98; refine HC.out.mono ?_; rintro e w1 ⟨v1, rfl, hown1, hb1, -⟩; refine Hid.out ?_)
  refine Lib.hid ?_
  have hd0 : w1.ownsRow (w.heap.size + 1) 5 1 v1 (Tm.hd k n of 0).length (Lib.byteCells (Tm.hd k n of 0)) := by
    rw [Tm.hd_zero]
    have e : (UInt8.ofNat k.toNat).toNat = k.toNat := by rw [UInt8.toNat_ofNat']; omega
    have e2 : ((k.toNat : Nat) : Int) = k := by omega
    have h := hown1
    rw [show [Value.int .u8 k] ++ Lib.byteCells (Lib.itoa n) = Lib.byteCells (UInt8.ofNat k.toNat :: Lib.itoa n) by simp [Lib.byteCells, e, e2], show 1 + (Lib.itoa n).length = (UInt8.ofNat k.toNat :: Lib.itoa n).length by simp; omega] at h
    exact h
  have hb2 := hb00.trans hb1
  clear HC hown1 hb1 hb00 c0 c1 c2 c3
  have hx1 := HX.out.on hb2 (Nat.lt_succ_self _)
  have c1 := hx1.c1
  go_wp2_with fail
  clear c1 hx1
  go_loopw [3, 15] (fun v i wr => ∃ j : Nat, i = .int .i64 j ∧ j ≤ L ∧ wr.ownsRow (w.heap.size + 1) 5 1 v (Tm.hd k n of j).length (Lib.byteCells (Tm.hd k n of j)) ∧ Below (w.heap.size + 1) w0 wr)
    (fun _ i _ => L - (intOf i).toNat)
  case atStart => exact ⟨0, rfl, Nat.zero_le _, hd0, hb2⟩
  case round =>
    obtain ⟨j, rfl, hj, hown, hbr⟩ := hrel
    clear hd0 hb2
    by_cases hjL : j < L
    · obtain ⟨b, off, rfl, hbl, hcell⟩ := hN.at_ j (by rw [← HLd.out]; exact hjL)
      have hcell2 : wr.cell? ⟨b, off + j, none⟩ = some (.int .i64 (of.getD j 0)) := (hbr.cell (p := ⟨b, off + j, none⟩) (by show b < _; omega)).trans ((HB.out.cell (p := ⟨b, off + j, none⟩) hbl).trans hcell)
      have hoi := hof (of.getD j 0) (by rw [List.getD_eq_getElem?_getD, List.getElem?_eq_getElem (by rw [← HLd.out]; exact hjL)]; exact List.getElem_mem _)
      have HS := Lib.hid (Tm.hd_succ k n of j (by rw [← HLd.out]; exact hjL))
      have HLj := Lib.hid (HH.out j (by omega))
      have hli := Lib.itoa_length_le (of.getD j 0) (by have := hoi.1; omega) (by have := hoi.2; omega)
      have hj1 : (j : Int) < L := by omega
      generalize of.getD j 0 = x at *
      obtain ⟨H, hH⟩ : ∃ H, H = Tm.hd k n of j := ⟨_, rfl⟩
      rw [← hH] at hown HS HLj
      have HLi := Lib.hid hli
      have HO := Lib.hid hoi
      clear hcell hH hli hoi
      go_wp2_with (first
        | (at_builtin; refine wpList_append_own _ rfl _ _ 24 rfl (w.heap.size + 1) 5 i0 (.int .u8 0) 1 1 Tryd.underlying24 hi hz0 hz1 hz2 rfl (by decide) _ _ _ rfl (hown.alloc _) ⟨wr.heap.size, 0, none⟩ 1 1 [Value.int .u8 44] rfl rfl (cell_one_new _ _ _) (fun x hx => by simp at hx; subst hx; rfl) (by have := HLj.out; unfold maxLen; omega) (by have := HLj.out; omega) (by have := hbr.size; simp; omega) ?_; intro v2 w2 hown2 hgrow hnil; refine Hid.out ?_))
      refine Lib.hid ?_
      have hb2 : Below (w.heap.size + 1) w0 w2 := Below.grown (hbr.alloc (by have := hbr.size; omega) _) hgrow (by have := hbr.size; simp; omega) (fun k hk => (hown.lt k hk).1)
      have hcall := appint_small (w.heap.size + 1) _ x HO.out.1 HO.out.2 _ _ _ hown2 (by have := hb2.size; omega) (by have := HLj.out; omega)
      have HC := Lib.hid hcall
      clear hcall hown2 hgrow hnil hown hcell2 hbr
      go_wp2_with (go_at_call 98; refine HC.out.mono ?_; rintro e w3 ⟨v3, rfl, hown3, hb3, -⟩)
      go_roundw
      case rel =>
        refine ⟨j + 1, rfl, by omega, ?_, hb2.trans hb3⟩
        have h := hown3
        rw [HS.out]
        rw [show Lib.byteCells H ++ [Value.int .u8 44] ++ Lib.byteCells (Lib.itoa x) = Lib.byteCells (H ++ [44] ++ Lib.itoa x) by simp [Lib.byteCells], show H.length + 1 + (Lib.itoa x).length = (H ++ [44] ++ Lib.itoa x).length by simp; omega] at h
        exact h
      case measure => simp [intOf]; omega
    · obtain rfl : j = L := by omega
      have hj1 : ¬ (j : Int) < j := by omega
      have HLj := Lib.hid (HH.out j (Nat.le_refl _))
      obtain ⟨H, hH⟩ : ∃ H, H = Tm.hd k n of j := ⟨_, rfl⟩
      have hfin : (⟨(Tm.hd k n of j ++ [58] ++ s.data.toList).toArray⟩ : ByteArray) = ⟨(H ++ [58] ++ s.data.toList).toArray⟩ := by rw [hH]
      have HF := Lib.hid hfin
      rw [← hH] at hown HLj
      have HBr := Lib.hid hbr
      have hx2 := HX.out.on hbr (Nat.lt_succ_self _)
      have c2 := hx2.c2
      have c2a : (wr.alloc (.cells #[.int .u8 58] 5)).cell? ⟨w.heap.size, 2, none⟩ = some (.string s) := (hx2.on (Joins.below_alloc1 wr _) hx2.lt).c2
      have HFIN : Hid (∀ (v2 : Value) (w2 : World), w2.ownsRow (w.heap.size + 1) 5 1 v2 (H.length + 1) (Lib.byteCells H ++ [Value.int .u8 58]) → (wr.drew.alloc (.cells #[.int .u8 58] 5)).grownBy w2 u3.ownBlock → ∃ g c, v2 = .slice (some ⟨g, 0, none⟩) (H.length + 1) c ∧ (convert 24 9 (.slice (some ⟨g, 0, none⟩) (H.length + 1) c)).run Tryd.prog w2 = .ok (.string ⟨(H ++ [58]).toArray⟩) w2 ∧ w2.cell? ⟨w.heap.size, 2, none⟩ = some (.string s) ∧ Hid (Below w.heap.size w w2)) := by
        intro v2 w2 h1 h2
        have h3 : Below (w.heap.size + 1) w0 w2 := Below.grown (hbr.drew.alloc (by have := hbr.size; show _ ≤ wr.heap.size; omega) _) h2 (by have := hbr.size; simp; omega) (fun k hk => (hown.lt k hk).1)
        have h4 : w2.ownsRow (w.heap.size + 1) 5 1 v2 (H ++ [58]).length (Lib.byteCells (H ++ [58])) := by
          rw [List.length_append, List.length_singleton]
          simpa [Lib.byteCells] using h1
        obtain ⟨g, c, h5, h6⟩ := own_conv h4 (by simp)
        rw [List.length_append, List.length_singleton] at h5 h6
        subst h5
        exact ⟨g, c, rfl, h6, (HX.out.on h3 (Nat.lt_succ_self _)).c2, HB.out.trans (h3.mono (Nat.le_succ _))⟩
      obtain ⟨F, hF⟩ : ∃ F : ByteArray, F = ⟨(H ++ [58] ++ s.data.toList).toArray⟩ := ⟨_, rfl⟩
      rw [← hF] at HF
      have hadd : ∀ w, (Op.stringOp .add ⟨(H ++ [58]).toArray⟩ s).run Tryd.prog w = .ok (.string F) w := fun w => by
        rw [run_string_add_sum w _ s (by have := HLj.out; rw [ByteArray.size_mk', List.size_toArray, List.length_append, List.length_singleton]; omega), hF]
        congr 2
      generalize (⟨(H ++ [58]).toArray⟩ : ByteArray) = T58 at *
      clear hH hx2 hfin hbr hF
      go_wp2
      go_region_law (refine step_append_own rfl (.tmp 25) (.tmp 26) 24 rfl (w.heap.size + 1) 5 i0 (.int .u8 0) 1 1 Tryd.underlying24 hi hz0 hz1 hz2 rfl (by decide) u3 H.length (Lib.byteCells H) (by simp [Act.eval]) (hown.drew.alloc _) ⟨wr.heap.size, 0, none⟩ 1 1 [Value.int .u8 58] (by simp [Act.eval]) rfl (cell_one_new _ _ _) (fun x hx => by simp at hx; subst hx; rfl) (by have := HLj.out; unfold maxLen; omega) (by have := HLj.out; omega) (by have := HBr.out.size; simp; omega) ?_; intro v2 w2 hown2 hgrow; obtain ⟨g, cc, rfl, hcv, c2', HBW⟩ := HFIN.out v2 w2 hown2 hgrow)
      all_goals (go_wp2; go_ret; exact ⟨congrArg (fun x => Ending.returned (Value.string x)) HF.out.symm, HBW.out⟩)
end Go.Proofs.YteojlnbonhipbaaDoor
