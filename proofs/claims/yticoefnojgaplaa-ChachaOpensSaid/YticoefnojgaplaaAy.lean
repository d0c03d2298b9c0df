/- The walk of tagOf: what is tagged of sealed bytes. -/
import Derived.Test.YticoefnojgaplaaAx
namespace Go.Proofs.Yticoefnojgaplaa
open Go.RowKit
namespace Ch
/-- So many noughts up to the next sixteen. -/
def gap (n : Nat) : Nat := (16 - n % 16) % 16
theorem gap_lt (n : Nat) : gap n ≤ 15 := by unfold gap; omega
/-- What is tagged. -/
def toldk (W C : List Int) : Nat → List Int
  | 0 => []
  | 1 => W ++ zs (gap W.length)
  | _ => (W ++ zs (gap W.length)) ++ C ++ zs (gap C.length)
def told (W C : List Int) : List Int := toldk W C 2 ++ Bt.le W.length 8 ++ Bt.le C.length 8
theorem toldk_le (W C : List Int) (k : Nat) : (toldk W C k).length ≤ W.length + C.length + 30 := by
  have h1 := gap_lt W.length
  have h2 := gap_lt C.length
  match k with
  | 0 => simp [toldk]
  | 1 => simp [toldk, zs]; omega
  | k + 2 => simp [toldk, zs]; omega
theorem told_le (W C : List Int) : (told W C).length ≤ W.length + C.length + 46 := by
  have := toldk_le W C 2
  simp [told, Bt.le_length]
  omega
/-- The tag of sealed bytes. -/
def stag (K N W C : List Int) : List Int := Po.tag (fit (block (st K 0 N)) 32) (told W C)
/-- Sealed bytes. -/
def seald (K N W P : List Int) : List Int := stream K 1 N P ++ stag K N W (stream K 1 N P)
end Ch
section
variable {w : World} {ops : Array Oper} {rest : List Oper} {o : Oper} {a : Act} {Q : Exit → Act → World → Prop}
theorem append_slc (hgd : o.guard = none) (s x : Operand) (ho : o.op = .call { callee := .builtin .append, args := #[s, x], argTypes := #[22, 22] })
    (base : Nat) (v : Value) (xs : List Int) (hs : a.eval s = v) (hown : Own base w v xs) (y : Value) (l : List Int) (hx : a.eval x = y) (hl : Slc w y l) (hlen : xs.length + l.length ≤ 100000000) (w0 : World) (hb : Below base w0 w)
    (h : ∀ v' w', Own base w' v' (xs ++ l) → Below base w0 w' → wpList Try.prog ops Q rest (a.put o.dst v') w') : wpList Try.prog ops Q (o :: rest) a w := by
  refine wpList_plain hgd fun K hK => ?_
  obtain ⟨v', w', hr, h2, h3, _⟩ := run_append_slc w o.type hown hl hlen
  unfold Oper.wp execOp
  simp only [ho, resolve, invoke, builtin, Sem.run_bind, Sem.run_pure, Result.andThen_ok, List.map_toArray, List.map_cons, List.map_nil, hs, hx, hr]
  exact hK _ _ (h v' w' h2 (below_grown2 hb hown h3))
theorem append_zeros (hgd : o.guard = none) (s x : Operand) (ho : o.op = .call { callee := .builtin .append, args := #[s, x], argTypes := #[22, 3] })
    (base : Nat) (v : Value) (xs : List Int) (hs : a.eval s = v) (hown : Own base w v xs) (k : Nat) (hx : a.eval x = .int .i64 (k : Int)) (hk : k ≤ 15) (h0 : 0 < xs.length ∨ k = 0) (hlen : xs.length ≤ 100000000) (w0 : World) (hb : Below base w0 w)
    (h : ∀ v' w', Own base w' v' (xs ++ zs k) → Below base w0 w' → wpList Try.prog ops Q rest (a.put o.dst v') w') : wpList Try.prog ops Q (o :: rest) a w := by
  refine wpList_plain hgd fun K hK => ?_
  obtain ⟨v', w', hr, h2, h3, _⟩ := run_append_zeros w o.type hown k hk h0 hlen
  unfold Oper.wp execOp
  simp only [ho, resolve, invoke, builtin, Sem.run_bind, Sem.run_pure, Result.andThen_ok, List.map_toArray, List.map_cons, List.map_nil, hs, hx, hr]
  exact hK _ _ (h v' w' h2 (below_grown2 hb hown h3))
end
set_option maxRecDepth 100000 in
set_option maxHeartbeats 1000000 in
theorem tagOf_any (w : World) (ak : Option Addr) (ck : Nat) (K : List Int) (hK : Slc w (.slice ak K.length ck) K) (an : Option Addr) (cn : Nat) (N : List Int) (hN : Slc w (.slice an N.length cn) N) (aw : Option Addr) (cw : Nat) (W : List Int) (hW : Slc w (.slice aw W.length cw) W) (ac : Option Addr) (cc : Nat) (C : List Int) (hC : Slc w (.slice ac C.length cc) C) (hlw : W.length ≤ 100000) (hlc : C.length ≤ 100000) :
    Calls Try.prog 37 #[.slice ak K.length ck, .slice an N.length cn, .slice aw W.length cw, .slice ac C.length cc] w fun e w' => ∃ v', e = .returned v' ∧ Own w.heap.size w' v' (Ch.stag (fit K 32) (fit N 12) W C) ∧ Below w.heap.size w w' := by
  have HK := Lib.hid hK
  have HN := Lib.hid hN
  have HW := Lib.hid hW
  have HC := Lib.hid hC
  have HLW := Lib.hid hlw
  have HLC := Lib.hid hlc
  clear hK hN hW hC
  go_enter Try.func37, Try.ntmps37
  go_wp2_with fail
  have GP : Hid ((w.alloc (.cells #[.slice aw W.length cw, .slice ac C.length cc] 22)).heap[w.heap.size]? = some (.cells #[.slice aw W.length cw, .slice ac C.length cc] 22 (0, 0))) := heap_alloc_new w _
  have B1 : Hid (Below w.heap.size w (w.alloc (.cells #[.slice aw W.length cw, .slice ac C.length cc] 22))) := (Below.refl _ _).alloc (Nat.le_refl _) _
  change Code.wp _ _ _ _ (w.alloc (.cells #[.slice aw W.length cw, .slice ac C.length cc] 22))
  generalize w.alloc (.cells #[.slice aw W.length cw, .slice ac C.length cc] 22) = w1 at *
  have O1 : Hid (Own w1.heap.size w1 (.slice none 0 0) (Ch.toldk W C 0)) := Own.nil w1 (Nat.le_refl _)
  have BW1 : Hid (Below w1.heap.size w1 w1) := Below.refl _ _
  generalize hgp : w.heap.size = gp at GP
  clear hgp hlw hlc
  go_loopw [9, 16] (fun v i wr => ∃ k : Nat, k ≤ 2 ∧ i = .int .i64 k ∧ Hid (Own w1.heap.size wr v (Ch.toldk W C k)) ∧ Hid (Below w1.heap.size w1 wr)) (fun _ i _ => 2 - (intOf i).toNat)
  case atStart => exact ⟨0, by omega, rfl, O1, BW1⟩
  case round =>
    clear O1 BW1
    obtain ⟨k, hk, rfl, OW, BW⟩ := hrel
    obtain ⟨av, cv, rfl⟩ := OW.out.form
    by_cases hlt : k < 2
    · by_cases hk0 : k < 1
      · obtain rfl : k = 0 := by omega
        have c1 : wr.cell? ⟨gp, 0, none⟩ = some (.slice aw W.length cw) := by
          rw [cell_of_row wr gp 0 _ 22 (0, 0) ((BW.out.block _ (lt_of_block GP.out)).trans GP.out)]
          rfl
        have HX := Lib.hid (HW.out.below B1.out (Nat.le_refl _))
        have HXW := Lib.hid (HX.out.below BW.out (Nat.le_refl _))
        obtain ⟨r, hr, hr15⟩ : ∃ r : Nat, (W.length : Int) % 16 = (r : Int) ∧ r ≤ 15 := ⟨W.length % 16, by omega, by omega⟩
        obtain ⟨r2, hr2, hr16⟩ : ∃ r2 : Nat, (16 : Int) - (r : Int) = (r2 : Int) ∧ r2 ≤ 16 := ⟨16 - r, by omega, by omega⟩
        obtain ⟨g, hg, hg15⟩ : ∃ g : Nat, (r2 : Int) % 16 = (g : Int) ∧ g ≤ 15 := ⟨r2 % 16, by omega, by omega⟩
        have HG : Hid (Ch.gap W.length = g) := by show _ = _; unfold Ch.gap; omega
        have HS := Lib.hid (Ch.toldk_le W C 0)
        have HZ : Hid (Ch.toldk W C 0 ++ W ++ zs g = Ch.toldk W C 1) := by show _ = _; rw [← HG.out]; rfl
        have HPOS : Hid (0 < (Ch.toldk W C 0 ++ W).length ∨ g = 0) := by
          show _ ∨ _
          by_cases h0 : W.length = 0
          · right; rw [← HG.out, h0]; rfl
          · left; rw [List.length_append]; omega
        have HLX := HLW
        generalize Ch.toldk W C 0 = T0 at *
        go_wp2_with (first
          | ((with_reducible refine append_zeros (o := ⟨some 29, _, _, _, _, _⟩) rfl (.tmp 23) (.tmp 28) rfl w1.heap.size v4 (T0 ++ W) rfl OW2.out g ?_ hg15 HPOS.out ?_ w1 BW2.out ?_); exact (congrArg (Value.int .i64) hg); exact (by have h1 := HLW.out; have h2 := HLC.out; have h3 := HS.out; rw [List.length_append]; omega); intro v5 w5 hv hb; have OW3 := Lib.hid hv; have BW3 := Lib.hid hb; clear hv hb)
          | ((with_reducible refine append_slc (o := ⟨some 22, _, _, _, _, _⟩) rfl (.tmp 20) (.tmp 21) rfl w1.heap.size (.slice av T0.length cv) T0 rfl OW.out (.slice aw W.length cw) W rfl HXW.out ?_ w1 BW.out ?_); exact (by have h1 := HLW.out; have h2 := HLC.out; have h3 := HS.out; omega); intro v4 w4 hv hb; have OW2 := Lib.hid hv; have BW2 := Lib.hid hb; clear hv hb))
        go_roundw
        case rel => exact ⟨1, by omega, by go_num, by show Own _ _ _ _; rw [← HZ.out]; exact OW3.out, BW3⟩
        case measure => simp [intOf]
      · obtain rfl : k = 1 := by omega
        have c1 : wr.cell? ⟨gp, 1, none⟩ = some (.slice ac C.length cc) := by
          rw [cell_of_row wr gp 1 _ 22 (0, 0) ((BW.out.block _ (lt_of_block GP.out)).trans GP.out)]
          rfl
        have HX := Lib.hid (HC.out.below B1.out (Nat.le_refl _))
        have HXW := Lib.hid (HX.out.below BW.out (Nat.le_refl _))
        obtain ⟨r, hr, hr15⟩ : ∃ r : Nat, (C.length : Int) % 16 = (r : Int) ∧ r ≤ 15 := ⟨C.length % 16, by omega, by omega⟩
        obtain ⟨r2, hr2, hr16⟩ : ∃ r2 : Nat, (16 : Int) - (r : Int) = (r2 : Int) ∧ r2 ≤ 16 := ⟨16 - r, by omega, by omega⟩
        obtain ⟨g, hg, hg15⟩ : ∃ g : Nat, (r2 : Int) % 16 = (g : Int) ∧ g ≤ 15 := ⟨r2 % 16, by omega, by omega⟩
        have HG : Hid (Ch.gap C.length = g) := by show _ = _; unfold Ch.gap; omega
        have HS := Lib.hid (Ch.toldk_le W C 1)
        have HZ : Hid (Ch.toldk W C 1 ++ C ++ zs g = Ch.toldk W C 2) := by show _ = _; rw [← HG.out]; rfl
        have HPOS : Hid (0 < (Ch.toldk W C 1 ++ C).length ∨ g = 0) := by
          show _ ∨ _
          by_cases h0 : C.length = 0
          · right; rw [← HG.out, h0]; rfl
          · left; rw [List.length_append]; omega
        have HLX := HLC
        generalize Ch.toldk W C 1 = T0 at *
        go_wp2_with (first
          | ((with_reducible refine append_zeros (o := ⟨some 29, _, _, _, _, _⟩) rfl (.tmp 23) (.tmp 28) rfl w1.heap.size v4 (T0 ++ C) rfl OW2.out g ?_ hg15 HPOS.out ?_ w1 BW2.out ?_); exact (congrArg (Value.int .i64) hg); exact (by have h1 := HLW.out; have h2 := HLC.out; have h3 := HS.out; rw [List.length_append]; omega); intro v5 w5 hv hb; have OW3 := Lib.hid hv; have BW3 := Lib.hid hb; clear hv hb)
          | ((with_reducible refine append_slc (o := ⟨some 22, _, _, _, _, _⟩) rfl (.tmp 20) (.tmp 21) rfl w1.heap.size (.slice av T0.length cv) T0 rfl OW.out (.slice ac C.length cc) C rfl HXW.out ?_ w1 BW.out ?_); exact (by have h1 := HLW.out; have h2 := HLC.out; have h3 := HS.out; omega); intro v4 w4 hv hb; have OW2 := Lib.hid hv; have BW2 := Lib.hid hb; clear hv hb))
        go_roundw
        case rel => exact ⟨2, by omega, by go_num, by show Own _ _ _ _; rw [← HZ.out]; exact OW3.out, BW3⟩
        case measure => simp [intOf]
    · obtain rfl : k = 2 := by omega
      have HS := Lib.hid (Ch.toldk_le W C 2)
      have HTOLD : Hid (Ch.toldk W C 2 ++ Bt.le W.length 8 ++ Bt.le C.length 8 = Ch.told W C) := rfl
      have HL2 := Lib.hid (Ch.told_le W C)
      have HSTG : Hid (Po.tag (fit (Ch.block (Ch.st (fit K 32) 0 (fit N 12))) 32) (Ch.told W C) = Ch.stag (fit K 32) (fit N 12) W C) := rfl
      have HBW := Lib.hid (B1.out.trans (BW.out.mono B1.out.size))
      have HKx := Lib.hid (fun wq (hb : Below w.heap.size w wq) => Block_any wq ak ck K (HK.out.below hb (Nat.le_refl _)) 0 (by unfold W32; decide) an cn N (HN.out.below hb (Nat.le_refl _)))
      have HA1 : Hid (Calls Try.prog 31 #[.slice av (Ch.toldk W C 2).length cv, .int .u64 (W.length : Int), .int .i64 8] wr fun e w' => ∃ v', e = .returned v' ∧ Own w1.heap.size w' v' (Ch.toldk W C 2 ++ Bt.le W.length 8) ∧ Below w1.heap.size wr w') := append_low wr w1.heap.size _ _ OW.out (by have h1 := HLW.out; have h2 := HLC.out; have h3 := HS.out; omega) W.length (by have h1 := HLW.out; simp only [Nat.reducePow]; omega) 8 (by decide)
      have HA2 : Hid (∀ wq v, Own w1.heap.size wq v (Ch.toldk W C 2 ++ Bt.le W.length 8) → Calls Try.prog 31 #[v, .int .u64 (C.length : Int), .int .i64 8] wq fun e w' => ∃ v', e = .returned v' ∧ Own w1.heap.size w' v' (Ch.told W C) ∧ Below w1.heap.size wq w') := fun wq v hv => append_low wq w1.heap.size _ _ hv (by have h1 := HLW.out; have h2 := HLC.out; have h3 := HS.out; rw [List.length_append, Bt.le_length]; omega) C.length (by have h1 := HLC.out; simp only [Nat.reducePow]; omega) 8 (by decide)
      have hlw : (W.length : Int) ≤ 100000 := by have := HLW.out; omega
      have hlc : (C.length : Int) ≤ 100000 := by have := HLC.out; omega
      clear HK HN HW HC GP HLW HLC
      generalize Ch.block (Ch.st (fit K 32) 0 (fit N 12)) = BL at *
      generalize Ch.told W C = TD at *
      generalize Ch.toldk W C 2 ++ Bt.le W.length 8 = T1 at *
      generalize Ch.toldk W C 2 = T2 at *
      go_wp2_with (first
        | (go_at_call 13; refine (tag_any w7 a7 c7 BL OB7.out.slc a6 c6 TD OW7.out.slc).mono ?_; rintro e w8 ⟨v8, rfl, hv, hb⟩; have OW8 := Lib.hid hv; have BW8 := Lib.hid (BW7.out.trans (hb.mono BW7.out.size)); clear hv hb)
        | (go_at_call 9; refine (HKx.out w6 BW6.out).mono ?_; rintro e w7 ⟨v7, rfl, hv, hb⟩; have OB7 := Lib.hid hv; have OW7 := Lib.hid (OW6.out.below hb); have BW7 := Lib.hid (BW6.out.trans (hb.mono BW6.out.size)); clear hv hb; obtain ⟨a7, c7, rfl⟩ := OB7.out.form)
        | (go_at_call 31; refine (HA2.out w5 _ OW5.out).mono ?_; rintro e w6 ⟨v6, rfl, hv, hb⟩; have OW6 := Lib.hid hv; have BW6 := Lib.hid (BW5.out.trans (hb.mono B1.out.size)); clear hv hb; obtain ⟨a6, c6, rfl⟩ := OW6.out.form)
        | (go_at_call 31; refine HA1.out.mono ?_; rintro e w5 ⟨v5, rfl, hv, hb⟩; have OW5 := Lib.hid hv; have BW5 := Lib.hid (HBW.out.trans (hb.mono B1.out.size)); clear hv hb; obtain ⟨a5, c5, rfl⟩ := OW5.out.form))
      go_ret
      exact ⟨_, rfl, by rw [← HSTG.out]; exact OW8.out.mono BW7.out.size, BW8.out⟩
end Go.Proofs.Yticoefnojgaplaa
