/- The law's walk: parts, marked one behind the other, are they again; other texts are none. -/
import Derived.Test.YtghaknienffmjaaDoorLd
import Derived.Test.YtghaknienffmjaaDoorG
namespace Go.Proofs.YtghaknienffmjaaDoor
open Go.RowKit
/-- A slice of slices of bytes that lies there. -/
structure Rows2 (w : World) (la : Option Addr) (Ps : List (List Int)) : Prop where
  at_ : ∀ j, j < Ps.length → ∃ b off, la = some ⟨b, off, none⟩ ∧ b < w.heap.size ∧ ∃ ao cap, w.cell? ⟨b, off + j, none⟩ = some (.slice ao (Ps.getD j []).length cap) ∧ Byt w ao (Ps.getD j [])
theorem Rows2.on {w w' : World} {la : Option Addr} {Ps : List (List Int)} (h : Rows2 w la Ps) (hb : Below w.heap.size w w') : Rows2 w' la Ps := by
  refine ⟨fun j hj => ?_⟩
  obtain ⟨b, off, h1, h2, ao, cap, h3, h4⟩ := h.at_ j hj
  exact ⟨b, off, h1, Nat.lt_of_lt_of_le h2 hb.size, ao, cap, (hb.cell (p := ⟨b, off + j, none⟩) h2).trans h3, h4.on hb⟩
/-- What a part is, as a text. -/
def tx (P : List Int) : List UInt8 := (strOfNums P).data.toList
theorem tx_len (P : List Int) : (tx P).length = P.length := by rw [tx, ← size_list, strOfNums_size]
theorem mk_len2 (p : List UInt8) (h : p.length ≤ 281474976710656) : (Mk.mk p).length ≤ 21 + p.length := by
  have hd : (Lib.decDigits p.length).length ≤ 20 := by rw [Lib.decDigits_length]; exact Lib.nDigits_le20 _ (by omega)
  unfold Mk.mk
  rw [List.length_append, List.length_cons]
  omega
/-- The marks of the first so many. -/
def mks (Ps : List (List Int)) (k : Nat) : List UInt8 := ((Ps.take k).map fun P => Mk.mk (tx P)).flatten
theorem mks_succ (Ps : List (List Int)) (k : Nat) (hk : k < Ps.length) : mks Ps (k + 1) = mks Ps k ++ Mk.mk (tx (Ps.getD k [])) := by
  unfold mks
  rw [List.take_add_one, List.getElem?_eq_getElem hk, List.getD_eq_getElem?_getD, List.getElem?_eq_getElem hk, List.map_append, List.flatten_append]
  congr 1
  exact List.append_nil _
theorem owns_str {w : World} {B n : Nat} {v : Value} {xs : List (List UInt8)} (h : w.ownsRow B 9 1 v n (xs.map strV)) : ∃ ao cap, v = .slice ao n cap ∧ ∀ j, j < n → ∃ g, ao = some ⟨g, 0, none⟩ ∧ B ≤ g ∧ g < w.heap.size ∧ w.cell? ⟨g, j, none⟩ = some (strV (xs.getD j [])) := by
  obtain ⟨hl, ⟨rfl, rfl⟩ | ⟨g, cap, cur, rfl, hg, hc, h1, h2, h3, h4⟩⟩ := h
  · exact ⟨none, 0, rfl, fun j hj => absurd hj (Nat.not_lt_zero _)⟩
  · refine ⟨_, cap, rfl, fun j hj => ⟨g, rfl, hg, (Array.getElem?_eq_some_iff.1 hc).1, ?_⟩⟩
    rw [cell_of_row w g j cur 9 (0, 0) hc]
    have h5 : cur[j]? = (cur.toList.take (n * 1))[j]? := by rw [List.getElem?_take_of_lt (by omega), Array.getElem?_toList]
    rw [List.length_map] at hl
    rw [h5, h4, List.getElem?_map, List.getElem?_eq_getElem (by omega), List.getD_eq_getElem?_getD, List.getElem?_eq_getElem (by omega)]
    rfl
/-- The marks of the first so many, of texts. -/
def mkl (l : List (List UInt8)) (k : Nat) : List UInt8 := ((l.take k).map Mk.mk).flatten
theorem mkl_succ (l : List (List UInt8)) (k : Nat) (hk : k < l.length) : mkl l (k + 1) = mkl l k ++ Mk.mk (l.getD k []) := by
  unfold mkl
  rw [List.take_add_one, List.getElem?_eq_getElem hk, List.getD_eq_getElem?_getD, List.getElem?_eq_getElem hk, List.map_append, List.flatten_append]
  congr 1
  exact List.append_nil _
theorem mkl_ge (l : List (List UInt8)) : ∀ (k : Nat), k ≤ l.length → k ≤ (mkl l k).length
  | 0, _ => Nat.zero_le _
  | k + 1, h => by
    have ih := mkl_ge l k (by omega)
    have h2 := Mk.mk_len (l.getD k [])
    rw [mkl_succ l k (by omega), List.length_append]
    omega
theorem mkl_le (l : List (List UInt8)) (k : Nat) : (mkl l k).length ≤ (mkl l l.length).length := by
  have h : mkl l l.length = mkl l k ++ ((l.drop k).map Mk.mk).flatten := by
    unfold mkl
    rw [← List.flatten_append, ← List.map_append, List.take_append_drop, List.take_length]
  rw [h, List.length_append]
  omega
theorem mkl_all {l : List (List UInt8)} {x : ByteArray} (h : Mk.parts x.data.toList = some l) : mkl l l.length = x.data.toList := by
  unfold mkl
  rw [List.take_length]
  exact Mk.parts_back _ _ _ (Nat.le_refl _) h
theorem meas (a N : Nat) (h : a + 1 ≤ N) : N - (intOf (.int .i64 ((a : Int) + 1))).toNat < N - (intOf (.int .i64 (a : Int))).toNat := by
  simp [intOf]
  omega
/-- A text's bytes, as numbers. -/
def ints (p : ByteArray) : List Int := p.data.toList.map fun b => (b.toNat : Int)
theorem ints_len (p : ByteArray) : (ints p).length = p.size := by rw [ints, List.length_map, ← size_list]
theorem ints_str (p : ByteArray) : strOfNums (ints p) = p := by
  refine Go.WideShapes.bytes_inj ?_
  rw [strOfNums_data, ints, List.map_map]
  conv => rhs; rw [← List.map_id p.data.toList]
  exact List.map_congr_left (fun b _ => by simp)
theorem byt_new (w : World) (p : ByteArray) : Byt (Lib.bytesWorld w 5 p) (some ⟨w.heap.size, 0, none⟩) (ints p) := by
  refine ⟨.inr ⟨w.heap.size, 0, rfl, by rw [Lib.bytesWorld_size]; omega, fun j hj => ?_⟩⟩
  rw [ints_len] at hj
  rw [Nat.zero_add, Lib.bytesWorld_cell w 5 p j hj, ints, List.getD_eq_getElem?_getD, List.getD_eq_getElem?_getD, List.getElem?_map]
  rw [size_list] at hj
  rw [List.getElem?_eq_getElem hj]
  rfl
set_option maxRecDepth 20000 in
set_option maxHeartbeats 8000000 in
theorem marks_walk (w : World) (hG : Gv w) (la : Option Addr) (cap : Nat) (Ps : List (List Int)) (s : ByteArray) (c : Int) (hs : s.size ≤ 281474976710656) (hR : Rows2 w la Ps) (hc0 : 0 ≤ c) (hc1 : c ≤ 65535) :
    Calls Tryd.prog 6 #[.slice la Ps.length cap, .string s, .int .u16 c] w fun e w' => e = .returned (.bool true) ∧ Below w.heap.size w w' := by
  have hA := fun w hG => (let ⟨m, hm⟩ := Gv.mx (w := w) hG; awake_any w m hm (by have := Gv.sz hG; omega) : Calls Tryd.prog 8 #[] w fun e w' => e = .returned (.bool true) ∧ Below w.heap.size w w')
  have HS := Lib.hid hs
  have HR := Lib.hid hR
  clear hs hR
  obtain ⟨n, hn⟩ : ∃ n, n = Ps.length := ⟨_, rfl⟩
  rw [← hn]
  have HN := Lib.hid hn
  clear hn
  go_enter Tryd.func6, Tryd.ntmps6
  go_wp2_with (go_at_call 8; refine (hA _ hG).mono ?_; rintro e w1 ⟨rfl, hb1⟩; refine Hid.out ?_)
  refine Lib.hid ?_
  have hA1 := hA _ (hG.on hb1)
  go_wp2_with (go_at_call 8; refine hA1.mono ?_; rintro e w2 ⟨rfl, hb2⟩)
  · go_ret
    exact ⟨rfl, hb1.trans (hb2.mono hb1.size)⟩
  · clear hA1
    have hn20 : n ≤ 20 := by omega
    have hs2 : s.size ≤ 200 := by omega
    have HS2 := Lib.hid hs2
    clear hs2
    have HB := Lib.hid hb1
    clear hb1
    go_loopw [7, 8] (fun a v wr => ∃ (k : Nat) (t : ByteArray), a = .string t ∧ v = .int .i64 k ∧ k ≤ n ∧ Hid (t = ⟨(mks Ps k).toArray⟩) ∧ Hid (t.size ≤ k * 321) ∧ Hid (∀ j, j < k → (Ps.getD j []).length ≤ 300) ∧ Below w.heap.size w wr)
      (fun _ v _ => n - (intOf v).toNat)
    case atStart => exact ⟨0, ByteArray.empty, rfl, rfl, Nat.zero_le _, rfl, Nat.le_refl _, fun j hj => absurd hj (Nat.not_lt_zero _), HB.out⟩
    case round =>
      obtain ⟨k, t, rfl, rfl, hk, HT, HZ, HJ, hb⟩ := hrel
      by_cases hkn : k < n
      · have hkP : k < Ps.length := by have := HN.out; omega
        obtain ⟨b, off, rfl, hbl, ao, cp, hcell, hby⟩ := (HR.out.on (hb.mono (Nat.le_refl _))).at_ k hkP
        have HM := Lib.hid (mks_succ Ps k hkP)
        have hJ1 : ∀ j, j < k + 1 → (Ps.getD k []).length ≤ 300 → (Ps.getD j []).length ≤ 300 := fun j hj h => by
          by_cases e : j = k
          · subst e; exact h
          · exact HJ.out j (by omega)
        have HJ1 := Lib.hid hJ1
        clear hJ1
        generalize Ps.getD k [] = P at *
        have hM := mark_any wr (hG.on hb) ao cp P
        obtain ⟨l, hl⟩ : ∃ l, l = P.length := ⟨_, rfl⟩
        rw [← hl] at hcell hM
        have HL := Lib.hid hl
        have HBy := Lib.hid hby
        clear hl hby hkP
        have hk1 : (k : Int) < n := by omega
        go_wp2_with (go_at_call 19; refine Hid.out ?_)
        · go_ret
          exact ⟨rfl, hb⟩
        · refine Lib.hid ?_
          have hl3 : l ≤ 300 := by omega
          obtain ⟨M, hMd⟩ : ∃ M : ByteArray, M = ⟨(Mk.mk (strOfNums P).data.toList).toArray⟩ := ⟨_, rfl⟩
          have hM2 := hM (by have := HL.out; omega) HBy.out
          rw [← hMd] at hM2
          have hMs : M.size ≤ 321 := by
            have h := mk_len2 (tx P) (by rw [tx_len]; have := HL.out; omega)
            rw [tx_len] at h
            have := HL.out
            rw [hMd]
            show (Mk.mk (tx P)).toArray.size ≤ _
            rw [List.size_toArray]
            omega
          have hadd : ∀ w, (Op.stringOp .add t M).run Tryd.prog w = .ok (.string (t ++ M)) w := fun w => run_string_add_sum w t M (by have := HZ.out; omega)
          have HMd := Lib.hid hMd
          have HMs := Lib.hid hMs
          clear hM hMd hMs hcell
          go_wp2_with (go_at_call 19; refine hM2.mono ?_; rintro e w2 ⟨rfl, hb2⟩)
          go_roundw
          case rel =>
            refine ⟨k + 1, t ++ M, rfl, rfl, by omega, ?_, ?_, ?_, hb.trans (hb2.mono hb.size)⟩
            · show _ = _
              rw [HT.out, HMd.out, HM.out, ByteArray.mk_append_mk]
              rfl
            · show _ ≤ _
              rw [ByteArray.size_append']
              have := HZ.out; have := HMs.out
              omega
            · exact fun j hj => HJ1.out j hj (by have := HL.out; omega)
          case measure => simp [intOf]; omega
      · obtain rfl : k = n := by omega
        have hps : Mk.parts t.data.toList = some (Ps.map tx) := by
          rw [HT.out]
          show Mk.parts (mks Ps k) = _
          have hfl : mks Ps k = ((Ps.map tx).map Mk.mk).flatten := by
            unfold mks
            rw [HN.out, List.take_length, List.map_map]
            rfl
          rw [hfl]
          refine Mk.parts_marks _ (fun p hp => ?_)
          obtain ⟨P, hP, rfl⟩ := List.mem_map.1 hp
          obtain ⟨j, hj, rfl⟩ := List.getElem_of_mem hP
          have h := HJ.out j (by have := HN.out; omega)
          rw [List.getD_eq_getElem?_getD, List.getElem?_eq_getElem hj] at h
          rw [tx_len]
          have h : Ps[j].length ≤ 300 := h
          omega
        have hPt := parts_any t wr (hG.on hb) (by have := HZ.out; omega)
        rw [hps] at hPt
        have HPt := Lib.hid hPt
        have hkn : ¬ (k : Int) < k := by omega
        clear hps hPt hkn
        go_wp2_with (go_at_call 20; refine HPt.out.mono ?_; rintro e w2 ⟨hb2, v, rfl, hown⟩; refine Hid.out ?_)
        refine Lib.hid ?_
        clear HPt
        have hown2 : w2.ownsRow wr.heap.size 9 1 v k ((Ps.map tx).map strV) := by
          have h := hown
          rw [List.length_map, ← HN.out] at h
          exact h
        obtain ⟨vo, vc, rfl, hvc⟩ := owns_str hown2
        clear hown hown2
        have HVC := Lib.hid hvc
        clear hvc
        have HBw := Lib.hid (hb.trans (hb2.mono hb.size))
        clear hb hb2
        go_wp2_with fail
        go_loopw [11] (fun v wr => ∃ (j : Nat), v = .int .i64 j ∧ j ≤ k ∧ Below w2.heap.size w2 wr)
          (fun v _ => k - (intOf v).toNat)
        case atStart => exact ⟨0, rfl, Nat.zero_le _, Below.refl _ _⟩
        case round =>
          obtain ⟨j, rfl, hj, hbr⟩ := hrel
          have HBr := Lib.hid (HBw.out.trans (hbr.mono HBw.out.size))
          by_cases hjk : j < k
          · obtain ⟨g, rfl, -, hgl, hcv⟩ := HVC.out j hjk
            obtain ⟨b, off, rfl, hbl, ao, cp, hcell, hby⟩ := (HR.out.on (HBr.out.mono (Nat.le_refl _))).at_ j (by have := HN.out; omega)
            have hcv2 : wr.cell? ⟨g, j, none⟩ = some (.string (strOfNums (Ps.getD j []))) := by
              rw [hbr.cell (p := ⟨g, j, none⟩) hgl, hcv]
              have hj2 : j < Ps.length := by have := HN.out; omega
              rw [List.getD_eq_getElem?_getD, List.getElem?_map, List.getElem?_eq_getElem hj2, List.getD_eq_getElem?_getD, List.getElem?_eq_getElem hj2]
              rfl
            have hconv : ∀ n, (convert 37 9 (.slice ao (Ps.getD j []).length cp)).run Tryd.prog (wr.drewN n) = .ok (.string (strOfNums (Ps.getD j []))) (wr.drewN n) := fun n => conv_bytes (hby.on (below_drewN _ _)) cp
            clear hcv hby
            generalize (strOfNums (Ps.getD j [])) = X at *
            generalize (Ps.getD j []).length = l at *
            have hj1 : (j : Int) < k := by omega
            go_wp2
            go_quiet (fail)
            go_wp2
            go_roundw
            case rel => exact ⟨j + 1, rfl, by omega, hbr.trans ((below_drewN wr nq).mono hbr.size)⟩
            case measure => simp [intOf]; omega
          · have hj1 : ¬ (j : Int) < k := by omega
            obtain ⟨M, hM⟩ : ∃ M : Nat, M = t.size + 1 := ⟨_, rfl⟩
            have hw : wrap64 ((t.size : Int) + 1) = (M : Int) := by have := HZ.out; unfold wrap64; omega
            have hM0 : ¬ ((M : Int) = 0) := by omega
            obtain ⟨q, hq, hqt⟩ : ∃ q : Nat, c % (M : Int) = (q : Int) ∧ q ≤ t.size := by
              have h1 := Int.emod_nonneg c (b := (M : Int)) (by omega)
              have h2 := Int.emod_lt_of_pos c (b := (M : Int)) (by omega)
              exact ⟨(c % M).toNat, by omega, by omega⟩
            clear hM
            go_wp2_with fail
            have hy : (t.extract 0 q).size ≤ t.size := by rw [ByteArray.size_extract]; omega
            have HY := Lib.hid hy
            clear hy
            generalize t.extract 0 q = y at *
            have HX : Hid (Below w.heap.size w (wr.alloc (.cells #[.string s, .string y] 9)) ∧ wr.heap.size < (wr.alloc (.cells #[.string s, .string y] 9)).heap.size ∧ (∀ j, j < 2 → (wr.alloc (.cells #[.string s, .string y] 9)).cell? ⟨wr.heap.size, j, none⟩ = some (.string (if j = 0 then s else y)))) := by
              refine ⟨HBr.out.alloc HBr.out.size _, by simp, fun j hj => ?_⟩
              rw [cell_of_row _ _ _ _ _ _ (heap_alloc_new wr _)]
              match j, hj with
              | 0, _ => rfl
              | 1, _ => rfl
            generalize wr.alloc (.cells #[.string s, .string y] 9) = w3 at *
            obtain ⟨B0, hB0⟩ : ∃ b, b = wr.heap.size := ⟨_, rfl⟩
            rw [← hB0] at HX ⊢
            have HZ2 := Lib.hid (show y.size ≤ 6420 by have := HY.out; have := HZ.out; omega)
            clear hB0 HY HZ HBr hbr hj1 hw hM0 hq hqt
            go_loopw [91] (fun v wr => ∃ (i : Nat), v = .int .i64 i ∧ i ≤ 2 ∧ Hid (Below w.heap.size w wr ∧ B0 < wr.heap.size ∧ (∀ j, j < 2 → wr.cell? ⟨B0, j, none⟩ = some (.string (if j = 0 then s else y)))))
              (fun v _ => 2 - (intOf v).toNat)
            case atStart => exact ⟨0, rfl, by omega, HX⟩
            case round =>
              obtain ⟨i, rfl, hi, HX⟩ := hrel
              by_cases hi2 : i < 2
              · have hcell := HX.out.2.2 i hi2
                have hxs : (if i = 0 then s else y).size ≤ 6420 := by have := HS2.out; have := HZ2.out; split <;> omega
                generalize (if i = 0 then s else y) = x at *
                have hPx := parts_any x wr (hG.on HX.out.1) (by omega)
                have hi3 : (i : Int) < 2 := by omega
                cases hpx : Mk.parts x.data.toList with
                | none =>
                  rw [hpx] at hPx
                  have HPx := Lib.hid hPx
                  clear hPx hpx
                  go_wp2_with (go_at_call 20; refine HPx.out.mono ?_; rintro e w4 ⟨hb4, rfl⟩)
                  refine wp_loop_rounds 1 ?_
                  rw [rounds_succ]
                  go_wp2
                  go_roundw
                  case rel =>
                    obtain ⟨h1, h2, h3⟩ := HX.out
                    exact ⟨i + 1, rfl, by omega, h1.trans (hb4.mono h1.size), Nat.lt_of_lt_of_le h2 hb4.size, fun j hj => (hb4.cell (p := ⟨B0, j, none⟩) h2).trans (h3 j hj)⟩
                  case measure => simp [intOf]; omega
                | some l =>
                  rw [hpx] at hPx
                  have HPx := Lib.hid hPx
                  have HL := Lib.hid hpx
                  clear hPx hpx
                  go_wp2_with (go_at_call 20; refine HPx.out.mono ?_; rintro e w4 ⟨hb4, v, rfl, hown⟩; refine Hid.out ?_)
                  refine Lib.hid ?_
                  clear HPx
                  obtain ⟨po, pc, rfl, hpc⟩ := owns_str hown
                  have HX4 : Hid (Below w.heap.size w w4 ∧ B0 < w4.heap.size ∧ (∀ j, j < 2 → w4.cell? ⟨B0, j, none⟩ = some (.string (if j = 0 then s else y)))) := by
                    obtain ⟨h1, h2, h3⟩ := HX.out
                    exact ⟨h1.trans (hb4.mono h1.size), Nat.lt_of_lt_of_le h2 hb4.size, fun j hj => (hb4.cell (p := ⟨B0, j, none⟩) h2).trans (h3 j hj)⟩
                  obtain ⟨N, hN⟩ : ∃ N, N = l.length := ⟨_, rfl⟩
                  rw [← hN] at hpc ⊢
                  have HPC := Lib.hid hpc
                  have hNb : N ≤ 6420 := by
                    have h8 := mkl_ge l l.length (Nat.le_refl _)
                    have h9 := congrArg List.length (mkl_all HL.out)
                    rw [← size_list] at h9
                    omega
                  have HN2 := Lib.hid hN
                  clear hown hpc HX hcell hb4 hN
                  go_wp2_with fail
                  go_loopw [16, 17] (fun b v wr => ∃ (a : Nat) (B : ByteArray), b = .string B ∧ v = .int .i64 a ∧ a ≤ N ∧ Hid (B = ⟨(mkl l a).toArray⟩) ∧ Below w4.heap.size w4 wr)
                    (fun _ v _ => N - (intOf v).toNat)
                  case atStart => exact ⟨0, ByteArray.empty, rfl, rfl, Nat.zero_le _, rfl, Below.refl _ _⟩
                  case round =>
                    obtain ⟨a, B, rfl, rfl, ha, HB2, hbr⟩ := hrel
                    by_cases haN : a < N
                    · obtain ⟨g, rfl, -, hgl, hcv⟩ := HPC.out a haN
                      have haN2 : (a : Int) < N := by omega
                      have HA1 : Hid (a + 1 ≤ N) := haN
                      have hcv2 := (hbr.cell (p := ⟨g, a, none⟩) hgl).trans hcv
                      have hs1 := mkl_succ l a (by have := HN2.out; omega)
                      have hs2 := mkl_le l (a + 1)
                      have hs3 := mkl_ge l (a + 1) (by have := HN2.out; omega)
                      have hwh := mkl_all HL.out
                      obtain ⟨p, hp⟩ : ∃ p : ByteArray, p = ⟨(l.getD a []).toArray⟩ := ⟨_, rfl⟩
                      have hpd : l.getD a [] = p.data.toList := by rw [hp]
                      rw [hpd] at hs1
                      have hcv3 : wr.cell? ⟨g, a, none⟩ = some (.string p) := by rw [hcv2, hp]; rfl
                      have hbt := Lib.bytesWorld_below wr 5 p
                      have hby := byt_new wr p
                      have hcs := Lib.run_convert_string_bytes (P := Tryd.prog) wr 9 37 5 p Tryd.underlying9 Tryd.underlying37 Tryd.underlying5
                      generalize Lib.bytesWorld wr 5 p = w5 at *
                      generalize grownCap wr p.size 0 5 = G at *
                      have hmk := mk_len2 p.data.toList
                      have hsz : B.size + (Mk.mk p.data.toList).length ≤ x.size := by
                        rw [HB2.out, size_list x, ← hwh, ← HN2.out]
                        show (mkl l a).toArray.size + _ ≤ _
                        rw [hs1] at hs2
                        rw [List.size_toArray]
                        rw [HN2.out]
                        simpa using hs2
                      have hp2 := Mk.mk_len p.data.toList
                      have hM := mark_any w5 (hG.on (HX4.out.1.trans ((hbr.mono HX4.out.1.size).trans (hbt.mono (Nat.le_trans HX4.out.1.size hbr.size))))) (some ⟨wr.heap.size, 0, none⟩) G (ints p) (by rw [ints_len]; rw [← size_list] at hp2; omega) hby
                      rw [ints_len, ints_str] at hM
                      obtain ⟨M, hMd⟩ : ∃ M : ByteArray, M = ⟨(Mk.mk p.data.toList).toArray⟩ := ⟨_, rfl⟩
                      rw [← hMd] at hM
                      have hMl : M.size = (Mk.mk p.data.toList).length := by rw [hMd]; rfl
                      have hadd : ∀ w, (Op.stringOp .add B M).run Tryd.prog w = .ok (.string (B ++ M)) w := fun w => run_string_add_sum w B M (by omega)
                      have HS1 := Lib.hid hs1
                      have HMd := Lib.hid hMd
                      have HBt := Lib.hid hbt
                      clear hs1 hs2 hs3 hwh hp hpd hcv hcv2 hmk hsz hp2 hMd hMl hby hbt
                      go_wp2_with (go_at_call 19; refine hM.mono ?_; rintro e w6 ⟨rfl, hb6⟩)
                      go_roundw
                      case rel =>
                        refine ⟨a + 1, B ++ M, rfl, rfl, HA1.out, ?_, (hbr.trans (HBt.out.mono hbr.size)).trans (hb6.mono (Nat.le_trans hbr.size HBt.out.size))⟩
                        show _ = _
                        rw [HB2.out, HMd.out, HS1.out, ByteArray.mk_append_mk]
                      case measure => exact meas a N HA1.out
                    · obtain rfl : a = N := by omega
                      obtain rfl : B = x := by
                        rw [HB2.out, HN2.out, mkl_all HL.out]
                      have haN2 : ¬ (a : Int) < a := by omega
                      go_wp2
                      go_roundw
                      case rel =>
                        obtain ⟨h1, h2, h3⟩ := HX4.out
                        exact ⟨i + 1, rfl, by omega, h1.trans (hbr.mono h1.size), Nat.lt_of_lt_of_le h2 hbr.size, fun j hj => (hbr.cell (p := ⟨B0, j, none⟩) h2).trans (h3 j hj)⟩
                      case measure => simp [intOf]; omega
              · have hi3 : ¬ (i : Int) < 2 := by omega
                go_wp2
                go_ret
                exact ⟨rfl, HX.out.1⟩
  · go_ret
    exact ⟨rfl, hb1.trans (hb2.mono hb1.size)⟩
end Go.Proofs.YtghaknienffmjaaDoor
