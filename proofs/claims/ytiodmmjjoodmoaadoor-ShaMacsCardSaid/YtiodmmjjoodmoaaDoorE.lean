/- Layer 2, the walks: bytes are taken in, block by block. -/
import Derived.Test.YtiodmmjjoodmoaaDoorD
namespace Go.Proofs.YtiodmmjjoodmoaaDoor
open Go.RowKit

theorem sub_bytes {P : List Int} (h : ∀ x ∈ P, Sh.W8 x) (n m : Nat) : ∀ x ∈ (P.drop n).take m, Sh.W8 x := fun x hx => h x (List.mem_of_mem_drop (List.mem_of_mem_take hx))
theorem At.sub {w : World} {k : IntKind} {b off : Nat} {P : List Int} (h : At w k b off P) (n m : Nat) (hm : n + m ≤ P.length) : At w k b (off + n) ((P.drop n).take m) := by
  intro j hj
  simp only [List.length_take, List.length_drop] at hj
  have := h (n + j) (by omega)
  rw [Nat.add_assoc, this]
  simp [show j < m by omega]
theorem st_one (s : Sh.S) : (stCells s).all (·.oneCell') = true := by simp [stCells, Value.oneCell']
theorem st_size (s : Sh.S) : (stCells s).size = 8 := rfl
/-- A state is laid into a digest. -/
theorem run_store_st {w : World} {g : Nat} {s s' : Sh.S} {r : List Int} {h c : Int} (hd : Dig w g s r h c) :
    (storeCells ⟨g, 0, none⟩ (stCells s').toList).run Tryd.prog w = .ok () (w.setCells g 0 (stCells s').toList) := by
  have ht := hd.there
  have := run_storeCells_cells (P := Tryd.prog) g 0 (stCells s').toList 0 w (fun j hj => by simpa using (ht j (by simpa [stCells] using hj)).1) (fun j hj => by simpa using (ht j (by simpa [stCells] using hj)).2) (fun v hv => (Array.all_eq_true_iff_forall_mem.1 (st_one s')) v (by simpa using hv))
  simpa using this
theorem i5 : (Tryd.prog.info? 5).map (·.size) = some 1 := by kernel_rfl
theorem h8 : (Tryd.prog.info? 44).map (·.size) = some 8 := by kernel_rfl

/-- What is left behind whole blocks of P, taken in by a digest in state s with nothing held. -/
def Tail (g : Nat) (s : Sh.S) (r P : List Int) (c : Int) (w w' : World) : Prop :=
  Dig w' g (Sh.blocks (P.length / 64) s P) (Go.splice r 0 (P.drop (64 * (P.length / 64)))) ((P.length % 64 : Nat) : Int) c ∧ Only g w w'

theorem Only.setRow {g : Nat} (w : World) (cs : Array Value) : Only g w (w.setRow g cs) :=
  ⟨rfl, rfl, rfl, by simp, fun k _ hn => setRow_other w g k cs (fun e => hn (by rw [e]))⟩

/-- Bytes are copied to the head of the room. -/
theorem Dig.copied {w : World} {g : Nat} {s : Sh.S} {r : List Int} {h c : Int} (hd : Dig w g s r h c) (o : Nat) (x : List Int) (hx : o + x.length ≤ 64) :
    Dig (w.setRow g ((dg s r h c).toArray.toList.take (8 + o) ++ (x.map (Value.int .u8) ++ (dg s r h c).toArray.toList.drop (8 + o + (x.map (Value.int .u8)).length))).toArray) g s (Go.splice r o x) h c :=
  hd.spliced o x hx _ (setRow_heap w g _ _ 48 _ hd.2)

set_option maxRecDepth 100000 in
set_option maxHeartbeats 2000000 in
theorem take_loop_probe (g b off cap : Nat) (w : World) (s : Sh.S) (r P : List Int) (c : Int) (hs : s.ok) (hd : Dig w g s r 0 c) (hP : P.length ≤ 72057594037927936) (hw8 : ∀ x ∈ P, Sh.W8 x) (a : Option Addr) (hcap : P.length ≤ cap) (ha : P = [] ∨ a = some ⟨b, off, none⟩ ∧ b < w.heap.size ∧ b ≠ g ∧ At w .u8 b off P) (ht : Tab w) (hg : g ≠ 0) (hgs : g < w.heap.size)
    (hc0 : 0 ≤ c) (hc1 : c ≤ 72057594037927936) (c' : Int) (hcc : c + (P.length : Int) = c') :
    Calls Tryd.prog 22 #[.pointer (some ⟨g, 0, none⟩), .slice a P.length cap] w fun e w' => e = .returned (.tuple #[]) ∧ Tail g s r P c' w w' := by
  have h72 := hd.held
  have h73 := hd.count
  have f73 := hd.free 73
  have hdw := hd.setCount c'
  have hon := Only.setCell (g := g) w 73 (.int .u64 c')
  have HD := Lib.hid hdw
  have HO := Lib.hid hon
  have HC := Lib.hid hcap
  have HA := Lib.hid ha
  clear hdw hon hd ha
  go_enter Tryd.func22, Tryd.ntmps22
  go_wp2_with fail
  clear h72 h73 f73
  clear hcc
  generalize hwo : w.setCell ⟨g, 73, none⟩ (.int .u64 c') = wo
  have HD' : Hid (Dig wo g s r 0 c') := by rw [← hwo]; exact HD
  have HO' : Hid (Only g w wo) := by rw [← hwo]; exact HO
  clear hwo HD HO
  go_loopw [1] (fun v wr => ∃ (k : Nat) (a : Option Addr) (cap : Nat), 64 * k ≤ P.length ∧ v = .slice a (P.length - 64 * k) cap ∧ P.length - 64 * k ≤ cap ∧ (P.length ≤ 64 * k ∨ a = some ⟨b, off + 64 * k, none⟩) ∧ Hid (Dig wr g (Sh.blocks k s P) r 0 c') ∧ Hid (Only g w wr)) (fun v _ => match v with | .slice _ n _ => n | _ => 0)
  case atStart =>
    have h0 : P.length ≤ 64 * 0 ∨ a = some ⟨b, off + 64 * 0, none⟩ := by
      rcases HA.out with h | h
      · exact Or.inl (by simp [h])
      · exact Or.inr h.1
    exact ⟨0, a, cap, by omega, rfl, HC.out, h0, HD', HO'⟩
  case round =>
    obtain ⟨k, a1, cap1, hk, rfl, hk2, hk3, D, O⟩ := hrel
    by_cases hlt : 64 ≤ P.length - 64 * k
    · obtain ⟨-, hbw, hbg, hAt⟩ : a = some ⟨b, off, none⟩ ∧ b < w.heap.size ∧ b ≠ g ∧ At w .u8 b off P := by
        rcases HA.out with h | h
        · rw [h] at hlt; simp at hlt
        · exact h
      obtain rfl : a1 = some ⟨b, off + 64 * k, none⟩ := by
        rcases hk3 with h | h
        · omega
        · exact h
      have hA1 : At wr .u8 b (off + 64 * k) ((P.drop (64 * k)).take 64) := (O.out.at hAt hbw hbg).sub (64 * k) 64 (by omega)
      have hT1 : Tab wr := O.out.tab ht hg
      have hok := Sh.blocks_ok k s P hs
      have hsz := O.out.size
      obtain ⟨c0, c1, c2, c3, c4, c5, c6, c7⟩ := D.out.st
      have hb8 := sub_bytes hw8 (64 * k) 64
      have hl64 : ((P.drop (64 * k)).take 64).length = 64 := by simp; omega
      have hafter := fun (cp : Nat) => after_any b (off + 64 * k) cp wr.drew (Sh.blocks k s P) ((P.drop (64 * k)).take 64) hok hl64 hb8 hA1 (show b < wr.heap.size by omega) hT1
      have HF := Lib.hid hafter
      have hgr : g < wr.heap.size := by omega
      clear hafter hA1 hb8 hl64 hAt hk3 hok hT1 ht HA HC
      have hst1 : Sh.blocks (k + 1) s P = Sh.after KK (Sh.blocks k s P) ((P.drop (64 * k)).take 64) := rfl
      have HST := Lib.hid hst1
      clear hst1
      generalize Sh.blocks k s P = st at *
      clear hw8 hs
      have hs8 := st_size
      go_wp2_with fail
      go_region_with ((go_at_call 28; refine (HF.out _).mono ?_; rintro e w1 ⟨rfl, hb1⟩; have hst := fun s' => run_store_st (s' := s') (D.out.other (hb1.block g hgr)); have HB1 := Lib.hid hb1; clear hb1))
      all_goals
        clear c0 c1 c2 c3 c4 c5 c6 c7 HF hs8
        have hfin : Hid (Dig (w1.setCells g 0 (stCells (Sh.after KK st ((P.drop (64 * k)).take 64))).toList) g (Sh.after KK st ((P.drop (64 * k)).take 64)) r 0 c' ∧ Only g w (w1.setCells g 0 (stCells (Sh.after KK st ((P.drop (64 * k)).take 64))).toList)) :=
          ⟨(D.out.other (HB1.out.block g hgr)).setState _, (O.out.trans (Only.below HB1.out).undrew).trans (Only.setCells _ _ _)⟩
        clear D O HB1
        generalize w1.setCells g 0 (stCells (Sh.after KK st ((P.drop (64 * k)).take 64))).toList = w2 at *
        by_cases hc64 : cap1 = 64
        · subst hc64
          go_wp2
          go_roundw
          case rel => exact ⟨k + 1, _, _, by omega, by rw [show P.length - 64 * (k + 1) = 0 by omega], by omega, Or.inl (by omega), by rw [← HST.out] at hfin; exact hfin.out.1, hfin.out.2⟩
          case measure => simp; omega
        · go_wp2
          go_roundw
          case rel => exact ⟨k + 1, _, _, by omega, by rw [show P.length - 64 * (k + 1) = P.length - 64 * k - 64 by omega], by omega, Or.inr (by rw [show off + 64 * (k + 1) = off + 64 * k + 64 by omega]), by rw [← HST.out] at hfin; exact hfin.out.1, hfin.out.2⟩
          case measure => simp; omega
    · obtain ⟨m, hm⟩ : ∃ m, m = P.length - 64 * k := ⟨_, rfl⟩
      have hk1 : k = P.length / 64 := by omega
      have hm1 : m = P.length % 64 := by omega
      have hql : (P.drop (64 * k)).length = m := by simp; omega
      by_cases hm0 : m = 0
      · have hfin : Hid (Tail g s r P c' w (wr.setCell ⟨g, 72, none⟩ (.int .i64 0))) := by
          refine ⟨?_, O.out.trans (Only.setCell _ _ _)⟩
          have := D.out.setHeld 0
          rw [← hk1, ← hm1, hm0, List.eq_nil_of_length_eq_zero (hql.trans hm0)]
          simpa [Go.splice] using this
        have h72 := D.out.held
        have f72 := D.out.free 72
        have hz : P.length - 64 * k = 0 := by omega
        clear HA HC HD' HO' D O ht hm hk1 hm1 hql hm0
        have hlt' : P.length - 64 * k < 64 := by omega
        clear hlt
        go_wp2_with ((with_reducible refine wpList_copy_nothing (o := ⟨some 79, _, _, _, _, _⟩) rfl (.tmp 77) (.tmp 78) 22 22 rfl 5 Tryd.underlying22 ?_ _ _ _ _ _ _ rfl rfl ?_ ?_); exact i5; exact (by rw [hz]; rfl))
        go_end0
        exact ⟨rfl, hfin.out⟩
      · obtain ⟨-, hbw, hbg, hAt⟩ : a = some ⟨b, off, none⟩ ∧ b < w.heap.size ∧ b ≠ g ∧ At w .u8 b off P := by
          rcases HA.out with h | h
          · rw [h] at hm; simp at hm; omega
          · exact h
        obtain rfl : a1 = some ⟨b, off + 64 * k, none⟩ := by
          rcases hk3 with h | h
          · omega
          · exact h
        have hA1 : At wr .u8 b (off + 64 * k) (P.drop (64 * k)) := by
          have := (O.out.at hAt hbw hbg).sub (64 * k) m (by omega)
          rwa [List.take_of_length_le (by omega)] at this
        have hcop := D.out.copied 0 (P.drop (64 * k)) (by omega)
        obtain ⟨w2, hw2⟩ : ∃ w2, w2 = wr.setRow g ((dg (Sh.blocks k s P) r 0 c').toArray.toList.take (8 + 0) ++ ((P.drop (64 * k)).map (Value.int .u8) ++ (dg (Sh.blocks k s P) r 0 c').toArray.toList.drop (8 + 0 + ((P.drop (64 * k)).map (Value.int .u8)).length))).toArray := ⟨_, rfl⟩
        have hD2 : Dig w2 g (Sh.blocks k s P) (Go.splice r 0 (P.drop (64 * k))) 0 c' := by rw [hw2]; exact hcop
        have hO2 : Only g w w2 := by rw [hw2]; exact O.out.trans (Only.setRow _ _)
        have hfin : Hid (Tail g s r P c' w (w2.setCell ⟨g, 72, none⟩ (.int .i64 (m : Int)))) := by
          refine ⟨?_, hO2.trans (Only.setCell _ _ _)⟩
          have := hD2.setHeld (m : Int)
          rw [← hk1, ← hm1]
          exact this
        have h72 := hD2.held
        have f72 := hD2.free 72
        have hsrc : ∀ (j : Nat) (v : Value), ((P.drop (64 * k)).map (Value.int .u8))[j]? = some v → wr.cell? ((⟨b, off + 64 * k, none⟩ : Addr).add j) = some v := by
          intro j v hj
          rw [Addr.add_mid]
          rw [List.getElem?_map] at hj
          cases hq : (P.drop (64 * k))[j]? with
          | none => rw [hq] at hj; cases hj
          | some x =>
            rw [hq] at hj
            cases hj
            have hjl := (List.getElem?_eq_some_iff.1 hq).1
            rw [hA1 j hjl]
            simp only [List.getD_eq_getElem?_getD, hq, Option.getD_some]
        have hlen : ((P.drop (64 * k)).map (Value.int .u8)).length = m := by rw [List.length_map, hql]
        have hDp := D.out.2
        have HW := Lib.hid hw2
        have HL := Lib.hid hlen
        have hd74 := dg_length (Sh.blocks k s P) r 0 c' D.out.1
        have H74 := Lib.hid hd74
        have hmm : P.length - 64 * k = m := hm.symm
        rw [hmm]
        have hm64 : m < 64 := by omega
        have hmc : m ≤ cap1 := by omega
        have HS := Lib.hid hsrc
        have HP := Lib.hid hDp
        clear HA HC HD' HO' D O ht hm hk1 hm1 hql hA1 hcop hw2 hD2 hO2 hlen hsrc hk2 hk3 hlt hmm hk hm0 hd74 hDp
        go_wp2_with ((with_reducible refine wpList_copy_own (o := ⟨some 79, _, _, _, _, _⟩) rfl (.tmp 77) (.tmp 78) 22 22 rfl 5 Tryd.underlying22 ?_ g 8 _ _ ⟨b, off + 64 * k, none⟩ _ _ rfl rfl (dg (Sh.blocks k s P) r 0 c').toArray 48 HP.out ((P.drop (64 * k)).map (Value.int .u8)) ?_ ?_ ?_ ?_ ?_); exact i5; exact HL.out.trans (Nat.min_eq_left (Nat.le_of_lt hm64)).symm; exact HS.out; exact (by rw [HL.out, List.size_toArray, H74.out]; omega); exact (fun v hv => by simp only [List.mem_map] at hv; obtain ⟨y, _, rfl⟩ := hv; rfl); rw [HL.out]; generalize hwx : World.setRow wr g _ = wx; obtain rfl : w2 = wx := (HW.out.trans (by rw [HL.out])).trans hwx; clear hwx HW)
        go_end0
        exact ⟨rfl, hfin.out⟩
end Go.Proofs.YtiodmmjjoodmoaaDoor
