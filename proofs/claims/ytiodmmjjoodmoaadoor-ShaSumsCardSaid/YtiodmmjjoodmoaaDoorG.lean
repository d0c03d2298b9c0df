/- Layer 2, the walks: bytes are taken in where some are held, and a block fills. -/
import Derived.Test.YtiodmmjjoodmoaaDoorF
namespace Go.Proofs.YtiodmmjjoodmoaaDoor
open Go.RowKit

/-- What is left of bytes behind the first n. -/
theorem cut_at (a : Option Addr) (P : List Int) (cap n b off : Nat) (w : World) (g : Nat) (hn : n ≤ P.length) (hcap : P.length ≤ cap) (ha : a = some ⟨b, off, none⟩) (hAt : At w .u8 b off P) (hbw : b < w.heap.size) (hbg : b ≠ g) :
    ∃ (aq : Option Addr) (capq offq : Nat), (∀ w, (Instr.slice 22 (.slice a P.length cap) (some (.int .i64 (n : Int))) none none).run Tryd.prog w = .ok (.slice aq (P.drop n).length capq) w) ∧ (P.drop n).length ≤ capq ∧ (P.drop n = [] ∨ aq = some ⟨b, offq, none⟩ ∧ b < w.heap.size ∧ b ≠ g ∧ At w .u8 b offq (P.drop n)) := by
  have he : Tryd.prog.elem 22 = 5 := by kernel_rfl
  have hu : Tryd.prog.underlying 22 = some (.slice (Tryd.prog.elem 22)) := by rw [he]; exact Tryd.underlying22
  have hrun : ∀ w, (Instr.slice 22 (.slice a P.length cap) (some (.int .i64 (n : Int))) none none).run Tryd.prog w = .ok (sliced a n P.length cap 1) w := by
    intro w
    rw [run_slice_l w 22 a P.length cap hu .i64 (n : Int) (by omega) (by omega), he, Tryd.sizeOf5]
    simp only [Result.andThen_ok, Int.toNat_natCast]
  have hl : (P.drop n).length = P.length - n := List.length_drop
  by_cases hc : cap = n
  · refine ⟨a, cap - n, off, ?_, by omega, Or.inl (List.eq_nil_of_length_eq_zero (by omega))⟩
    intro w
    rw [hrun w, hl]
    simp [sliced, hc]
  · refine ⟨some ⟨b, off + n, none⟩, cap - n, off + n, ?_, by omega, Or.inr ⟨rfl, hbw, hbg, ?_⟩⟩
    · intro w
      rw [hrun w, hl]
      simp [sliced, hc, ha, Addr.add_mid]
    · have := hAt.sub n (P.length - n) (by omega)
      rwa [List.take_of_length_le (by omega)] at this

set_option maxRecDepth 100000 in
set_option maxHeartbeats 4000000 in
theorem take_full (g b off cap h n : Nat) (w : World) (s s1 : Sh.S) (r r1 P Q : List Int) (c : Int) (hs : s.ok) (hd : Dig w g s r h c) (h0 : 1 ≤ h) (h1 : h ≤ 63) (hn1 : h + n ≤ 64) (hn2 : 64 ≤ h + n) (hP : P.length ≤ 72057594037927936) (hnP : n ≤ P.length)
    (HQ : Hid (Q = P.drop n)) (HR1 : Hid (r1 = Go.splice r h (P.take n))) (HS1 : Hid (s1 = Sh.after KK s r1)) (hw8r : ∀ x ∈ r1, Sh.W8 x) (hw8 : ∀ x ∈ P, Sh.W8 x)
    (hcap : P.length ≤ cap) (hAt : At w .u8 b off P) (hbw : b < w.heap.size) (hbg : b ≠ g) (ht : Tab w) (hg : g ≠ 0) (hgs : g < w.heap.size) (hc0 : 0 ≤ c) (hc1 : c ≤ 72057594037927936) (c' : Int) (hcc : c + (P.length : Int) = c') :
    Calls Tryd.prog 22 #[.pointer (some ⟨g, 0, none⟩), .slice (some ⟨b, off, none⟩) P.length cap] w fun e w' => e = .returned (.tuple #[]) ∧ Tail g s1 r1 Q c' w w' := by
  have h72 := hd.held
  have h73 := hd.count
  have f73 := hd.free 73
  have hdw := hd.setCount c'
  have hon := Only.setCell (g := g) w 73 (.int .u64 c')
  have HD := Lib.hid hdw
  have HO := Lib.hid hon
  have hAn : At (w.setCell ⟨g, 73, none⟩ (.int .u64 c')) .u8 b off (P.take n) := by
    have := (hon.at hAt hbw hbg).sub 0 n (by omega)
    simpa using this
  have HS := Lib.hid (src_of_at hAn)
  have h72' := hdw.held
  have hroom := run_room g h (by omega)
  have hln : (P.take n).length = n := by simp; omega
  have hcop := hdw.copied h (P.take n) (by omega)
  have hlen : ((P.take n).map (Value.int .u8)).length = n := by rw [List.length_map, hln]
  have h74 := dg_length s r h c' hdw.1
  have HC := Lib.hid hcop
  have HL := Lib.hid hlen
  have H74 := Lib.hid h74
  have HAt := Lib.hid hAt
  have hsum : (h : Int) + (n : Int) = 64 := by omega
  have HW8 := Lib.hid hw8
  have HT := Lib.hid ht
  have HW8R := Lib.hid hw8r
  have HSO := Lib.hid hs
  clear hdw hon hAt hcop hlen h74 hAn hln hw8 ht hw8r hs
  go_enter Tryd.func22, Tryd.ntmps22
  go_wp2_with fail
  go_region_law (refine step_copy_own rfl (.tmp 27) (.tmp 28) 22 22 rfl 5 Tryd.underlying22 i5 g (8 + h) _ _ ⟨b, off, none⟩ _ _ rfl rfl (dg s r h c').toArray 48 ?_ ((P.take n).map (Value.int .u8)) ?_ ?_ ?_ ?_ ?_; exact HD.out.2; exact HL.out.trans (by show n = min _ _; omega); exact HS.out; exact (by rw [HL.out, List.size_toArray, H74.out]; omega); exact (fun v hv => by simp only [List.mem_map] at hv; obtain ⟨y, _, rfl⟩ := hv; rfl); rw [HL.out])
  generalize hw2 : World.setRow (w.setCell ⟨g, 73, none⟩ (.int .u64 c')).drew g _ = w2
  have hD2 : Dig w2 g s r1 (h : Int) c' := by
    rw [← hw2, HR1.out]
    exact ⟨HC.out.1, by have := HC.out.2; rw [HL.out, List.map_take] at this; exact this⟩
  have hO2 : Only g w w2 := by rw [← hw2]; exact HO.out.trans ((Only.setRow _ _).undrew)
  have hD3 := hD2.setHeld 64
  have h72b := hD2.held
  have f72 := hD2.free 72
  have h72c := hD3.held
  have HD3 := Lib.hid hD3
  have HO3 := Lib.hid (hO2.trans (Only.setCell w2 72 (.int .i64 64)))
  clear hw2 hD2 hO2 hD3 HC HO HD HS h72' hroom h72 h73 f73 HL H74 hd
  obtain ⟨aq, capq, offq, hq, hqc, hqa⟩ : ∃ (aq : Option Addr) (capq offq : Nat), (∀ w, (Instr.slice 22 (.slice (some ⟨b, off, none⟩) P.length cap) (some (.int .i64 (n : Int))) none none).run Tryd.prog w = .ok (.slice aq Q.length capq) w) ∧ Q.length ≤ capq ∧ (Q = [] ∨ aq = some ⟨b, offq, none⟩ ∧ b < w.heap.size ∧ b ≠ g ∧ At w .u8 b offq Q) := by
    have := cut_at (some ⟨b, off, none⟩) P cap n b off w g hnP hcap rfl HAt.out hbw hbg
    rw [← HQ.out] at this
    exact this
  have HA := Lib.hid hqa
  have HC := Lib.hid hqc
  clear hqa hqc HAt
  go_wp2_with fail
  clear h72b f72 h72c
  generalize hw3 : w2.setCell ⟨g, 72, none⟩ (.int .i64 64) = w3 at *
  clear hw3
  have hA1 : At w3 .u8 g 8 r1 := HD3.out.rest
  have hT1 : Tab w3 := HO3.out.tab HT.out hg
  have hsz := HO3.out.size
  have hr64 : r1.length = 64 := HD3.out.1
  obtain ⟨c0, c1, c2, c3, c4, c5, c6, c7⟩ := HD3.out.st
  have hgr : g < w3.heap.size := by omega
  have hafter := fun (cp : Nat) => after_any g 8 cp w3.drew s r1 HSO.out hr64 HW8R.out hA1 hgr hT1
  rw [← HS1.out] at hafter
  have HF := Lib.hid hafter
  clear hafter hA1 hT1 hr64
  have hs8 := st_size
  go_region_with ((go_at_call 28; refine (HF.out _).mono ?_; rintro e w1 ⟨rfl, hb1⟩; have hst := fun s' => run_store_st (s' := s') (HD3.out.other (hb1.block g hgr)); have HB1 := Lib.hid hb1; clear hb1))
  clear c0 c1 c2 c3 c4 c5 c6 c7 HF hs8
  have HD' : Hid (Dig (w1.setCells g 0 (stCells s1).toList) g s1 r1 64 c') := (HD3.out.other (HB1.out.block g hgr)).setState _
  have HO' : Hid (Only g w (w1.setCells g 0 (stCells s1).toList)) := (HO3.out.trans (Only.below HB1.out).undrew).trans (Only.setCells _ _ _)
  generalize w1.setCells g 0 (stCells s1).toList = wo at *
  have hs1 : s1.ok := by rw [HS1.out]; exact Sh.plus_ok _ _
  have hw8q : ∀ x ∈ Q, Sh.W8 x := by rw [HQ.out]; exact fun x hx => HW8.out x (List.mem_of_mem_drop hx)
  have hQ : Q.length ≤ 72057594037927936 := by rw [HQ.out]; simp; omega
  have ht := HT.out
  clear HD3 HO3 hsz hgr HB1 HQ HR1 HS1 HW8 HT HW8R HSO hsum hP hnP hn1 hn2
  go_wp2_with fail
  go_loopw [1] (fun v wr => ∃ (k : Nat) (a : Option Addr) (capq : Nat), 64 * k ≤ Q.length ∧ v = .slice a (Q.length - 64 * k) capq ∧ Q.length - 64 * k ≤ capq ∧ (Q.length ≤ 64 * k ∨ a = some ⟨b, offq + 64 * k, none⟩) ∧ Hid (Dig wr g (Sh.blocks k s1 Q) r1 64 c') ∧ Hid (Only g w wr)) (fun v _ => match v with | .slice _ n _ => n | _ => 0)
  case atStart =>
    have h0 : Q.length ≤ 64 * 0 ∨ aq = some ⟨b, offq + 64 * 0, none⟩ := by
      rcases HA.out with h | h
      · exact Or.inl (by simp [h])
      · exact Or.inr h.1
    exact ⟨0, aq, capq, by omega, rfl, HC.out, h0, HD', HO'⟩
  case round =>
    obtain ⟨k, a1, cap1, hk, rfl, hk2, hk3, D, O⟩ := hrel
    by_cases hlt : 64 ≤ Q.length - 64 * k
    · obtain ⟨-, hbw, hbg, hAt⟩ : aq = some ⟨b, offq, none⟩ ∧ b < w.heap.size ∧ b ≠ g ∧ At w .u8 b offq Q := by
        rcases HA.out with h | h
        · rw [h] at hlt; simp at hlt
        · exact h
      obtain rfl : a1 = some ⟨b, offq + 64 * k, none⟩ := by
        rcases hk3 with h | h
        · omega
        · exact h
      have hA1 : At wr .u8 b (offq + 64 * k) ((Q.drop (64 * k)).take 64) := (O.out.at hAt hbw hbg).sub (64 * k) 64 (by omega)
      have hT1 : Tab wr := O.out.tab ht hg
      have hok := Sh.blocks_ok k s1 Q hs1
      have hsz := O.out.size
      obtain ⟨c0, c1, c2, c3, c4, c5, c6, c7⟩ := D.out.st
      have hb8 := sub_bytes hw8q (64 * k) 64
      have hl64 : ((Q.drop (64 * k)).take 64).length = 64 := by simp; omega
      have hafter := fun (cp : Nat) => after_any b (offq + 64 * k) cp wr.drew (Sh.blocks k s1 Q) ((Q.drop (64 * k)).take 64) hok hl64 hb8 hA1 (show b < wr.heap.size by omega) hT1
      have HF := Lib.hid hafter
      have hgr : g < wr.heap.size := by omega
      clear hafter hA1 hb8 hl64 hAt hk3 hok hT1 ht HA HC
      have hst1 : Sh.blocks (k + 1) s1 Q = Sh.after KK (Sh.blocks k s1 Q) ((Q.drop (64 * k)).take 64) := rfl
      have HST := Lib.hid hst1
      clear hst1
      generalize Sh.blocks k s1 Q = st at *
      clear hw8q hs1
      have hs8 := st_size
      go_wp2_with fail
      go_region_with ((go_at_call 28; refine (HF.out _).mono ?_; rintro e w1 ⟨rfl, hb1⟩; have hst := fun s' => run_store_st (s' := s') (D.out.other (hb1.block g hgr)); have HB1 := Lib.hid hb1; clear hb1))
      all_goals
        clear c0 c1 c2 c3 c4 c5 c6 c7 HF hs8
        have hfin : Hid (Dig (w1.setCells g 0 (stCells (Sh.after KK st ((Q.drop (64 * k)).take 64))).toList) g (Sh.after KK st ((Q.drop (64 * k)).take 64)) r1 64 c' ∧ Only g w (w1.setCells g 0 (stCells (Sh.after KK st ((Q.drop (64 * k)).take 64))).toList)) :=
          ⟨(D.out.other (HB1.out.block g hgr)).setState _, (O.out.trans (Only.below HB1.out).undrew).trans (Only.setCells _ _ _)⟩
        clear D O HB1
        generalize w1.setCells g 0 (stCells (Sh.after KK st ((Q.drop (64 * k)).take 64))).toList = w2 at *
        by_cases hc64 : cap1 = 64
        · subst hc64
          go_wp2
          go_roundw
          case rel => exact ⟨k + 1, _, _, by omega, by rw [show Q.length - 64 * (k + 1) = 0 by omega], by omega, Or.inl (by omega), by rw [← HST.out] at hfin; exact hfin.out.1, hfin.out.2⟩
          case measure => simp; omega
        · go_wp2
          go_roundw
          case rel => exact ⟨k + 1, _, _, by omega, by rw [show Q.length - 64 * (k + 1) = Q.length - 64 * k - 64 by omega], by omega, Or.inr (by rw [show offq + 64 * (k + 1) = offq + 64 * k + 64 by omega]), by rw [← HST.out] at hfin; exact hfin.out.1, hfin.out.2⟩
          case measure => simp; omega
    · obtain ⟨m, hm⟩ : ∃ m, m = Q.length - 64 * k := ⟨_, rfl⟩
      have hk1 : k = Q.length / 64 := by omega
      have hm1 : m = Q.length % 64 := by omega
      have hql : (Q.drop (64 * k)).length = m := by simp; omega
      by_cases hm0 : m = 0
      · have hfin : Hid (Tail g s1 r1 Q c' w (wr.setCell ⟨g, 72, none⟩ (.int .i64 0))) := by
          refine ⟨?_, O.out.trans (Only.setCell _ _ _)⟩
          have := D.out.setHeld 0
          rw [← hk1, ← hm1, hm0, List.eq_nil_of_length_eq_zero (hql.trans hm0)]
          simpa [Go.splice] using this
        have h72 := D.out.held
        have f72 := D.out.free 72
        have hz : Q.length - 64 * k = 0 := by omega
        clear HA HC HD' HO' D O ht hm hk1 hm1 hql hm0
        have hlt' : Q.length - 64 * k < 64 := by omega
        clear hlt
        go_wp2_with ((with_reducible refine wpList_copy_nothing (o := ⟨some 79, _, _, _, _, _⟩) rfl (.tmp 77) (.tmp 78) 22 22 rfl 5 Tryd.underlying22 ?_ _ _ _ _ _ _ rfl rfl ?_ ?_); exact i5; exact (by rw [hz]; rfl))
        go_end0
        exact ⟨rfl, hfin.out⟩
      · obtain ⟨-, hbw, hbg, hAt⟩ : aq = some ⟨b, offq, none⟩ ∧ b < w.heap.size ∧ b ≠ g ∧ At w .u8 b offq Q := by
          rcases HA.out with h | h
          · rw [h] at hm; simp at hm; omega
          · exact h
        obtain rfl : a1 = some ⟨b, offq + 64 * k, none⟩ := by
          rcases hk3 with h | h
          · omega
          · exact h
        have hA1 : At wr .u8 b (offq + 64 * k) (Q.drop (64 * k)) := by
          have := (O.out.at hAt hbw hbg).sub (64 * k) m (by omega)
          rwa [List.take_of_length_le (by omega)] at this
        have hcop := D.out.copied 0 (Q.drop (64 * k)) (by omega)
        obtain ⟨w2, hw2⟩ : ∃ w2, w2 = wr.setRow g ((dg (Sh.blocks k s1 Q) r1 64 c').toArray.toList.take (8 + 0) ++ ((Q.drop (64 * k)).map (Value.int .u8) ++ (dg (Sh.blocks k s1 Q) r1 64 c').toArray.toList.drop (8 + 0 + ((Q.drop (64 * k)).map (Value.int .u8)).length))).toArray := ⟨_, rfl⟩
        have hD2 : Dig w2 g (Sh.blocks k s1 Q) (Go.splice r1 0 (Q.drop (64 * k))) 64 c' := by rw [hw2]; exact hcop
        have hO2 : Only g w w2 := by rw [hw2]; exact O.out.trans (Only.setRow _ _)
        have hfin : Hid (Tail g s1 r1 Q c' w (w2.setCell ⟨g, 72, none⟩ (.int .i64 (m : Int)))) := by
          refine ⟨?_, hO2.trans (Only.setCell _ _ _)⟩
          have := hD2.setHeld (m : Int)
          rw [← hk1, ← hm1]
          exact this
        have h72 := hD2.held
        have f72 := hD2.free 72
        have hsrc : ∀ (j : Nat) (v : Value), ((Q.drop (64 * k)).map (Value.int .u8))[j]? = some v → wr.cell? ((⟨b, offq + 64 * k, none⟩ : Addr).add j) = some v := by
          intro j v hj
          rw [Addr.add_mid]
          rw [List.getElem?_map] at hj
          cases hq : (Q.drop (64 * k))[j]? with
          | none => rw [hq] at hj; cases hj
          | some x =>
            rw [hq] at hj
            cases hj
            have hjl := (List.getElem?_eq_some_iff.1 hq).1
            rw [hA1 j hjl]
            simp only [List.getD_eq_getElem?_getD, hq, Option.getD_some]
        have hlen : ((Q.drop (64 * k)).map (Value.int .u8)).length = m := by rw [List.length_map, hql]
        have hDp := D.out.2
        have HW := Lib.hid hw2
        have HL := Lib.hid hlen
        have hd74 := dg_length (Sh.blocks k s1 Q) r1 64 c' D.out.1
        have H74 := Lib.hid hd74
        have hmm : Q.length - 64 * k = m := hm.symm
        rw [hmm]
        have hm64 : m < 64 := by omega
        have hmc : m ≤ cap1 := by omega
        have HS := Lib.hid hsrc
        have HP := Lib.hid hDp
        clear HA HC HD' HO' D O ht hm hk1 hm1 hql hA1 hcop hw2 hD2 hO2 hlen hsrc hk2 hk3 hlt hmm hk hm0 hd74 hDp
        go_wp2_with ((with_reducible refine wpList_copy_own (o := ⟨some 79, _, _, _, _, _⟩) rfl (.tmp 77) (.tmp 78) 22 22 rfl 5 Tryd.underlying22 ?_ g 8 _ _ ⟨b, offq + 64 * k, none⟩ _ _ rfl rfl (dg (Sh.blocks k s1 Q) r1 64 c').toArray 48 HP.out ((Q.drop (64 * k)).map (Value.int .u8)) ?_ ?_ ?_ ?_ ?_); exact i5; exact HL.out.trans (Nat.min_eq_left (Nat.le_of_lt hm64)).symm; exact HS.out; exact (by rw [HL.out, List.size_toArray, H74.out]; omega); exact (fun v hv => by simp only [List.mem_map] at hv; obtain ⟨y, _, rfl⟩ := hv; rfl); rw [HL.out]; generalize hwx : World.setRow wr g _ = wx; obtain rfl : w2 = wx := (HW.out.trans (by rw [HL.out])).trans hwx; clear hwx HW)
        go_end0
        exact ⟨rfl, hfin.out⟩
end Go.Proofs.YtiodmmjjoodmoaaDoor
