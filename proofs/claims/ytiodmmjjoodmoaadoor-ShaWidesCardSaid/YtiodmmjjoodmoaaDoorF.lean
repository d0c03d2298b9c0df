/- Layer 2, the walks: bytes are taken in where some are held. -/
import Derived.Test.YtiodmmjjoodmoaaDoorE
namespace Go.Proofs.YtiodmmjjoodmoaaDoor
open Go.RowKit

/-- 'copy' into a row that is known whole, as one step of a region that draws its order. -/
theorem step_copy_own {P : Program} {ops : Array Oper} {o : Oper} {a : Act} {w : World} {K : Act → World → Prop} {Q : Exit → Act → World → Prop} {E : Prop} (hgd : o.guard = none) (d s : Operand) (dT sT : TypeId)
    (ho : o.op = .call { callee := .builtin .copy, args := #[d, s], argTypes := #[dT, sT] }) (elem : TypeId) (hu : P.underlying dT = some (.slice elem)) (hsz : (P.info? elem).map (·.size) = some 1)
    (g off dLen dCap : Nat) (ad : Addr) (sLen sCap : Nat) (hd : a.eval d = .slice (some ⟨g, off, none⟩) dLen dCap) (hs : a.eval s = .slice (some ad) sLen sCap)
    (cur : Array Value) (t : TypeId) (hg : w.heap[g]? = some (.cells cur t (0, 0))) (cs : List Value) (hn : cs.length = Nat.min sLen dLen)
    (hsrc : ∀ j v, cs[j]? = some v → w.cell? (ad.add j) = some v) (hfit : off + cs.length ≤ cur.size) (h1 : ∀ v ∈ cs, v.oneCell' = true)
    (h : K (a.put o.dst (goInt cs.length)) (w.setRow g (cur.toList.take off ++ (cs ++ cur.toList.drop (off + cs.length))).toArray)) :
    if Region.wanted o (yielded ops a.tmps) = true then Oper.wp P o a w K Q else E := by
  have hw : Region.wanted o (yielded ops a.tmps) = true := by simp [Region.wanted, hgd]
  rw [if_pos hw]
  have hrun := run_copy_row (P := P) w dT sT o.type elem g off dLen dCap ad sLen sCap cur t cs hu hsz hg hn hsrc hfit h1
  unfold Oper.wp
  simp [execOp, ho, resolve, invoke, builtin, hd, hs, hrun, Result.andThen]
  exact h

theorem src_of_at {w : World} {b off : Nat} {P : List Int} (h : At w .u8 b off P) : ∀ (j : Nat) (v : Value), (P.map (Value.int .u8))[j]? = some v → w.cell? ((⟨b, off, none⟩ : Addr).add j) = some v := by
  intro j v hj
  rw [Addr.add_mid]
  rw [List.getElem?_map] at hj
  cases hq : P[j]? with
  | none => rw [hq] at hj; cases hj
  | some x =>
    rw [hq] at hj
    cases hj
    have hjl := (List.getElem?_eq_some_iff.1 hq).1
    rw [h j hjl]
    simp only [List.getD_eq_getElem?_getD, hq, Option.getD_some]

/-- The room behind what is held. -/
theorem run_room (g h : Nat) (hh : h < 64) (w : World) : (Instr.sliceAt 46 (.pointer (some ⟨g, 8, none⟩)) (some (.int .i64 (h : Int))) none none).run Tryd.prog w = .ok (.slice (some ⟨g, 8 + h, none⟩) (64 - h) (64 - h)) w := by
  have hl : Tryd.prog.arrayLen 46 = 64 := by kernel_rfl
  have he : Tryd.prog.elem 46 = 5 := by kernel_rfl
  have hu : Tryd.prog.underlying 46 = some (.array (Tryd.prog.arrayLen 46) (Tryd.prog.elem 46)) := by rw [hl, he]; exact Tryd.underlying46
  rw [run_sliceAt_array_l w 46 ⟨g, 8, none⟩ hu .i64 (h : Int) (by omega) (by rw [hl]; omega), he, Tryd.sizeOf5, hl]
  simp only [Result.andThen_ok, Int.toNat_natCast, slicedAt, Nat.mul_one, Addr.add_mid]
  rw [if_neg (by omega)]

set_option maxRecDepth 100000 in
set_option maxHeartbeats 2000000 in
theorem take_some (g b off cap h : Nat) (w : World) (s : Sh.S) (r P : List Int) (c : Int) (hd : Dig w g s r h c) (h0 : 1 ≤ h) (h1 : h ≤ 63) (hP : P.length ≤ 72057594037927936) (hP0 : P ≠ []) (hsh : h + P.length < 64) (hcap : P.length ≤ cap) (hAt : At w .u8 b off P) (hbw : b < w.heap.size) (hbg : b ≠ g)
    (hc0 : 0 ≤ c) (hc1 : c ≤ 72057594037927936) (c' : Int) (hcc : c + (P.length : Int) = c') :
    Calls Tryd.prog 22 #[.pointer (some ⟨g, 0, none⟩), .slice (some ⟨b, off, none⟩) P.length cap] w fun e w' => e = .returned (.tuple #[]) ∧ Dig w' g s (Go.splice r h P) ((h + P.length : Nat) : Int) c' ∧ Only g w w' := by
  have h72 := hd.held
  have h73 := hd.count
  have f73 := hd.free 73
  have hdw := hd.setCount c'
  have hon := Only.setCell (g := g) w 73 (.int .u64 c')
  have hl0 : 0 < P.length := List.length_pos_iff.2 hP0
  have HD := Lib.hid hdw
  have HO := Lib.hid hon
  have HS := Lib.hid (src_of_at (hon.at hAt hbw hbg))
  have h72' := hdw.held
  have hroom := run_room g h (by omega)
  have hcop := hdw.copied h P (by omega)
  have hlen : (P.map (Value.int .u8)).length = P.length := List.length_map _
  have h74 := dg_length s r h c' hdw.1
  have HC := Lib.hid hcop
  have HL := Lib.hid hlen
  have H74 := Lib.hid h74
  clear hdw hon hAt hcop hlen h74
  go_enter Tryd.func22, Tryd.ntmps22
  go_wp2_with fail
  go_region_law (refine step_copy_own rfl (.tmp 27) (.tmp 28) 22 22 rfl 5 Tryd.underlying22 i5 g (8 + h) _ _ ⟨b, off, none⟩ _ _ rfl rfl (dg s r h c').toArray 48 ?_ (P.map (Value.int .u8)) ?_ ?_ ?_ ?_ ?_; exact HD.out.2; exact HL.out.trans (Nat.min_eq_left (by omega)).symm; exact HS.out; exact (by rw [HL.out, List.size_toArray, H74.out]; omega); exact (fun v hv => by simp only [List.mem_map] at hv; obtain ⟨y, _, rfl⟩ := hv; rfl); rw [HL.out])
  generalize hw2 : World.setRow (w.setCell ⟨g, 73, none⟩ (.int .u64 c')).drew g _ = w2
  have hD2 : Dig w2 g s (Go.splice r h P) (h : Int) c' := by
    rw [← hw2]
    exact ⟨HC.out.1, by have := HC.out.2; rw [HL.out] at this; exact this⟩
  have hO2 : Only g w w2 := by rw [← hw2]; exact HO.out.trans ((Only.setRow _ _).undrew)
  have hD3 := hD2.setHeld ((h : Int) + (P.length : Int))
  have h72b := hD2.held
  have f72 := hD2.free 72
  have h72c := hD3.held
  have HD3 := Lib.hid hD3
  have HO3 := Lib.hid (hO2.trans (Only.setCell w2 72 (.int .i64 ((h : Int) + (P.length : Int)))))
  clear hw2 hD2 hO2 hD3 HC HO HD HS h72' hroom h72 h73 f73 HL H74 hd
  by_cases hcp : P.length = cap
  · subst hcp
    go_wp2
    refine bodyPost_ret (results_none rfl _ _ _) rfl ?_
    exact ⟨rfl, by have := HD3.out; rw [Int.natCast_add]; exact this, HO3.out⟩
  · go_wp2
    refine bodyPost_ret (results_none rfl _ _ _) rfl ?_
    exact ⟨rfl, by have := HD3.out; rw [Int.natCast_add]; exact this, HO3.out⟩
end Go.Proofs.YtiodmmjjoodmoaaDoor
