/- Layer 2, the walks: the state behind a block. -/
import Derived.Test.YtiodmmjjoodmoaaDoorA
namespace Go.Proofs.YtiodmmjjoodmoaaDoor
open Go.RowKit

/-- The numbers of the rounds. -/
def KK : List Int := [1116352408, 1899447441, 3049323471, 3921009573, 961987163, 1508970993, 2453635748, 2870763221, 3624381080, 310598401, 607225278, 1426881987, 1925078388, 2162078206, 2614888103, 3248222580, 3835390401, 4022224774, 264347078, 604807628, 770255983, 1249150122, 1555081692, 1996064986, 2554220882, 2821834349, 2952996808, 3210313671, 3336571891, 3584528711, 113926993, 338241895, 666307205, 773529912, 1294757372, 1396182291, 1695183700, 1986661051, 2177026350, 2456956037, 2730485921, 2820302411, 3259730800, 3345764771, 3516065817, 3600352804, 4094571909, 275423344, 430227734, 506948616, 659060556, 883997877, 958139571, 1322822218, 1537002063, 1747873779, 1955562222, 2024104815, 2227730452, 2361852424, 2428436474, 2756734187, 3204031479, 3329325298]
/-- The table lies where start-up laid it. -/
def Tab (w : World) : Prop := 0 < w.heap.size ∧ At w .u32 0 0 KK
theorem Tab.below {w w' : World} {B : Nat} (h : Tab w) (hb : Below B w w') (hB : 0 < B) : Tab w' := ⟨Nat.lt_of_lt_of_le h.1 hb.size, h.2.below hb hB⟩
theorem length_KK : KK.length = 64 := by decide

def stCells (s : Sh.S) : Array Value := #[.int .u32 s.a, .int .u32 s.b, .int .u32 s.c, .int .u32 s.d, .int .u32 s.e, .int .u32 s.f, .int .u32 s.g, .int .u32 s.h]

def z8 : Sh.S := ⟨0, 0, 0, 0, 0, 0, 0, 0⟩
theorem run_index_arr (l : List Int) (j : Nat) (hl : l.length = 64) (hj : j < 64) (w : World) : (Instr.index 60 (.agg (l.map (Value.int .u32)).toArray) (.int .i64 (j : Int))).run Tryd.prog w = .ok (.int .u32 (l.getD j 0)) w := by
  have h1 := run_underlying (P := Tryd.prog) Tryd.underlying60
  have h2 := Tryd.sizeOf39
  have h3 := Tryd.isAgg39
  have e : (l.map (Value.int .u32)).toArray[j]? = some (.int .u32 (l.getD j 0)) := by simp [hl, hj]
  simp [Instr.index, asIntOf, h1, h2, h3, part, hj, hl]

theorem oneCells (l : List Int) (k : IntKind) : ((l.map (Value.int k)).toArray).all (·.oneCell') = true :=
  Array.all_eq_true_iff_forall_mem.2 fun x hx => by
    simp only [List.mem_toArray, List.mem_map] at hx
    obtain ⟨y, _, rfl⟩ := hx; rfl

theorem cells_of_st {w : World} {g : Nat} {s : Sh.S} {t : TypeId} (h : w.heap[g]? = some (.cells (stCells s) t (0, 0))) :
    w.cell? ⟨g, 0, none⟩ = some (.int .u32 s.a) ∧ w.cell? ⟨g, 1, none⟩ = some (.int .u32 s.b) ∧ w.cell? ⟨g, 2, none⟩ = some (.int .u32 s.c) ∧ w.cell? ⟨g, 3, none⟩ = some (.int .u32 s.d) ∧
    w.cell? ⟨g, 4, none⟩ = some (.int .u32 s.e) ∧ w.cell? ⟨g, 5, none⟩ = some (.int .u32 s.f) ∧ w.cell? ⟨g, 6, none⟩ = some (.int .u32 s.g) ∧ w.cell? ⟨g, 7, none⟩ = some (.int .u32 s.h) := by
  refine ⟨?_, ?_, ?_, ?_, ?_, ?_, ?_, ?_⟩ <;> rw [cell_of_row w g _ _ t (0, 0) h] <;> rfl

theorem after_facts {w w1 w2 : World} {A B : Array Value} {O : Obj} {cs zs : Array Value} (hA : Below ((w.alloc (.cells A 44)).alloc (.cells B 44)).heap.size ((w.alloc (.cells A 44)).alloc (.cells B 44)) w1)
    (hO : O = .cells zs 60) (h : (w1.alloc O).setRow w1.heap.size cs = w2) :
    w2.heap[w.heap.size]? = some (.cells A 44 (0, 0)) ∧ w2.heap[w.heap.size + 1]? = some (.cells B 44 (0, 0)) ∧ w2.heap[w1.heap.size]? = some (.cells cs 60 (0, 0)) ∧ Below w.heap.size w w2 ∧ w.heap.size + 2 ≤ w1.heap.size := by
  subst hO
  have hz := hA.size
  simp at hz
  subst h
  have hlt : ∀ g, g < w.heap.size + 2 → ((w1.alloc (.cells zs 60)).setRow w1.heap.size cs).heap[g]? = ((w.alloc (.cells A 44)).alloc (.cells B 44)).heap[g]? := by
    intro g hg
    rw [setRow_other _ _ _ _ (by omega), Below.heap_alloc _ _ _ (by omega)]
    exact hA.block g (by simp; omega)
  refine ⟨?_, ?_, ?_, ?_, hz⟩
  · rw [hlt _ (by omega)]; exact heap_alloc2_old w _ _
  · rw [hlt _ (by omega)]; exact heap_alloc2_new w _ _
  · exact setRow_heap _ _ _ _ 60 _ (heap_alloc_new w1 _)
  · exact below_setRow (((((Below.refl _ _).alloc (Nat.le_refl _) _).alloc (by simp) _).trans (hA.mono (by simp; omega))).alloc (by omega) _) (by omega) _

set_option maxRecDepth 100000 in
set_option maxHeartbeats 1600000 in
theorem after_any (b off cap : Nat) (w : World) (s : Sh.S) (p : List Int) (hs : s.ok) (hp : p.length = 64) (hw8 : ∀ x ∈ p, Sh.W8 x) (ha : At w .u8 b off p) (hb : b < w.heap.size) (ht : Tab w) :
    Calls Tryd.prog 28 #[.agg (stCells s), .slice (some ⟨b, off, none⟩) 64 cap] w fun e w' => e = .returned (.agg (stCells (Sh.after KK s p))) ∧ Below w.heap.size w w' := by
  have hlen := Sh.length_sched p
  have hB0 := ht.1
  have hst := @after_facts
  unfold stCells
  go_enter Tryd.func28, Tryd.ntmps28
  go_wp2_with fail
  refine (sched_any b off cap _ p hp hw8 ?_ (by simp; omega)).mono ?_
  · exact ha.below (B := w.heap.size) (((Below.refl _ _).alloc (Nat.le_refl _) _).alloc (by simp) _) hb
  rintro e w1 ⟨rfl, hb1⟩
  have h64 : (Tryd.prog.info? 60).map (·.size) = some 64 := by kernel_rfl
  have hsz : ((Sh.sched p).map (Value.int .u32)).toArray.size = 64 := by simp only [List.size_toArray, List.length_map, hlen]
  have HL := Lib.hid hsz
  have HB := Lib.hid hb1
  clear hlen hsz hb1 hst
  dsimp only
  go_step
  go_wp2_with ((with_reducible refine wpList_store_row (o := ⟨none, _, _, _, _, _⟩) rfl 60 (.tmp 5) (.tmp 21) rfl w1.heap.size _ rfl rfl 60 _ (heap_alloc_new w1 _) ?_ ?_ ?_ ?_); exact h64.trans (congrArg some HL.out.symm); exact Eq.trans rfl HL.out.symm; exact oneCells _ _; generalize hw2 : (World.setRow _ _ _) = w2; have HW := Lib.hid hw2; clear hw2)
  have hf := after_facts HB.out rfl HW.out
  clear HW
  obtain ⟨f1, f2, f3, f4, f5⟩ := hf
  obtain ⟨c0, c1, c2, c3, c4, c5, c6, c7⟩ := cells_of_st (s := s) f1
  have hTab : Tab w2 := ht.below f4 hB0
  clear HB ha
  go_quiet (fail)
  obtain ⟨w3, hw3⟩ : ∃ w3, w3 = w2.drewN nq := ⟨_, rfl⟩
  have g1 : w3.heap[w.heap.size]? = some (.cells (stCells s) 44 (0, 0)) := by rw [hw3]; exact f1
  have g2 : w3.heap[w.heap.size + 1]? = some (.cells (stCells z8) 44 (0, 0)) := by rw [hw3]; exact f2
  have g3 : w3.heap[w1.heap.size]? = some (.cells ((Sh.sched p).map (Value.int .u32)).toArray 60 (0, 0)) := by rw [hw3]; exact f3
  have g4 : Below w.heap.size w w3 := by rw [hw3]; exact below_drewN f4 _
  have hTab3 : Tab w3 := by rw [hw3]; exact hTab
  rw [← hw3]
  clear hw3 f1 f2 f3 f4 hTab c0 c1 c2 c3 c4 c5 c6 c7
  have G1 := Lib.hid g1
  have G2 := Lib.hid g2
  clear g1 g2
  go_wp2_with ((with_reducible refine wpList_load_row (o := ⟨some 38, _, _, _, _, _⟩) rfl 60 (.tmp 5) rfl w1.heap.size rfl 60 _ (0, 0) _ g3 Tryd.underlying60 rfl ?_ ?_); exact h64.trans (congrArg some HL.out.symm))
  go_loop [6, 7, 8, 9, 10, 11, 12, 13, 39] (fun a b c d e f g h i => ∃ k : Nat, k ≤ 64 ∧ i = .int .i64 k ∧ a = .int .u32 (Sh.rounds KK (Sh.sched p) s k).a ∧ b = .int .u32 (Sh.rounds KK (Sh.sched p) s k).b ∧ c = .int .u32 (Sh.rounds KK (Sh.sched p) s k).c ∧ d = .int .u32 (Sh.rounds KK (Sh.sched p) s k).d ∧ e = .int .u32 (Sh.rounds KK (Sh.sched p) s k).e ∧ f = .int .u32 (Sh.rounds KK (Sh.sched p) s k).f ∧ g = .int .u32 (Sh.rounds KK (Sh.sched p) s k).g ∧ h = .int .u32 (Sh.rounds KK (Sh.sched p) s k).h) (fun _ _ _ _ _ _ _ _ i => 64 - (intOf i).toNat)
  case atStart => exact ⟨0, by omega, rfl, rfl, rfl, rfl, rfl, rfl, rfl, rfl, rfl⟩
  case round =>
    obtain ⟨k, hk, rfl, rfl, rfl, rfl, rfl, rfl, rfl, rfl, rfl⟩ := hrel
    have hok := Sh.rounds_ok KK (Sh.sched p) s hs k
    by_cases hlt : k < 64
    · have hix := fun w => run_index_arr (Sh.sched p) k (Sh.length_sched p) hlt w
      have htab : w3.cell? ⟨0, 0 + k, none⟩ = some (.int .u32 (KK.getD k 0)) := hTab3.2 k (by rw [length_KK]; exact hlt)
      rw [Nat.zero_add] at htab
      have hstep : Sh.rounds KK (Sh.sched p) s (k + 1) = Sh.step (Sh.rounds KK (Sh.sched p) s k) (KK.getD k 0) ((Sh.sched p).getD k 0) := rfl
      have HS := Lib.hid hstep
      clear hstep
      generalize Sh.rounds KK (Sh.sched p) s k = r at *
      generalize KK.getD k 0 = kk at *
      generalize (Sh.sched p).getD k 0 = ww at *
      obtain ⟨ha, -, -, -, he, -, -, -⟩ := hok
      clear g3 hTab3 ht h64 HL hw8 hs G1 G2 g4
      go_wp2_with (first | (go_at_call_of 31 (Value.int IntKind.i64 6); refine (turn_lit _ 6 _ he 6 rfl (by decide) (by decide)).mono ?_; rintro e w' ⟨rfl, rfl⟩) | (go_at_call_of 31 (Value.int IntKind.i64 11); refine (turn_lit _ 11 _ he 11 rfl (by decide) (by decide)).mono ?_; rintro e w' ⟨rfl, rfl⟩) | (go_at_call_of 31 (Value.int IntKind.i64 25); refine (turn_lit _ 25 _ he 25 rfl (by decide) (by decide)).mono ?_; rintro e w' ⟨rfl, rfl⟩) | (go_at_call_of 31 (Value.int IntKind.i64 2); refine (turn_lit _ 2 _ ha 2 rfl (by decide) (by decide)).mono ?_; rintro e w' ⟨rfl, rfl⟩) | (go_at_call_of 31 (Value.int IntKind.i64 13); refine (turn_lit _ 13 _ ha 13 rfl (by decide) (by decide)).mono ?_; rintro e w' ⟨rfl, rfl⟩) | (go_at_call_of 31 (Value.int IntKind.i64 22); refine (turn_lit _ 22 _ ha 22 rfl (by decide) (by decide)).mono ?_; rintro e w' ⟨rfl, rfl⟩))
      go_round
      case rel =>
        refine ⟨k + 1, by omega, by go_num, ?_, ?_, ?_, ?_, ?_, ?_, ?_, ?_⟩ <;> rw [HS.out]
        · refine congrArg _ ?_
          simp only [Sh.step, Sh.t1, Sh.t2, Sh.ad_eq, Sh.xr, Sh.an, Sh.nt, show (if IntKind.u32.signed = true then (-1 : Int) else IntKind.u32.max) = IntKind.u32.max from rfl]
          omega
        all_goals first | rfl | skip
        · refine congrArg _ ?_
          simp only [Sh.step, Sh.t1, Sh.ad_eq, Sh.xr, Sh.an, Sh.nt, show (if IntKind.u32.signed = true then (-1 : Int) else IntKind.u32.max) = IntKind.u32.max from rfl]
          omega
      case measure => simp [intOf]; omega
    · have hk64 : ((k : Nat) : Int) = 64 := by omega
      obtain rfl : k = 64 := by omega
      obtain ⟨c0, c1, c2, c3, c4, c5, c6, c7⟩ := cells_of_st (s := s) G1.out
      have ha : Sh.after KK s p = Sh.plus s (Sh.rounds KK (Sh.sched p) s 64) := rfl
      have HA := Lib.hid ha
      have h8 : (Tryd.prog.info? 44).map (·.size) = some 8 := by kernel_rfl
      clear ha g3 hTab3 ht h64 HL hw8 hs hok
      generalize Sh.rounds KK (Sh.sched p) s 64 = r at *
      go_wp2_with (with_reducible refine wpList_store_row (o := ⟨none, _, _, _, _, _⟩) rfl 44 (.tmp 4) (.tmp 135) rfl (w.heap.size + 1) _ rfl rfl 44 _ G2.out ?_ ?_ ?_ ?_)
      · rfl
      · exact ⟨rfl, rfl, rfl, rfl, rfl, rfl, rfl, rfl⟩
      · have hcells := setRow_heap w3 (w.heap.size + 1) _ (stCells (Sh.after KK s p)) 44 _ G2.out
        have hv : stCells (Sh.after KK s p) = #[.int .u32 ((s.a + r.a) % 4294967296), .int .u32 ((s.b + r.b) % 4294967296), .int .u32 ((s.c + r.c) % 4294967296), .int .u32 ((s.d + r.d) % 4294967296), .int .u32 ((s.e + r.e) % 4294967296), .int .u32 ((s.f + r.f) % 4294967296), .int .u32 ((s.g + r.g) % 4294967296), .int .u32 ((s.h + r.h) % 4294967296)] := by
          rw [HA.out]
          simp only [stCells, Sh.plus, Sh.ad_eq]
        rw [hv] at hcells
        change bodyPost Tryd.prog Tryd.f28 (fun e w' => e = Ending.returned (Value.agg (stCells (Sh.after KK s p))) ∧ Below w.heap.size w w') Exit.ret _ _
        rw [hv]
        exact bodyPost_ret (results_cell_row Tryd.results28 _ _ (w.heap.size + 1) 44 _ (0, 0) _ rfl hcells Tryd.underlying44 rfl h8) rfl ⟨rfl, below_setRow g4 (by omega) _⟩
end Go.Proofs.YtiodmmjjoodmoaaDoor
