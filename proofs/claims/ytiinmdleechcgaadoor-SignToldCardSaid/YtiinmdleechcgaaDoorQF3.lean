/- Layer 6, a part of the proof: FBi FBj FBk FBl FBm FBn FBq FBr FBs FBt FBu FBv FBx. -/
import Derived.Test.YtiinmdleechcgaaDoorQF2
import Derived.ArgAppend
namespace Go.Proofs.YtiinmdleechcgaaDoor
open Go.RowKit
namespace Grow
/-- What is known when an operation's turn comes. -/
structure Known (m : Nat) (ops : Array Oper) (specs : Nat → Spec) (a0 : Act) (w0 : World) (o : Oper) (a : Act) (w : World) : Prop where
  below : Below w0.heap.size w0 w
  deps : ∀ j d, deps .any ops o j d = true → (specs j).meets (a.eval (.tmp d)) w
  rest : ∀ t, free2 ops m t = true → a.eval (.tmp t) = a0.eval (.tmp t)
/-- The guard holds. -/
def Runs2 (ops : Array Oper) (specs : Nat → Spec) (a0 : Act) (o : Oper) : Prop :=
  o.guard = none ∨ ∃ g d b, o.guard = some (g, b) ∧ deps .any ops o g d = true ∧ specs g = .is (.bool b) ∧ d < a0.tmps.size
/-- The guard doesn't hold. -/
def Skips (ops : Array Oper) (specs : Nat → Spec) (a0 : Act) (o : Oper) : Prop :=
  ∃ g d b v, o.guard = some (g, b) ∧ deps .any ops o g d = true ∧ specs g = .is v ∧ v ≠ .bool b ∧ d < a0.tmps.size

section
variable {m : Nat} {ops : Array Oper} {Q : Exit → Act → World → Prop} {specs : Nat → Spec} {a0 : Act} {w0 : World} {i : Nat} {o : Oper}
theorem yielded_of {a : Act} {g d : Nat} (h1 : deps .any ops o g d = true) (hd : d < a.tmps.size) : yielded ops a.tmps g = match a.eval (.tmp d) with | .bool b => some b | _ => none := by
  unfold deps at h1
  simp only [Bool.and_eq_true, beq_iff_eq] at h1
  have h6 : ((ops[g]?).bind (·.dst)) = some d := h1.2
  unfold yielded
  rw [h6]
  simp only [Option.bind_some, Array.getElem?_eq_getElem hd]
  have : a.eval (.tmp d) = a.tmps[d] := by simp [Act.eval, Array.getElem?_eq_getElem hd]
  rw [this]
  cases a.tmps[d] <;> rfl
theorem wanted2_of (hr : Runs2 ops specs a0 o) {a : Act} {w : World} (ht : a.tmps.size = a0.tmps.size) (hk : ∀ j d, deps .any ops o j d = true → (specs j).meets (a.eval (.tmp d)) w) : Region.wanted o (yielded ops a.tmps) = true := by
  rcases hr with h | ⟨g, d, b, h1, h2, h3, h4⟩
  · simp [Region.wanted, h]
  · have h5 := hk g d h2
    rw [h3] at h5
    have h5 : a.eval (.tmp d) = .bool b := h5
    have h6 := yielded_of h2 (by rw [ht]; exact h4)
    rw [h5] at h6
    simp [Region.wanted, h1, h6]
theorem h2_skip (hr : Skips ops specs a0 o) (hs : specs i = .is undef) : Hop2 Tryd.prog m ops specs Q a0 w0 i o := by
  intro a w _ ht hk _
  right
  obtain ⟨g, d, b, v, h1, h2, h3, h4, h5⟩ := hr
  have h6 := hk g d h2
  rw [h3] at h6
  have h6 : a.eval (.tmp d) = v := h6
  have h7 := yielded_of h2 (by rw [ht]; exact h5)
  rw [h6] at h7
  refine ⟨?_, by rw [hs]; rfl⟩
  simp only [Region.wanted, h1, h7]
  cases v <;> simp_all
theorem h2_wp (hr : Runs2 ops specs a0 o) (h : ∀ a w, Known m ops specs a0 w0 o a w → o.wp Tryd.prog a w (fun a' w' => ∃ v, a' = a.put o.dst v ∧ (specs i).meets v w' ∧ Below w.heap.size w w') Q) : Hop2 Tryd.prog m ops specs Q a0 w0 i o := by
  intro a w hb ht hk hfr
  exact Or.inl ⟨wanted2_of hr ht hk, h a w ⟨hb, hk, hfr⟩⟩
/-- A value that is found, and changes nothing but by what it adds. -/
theorem h2_val (hr : Runs2 ops specs a0 o) (h : ∀ a w, Known m ops specs a0 w0 o a w → ∃ v w', (execOp a.eval o).run Tryd.prog w = .ok (.value v) w' ∧ (specs i).meets v w' ∧ Below w.heap.size w w') : Hop2 Tryd.prog m ops specs Q a0 w0 i o :=
  h2_wp hr fun a w hk => by
    obtain ⟨v, w', h1, h2, h3⟩ := h a w hk
    exact wp_value h1 ⟨v, rfl, h2, h3⟩
theorem h2_move (hr : Runs2 ops specs a0 o) (x : Operand) (ho : o.op = .move x ∨ o.op = .assign x) (h : ∀ a w, Known m ops specs a0 w0 o a w → (specs i).meets (a.eval x) w) : Hop2 Tryd.prog m ops specs Q a0 w0 i o :=
  h2_wp hr fun a w hk => wp_move x ho ⟨_, rfl, h a w hk, Below.refl _ _⟩
theorem h2_call0 (hr : Runs2 ops specs a0 o) (f : FuncId) (he : ∀ args w, (callFunc f args).run Tryd.prog w = .ok (.enter f args) w) (ts : Array TypeId) (ho : o.op = .call { callee := .value (.func f), args := #[], argTypes := ts })
    (h : ∀ a w, Known m ops specs a0 w0 o a w → Calls Tryd.prog f #[] w fun e w' => ∃ v, e = .returned v ∧ (specs i).meets v w' ∧ Below w.heap.size w w') : Hop2 Tryd.prog m ops specs Q a0 w0 i o :=
  h2_wp hr fun a w hk => by
    refine wp_enter (f := f) (args := #[]) ?_ ((h a w hk).mono ?_)
    · unfold execOp
      rw [ho]
      go_simp
    · rintro e w' ⟨v, rfl, h1, h2⟩
      exact ⟨v, rfl, v, rfl, h1, h2⟩
theorem h2_call1 (hr : Runs2 ops specs a0 o) (f : FuncId) (he : ∀ args w, (callFunc f args).run Tryd.prog w = .ok (.enter f args) w) (ts : Array TypeId) (x : Operand) (ho : o.op = .call { callee := .value (.func f), args := #[x], argTypes := ts })
    (h : ∀ a w, Known m ops specs a0 w0 o a w → Calls Tryd.prog f #[a.eval x] w fun e w' => ∃ v, e = .returned v ∧ (specs i).meets v w' ∧ Below w.heap.size w w') : Hop2 Tryd.prog m ops specs Q a0 w0 i o :=
  h2_wp hr fun a w hk => by
    refine wp_enter (f := f) (args := #[a.eval x]) ?_ ((h a w hk).mono ?_)
    · unfold execOp
      rw [ho]
      go_simp
    · rintro e w' ⟨v, rfl, h1, h2⟩
      exact ⟨v, rfl, v, rfl, h1, h2⟩
theorem h2_call2 (hr : Runs2 ops specs a0 o) (f : FuncId) (he : ∀ args w, (callFunc f args).run Tryd.prog w = .ok (.enter f args) w) (ts : Array TypeId) (x y : Operand) (ho : o.op = .call { callee := .value (.func f), args := #[x, y], argTypes := ts })
    (h : ∀ a w, Known m ops specs a0 w0 o a w → Calls Tryd.prog f #[a.eval x, a.eval y] w fun e w' => ∃ v, e = .returned v ∧ (specs i).meets v w' ∧ Below w.heap.size w w') : Hop2 Tryd.prog m ops specs Q a0 w0 i o :=
  h2_wp hr fun a w hk => by
    refine wp_enter (f := f) (args := #[a.eval x, a.eval y]) ?_ ((h a w hk).mono ?_)
    · unfold execOp
      rw [ho]
      go_simp
    · rintro e w' ⟨v, rfl, h1, h2⟩
      exact ⟨v, rfl, v, rfl, h1, h2⟩
/-- A row that lay there from the start. -/
theorem h2_row (hr : Runs2 ops specs a0 o) (t g : Nat) (ty : TypeId) (cs : Array Value) (d : TypeDesc) (hd : (match d with | .struct _ | .array _ _ => true | _ => false) = true) (hu : Tryd.prog.underlying ty = some d) (hi : (Tryd.prog.info? ty).map (·.size) = some cs.size)
    (ho : o.op = .load ty (.tmp t)) (hf : free2 ops m t = true) (hv : a0.eval (.tmp t) = .pointer (some ⟨g, 0, none⟩)) (hg : w0.heap[g]? = some (.cells cs ty (0, 0))) (hs : specs i = .is (.agg cs)) : Hop2 Tryd.prog m ops specs Q a0 w0 i o :=
  h2_wp hr fun a w hk => by
    refine wp_load_row ty (.tmp t) ho g ((hk.rest t hf).trans hv) ty cs (0, 0) d ((hk.below.block g (lt_of_block hg)).trans hg) hu (by cases d <;> first | rfl | cases hd) hi ?_
    exact ⟨_, rfl, by rw [hs]; rfl, Below.refl _ _⟩
end
theorem enter81 (args : Array Value) (w : World) : (callFunc 81 args).run Tryd.prog w = .ok (.enter 81 args) w := by
  have := Tryd.func81
  go_simp
theorem enter80 (args : Array Value) (w : World) : (callFunc 80 args).run Tryd.prog w = .ok (.enter 80 args) w := by
  have := Tryd.func80
  go_simp
def elem (n : Int) : Spec := .held (fun u _ => ∃ y, u = .agg (ec y) ∧ Fe.Re y n) (fun _ _ _ h _ => h)
end Grow
theorem ends_W8 {lo hi : Int} (l : W8 lo) (h : W8 hi) : ∀ b ∈ ends lo hi, W8 b := by
  intro b hb
  unfold ends at hb
  rcases List.mem_or_eq_of_mem_set hb with hb | rfl
  · rcases List.mem_or_eq_of_mem_set hb with hb | rfl
    · unfold fillk at hb
      rw [List.mem_map] at hb
      obtain ⟨j, hj, rfl⟩ := hb
      rw [if_pos (List.mem_range.1 hj)]
      unfold W8; omega
    · exact l
  · exact h
theorem low_ends_inv : Bt.low (ends 235 127) = Nm.PN - 2 := by decide +kernel
theorem low_ends_root : Bt.low (ends 254 15) = (Nm.PN + 3) / 8 := by decide +kernel
theorem low_ends_turn : Bt.low (ends 251 31) = (Nm.PN - 1) / 4 := by decide +kernel

set_option maxRecDepth 100000 in
set_option maxHeartbeats 400000 in
theorem inv_any (w : World) (x : Fe.E) (n : Int) (hx : Fe.Re x n) :
    Calls Tryd.prog 54 #[.agg (ec x)] w fun e w' => ∃ y, e = .returned (.agg (ec y)) ∧ Fe.Re y (n ^ (Nm.PN - 2)) ∧ Below w.heap.size w w' := by
  have h1 := heap_alloc2_old w (.cells (ec x) 49) (.cells (ec Fe.z) 49)
  have h2 := heap_alloc2_new w (.cells (ec x) 49) (.cells (ec Fe.z) 49)
  have h3 : Below w.heap.size w ((w.alloc (.cells (ec x) 49)).alloc (.cells (ec Fe.z) 49)) := ((Below.refl _ _).alloc (Nat.le_refl _) _).alloc (by simp) _
  have H1 := Lib.hid h1
  have H2 := Lib.hid h2
  have HB := Lib.hid h3
  clear h1 h2 h3
  go_enter Tryd.func54, Tryd.ntmps54
  go_wp2_with fail
  change Code.wp _ _ _ _ ((w.alloc (.cells (ec x) 49)).alloc (.cells (ec Fe.z) 49))
  generalize (w.alloc (.cells (ec x) 49)).alloc (.cells (ec Fe.z) 49) = w3 at *
  refine Grow.region_tail (by kernel_rfl) 3 (fun i => ([.is (.agg (ec x)), .is (bv (ends 235 127)), Grow.elem (n ^ (Nm.PN - 2))] : List Grow.Spec).getD i (.is undef)) (by kernel_rfl) ⟨
    Grow.h2_row (Or.inl rfl) 1 w.heap.size 49 (ec x) _ rfl Tryd.underlying49 i30 rfl (by kernel_rfl) rfl H1.out rfl,
    Grow.h2_call2 (Or.inl rfl) 81 Grow.enter81 _ _ _ rfl (fun a w hk => by refine (exponent_any w 235 127).mono ?_; rintro e w5 ⟨rfl, hb⟩; exact ⟨_, rfl, rfl, hb⟩),
    Grow.h2_call2 (Or.inl rfl) 80 Grow.enter80 _ _ _ rfl (fun a w hk => by
      have e0 : a.eval (.tmp 3) = .agg (ec x) := hk.deps 0 3 (by kernel_rfl)
      have e1 : a.eval (.tmp 4) = bv (ends 235 127) := hk.deps 1 4 (by kernel_rfl)
      rw [e0, e1]
      refine (power_any w x n hx (ends 235 127) (ends_length _ _) (ends_W8 (by unfold W8; omega) (by unfold W8; omega))).mono ?_
      rintro e w5 ⟨y, rfl, hy, hb⟩
      rw [low_ends_inv] at hy
      exact ⟨_, rfl, ⟨y, rfl, hy⟩, hb⟩), trivial⟩ ?_
  intro o a w5 ho hb hts hk hd hfr
  obtain rfl := Option.some.inj ho
  obtain ⟨y, hy1, hy2⟩ : ∃ y, a.eval (.tmp 5) = .agg (ec y) ∧ Fe.Re y (n ^ (Nm.PN - 2)) := hk 2 5 (by decide) rfl
  have he2 : a.eval (.tmp 2) = .pointer (some ⟨w.heap.size + 1, 0, none⟩) := hfr 2 (by kernel_rfl)
  have hz := (hb.block _ (lt_of_block H2.out)).trans H2.out
  refine ⟨rfl, wp_store_row 49 (.tmp 2) (.tmp 5) rfl (w.heap.size + 1) (ec y) he2 hy1 49 (ec Fe.z) hz i30 rfl (ec_one _) ?_⟩
  have HBF := Lib.hid (below_setRow (HB.out.trans (hb.mono HB.out.size)) (show w.heap.size ≤ w.heap.size + 1 by omega) (ec y))
  have HS := Lib.hid (setRow_heap w5 (w.heap.size + 1) _ (ec y) 49 _ hz)
  clear hk hfr
  go_wp2
  exact bodyPost_ret (results_cell_row Tryd.results54 _ _ (w.heap.size + 1) 49 _ (0, 0) _ he2 HS.out Tryd.underlying49 rfl i30) hd ⟨y, rfl, hy2, HBF.out⟩
end Go.Proofs.YtiinmdleechcgaaDoor
namespace Go.Proofs.YtiinmdleechcgaaDoor
open Go.RowKit

theorem row_first : (Bt.row 8 32 (Nm.PN - 1) 255).getD 0 0 = 236 := by decide +kernel
theorem row_last : (Bt.row 8 32 (Nm.PN - 1) 255).getD 31 0 = 127 := by decide +kernel
theorem two_inv {y : Fe.E} (hy : Fe.Re y (2 ^ (Nm.PN - 2))) : decide (Fe.val (Fe.mul y (Fe.num 2)) % Fe.P = Fe.val (Fe.num 1) % Fe.P) = true := by
  refine decide_eq_true ?_
  rw [(hy.mul (Fe.Re.num (n := 2) (by decide) (by decide))).eq, (Fe.Re.num (n := 1) (by decide) (by decide)).eq, Int.mul_comm, Fe.P_PN]
  have h := Nm.inv_one (x := 2) (by decide) (by decide)
  rw [h]
  decide

end Go.Proofs.YtiinmdleechcgaaDoor
namespace Go.Proofs.YtiinmdleechcgaaDoor
open Go.RowKit

/-- What lies where while a law is walked: elements, bytes, numbers. -/
structure St (w0 : World) (rows : List (Nat × Fe.E)) (bys : List (Nat × List Int)) (nums : List (Value × List Int)) (wr : World) : Prop where
  rows : ∀ r ∈ rows, wr.heap[r.1]? = some (.cells (ec r.2) 49 (0, 0))
  bys : ∀ r ∈ bys, Blk wr r.1 .u8 44 r.2
  nums : ∀ r ∈ nums, Num wr r.1 r.2
  dbl : Dbl wr
  bb : Below w0.heap.size w0 wr
section
variable {w0 w w' : World} {rows : List (Nat × Fe.E)} {bys : List (Nat × List Int)} {nums : List (Value × List Int)}
theorem St.below (h : St w0 rows bys nums w) (hb : Below w.heap.size w w') : St w0 rows bys nums w' :=
  ⟨fun r hr => (hb.block _ (lt_of_block (h.rows r hr))).trans (h.rows r hr), fun r hr => (h.bys r hr).other (hb.block _ (h.bys r hr).lt), fun r hr => (h.nums r hr).below hb (Nat.le_refl _), h.dbl.below hb h.dbl.1, h.bb.trans (hb.mono h.bb.size)⟩
theorem St.num (h : St w0 rows bys nums w) {v : Value} {l : List Int} (hn : Num w v l) : St w0 rows bys ((v, l) :: nums) w :=
  ⟨h.rows, h.bys, fun r hr => by rcases List.mem_cons.1 hr with rfl | hr; exact hn; exact h.nums r hr, h.dbl, h.bb⟩
/-- An element laid into a new block. -/
theorem St.row (h : St w0 rows bys nums w) (x : Fe.E) : St w0 ((w.heap.size, x) :: rows) bys nums ((w.alloc (.cells #[.int .u64 0, .int .u64 0, .int .u64 0, .int .u64 0, .int .u64 0] 49)).setRow w.heap.size (ec x)) := by
  rw [World.setRow_alloc_new]
  have h2 := h.below ((Below.refl w.heap.size w).alloc (Nat.le_refl _) (.cells (ec x) 49))
  refine ⟨fun r hr => ?_, h2.bys, h2.nums, h2.dbl, h2.bb⟩
  rcases List.mem_cons.1 hr with rfl | hr
  · exact heap_alloc_new w _
  · exact h2.rows r hr
theorem zero_new (w : World) : (w.alloc (.cells #[.int .u64 0, .int .u64 0, .int .u64 0, .int .u64 0, .int .u64 0] 49)).heap[w.heap.size]? = some (.cells (ec Fe.z) 49 (0, 0)) := heap_alloc_new w (.cells (ec Fe.z) 49)
end
/-- An element is read, whatever guards the operation, if the guard holds. -/
theorem load_rowG {ops : Array Oper} {rest : List Oper} {o : Oper} {a : Act} {w : World} {Q : Exit → Act → World → Prop} (x : Fe.E) (t g : Nat) (ho : o.op = .load 49 (.tmp t)) (hx : a.eval (.tmp t) = .pointer (some ⟨g, 0, none⟩))
    (hg : w.heap[g]? = some (.cells (ec x) 49 (0, 0))) (hw : Region.wanted o (yielded ops a.tmps) = true) (h : wpList Tryd.prog ops Q rest (a.put o.dst (.agg (ec x))) w) : wpList Tryd.prog ops Q (o :: rest) a w := by
  unfold wpList
  rw [if_pos hw]
  exact Or.inl (wp_load_row 49 (.tmp t) ho g hx 49 (ec x) (0, 0) _ hg Tryd.underlying49 rfl i30 h)
/-- The number that 32 bytes are. -/
def nb (p : List Int) : Int := ((Bt.low p % 2 ^ 255 : Nat) : Int)
theorem rd_re (p : List Int) : Fe.Re (Fe.rd (Bt.low p)) (nb p) := ⟨Fe.rd_ok _, by rw [Fe.rd_val]; rfl⟩
theorem mod_P_le (x : Int) : x % Fe.P ≤ Fe.P := Int.le_of_lt (Int.emod_lt_of_pos _ (by decide))
theorem mod_P_mod (x : Int) : x % Fe.P % Fe.P = x % Fe.P := Int.emod_emod _ _
/-- Two boxes. -/
theorem St.two {w : World} (hd : Dbl w) (p q : List Int) : St w [] [(w.heap.size, p), (w.heap.size + 1, q)] [] ((w.alloc (.cells (p.map (Value.int .u8)).toArray 44)).alloc (.cells (q.map (Value.int .u8)).toArray 44)) := by
  have h3 : Below w.heap.size w ((w.alloc (.cells (p.map (Value.int .u8)).toArray 44)).alloc (.cells (q.map (Value.int .u8)).toArray 44)) := ((Below.refl _ _).alloc (Nat.le_refl _) _).alloc (by simp) _
  refine ⟨fun r hr => (List.not_mem_nil hr).elim, fun r hr => ?_, fun r hr => (List.not_mem_nil hr).elim, hd.below h3 hd.1, h3⟩
  simp only [List.mem_cons, List.not_mem_nil, or_false] at hr
  rcases hr with rfl | rfl
  · exact heap_alloc2_old w _ _
  · exact heap_alloc2_new w _ _

theorem num_nil (w : World) : Num w (.slice none 0 0) [] := ⟨none, 0, rfl, Nat.le_refl _, Nt.Ws.nil, Or.inl rfl⟩
section
variable {x y : Fe.E} {X Y a b s : Int}
theorem ok_add (hx : Fe.Re x X) (hy : Fe.Re y Y) {lx ly l : List Int} (ha : Nt.val lx = X % Fe.P) (hb : Nt.val ly = Y % Fe.P) (hs : Nt.val l = (Nt.val lx + Nt.val ly) % Fe.P) : decide (Fe.val (Fe.add x y) % Fe.P = Nt.val l) = true := by
  refine decide_eq_true ?_
  rw [(hx.add hy).eq, hs, ha, hb, ← Int.add_emod]
theorem ok_sub (hx : Fe.Re x X) (hy : Fe.Re y Y) {lx ly l : List Int} (ha : Nt.val lx = X % Fe.P) (hb : Nt.val ly = Y % Fe.P) (hs : Nt.val l = (Nt.val lx - Nt.val ly) % Fe.P) : decide (Fe.val (Fe.sub x y) % Fe.P = Nt.val l) = true := by
  refine decide_eq_true ?_
  rw [(hx.sub hy).eq, hs, ha, hb, ← Int.sub_emod]
theorem ok_neg (hx : Fe.Re x X) {lx l : List Int} (ha : Nt.val lx = X % Fe.P) (hs : Nt.val l = (Nt.val [] - Nt.val lx) % Fe.P) : decide (Fe.val (Fe.neg x) % Fe.P = Nt.val l) = true := by
  refine decide_eq_true ?_
  have h0 : Fe.Re Fe.z 0 := ⟨Fe.z_ok, rfl⟩
  show Fe.val (Fe.sub Fe.z x) % Fe.P = _
  rw [(h0.sub hx).eq, hs, ha]
  show _ = (0 - _) % _
  rw [Int.sub_emod 0 (X % Fe.P), Int.emod_emod, ← Int.sub_emod]
theorem ok_cmp (hx : Fe.Re x X) (hy : Fe.Re y Y) {lx ly : List Int} {r : Int} (ha : Nt.val lx = X % Fe.P) (hb : Nt.val ly = Y % Fe.P) (h1 : r ≤ 0 ↔ Nt.val lx ≤ Nt.val ly) (h2 : r < 0 ↔ Nt.val lx < Nt.val ly) : (decide (Fe.val x % Fe.P = Fe.val y % Fe.P) == (r == 0)) = true := by
  rw [hx.eq, hy.eq, ← ha, ← hb]
  have : r = 0 ↔ Nt.val lx = Nt.val ly := by omega
  by_cases h : Nt.val lx = Nt.val ly
  · rw [decide_eq_true h, this.2 h]; rfl
  · rw [decide_eq_false h]
    have h3 : ¬ r = 0 := fun h4 => h (this.1 h4)
    simp [h3]
end

end Go.Proofs.YtiinmdleechcgaaDoor
namespace Go.Proofs.YtiinmdleechcgaaDoor
open Go.RowKit
namespace Grow
/-- What the operations ahead of the last write. -/
def dsts (ops : Array Oper) (m : Nat) : List Nat := (List.range m).filterMap (dstOf ops)
theorem free2_of {ops : Array Oper} {m t : Nat} (h : t ∉ dsts ops m) : free2 ops m t = true := by
  unfold free2
  rw [List.all_eq_true]
  intro j hj
  simp only [bne_iff_ne, ne_eq]
  intro hh
  exact h (List.mem_filterMap.2 ⟨j, hj, hh⟩)
def putAll (a0 a : Act) : List Nat → Act
  | [] => a0
  | d :: r => (putAll a0 a r).put (some d) (a.eval (.tmp d))
theorem putAll_size (a0 a : Act) : ∀ l, (putAll a0 a l).tmps.size = a0.tmps.size
  | [] => rfl
  | d :: r => by simp [putAll, Act.put, putAll_size a0 a r]
theorem putAll_defers (a0 a : Act) : ∀ l, (putAll a0 a l).defers = a0.defers
  | [] => rfl
  | d :: r => by simp [putAll, Act.put, putAll_defers a0 a r]
theorem putAll_get {a0 a : Act} (hs : a.tmps.size = a0.tmps.size) : ∀ (l : List Nat) (t : Nat), t < a0.tmps.size → (putAll a0 a l).eval (.tmp t) = if t ∈ l then a.eval (.tmp t) else a0.eval (.tmp t)
  | [], t, _ => by simp [putAll]
  | d :: r, t, ht => by
    by_cases h : d = t
    · subst h
      rw [if_pos List.mem_cons_self]
      exact eval_put_eq (by rw [putAll_size]; exact ht)
    · show ((putAll a0 a r).put (some d) (a.eval (.tmp d))).eval (.tmp t) = _
      rw [eval_put_ne h, putAll_get hs r t ht]
      have : t ∈ d :: r ↔ t ∈ r := by
        rw [List.mem_cons]
        exact ⟨fun hh => hh.resolve_left (fun e => h e.symm), Or.inr⟩
      simp only [this]
/-- The frame behind a region: what it was, with what was written. -/
theorem act_after {ops : Array Oper} {m : Nat} {a a0 : Act} (hs : a.tmps.size = a0.tmps.size) (hd : a.defers = a0.defers) (hf : ∀ t, free2 ops m t = true → a.eval (.tmp t) = a0.eval (.tmp t)) : a = putAll a0 a (dsts ops m) := by
  have e : a.tmps = (putAll a0 a (dsts ops m)).tmps := by
    refine Array.ext (by rw [putAll_size]; exact hs) fun i h1 h2 => ?_
    have h3 : i < a0.tmps.size := by rw [← hs]; exact h1
    have h := putAll_get hs (dsts ops m) i h3
    have ea : a.eval (.tmp i) = a.tmps[i] := by simp [Act.eval, Array.getElem?_eq_getElem h1]
    have eb : (putAll a0 a (dsts ops m)).eval (.tmp i) = (putAll a0 a (dsts ops m)).tmps[i] := by simp [Act.eval, Array.getElem?_eq_getElem h2]
    rw [eb] at h
    rw [h, ← ea]
    split
    · rfl
    · next hn => exact hf i (free2_of hn)
  have ed := hd.trans (putAll_defers a0 a (dsts ops m)).symm
  cases a
  generalize hb : putAll a0 _ (dsts ops m) = b at *
  cases b
  simp only at e ed
  rw [e, ed]

section
variable {m : Nat} {ops : Array Oper} {Q : Exit → Act → World → Prop} {specs : Nat → Spec} {a0 : Act} {w0 : World} {i : Nat} {o : Oper}
theorem h2_pick (hr : Runs2 ops specs a0 o) (j1 d1 j2 d2 : Nat) (y : Operand) (ho : o.op = .pick (.tmp d1) (.tmp d2) y) (hj1 : deps .any ops o j1 d1 = true) (hj2 : deps .any ops o j2 d2 = true) (hs1 : specs j1 = .is (.bool true)) (hs2 : specs i = specs j2) : Hop2 Tryd.prog m ops specs Q a0 w0 i o :=
  h2_val hr fun a w hk => by
    have h1 := hk.deps j1 d1 hj1
    have h2 := hk.deps j2 d2 hj2
    rw [hs1] at h1
    rw [← hs2] at h2
    have h1 : a.eval (.tmp d1) = .bool true := h1
    refine ⟨a.eval (.tmp d2), w, ?_, h2, Below.refl _ _⟩
    unfold execOp
    rw [ho]
    simp only [h1]
    go_simp
/-- A new block for an element. -/
def newRow (w0 : World) : Spec := .held (fun u w => ∃ g, u = .pointer (some ⟨g, 0, none⟩) ∧ w.heap[g]? = some (.cells (ec Fe.z) 49 (0, 0)) ∧ w0.heap.size ≤ g) (fun _ _ _ h hb => by
  obtain ⟨g, h1, h2, h3⟩ := h
  exact ⟨g, h1, (hb.block g (lt_of_block h2)).trans h2, h3⟩)
theorem h2_alloc (hr : Runs2 ops specs a0 o) (ho : o.op = .alloc 49) (hs : specs i = newRow w0) : Hop2 Tryd.prog m ops specs Q a0 w0 i o :=
  h2_val hr fun a w hk => by
    have hu := Tryd.underlying49
    refine ⟨.pointer (some ⟨w.heap.size, 0, none⟩), w.alloc (.cells (ec Fe.z) 49), ?_, ?_, (Below.refl _ _).alloc (Nat.le_refl _) _⟩
    · unfold execOp
      rw [ho]
      kernel_rfl
    · rw [hs]
      exact ⟨_, rfl, heap_alloc_new w _, hk.below.size⟩
/-- A number of the reference's. -/
def nat (N : Int) : Spec := .held (fun u w => ∃ l, Num w u l ∧ Nt.val l = N ∧ Nt.Neat l ∧ l.length ≤ 20000) (fun _ _ _ h hb => by
  obtain ⟨l, h1, h2, h3, h4⟩ := h
  exact ⟨l, h1.below hb (Nat.le_refl _), h2, h3, h4⟩)
end
theorem enter66 (args : Array Value) (w : World) : (callFunc 66 args).run Tryd.prog w = .ok (.enter 66 args) w := by
  have := Tryd.func66
  go_simp
theorem enter47 (args : Array Value) (w : World) : (callFunc 47 args).run Tryd.prog w = .ok (.enter 47 args) w := by
  have := Tryd.func47
  go_simp
theorem enter69 (args : Array Value) (w : World) : (callFunc 69 args).run Tryd.prog w = .ok (.enter 69 args) w := by
  have := Tryd.func69
  go_simp
theorem enter17 (args : Array Value) (w : World) : (callFunc 17 args).run Tryd.prog w = .ok (.enter 17 args) w := by
  have := Tryd.func17
  go_simp
theorem enter70 (args : Array Value) (w : World) : (callFunc 70 args).run Tryd.prog w = .ok (.enter 70 args) w := by
  have := Tryd.func70
  go_simp
theorem enter33 (args : Array Value) (w : World) : (callFunc 33 args).run Tryd.prog w = .ok (.enter 33 args) w := by
  have := Tryd.func33
  go_simp
theorem enter56 (args : Array Value) (w : World) : (callFunc 56 args).run Tryd.prog w = .ok (.enter 56 args) w := by
  have := Tryd.func56
  go_simp
theorem enter65 (args : Array Value) (w : World) : (callFunc 65 args).run Tryd.prog w = .ok (.enter 65 args) w := by
  have := Tryd.func65
  go_simp
theorem enter57 (args : Array Value) (w : World) : (callFunc 57 args).run Tryd.prog w = .ok (.enter 57 args) w := by
  have := Tryd.func57
  go_simp
theorem enter63 (args : Array Value) (w : World) : (callFunc 63 args).run Tryd.prog w = .ok (.enter 63 args) w := by
  have := Tryd.func63
  go_simp
theorem enter74 (args : Array Value) (w : World) : (callFunc 74 args).run Tryd.prog w = .ok (.enter 74 args) w := by
  have := Tryd.func74
  go_simp
theorem enter49 (args : Array Value) (w : World) : (callFunc 49 args).run Tryd.prog w = .ok (.enter 49 args) w := by
  have := Tryd.func49
  go_simp
theorem enter50 (args : Array Value) (w : World) : (callFunc 50 args).run Tryd.prog w = .ok (.enter 50 args) w := by
  have := Tryd.func50
  go_simp
theorem enter32 (args : Array Value) (w : World) : (callFunc 32 args).run Tryd.prog w = .ok (.enter 32 args) w := by
  have := Tryd.func32
  go_simp
theorem enter72 (args : Array Value) (w : World) : (callFunc 72 args).run Tryd.prog w = .ok (.enter 72 args) w := by
  have := Tryd.func72
  go_simp
theorem enter53 (args : Array Value) (w : World) : (callFunc 53 args).run Tryd.prog w = .ok (.enter 53 args) w := by
  have := Tryd.func53
  go_simp
theorem enter64 (args : Array Value) (w : World) : (callFunc 64 args).run Tryd.prog w = .ok (.enter 64 args) w := by
  have := Tryd.func64
  go_simp
theorem enter60 (args : Array Value) (w : World) : (callFunc 60 args).run Tryd.prog w = .ok (.enter 60 args) w := by
  have := Tryd.func60
  go_simp
theorem enter30 (args : Array Value) (w : World) : (callFunc 30 args).run Tryd.prog w = .ok (.enter 30 args) w := by
  have := Tryd.func30
  go_simp
theorem enter31 (args : Array Value) (w : World) : (callFunc 31 args).run Tryd.prog w = .ok (.enter 31 args) w := by
  have := Tryd.func31
  go_simp
theorem enter67 (args : Array Value) (w : World) : (callFunc 67 args).run Tryd.prog w = .ok (.enter 67 args) w := by
  have := Tryd.func67
  go_simp
end Grow
end Go.Proofs.YtiinmdleechcgaaDoor
namespace Go.Proofs.YtiinmdleechcgaaDoor
open Go.RowKit
namespace Grow
theorem h2_conv3628 {m : Nat} {ops : Array Oper} {Q : Exit → Act → World → Prop} {specs : Nat → Spec} {a0 : Act} {w0 : World} {i : Nat} {o : Oper} (hr : Runs2 ops specs a0 o) (j d : Nat) (n : Int) (hn : 0 ≤ n ∧ n ≤ 4294967295) (ho : o.op = .convert 61 40 (.tmp d)) (hj : deps .any ops o j d = true) (hs : specs j = .is (.int .u32 n)) (hi : specs i = .is (.int .u64 n)) : Hop2 Tryd.prog m ops specs Q a0 w0 i o :=
  h2_val hr fun a w hk => by
    have h1 := hk.deps j d hj
    rw [hs] at h1
    have h1 : a.eval (.tmp d) = .int .u32 n := h1
    have hu := Tryd.underlying61
    have hu2 := Tryd.underlying40
    obtain ⟨n0, n1⟩ := hn
    refine ⟨.int .u64 n, w, ?_, by rw [hi]; rfl, Below.refl _ _⟩
    unfold execOp
    rw [ho]
    simp only [h1]
    have hw : IntKind.u64.wrap n = n := by rw [IntKind.wrap_u64]; exact Int.emod_eq_of_lt n0 (by omega)
    go_simp
theorem c_rmul {w : World} {u v : Value} {N M : Int} (hu : (nat N).meets u w) (hv : (nat M).meets v w) : Calls Tryd.prog 32 #[u, v] w fun e w' => ∃ v, e = .returned v ∧ (nat (N * M % Fe.P)).meets v w' ∧ Below w.heap.size w w' := by
  obtain ⟨l, h1, h2, h3, h4⟩ := hu
  obtain ⟨k, k1, k2, k3, k4⟩ := hv
  refine (rmul_any w u v l k h1 k1 h4 k4).mono ?_
  rintro e w' ⟨v', r, rfl, r1, r2, r3, r4, hb⟩
  exact ⟨_, rfl, ⟨r, r1, by rw [r2, h2, k2], r3, Nat.le_trans r4 (by decide)⟩, hb⟩
theorem c_small {w : World} {n : Int} (h0 : 0 ≤ n) (h1 : n ≤ 4294967295) : Calls Tryd.prog 64 #[.int .u64 n] w fun e w' => ∃ v, e = .returned v ∧ (nat n).meets v w' ∧ Below w.heap.size w w' := by
  refine (small_any w n h0 (by omega)).mono ?_
  rintro e w' ⟨v', r, rfl, r1, r2, r3, r4, hb⟩
  exact ⟨_, rfl, ⟨r, r1, r2, r3, Nat.le_trans r4 (by decide)⟩, hb⟩
end Grow
theorem St.put {w0 w w5 : World} {rows : List (Nat × Fe.E)} {bys : List (Nat × List Int)} {nums : List (Value × List Int)} (h : St w0 rows bys nums w) (hb : Below w.heap.size w w5) {g : Nat} (hg : w.heap.size ≤ g) {y : Fe.E} (hz : w5.heap[g]? = some (.cells (ec y) 49 (0, 0))) (x : Fe.E) : St w0 ((g, x) :: rows) bys nums (w5.setRow g (ec x)) := by
  refine ⟨fun r hr => ?_, fun r hr => ?_, fun r hr => ?_, ?_, below_setRow (h.bb.trans (hb.mono h.bb.size)) (Nat.le_trans h.bb.size hg) _⟩
  · rcases List.mem_cons.1 hr with rfl | hr
    · exact setRow_heap w5 g _ (ec x) 49 _ hz
    · have h1 := lt_of_block (h.rows r hr)
      rw [setRow_other _ _ _ _ (by omega)]
      exact (hb.block _ h1).trans (h.rows r hr)
  · have h1 := (h.bys r hr).lt
    refine Blk.other ?_ (setRow_other _ _ _ _ (by omega))
    exact (h.bys r hr).other (hb.block _ h1)
  · exact (h.nums r hr).below (below_setRow hb hg _) (Nat.le_refl _)
  · exact h.dbl.below (below_setRow hb hg _) h.dbl.1
theorem twice_mod (x y : Int) : ((x % Fe.P + y % Fe.P) % Fe.P + y % Fe.P) % Fe.P = (x + y - -y) % Fe.P := by
  rw [Int.sub_neg, Int.add_emod (x + y) y, Int.add_emod x y]
theorem mul_mod2 (x y : Int) : x % Fe.P * (y % Fe.P) % Fe.P = x * y % Fe.P := (Int.mul_emod _ _ _).symm
theorem small_mod {n : Int} (h0 : 0 ≤ n) (h1 : n ≤ 4294967295) : n % Fe.P = n := Int.emod_eq_of_lt h0 (Int.lt_of_le_of_lt h1 (by decide))

end Go.Proofs.YtiinmdleechcgaaDoor
namespace Go.Proofs.YtiinmdleechcgaaDoor
open Go.RowKit

theorem conv_at {w : World} {go off n c : Nat} {l : List Int} (h : At w .u8 go off l) (hl : l.length = n) : (convert 22 9 (.slice (some ⟨go, off, none⟩) n c)).run Tryd.prog w = .ok (.string (strOfNums l)) w :=
  run_convert_bytes_arg w 22 5 Tryd.underlying22 Tryd.underlying5 go off n c l hl (fun i hi => h i (by omega)) 9 Tryd.underlying9
theorem conv_slc {w : World} {v : Value} {l : List Int} (h : Slc w v l) : (convert 22 9 v).run Tryd.prog w = .ok (.string (strOfNums l)) w := by
  obtain ⟨a, cap, rfl, hc, h8, hm⟩ := h
  rcases hm with rfl | ⟨b, off, rfl, h2, h3⟩
  · cases a with
    | none => exact run_convert_bytes_nil w 22 5 Tryd.underlying22 Tryd.underlying5 0 cap 9 Tryd.underlying9
    | some ad =>
      have hl : (loadCells ad 0).run Tryd.prog w = .ok ([] : List Value).toArray w := run_loadCells_list (P := Tryd.prog) w ad [] (fun j v hj => by simp at hj)
      rw [List.length_nil, run_convert_bytes_string w 22 9 5 _ 0 cap Tryd.underlying22 Tryd.underlying5 Tryd.underlying9, run_bytesToString w _ 0 cap [] hl]
      rfl
  · exact conv_at h3 rfl
namespace Grow
section
variable {m : Nat} {ops : Array Oper} {Q : Exit → Act → World → Prop} {specs : Nat → Spec} {a0 : Act} {w0 : World} {i : Nat} {o : Oper}
theorem h2_conv (hr : Runs2 ops specs a0 o) (j d : Nat) (l : List Int) (ho : o.op = .convert 22 9 (.tmp d)) (hj : deps .any ops o j d = true) (hs : specs j = .slc l) (hi : specs i = .is (.string (strOfNums l))) : Hop2 Tryd.prog m ops specs Q a0 w0 i o :=
  h2_val hr fun a w hk => by
    have h := hk.deps j d hj
    rw [hs] at h
    refine ⟨.string (strOfNums l), w, ?_, by rw [hi]; rfl, Below.refl _ _⟩
    unfold execOp
    rw [ho]
    simp only [Sem.run_bind, conv_slc h, Result.andThen_ok, Sem.run_pure]
theorem h2_eqls (hr : Runs2 ops specs a0 o) (j1 d1 j2 d2 : Nat) (s : ByteArray) (ho : o.op = .binOp .eql 9 (.tmp d1) (.tmp d2) 9) (hj1 : deps .any ops o j1 d1 = true) (hj2 : deps .any ops o j2 d2 = true) (hs1 : specs j1 = .is (.string s)) (hs2 : specs j2 = .is (.string s)) (hi : specs i = .is (.bool true)) : Hop2 Tryd.prog m ops specs Q a0 w0 i o :=
  h2_val hr fun a w hk => by
    have h1 := hk.deps j1 d1 hj1
    have h2 := hk.deps j2 d2 hj2
    rw [hs1] at h1
    rw [hs2] at h2
    have h1 : a.eval (.tmp d1) = .string s := h1
    have h2 : a.eval (.tmp d2) = .string s := h2
    have hu := Tryd.underlying9
    refine ⟨.bool true, w, ?_, by rw [hi]; rfl, Below.refl _ _⟩
    unfold execOp
    rw [ho]
    simp only [h1, h2]
    go_simp
/-- A number against a constant. -/
theorem h2_eql36 (hr : Runs2 ops specs a0 o) (j d : Nat) (n c : Int) (b : Bool) (ho : o.op = .binOp .eql 61 (.tmp d) (.const (.int .u32 c)) 61) (hj : deps .any ops o j d = true) (hs : specs j = .is (.int .u32 n)) (hb : (n == c) = b) (hi : specs i = .is (.bool b)) : Hop2 Tryd.prog m ops specs Q a0 w0 i o :=
  h2_val hr fun a w hk => by
    have h1 := hk.deps j d hj
    rw [hs] at h1
    have h1 : a.eval (.tmp d) = .int .u32 n := h1
    have hu := Tryd.underlying61
    refine ⟨.bool b, w, ?_, by rw [hi]; rfl, Below.refl _ _⟩
    unfold execOp
    rw [ho]
    simp only [h1]
    go_simp
theorem h2_eql3 (hr : Runs2 ops specs a0 o) (j d : Nat) (n c : Int) (b : Bool) (ho : o.op = .binOp .eql 3 (.tmp d) (.const (.int .i64 c)) 3) (hj : deps .any ops o j d = true) (hs : specs j = .is (.int .i64 n)) (hb : (n == c) = b) (hi : specs i = .is (.bool b)) : Hop2 Tryd.prog m ops specs Q a0 w0 i o :=
  h2_val hr fun a w hk => by
    have h1 := hk.deps j d hj
    rw [hs] at h1
    have h1 : a.eval (.tmp d) = .int .i64 n := h1
    have hu := Tryd.underlying3
    refine ⟨.bool b, w, ?_, by rw [hi]; rfl, Below.refl _ _⟩
    unfold execOp
    rw [ho]
    simp only [h1]
    go_simp
theorem h2_eql4 (hr : Runs2 ops specs a0 o) (j1 d1 j2 d2 : Nat) (b c : Bool) (hbc : b = c) (ho : o.op = .binOp .eql 4 (.tmp d1) (.tmp d2) 4) (hj1 : deps .any ops o j1 d1 = true) (hj2 : deps .any ops o j2 d2 = true) (hs1 : specs j1 = .is (.bool b)) (hs2 : specs j2 = .is (.bool c)) (hi : specs i = .is (.bool true)) : Hop2 Tryd.prog m ops specs Q a0 w0 i o :=
  h2_val hr fun a w hk => by
    have h1 := hk.deps j1 d1 hj1
    have h2 := hk.deps j2 d2 hj2
    rw [hs1] at h1
    rw [hs2] at h2
    have h1 : a.eval (.tmp d1) = .bool b := h1
    have h2 : a.eval (.tmp d2) = .bool c := h2
    subst hbc
    have hu := Tryd.underlying4
    refine ⟨.bool true, w, ?_, by rw [hi]; rfl, Below.refl _ _⟩
    unfold execOp
    rw [ho]
    simp only [h1, h2]
    go_simp
theorem h2_len (hr : Runs2 ops specs a0 o) (j d : Nat) (ad : Option Addr) (n c : Nat) (ho : o.op = .call { callee := .builtin .len, args := #[.tmp d], argTypes := #[29] }) (hj : deps .any ops o j d = true) (hs : specs j = .is (.slice ad n c)) (hi : specs i = .is (.int .i64 n)) : Hop2 Tryd.prog m ops specs Q a0 w0 i o :=
  h2_val hr fun a w hk => by
    have h1 := hk.deps j d hj
    rw [hs] at h1
    have h1 : a.eval (.tmp d) = .slice ad n c := h1
    refine ⟨.int .i64 n, w, ?_, by rw [hi]; rfl, Below.refl _ _⟩
    unfold execOp
    rw [ho]
    have h2 : a.tmps[d]?.getD undef = .slice ad n c := by
      rw [← h1]; simp [Act.eval]
    have hu := Tryd.underlying29
    go_simp
end
end Grow
namespace Nt
theorem byte_word (x y : Int) (r : Nat) (hr : r < 4) : (x + B * y) / 2 ^ (8 * r) % 256 = x / 2 ^ (8 * r) % 256 := by
  unfold B
  match r, hr with
  | 0, _ => simp only [Nat.mul_zero, Int.pow_zero, Int.ediv_one]; omega
  | 1, _ => simp only [Nat.mul_one, Int.reducePow]; omega
  | 2, _ => simp only [Nat.reduceMul, Int.reducePow]; omega
  | 3, _ => simp only [Nat.reduceMul, Int.reducePow]; omega
theorem byte_val {a : List Int} (ha : Ws a) (j : Nat) : byte a j = val a / 2 ^ (8 * j) % 256 := by
  have e : (2 : Int) ^ (8 * j) = pw (j / 4) * 2 ^ (8 * (j % 4)) := by
    rw [← pw_two]; congr 1; omega
  rw [e, ← Int.ediv_ediv_of_nonneg (Int.le_of_lt (pw_pos _)), val_high ha, drop_word, byte_word _ _ _ (by omega)]
  rfl
theorem bytes_row {a : List Int} (ha : Ws a) {N : Nat} (hv : val a = (N : Int)) (hN : N < 2 ^ 255) : (List.range 32).map (byte a) = Bt.row 8 32 N 255 := by
  unfold Bt.row
  refine List.map_congr_left fun j _ => ?_
  rw [byte_val ha, hv]
  unfold Bt.place
  rw [Nat.mod_eq_of_lt hN]
  simp
end Nt
theorem fe_odd {x : Fe.E} (hx : Fe.Ok x) {N : Nat} (hN : Fe.val x % Fe.P = (N : Int)) : decide ((Fe.least x).a % 2 = 1) = decide (((N : Int)) % 2 = 1) := by
  have h1 := (Fe.least_val hx).1
  rw [hN] at h1
  have h2 : Fe.val (Fe.least x) % 2 = (Fe.least x).a % 2 := by unfold Fe.val Fe.M; omega
  rw [← h2, h1]
end Go.Proofs.YtiinmdleechcgaaDoor
namespace Go.Proofs.YtiinmdleechcgaaDoor
open Go.RowKit

theorem Grow.wp_assign {o : Oper} {a : Act} {w : World} {Q : Exit → Act → World → Prop} {K : Act → World → Prop} (d : Nat) (x : Operand) (ho : o.op = .assign x) (hd : o.dst = some d) (hk : K (a.put (some d) (a.eval x)) w) : o.wp Tryd.prog a w K Q :=
  Grow.wp_move x (Or.inr ho) (by rw [hd]; exact hk)
theorem len_zero {l : List Int} (hw : Nt.Ws l) {X : Nat} (hv : Nt.val l = (X : Int)) (hn : Nt.Neat l) : ((l.length : Int) == 0) = decide ((X : Int) = 0) := by
  by_cases h : l.length = 0
  · have h0 : l = [] := List.eq_nil_of_length_eq_zero h
    subst h0
    have : (X : Int) = 0 := hv.symm
    rw [decide_eq_true this]; rfl
  · have h1 := Nt.neat_le hn hw (by omega)
    have h2 := Nt.pw_pos (l.length - 1)
    rw [decide_eq_false (by omega)]
    have : ¬ ((l.length : Int) = 0) := by omega
    simpa using this
/-- One box. -/
theorem St.one {w : World} (hd : Dbl w) (p : List Int) : St w [] [(w.heap.size, p)] [] (w.alloc (.cells (p.map (Value.int .u8)).toArray 44)) := by
  have h3 : Below w.heap.size w (w.alloc (.cells (p.map (Value.int .u8)).toArray 44)) := (Below.refl _ _).alloc (Nat.le_refl _) _
  refine ⟨fun r hr => (List.not_mem_nil hr).elim, fun r hr => ?_, fun r hr => (List.not_mem_nil hr).elim, hd.below h3 hd.1, h3⟩
  simp only [List.mem_cons, List.not_mem_nil, or_false] at hr
  subst hr
  exact heap_alloc_new w _
/-- What any bytes are read as. -/
def eb (P : List Int) : Fe.E := if P.length = 32 then Fe.rd (Bt.low P) else Fe.z
def nbx (P : List Int) : Int := if P.length = 32 then nb P % Fe.P else 0
theorem eb_ok (P : List Int) : Fe.Ok (eb P) := by
  unfold eb; split
  · exact Fe.rd_ok _
  · exact Fe.z_ok
theorem eb_val (P : List Int) : Fe.val (eb P) % Fe.P = nbx P := by
  unfold eb nbx; split
  · exact (rd_re P).eq
  · rfl
theorem read_all (w : World) (a : Option Addr) (c : Nat) (P : List Int) (h : Slc w (.slice a P.length c) P) : Calls Tryd.prog 47 #[.slice a P.length c] w fun e w' => e = .returned (.agg (ec (eb P))) ∧ Below w.heap.size w w' := by
  unfold eb
  by_cases hl : P.length = 32
  · rw [if_pos hl]
    have := read_32 w a c P hl (by rw [hl] at h; exact h)
    rwa [hl]
  · rw [if_neg hl]
    exact read_none w a P.length c hl
theorem of_all (w : World) (a : Option Addr) (c : Nat) (P : List Int) (h : Slc w (.slice a P.length c) P) : Calls Tryd.prog 66 #[.slice a P.length c] w fun e w' => ∃ v, e = .returned v ∧ (Grow.nat (nbx P)).meets v w' ∧ Below w.heap.size w w' := by
  unfold nbx
  by_cases hl : P.length = 32
  · rw [if_pos hl]
    have := of_32 w a c P hl (by rw [hl] at h; exact h)
    rw [hl]
    refine this.mono ?_
    rintro e w' ⟨v, l, rfl, h1, h2, h3, h4, hb⟩
    exact ⟨v, rfl, ⟨l, h1, h2, h3, Nat.le_trans h4 (by decide)⟩, hb⟩
  · rw [if_neg hl]
    refine (of_none w a P.length c hl).mono ?_
    rintro e w' ⟨rfl, hb⟩
    exact ⟨_, rfl, ⟨[], num_nil _, rfl, fun h => absurd h (by decide), by decide⟩, hb⟩

end Go.Proofs.YtiinmdleechcgaaDoor
namespace Go.Proofs.YtiinmdleechcgaaDoor
open Go.RowKit

theorem pow_bit {x : Int} {E j : Nat} (b : Bool) (hb : E / 2 ^ j % 2 = if b then 1 else 0) {o : Int} (ho : o = x ^ (E / 2 ^ (j + 1)) % Fe.P) : (if b then (o * o % Fe.P) * x % Fe.P else o * o % Fe.P) = x ^ (E / 2 ^ j) % Fe.P := by
  have e : E / 2 ^ j = E / 2 ^ (j + 1) + E / 2 ^ (j + 1) + (if b then 1 else 0) := by
    rw [← hb, Nat.pow_succ, ← Nat.div_div_eq_div_mul]; omega
  rw [e]
  cases b with
  | false =>
    simp only [Bool.false_eq_true, if_false, Nat.add_zero]
    rw [Int.pow_add, ho, ← Int.mul_emod]
  | true =>
    simp only [if_true]
    rw [Int.pow_succ, Int.pow_add, ho, ← Int.mul_emod, Int.mul_emod (_ % Fe.P) x, Int.emod_emod, ← Int.mul_emod]
theorem one_num (w : World) : Num (w.alloc (.cells #[.int .u32 1] 61)) (.slice (some ⟨w.heap.size, 0, none⟩) 1 1) [1] := num_blk (l := [1]) (heap_alloc_new w _) rfl (by intro x hx; rw [List.mem_singleton] at hx; rw [hx]; unfold W32; decide)
theorem two_num (w : World) : Num (w.alloc (.cells #[.int .u32 2] 61)) (.slice (some ⟨w.heap.size, 0, none⟩) 1 1) [2] := num_blk (l := [2]) (heap_alloc_new w _) rfl (by intro x hx; rw [List.mem_singleton] at hx; rw [hx]; unfold W32; decide)

set_option maxRecDepth 100000 in
set_option maxHeartbeats 1000000 in
theorem rpow_any (w : World) (va vb : Value) (a b : List Int) (ha : Num w va a) (hb : Num w vb b) (hla : a.length ≤ 20000) (hlb : b.length ≤ 20000) :
    Calls Tryd.prog 60 #[va, vb] w fun e w' => ∃ v' l, e = .returned v' ∧ Num w' v' l ∧ Nt.val l = Nt.val a ^ (Nt.val b).toNat % Fe.P ∧ Nt.Neat l ∧ l.length ≤ 8 ∧ Below w.heap.size w w' := by
  have hwb : Nt.Ws b := by obtain ⟨_, _, _, _, h, _⟩ := hb; exact h
  obtain ⟨E, hE⟩ := Int.eq_ofNat_of_zero_le (Nt.val_nonneg hwb)
  have HA := Lib.hid ha
  have HB := Lib.hid hb
  have HW := Lib.hid hwb
  have HE := Lib.hid hE
  have HT : Hid ((Nt.val b).toNat = E) := by show _ = _; rw [hE]; rfl
  have B1 : Hid (Below w.heap.size w (w.alloc (.cells #[.int .u32 1] 61))) := (Below.refl _ _).alloc (Nat.le_refl _) _
  have HLEN := Lib.hid (len_any _ vb b (hb.below B1.out (Nat.le_refl _)) (by omega))
  have HO := Lib.hid (one_num w)
  clear ha hb hwb hE
  go_enter Tryd.func60, Tryd.ntmps60
  go_wp2_with (go_at_call 36; refine HLEN.out.mono ?_; rintro e w1 ⟨m, rfl, h1, h2, h3, rfl⟩; have HM := Lib.hid h1; have hm3 : (m : Int) ≤ 640000 := (by omega); clear h1 h2 h3)
  generalize w.alloc (.cells #[.int .u32 1] 61) = w2 at *
  go_loopw [5, 6] (fun v i wr => ∃ (j : Nat) (l : List Int), j ≤ m ∧ i = .int .i64 ((j : Int) - 1) ∧ Hid (Num wr v l) ∧ Hid (Nt.val l = Nt.val a ^ (E / 2 ^ j) % Fe.P) ∧ Hid (Nt.Neat l) ∧ l.length ≤ 8 ∧ Hid (Below w.heap.size w wr)) (fun _ i _ => (intOf i + 1).toNat)
  case atStart =>
    refine ⟨m, [1], Nat.le_refl _, rfl, HO, ?_, ?_, by decide, B1⟩
    · have h4 : E < 2 ^ m := by
        have := HM.out
        rw [HE.out] at this
        exact_mod_cast this
      show _ = _
      rw [Nat.div_eq_of_lt h4, Int.pow_zero]
      decide
    · intro _; decide
  case round =>
    clear HO B1 HLEN
    obtain ⟨j, l, hj, rfl, HL, HV, HN, hl8, BW⟩ := hrel
    cases j with
    | zero =>
      go_wp2
      go_ret
      refine ⟨_, l, rfl, HL.out, ?_, HN.out, hl8, BW.out⟩
      rw [HV.out, HT.out, Nat.pow_zero, Nat.div_one]
    | succ j =>
      have hbit : Nt.bit b j = ((E / 2 ^ j % 2 : Nat) : Int) := by
        rw [Nt.bit_val HW.out, HE.out]
        simp
      have hj1 : (((j + 1 : Nat) : Int) - 1) = (j : Int) := by omega
      rw [hj1]
      clear hj1
      have HBT : Hid (∀ wq, Below w.heap.size w wq → Calls Tryd.prog 33 #[vb, .int .i64 (j : Int)] wq fun e w' => e = .returned (.int .u32 ((E / 2 ^ j % 2 : Nat) : Int)) ∧ w' = wq) := by
        intro wq hq
        have := bit_any wq vb b j (HB.out.below hq (Nat.le_refl _)) (by omega) (by omega)
        rwa [hbit] at this
      by_cases hb1 : E / 2 ^ j % 2 = 1
      · have HPB := Lib.hid (pow_bit (j := j) true hb1 HV.out)
        rw [hb1] at HBT
        clear hb1 hbit
        go_wp2_with (first
          | (go_at_call 32; refine (rmul_any _ _ _ l1 a HL1.out (HA.out.below HB2.out (Nat.le_refl _)) (by omega) hla).mono ?_; rintro e w5 ⟨v5, l5, rfl, hp1, hp2, hp3, hp4, hb⟩; have HQ1 := Lib.hid hp1; have HQ2 := Lib.hid hp2; have HQ3 := Lib.hid hp3; have hq4 := hp4; have HB5 := Lib.hid (HB2.out.trans (hb.mono HB2.out.size)); clear hp1 hp2 hp3 hp4 hb)
          | (go_at_call 33; refine (HBT.out _ HB2.out).mono ?_; rintro e w4 ⟨rfl, rfl⟩)
          | (go_at_call 32; refine (rmul_any _ _ _ l l HL.out HL.out (by omega) (by omega)).mono ?_; rintro e w3 ⟨v3, l1, rfl, hp1, hp2, hp3, hp4, hb⟩; have HL1 := Lib.hid hp1; have HL2 := Lib.hid hp2; have HL3 := Lib.hid hp3; have hl4 := hp4; have HB2 := Lib.hid (BW.out.trans (hb.mono BW.out.size)); clear hp1 hp2 hp3 hp4 hb))
        have HFV : Hid (Nt.val l5 = Nt.val a ^ (E / 2 ^ j) % Fe.P) := by
          have h := HPB.out
          simp only [if_true] at h
          show _ = _
          rw [← h, HQ2.out, HL2.out]
        go_roundw
        case rel => exact ⟨j, l5, by omega, by go_num, HQ1, HFV, HQ3, hq4, HB5⟩
        case measure => simp [intOf]
      · have hb0 : E / 2 ^ j % 2 = 0 := by omega
        have HPB := Lib.hid (pow_bit (j := j) false hb0 HV.out)
        rw [hb0] at HBT
        clear hb0 hb1 hbit
        go_wp2_with (first
          | (go_at_call 33; refine (HBT.out _ HB2.out).mono ?_; rintro e w4 ⟨rfl, rfl⟩)
          | (go_at_call 32; refine (rmul_any _ _ _ l l HL.out HL.out (by omega) (by omega)).mono ?_; rintro e w3 ⟨v3, l1, rfl, hp1, hp2, hp3, hp4, hb⟩; have HL1 := Lib.hid hp1; have HL2 := Lib.hid hp2; have HL3 := Lib.hid hp3; have hl4 := hp4; have HB2 := Lib.hid (BW.out.trans (hb.mono BW.out.size)); clear hp1 hp2 hp3 hp4 hb))
        have HFV : Hid (Nt.val l1 = Nt.val a ^ (E / 2 ^ j) % Fe.P) := by
          have h := HPB.out
          simp only [Bool.false_eq_true, if_false] at h
          show _ = _
          rw [← h, HL2.out]
        go_roundw
        case rel => exact ⟨j, l1, by omega, by go_num, HL1, HFV, HL3, hl4, HB2⟩
        case measure => simp [intOf]

set_option maxRecDepth 100000 in
set_option maxHeartbeats 400000 in
theorem rinv_any (w : World) (va : Value) (a : List Int) (ha : Num w va a) (hla : a.length ≤ 20000) :
    Calls Tryd.prog 31 #[va] w fun e w' => ∃ v' l, e = .returned v' ∧ Num w' v' l ∧ Nt.val l = Nt.val a ^ (Nm.PN - 2) % Fe.P ∧ Nt.Neat l ∧ l.length ≤ 8 ∧ Below w.heap.size w w' := by
  have HA := Lib.hid ha
  clear ha
  have hp2 : (Nt.val Nt.prime - Nt.val [2]).toNat = Nm.PN - 2 := by decide
  go_enter Tryd.func31, Tryd.ntmps31
  go_wp2_with (first
    | (go_at_call 60; refine (rpow_any _ _ _ a l3 (HA.out.below HB3.out (Nat.le_refl _)) HR1.out hla (by have := HR4.out; omega)).mono ?_; rintro e w4 ⟨v4, l4, rfl, hq1, hq2, hq3, hq4, hb⟩; have HQ1 := Lib.hid hq1; have HQ2 := Lib.hid hq2; have HQ3 := Lib.hid hq3; have HQ4 := Lib.hid hq4; have HB4 := Lib.hid (HB3.out.trans (hb.mono HB3.out.size)); clear hq1 hq2 hq3 hq4 hb)
    | (go_at_call 40; refine (lessn_any _ _ _ Nt.prime [2] (HP1.out.below ((Below.refl _ _).alloc (Nat.le_refl _) _) (Nat.le_refl _)) (two_num _) (by decide) (by decide)).mono ?_; rintro e w3 ⟨v3, l3, rfl, hq1, hq2, hq3, hq4, hb⟩; have HR1 := Lib.hid hq1; have HR2 := Lib.hid hq2; have HR4 : Hid (l3.length ≤ 8) := hq4; have HB3 := Lib.hid ((HB1.out.alloc HB1.out.size _).trans (hb.mono (HB1.out.alloc HB1.out.size _).size)); clear hq1 hq2 hq3 hq4 hb)
    | (go_at_call 61; refine (p_any _).mono ?_; rintro e w1 ⟨v1, rfl, hq1, hb⟩; have HP1 := Lib.hid hq1; have HB1 := Lib.hid hb; clear hq1 hb))
  go_ret
  exact ⟨_, _, rfl, HQ1.out, by rw [HQ2.out, HR2.out, hp2], HQ3.out, HQ4.out, HB4.out⟩
end Go.Proofs.YtiinmdleechcgaaDoor
namespace Go.Proofs.YtiinmdleechcgaaDoor
open Go.RowKit
namespace Grow
theorem h2_slice23 {m : Nat} {ops : Array Oper} {Q : Exit → Act → World → Prop} {specs : Nat → Spec} {a0 : Act} {w0 : World} {i : Nat} {o : Oper} (hr : Runs2 ops specs a0 o) (t g : Nat) (ho : o.op = .slice 44 (.tmp t) none none none) (hf : free2 ops m t = true) (hv : a0.eval (.tmp t) = .pointer (some ⟨g, 0, none⟩)) (hs : specs i = .is (.slice (some ⟨g, 0, none⟩) 32 32)) : Hop2 Tryd.prog m ops specs Q a0 w0 i o :=
  h2_val hr fun a w hk => by
    have h1 : a.eval (.tmp t) = .pointer (some ⟨g, 0, none⟩) := (hk.rest t hf).trans hv
    have hu := Tryd.underlying44
    refine ⟨.slice (some ⟨g, 0, none⟩) 32 32, w, ?_, by rw [hs]; rfl, Below.refl _ _⟩
    unfold execOp
    rw [ho]
    simp only [h1]
    go_simp
theorem c_rpow {w : World} {u v : Value} {N : Int} {M : Nat} (hu : (nat N).meets u w) (hv : (nat (M : Int)).meets v w) : Calls Tryd.prog 60 #[u, v] w fun e w' => ∃ v, e = .returned v ∧ (nat (N ^ M % Fe.P)).meets v w' ∧ Below w.heap.size w w' := by
  obtain ⟨l, h1, h2, h3, h4⟩ := hu
  obtain ⟨k, k1, k2, k3, k4⟩ := hv
  refine (rpow_any w u v l k h1 k1 h4 k4).mono ?_
  rintro e w' ⟨v', r, rfl, r1, r2, r3, r4, hb⟩
  exact ⟨_, rfl, ⟨r, r1, by rw [r2, h2, k2]; rfl, r3, Nat.le_trans r4 (by decide)⟩, hb⟩
theorem c_rinv {w : World} {u : Value} {N : Int} (hu : (nat N).meets u w) : Calls Tryd.prog 31 #[u] w fun e w' => ∃ v, e = .returned v ∧ (nat (N ^ (Nm.PN - 2) % Fe.P)).meets v w' ∧ Below w.heap.size w w' := by
  obtain ⟨l, h1, h2, h3, h4⟩ := hu
  refine (rinv_any w u l h1 h4).mono ?_
  rintro e w' ⟨v', r, rfl, r1, r2, r3, r4, hb⟩
  exact ⟨_, rfl, ⟨r, r1, by rw [r2, h2], r3, Nat.le_trans r4 (by decide)⟩, hb⟩
end Grow
theorem pow_mod_P (x : Int) (k : Nat) : (x % Fe.P) ^ k % Fe.P = x ^ k % Fe.P := Nm.pow_mod_congr (Int.emod_emod _ _) k
/-- Raised to -1, and times that. -/
theorem inv_ok {x y : Fe.E} {X : Int} (h0 : 0 ≤ X) (hx : Fe.Re x X) (hy : Fe.Re y (X ^ (Nm.PN - 2))) : Fe.val (Fe.mul x y) % Fe.P = if X % Fe.P = 0 then 0 else 1 := by
  rw [(hx.mul hy).eq]
  rw [Fe.P_PN]
  split
  · next h => exact Nm.inv_zero h _
  · next h => exact Nm.inv_one h0 h
theorem len_val {l : List Int} (hw : Nt.Ws l) (hn : Nt.Neat l) : l.length = 0 ↔ Nt.val l = 0 := by
  constructor
  · intro h
    have h0 : l = [] := List.eq_nil_of_length_eq_zero h
    rw [h0]; rfl
  · intro h
    rcases Nat.eq_zero_or_pos l.length with h1 | h1
    · exact h1
    · have h2 := Nt.neat_le hn hw h1
      have h3 := Nt.pw_pos (l.length - 1)
      omega

end Go.Proofs.YtiinmdleechcgaaDoor
namespace Go.Proofs.YtiinmdleechcgaaDoor
open Go.RowKit

namespace Nt
theorem half_two (x y z : Int) : (x + B * (y + B * z)) / 2 % B = (x + y * 4294967296) / 2 % B := by
  unfold B; omega
theorem down1_more {a O : List Int} {k : Nat} {t : Int} (ha : Ws a) (hO : O.length = k) (ht : t = (a.getD k 0 + a.getD (k + 1) 0 * 4294967296) / 2 % B) (h : val O = val a / 2 % pw k) :
    val (O ++ [t]) = val a / 2 % pw (k + 1) := by
  have e : val [t] = t := by simp [val]
  have e2 : val a / 2 / pw k = val (a.drop k) / 2 := by
    rw [Int.ediv_ediv_of_nonneg (by decide), Int.mul_comm, ← Int.ediv_ediv_of_nonneg (Int.le_of_lt (pw_pos k)), val_high ha]
  rw [val_append, hO, e, h, ht, ← half_two _ _ (val (a.drop (k + 2))), ← drop_word, ← drop_word, ← e2, pw_succ, Int.mul_comm B, emod_two _ _ (pw_pos k)]
theorem down1_end {a O : List Int} {k : Nat} (ha : Ws a) (hk : a.length ≤ k) (h : val O = val a / 2 % pw k) : val O = val a / 2 := by
  rw [h]
  have h0 := val_nonneg ha
  exact Int.emod_eq_of_lt (Int.ediv_nonneg h0 (by decide)) (Int.lt_of_le_of_lt (Int.ediv_le_self _ h0) (Int.lt_of_lt_of_le (val_lt ha) (pw_le hk)))
end Nt

set_option maxRecDepth 100000 in
set_option maxHeartbeats 1000000 in
theorem down1_any (w : World) (va : Value) (a : List Int) (ha : Num w va a) (hla : a.length ≤ 100000) :
    Calls Tryd.prog 83 #[va, .int .i64 1] w fun e w' => ∃ v' l, e = .returned v' ∧ Num w' v' l ∧ Nt.val l = Nt.val a / 2 ∧ Nt.Neat l ∧ l.length ≤ a.length ∧ Below w.heap.size w w' := by
  obtain ⟨aa, ca, rfl⟩ := num_form ha
  have HA := Lib.hid ha
  have hwa : Hid (Nt.Ws a) := by obtain ⟨_, _, _, _, h, _⟩ := ha; exact h
  clear ha
  go_enter Tryd.func83, Tryd.ntmps83
  go_wp2_with fail
  go_loopw [5, 6] (fun v i wr => ∃ (k : Nat) (O : List Int), k ≤ a.length ∧ i = .int .i64 (k : Nat) ∧ O.length = k ∧ Hid (Nt.Ws O) ∧ Hid (Mine .u32 61 w wr v O) ∧ Hid (Nt.val O = Nt.val a / 2 % Nt.pw k)) (fun _ i _ => a.length - (intOf i).toNat)
  case atStart => exact ⟨0, [], Nat.zero_le _, rfl, rfl, Nt.Ws.nil, Mine.nil _ _ _, by show _ = _; rw [Nt.pw_zero]; simp [Nt.val, Int.emod_one]⟩
  case round =>
    obtain ⟨k, O, hk, rfl, hO, WO, MO, VO⟩ := hrel
    obtain ⟨a5, c5, rfl⟩ := MO.out.form
    rw [hO]
    have hda : 0 ≤ a.getD k 0 ∧ a.getD k 0 ≤ 4294967295 := hwa.out.getD _
    have hdb : 0 ≤ a.getD (k + 1) 0 ∧ a.getD (k + 1) 0 ≤ 4294967295 := hwa.out.getD _
    have MO2 : Hid (Mine .u32 61 w wr (.slice a5 k c5) O) := by have := MO.out; rw [hO] at this; exact this
    have HOL := Lib.hid hO
    by_cases hla2 : k < a.length
    · have hmore := fun t ht => Nt.down1_more (t := t) hwa.out hO ht VO.out
      unfold Nt.B at hmore
      have HMORE := Lib.hid hmore
      clear hmore hO MO VO
      obtain ⟨da0, da1⟩ := hda
      obtain ⟨db0, db1⟩ := hdb
      by_cases hlb2 : k + 1 < a.length
      · obtain ⟨b1, o1, he, hb1, hc1, hcap1⟩ := num_cell HA.out _ hla2
        obtain ⟨b2, o2, he2, hb2, hc2, hcap2⟩ := num_cell HA.out _ hlb2
        obtain rfl := he
        injection he2 with he3
        injection he3 with he4 he5
        subst he4
        subst he5
        have hc1' := (MO2.out.2.cell (p := ⟨b1, o1 + k, none⟩) hb1).trans hc1
        have hc2' := (MO2.out.2.cell (p := ⟨b1, o1 + (k + 1), none⟩) hb2).trans hc2
        clear hc1 hc2 HA
        have hor := Nt.or_words da0 da1 db0 db1
        generalize a.getD k 0 = xa at *
        generalize a.getD (k + 1) 0 = xb at *
        have hws : Hid (Nt.Ws (O ++ [(xa + xb * 4294967296) / 2 % 4294967296])) := WO.out.snoc (x := (xa + xb * 4294967296) / 2 % 4294967296) (by unfold W32; omega)
        have hol : Hid ((O ++ [(xa + xb * 4294967296) / 2 % 4294967296]).length = k + 1) := by show _ = _; rw [List.length_append, HOL.out]; rfl
        have HV := Lib.hid (HMORE.out _ rfl)
        clear HMORE WO
        go_wp2_with ((with_reducible refine append_word (o := ⟨some 42, _, _, _, _, _⟩) rfl (.tmp 35) (.tmp 41) rfl w (.slice a5 k c5) O rfl ?_ ((xa + xb * 4294967296) / 2 % 4294967296) rfl ?_ ?_); exact MO2.out; exact (by have := HOL.out; omega); intro u6 w5 hp2; have HP3 := Lib.hid hp2; clear hp2)
        go_roundw
        case rel => exact ⟨k + 1, O ++ [(xa + xb * 4294967296) / 2 % 4294967296], by omega, by go_num, hol.out, hws, HP3, HV⟩
        case measure => simp [intOf]; omega
      · obtain ⟨b1, o1, rfl, hb1, hc1, hcap1⟩ := num_cell HA.out _ hla2
        have hc1' := (MO2.out.2.cell (p := ⟨b1, o1 + k, none⟩) hb1).trans hc1
        have hz : a.getD (k + 1) 0 = 0 := by simp [List.getD_eq_getElem?_getD, List.getElem?_eq_none (show a.length ≤ k + 1 by omega)]
        rw [hz, Int.zero_mul, Int.add_zero] at HMORE
        clear hc1 HA hz db0 db1
        generalize a.getD k 0 = xa at *
        have hws : Hid (Nt.Ws (O ++ [xa / 2])) := WO.out.snoc (x := xa / 2) (by unfold W32; omega)
        have hol : Hid ((O ++ [xa / 2]).length = k + 1) := by show _ = _; rw [List.length_append, HOL.out]; rfl
        have HV := Lib.hid (HMORE.out (xa / 2) (by omega))
        clear HMORE WO
        go_wp2_with ((with_reducible refine append_word (o := ⟨some 42, _, _, _, _, _⟩) rfl (.tmp 35) (.tmp 41) rfl w (.slice a5 k c5) O rfl ?_ (xa / 2) rfl ?_ ?_); exact MO2.out; exact (by have := HOL.out; omega); intro u6 w5 hp2; have HP3 := Lib.hid hp2; clear hp2)
        go_roundw
        case rel => exact ⟨k + 1, O ++ [xa / 2], by omega, by go_num, hol.out, hws, HP3, HV⟩
        case measure => simp [intOf]; omega
    · have HVC := Lib.hid (Nt.down1_end hwa.out (show a.length ≤ k by omega) VO.out)
      have HLC : Hid (O.length ≤ 1000000) := by show _ ≤ _; omega
      clear VO hda hdb HA hO
      go_wp2_with (go_at_call 41; refine (trim_any _ _ _ (MO2.out.num WO.out) HLC.out).mono ?_; rintro e w1 ⟨v1, rfl, h2, h3⟩; have H2 := Lib.hid h2; have H3 := Lib.hid h3; clear h2 h3)
      go_ret
      refine ⟨_, _, rfl, H2.out, ?_, Nt.neat_trim _, ?_, MO2.out.2.trans (H3.out.mono MO2.out.2.size)⟩
      · rw [Nt.val_trim]; exact HVC.out
      · rw [Nt.length_trim]
        refine Nat.le_trans (Nt.cut_le _ _) ?_
        rw [HOL.out]
        exact hk

set_option maxRecDepth 100000 in
set_option maxHeartbeats 1000000 in
theorem rsquare_any (w : World) (va : Value) (a : List Int) (ha : Num w va a) (hn : Nt.Neat a) (hla : a.length ≤ 20000) :
    Calls Tryd.prog 67 #[va] w fun e w' => e = .returned (.bool (decide (Nt.val a = 0 ∨ Nt.val a ^ ((Nm.PN - 1) / 2) % Fe.P = 1))) ∧ Below w.heap.size w w' := by
  obtain ⟨aa, ca, rfl⟩ := num_form ha
  have hwa : Nt.Ws a := by obtain ⟨_, _, _, _, h, _⟩ := ha; exact h
  have hlv := len_val hwa hn
  have HA := Lib.hid ha
  clear ha
  by_cases h0 : a.length = 0
  · have hv : Nt.val a = 0 := hlv.1 h0
    have HV : Hid (decide (Nt.val a = 0 ∨ Nt.val a ^ ((Nm.PN - 1) / 2) % Fe.P = 1) = true) := decide_eq_true (Or.inl hv)
    rw [h0] at *
    clear hlv h0 hv
    go_enter Tryd.func67, Tryd.ntmps67
    go_wp2
    go_ret
    exact ⟨congrArg (fun b => Ending.returned (.bool b)) HV.out.symm, Below.refl _ _⟩
  · have hv : Nt.val a ≠ 0 := fun h => h0 (hlv.2 h)
    have HV := Lib.hid hv
    have hne : ((a.length : Int) == 0) = false := by
      have : ¬ ((a.length : Int) = 0) := by omega
      simpa using this
    have hph : (Nt.val Nt.prime / 2).toNat = (Nm.PN - 1) / 2 := by decide
    have HPH := Lib.hid hph
    clear hlv h0 hv hph
    go_enter Tryd.func67, Tryd.ntmps67
    go_wp2_with (first
      | (go_at_call 39; refine (cmp_any _ _ _ l4 [1] (HQ1.out.below ((Below.refl _ _).alloc (Nat.le_refl _) _) (Nat.le_refl _)) (one_num _) (Nat.le_trans HQ4.out (by decide)) (by decide)).mono ?_; rintro e w5 ⟨r, rfl, hr1, hr2, hb⟩; have HR : Hid (r = 0 ↔ Nt.val l4 = 1) := (by have e1 : Nt.val [1] = 1 := (by decide); rw [e1] at hr1 hr2; show _ ↔ _; omega); have HB5 := Lib.hid ((HB4.out.alloc HB4.out.size _).trans (hb.mono (HB4.out.alloc HB4.out.size _).size)); clear hr1 hr2 hb)
      | (go_at_call 60; refine (rpow_any _ _ _ a l3 (HA.out.below HB3.out (Nat.le_refl _)) HR1.out hla (by have := HR4.out; omega)).mono ?_; rintro e w4 ⟨v4, l4, rfl, hq1, hq2, hq3, hq4, hb⟩; have HQ1 := Lib.hid hq1; have HQ2 := Lib.hid hq2; have HQ4 := Lib.hid hq4; have HB4 := Lib.hid (HB3.out.trans (hb.mono HB3.out.size)); clear hq1 hq2 hq3 hq4 hb)
      | (go_at_call 83; refine (down1_any _ _ Nt.prime HP1.out (by decide)).mono ?_; rintro e w3 ⟨v3, l3, rfl, hq1, hq2, hq3, hq4, hb⟩; have HR1 := Lib.hid hq1; have HR2 := Lib.hid hq2; have HR4 : Hid (l3.length ≤ 8) := hq4; have HB3 := Lib.hid (HB1.out.trans (hb.mono HB1.out.size)); clear hq1 hq2 hq3 hq4 hb)
      | (go_at_call 61; refine (p_any _).mono ?_; rintro e w1 ⟨v1, rfl, hq1, hb⟩; have HP1 := Lib.hid hq1; have HB1 := Lib.hid hb; clear hq1 hb))
    go_ret
    refine ⟨congrArg (fun b => Ending.returned (.bool b)) ?_, HB5.out⟩
    have h4 := HQ2.out
    rw [HR2.out, HPH.out] at h4
    show (r == 0) = _
    rw [show (r == 0) = decide (r = 0) from rfl]
    refine decide_eq_decide.2 ?_
    rw [HR.out, h4]
    exact ⟨Or.inr, fun h => h.resolve_left HV.out⟩
end Go.Proofs.YtiinmdleechcgaaDoor
namespace Go.Proofs.YtiinmdleechcgaaDoor
open Go.RowKit
namespace Grow
section
variable {P : Program} {m : Nat} {ops : Array Oper} {Q : Exit → Act → World → Prop} {specs : Nat → Spec} {a0 : Act} {w0 : World}
theorem Inv2.step3 {listed : Array Bool} {a : Act} {w : World} (hm : m = ops.size) (hf : fits ops a0.tmps.size = true) (h : Inv2 m ops specs a0 w0 listed a w) {i : Nat} {o : Oper} (hi : ops[i]? = some o) {v : Value} {w' : World}
    (hv : (specs i).meets v w') (hb : Below w.heap.size w w') : Inv2 m ops specs a0 w0 (listed.setIfInBounds i true) (a.put o.dst v) w' := by
  obtain ⟨d, hd, hdn, hne, -⟩ := fits_dst hf hi
  have hlt : i < ops.size := (Array.getElem?_eq_some_iff.1 hi).1
  have hdi : dstOf ops i = some d := by simp [dstOf, hi, hd]
  rw [hd]
  refine ⟨by simp [h.lsize], h.below.trans (hb.mono h.below.size), by simp [Act.put, h.tsize], ?_, ?_, by simp [Act.put, h.defers], ?_⟩
  · intro j e hjm hj hl
    by_cases hji : j = i
    · subst hji
      obtain rfl : d = e := Option.some.inj (hdi.symm.trans hj)
      rw [eval_put_eq (by rw [h.tsize]; exact hdn)]
      exact hv
    · have hde : d ≠ e := fun hh => hne j (by omega) hji (hh ▸ hj)
      rw [eval_put_ne hde]
      refine ((specs j).keeps (h.known j e hjm hj ?_) hb)
      simpa [Array.getElem?_setIfInBounds_ne (Ne.symm hji)] using hl
  · intro t ht
    have : d ≠ t := by
      intro hh
      subst hh
      unfold free2 at ht
      rw [List.all_eq_true] at ht
      have := ht i (List.mem_range.2 (by omega))
      rw [hdi] at this
      simp at this
    rw [eval_put_ne this]
    exact h.rest t ht
  · simpa [Array.getElem?_setIfInBounds_ne (show i ≠ m by omega)] using h.last

theorem wpAny_all3 (hm : m = ops.size) (hf : fits ops a0.tmps.size = true) (hops : Hops2 P m ops specs Q a0 w0 0 ops.toList)
    (hend : ∀ a w, Below w0.heap.size w0 w → a.tmps.size = a0.tmps.size → (∀ i d, i < m → dstOf ops i = some d → (specs i).meets (a.eval (.tmp d)) w) → a.defers = a0.defers → (∀ t, free2 ops m t = true → a.eval (.tmp t) = a0.eval (.tmp t)) → Q .normal a w) :
    ∀ (fuel : Nat) (listed : Array Bool) (a : Act) (w : World), listed.toList.count false ≤ fuel → Inv2 m ops specs a0 w0 listed a w → wpAny P .any ops Q fuel listed a w := by
  have done : ∀ (listed : Array Bool) (a : Act) (w : World), Inv2 m ops specs a0 w0 listed a w → Region.ready .any ops listed = [] → Q .normal a w := by
    intro listed a w h hr
    have hall : ∀ n i, i < n → i < ops.size → listed.getD i false = true := by
      intro n
      induction n with
      | zero => intro i hi; omega
      | succ n ih =>
        intro i hi hlt
        by_cases hin : i < n
        · exact ih i hin hlt
        · obtain ⟨o, ho⟩ : ∃ o, ops[i]? = some o := ⟨_, Array.getElem?_eq_getElem hlt⟩
          obtain ⟨_, _, _, _, haf⟩ := fits_dst hf ho
          cases hl : listed.getD i false with
          | true => rfl
          | false =>
            have hm : i ∈ Region.ready .any ops listed := by
              refine mem_ready.2 ⟨?_, o, ho, fun e he _ => ih e.on (by have := haf e he; omega) (by have := haf e he; omega)⟩
              have hs : i < listed.size := by rw [h.lsize]; exact hlt
              simpa [Array.getElem?_eq_getElem hs] using hl
            rw [hr] at hm; cases hm
    exact hend a w h.below h.tsize (fun i d hi hd => h.known i d hi hd (hall (i + 1) i (Nat.lt_succ_self _) (by omega))) h.defers h.rest
  intro fuel
  induction fuel with
  | zero =>
    intro listed a w hc h
    have hr : Region.ready .any ops listed = [] := by
      cases hr : Region.ready .any ops listed with
      | nil => rfl
      | cons j r =>
        have hj : j ∈ Region.ready .any ops listed := by rw [hr]; exact List.mem_cons_self
        obtain ⟨h0, o, ho, _⟩ := mem_ready.1 hj
        have hs : j < listed.size := by rw [h.lsize]; exact (Array.getElem?_eq_some_iff.1 ho).1
        have hm : false ∈ listed.toList := by
          rw [Array.mem_toList_iff]
          refine Array.mem_of_getElem? (i := j) ?_
          rw [Array.getElem?_eq_getElem hs]
          simpa [Array.getElem?_eq_getElem hs] using h0
        have := List.count_pos_iff.2 hm
        omega
    exact ⟨hr, done listed a w h hr⟩
  | succ fuel ih =>
    intro listed a w hc h
    refine ⟨done listed a w h, fun i hi => ?_⟩
    obtain ⟨h0, o, ho, hall⟩ := mem_ready.1 hi
    have hlt : i < ops.size := (Array.getElem?_eq_some_iff.1 ho).1
    have hs : i < listed.size := by rw [h.lsize]; exact hlt
    have hl0 : listed[i] = false := by simpa [Array.getElem?_eq_getElem hs] using h0
    have hcount : (listed.setIfInBounds i true).toList.count false ≤ fuel := by
      have hm : false ∈ listed.toList := by
        rw [Array.mem_toList_iff]
        exact Array.mem_of_getElem? (i := i) (by rw [Array.getElem?_eq_getElem hs, hl0])
      have hp := List.count_pos_iff.2 hm
      rw [Array.toList_setIfInBounds, List.count_set (by simpa using hs)]
      rw [if_pos (by simp [hl0]), if_neg (by simp)]
      omega
    have hhop := hops.get i o (by simpa using ho)
    rw [Nat.zero_add] at hhop
    obtain ⟨_, _, _, _, haf⟩ := fits_dst hf ho
    rcases hhop a w h.below h.tsize (fun j d hd => by
      unfold deps at hd
      simp only [Bool.and_eq_true, beq_iff_eq] at hd
      obtain ⟨hd1, hd2⟩ := hd
      rw [Array.any_eq_true'] at hd1
      obtain ⟨e, he, heb⟩ := hd1
      simp only [Bool.and_eq_true, beq_iff_eq] at heb
      obtain ⟨hb, rfl⟩ := heb
      exact h.known _ d (by have := haf e he; omega) hd2 (hall e he hb)) h.rest with ⟨hw, hwp⟩ | ⟨hw, hmt⟩
    · unfold wpOp
      simp only [ho, hw, if_true]
      refine Or.inl (Oper.wp_mono ?_ hwp)
      rintro a' w' ⟨v, rfl, hv, hb⟩
      exact ih _ _ _ hcount (h.step3 hm hf ho hv hb)
    · unfold wpOp
      simp only [ho, hw, Bool.false_eq_true, if_false]
      exact ih _ _ _ hcount (h.step3 hm hf ho hmt (Below.refl _ _))

theorem region_all {id : Nat} (hmo : P.follows .mixedOrders = true) (m : Nat) (specs : Nat → Spec) (hm : m = ops.size) (hf : fits ops a0.tmps.size = true) (hops : Hops2 P m ops specs Q a0 w0 0 ops.toList)
    (hend : ∀ a w, Below w0.heap.size w0 w → a.tmps.size = a0.tmps.size → (∀ i d, i < m → dstOf ops i = some d → (specs i).meets (a.eval (.tmp d)) w) → a.defers = a0.defers → (∀ t, free2 ops m t = true → a.eval (.tmp t) = a0.eval (.tmp t)) → Q .normal a w) :
    (Code.region id ops true).wp P Q a0 w0 := by
  refine wp_region_any hmo (wpAny_all3 hm hf hops hend _ _ _ _ ?_ ?_)
  · simp
  · refine ⟨by simp, ⟨rfl, rfl, rfl, Nat.le_refl _, fun _ _ => rfl⟩, rfl, ?_, fun _ _ => rfl, rfl, ?_⟩
    · intro i d _ _ hl
      simp [Array.getElem?_replicate] at hl
      split at hl <;> simp at hl
    · simp [hm]
end
end Grow
end Go.Proofs.YtiinmdleechcgaaDoor
namespace Go.Proofs.YtiinmdleechcgaaDoor
open Go.RowKit

theorem results_row_tmp {fn : Func} {p u : Tmp} (h : fn.results = #[.cell p 49, .tmp u]) (tmps : Array Value) (w : World) (g : Nat) (y : Fe.E) (hp : tmps.getD p undef = .pointer (some ⟨g, 0, none⟩)) (hg : w.heap[g]? = some (.cells (ec y) 49 (0, 0))) :
    (results fn tmps).run Tryd.prog w = .ok (.tuple #[.agg (ec y), tmps.getD u undef]) w := by
  rw [results_cell_tmp h, hp]
  have := run_loadVar_row (P := Tryd.prog) w g 49 49 (ec y) (0, 0) _ hg Tryd.underlying49 rfl i30
  simp [asAddr, this]
/-- What a root is: one whose square it is, or none. -/
def IsRoot (n : Int) (r : Fe.E) (ok : Bool) : Prop := Fe.Ok r ∧ (ok = true → Fe.val (Fe.mul r r) % Fe.P = n % Fe.P) ∧ ok = decide (n % Fe.P = 0 ∨ n ^ ((Nm.PN - 1) / 2) % Fe.P = 1)
theorem val_nonneg {x : Fe.E} (h : Fe.Ok x) : 0 ≤ Fe.val x := h.lt.1
theorem root_iff {n : Int} {b t : Fe.E} (hb : Fe.Re b (n ^ ((Nm.PN + 3) / 8))) (ht : Fe.Re t (2 ^ ((Nm.PN - 1) / 4))) :
    (Fe.val (Fe.mul b b) % Fe.P = n % Fe.P ∨ Fe.val (Fe.mul (Fe.mul b t) (Fe.mul b t)) % Fe.P = n % Fe.P) ↔ (n % Fe.P = 0 ∨ n ^ ((Nm.PN - 1) / 2) % Fe.P = 1) := by
  have h := Nm.roots (a := n) (b := Fe.val b) (t := Fe.val t) (val_nonneg hb.ok) (val_nonneg ht.ok) (by rw [← Fe.P_PN]; exact hb.eq) (by rw [← Fe.P_PN]; exact ht.eq)
  rw [← Fe.P_PN] at h
  have e1 := ((Fe.Re.self hb.ok).mul (Fe.Re.self hb.ok)).eq
  have e2 := (((Fe.Re.self hb.ok).mul (Fe.Re.self ht.ok)).mul ((Fe.Re.self hb.ok).mul (Fe.Re.self ht.ok))).eq
  rw [e1, e2]
  exact h
theorem turn_some : Fe.Re (Fe.rd (Nm.pm Nm.PN 255 2 ((Nm.PN - 1) / 4))) (2 ^ ((Nm.PN - 1) / 4)) := by
  refine ⟨Fe.rd_ok _, ?_⟩
  rw [Fe.rd_val]
  have e : Nm.pm Nm.PN 255 2 ((Nm.PN - 1) / 4) < 2 ^ 255 := by decide +kernel
  rw [Nat.mod_eq_of_lt e, Nm.pm_eq _ _ _ _ (by decide +kernel), Nm.two_cast, Fe.P_PN]
  rw [Int.natCast_emod, Int.emod_emod]
theorem below_of_heaps {B : Nat} {w3 w5 wn a b c d : World} (hB : B ≤ w3.heap.size) (h1 : Below B w3 w5) (h2 : Below w5.heap.size w5 wn) (h3 : Below wn.heap.size wn a) (h4 : Below a.heap.size a b) (h5 : Below b.heap.size b c) (h6 : Below c.heap.size c d) : Below B w3 d := by
  have g1 := h1.trans (h2.mono (Nat.le_trans hB h1.size))
  have g2 := g1.trans (h3.mono (Nat.le_trans hB g1.size))
  have g3 := g2.trans (h4.mono (Nat.le_trans hB g2.size))
  have g4 := g3.trans (h5.mono (Nat.le_trans hB g3.size))
  exact g4.trans (h6.mono (Nat.le_trans hB g4.size))
theorem St.pair {w : World} (hd : Dbl w) (x : Fe.E) : St w [(w.heap.size, x), (w.heap.size + 1, Fe.z)] [] [] ((w.alloc (.cells (ec x) 49)).alloc (.cells (ec Fe.z) 49)) := by
  have h3 : Below w.heap.size w ((w.alloc (.cells (ec x) 49)).alloc (.cells (ec Fe.z) 49)) := ((Below.refl _ _).alloc (Nat.le_refl _) _).alloc (by simp) _
  refine ⟨fun r hr => ?_, fun r hr => (List.not_mem_nil hr).elim, fun r hr => (List.not_mem_nil hr).elim, hd.below h3 hd.1, h3⟩
  simp only [List.mem_cons, List.not_mem_nil, or_false] at hr
  rcases hr with rfl | rfl
  · exact heap_alloc2_old w _ _
  · exact heap_alloc2_new w _ _

set_option maxRecDepth 100000 in
set_option maxHeartbeats 2000000 in
theorem root_any (w : World) (hd : Dbl w) (x : Fe.E) (n : Int) (hx : Fe.Re x n) :
    Calls Tryd.prog 73 #[.agg (ec x)] w fun e w' => ∃ r ok, e = .returned (.tuple #[.agg (ec r), .bool ok]) ∧ IsRoot n r ok ∧ Below w.heap.size w w' := by
  have S0 := Lib.hid (St.pair hd x)
  have HX := Lib.hid hx
  clear hd hx
  go_enter Tryd.func73, Tryd.ntmps73
  go_wp2_with fail
  change Code.wp _ _ _ _ ((w.alloc (.cells (ec x) 49)).alloc (.cells (ec Fe.z) 49))
  generalize (w.alloc (.cells (ec x) 49)).alloc (.cells (ec Fe.z) 49) = w3 at *
  refine Grow.region_tail (by kernel_rfl) 4 (fun i => List.getD (Grow.Spec.is (.agg (ec (x))) :: Grow.Spec.is (bv (ends 254 15)) :: Grow.elem (n ^ ((Nm.PN + 3) / 8)) :: Grow.newRow w3 :: []) i (Grow.Spec.is undef)) (by kernel_rfl) ⟨
    Grow.h2_row (Or.inl rfl) 1 (w.heap.size) 49 (ec (x)) _ rfl Tryd.underlying49 i30 rfl (by kernel_rfl) rfl (S0.out.rows (w.heap.size, x) (by simp)) rfl,
    Grow.h2_call2 (Or.inl rfl) 81 Grow.enter81 _ _ _ rfl (fun a wx hk => by refine (exponent_any wx 254 15).mono ?_; rintro e w5 ⟨rfl, hb⟩; exact ⟨_, rfl, rfl, hb⟩),
    Grow.h2_call2 (Or.inl rfl) 80 Grow.enter80 _ _ _ rfl (fun a wx hk => by have e6 : a.eval (.tmp 6) = .agg (ec (x)) := (hk.deps 0 6 (by kernel_rfl)); have e7 : a.eval (.tmp 7) = bv (ends 254 15) := (hk.deps 1 7 (by kernel_rfl)); rw [e6, e7]; refine (power_any wx x n HX.out (ends 254 15) (ends_length _ _) (ends_W8 (by unfold W8; omega) (by unfold W8; omega))).mono ?_; rintro e w5 ⟨y, rfl, hy, hb⟩; rw [low_ends_root] at hy; exact ⟨_, rfl, ⟨y, rfl, hy⟩, hb⟩),
    Grow.h2_alloc (Or.inl rfl) rfl rfl,
    trivial⟩ ?_
  intro o a w4 ho hb hts hk hdf hfr
  obtain rfl := Option.some.inj ho
  obtain ⟨y, e8, hy⟩ : ∃ y, a.eval (.tmp 8) = .agg (ec y) ∧ Fe.Re y (n ^ ((Nm.PN + 3) / 8)) := hk 2 8 (by decide) rfl
  obtain ⟨g4, e4, hz, hgs⟩ : ∃ g, a.eval (.tmp 4) = .pointer (some ⟨g, 0, none⟩) ∧ w4.heap[g]? = some (.cells (ec Fe.z) 49 (0, 0)) ∧ w3.heap.size ≤ g := hk 3 4 (by decide) rfl
  refine ⟨rfl, wp_store_row 49 (.tmp 4) (.tmp 8) rfl g4 (ec y) e4 e8 49 (ec Fe.z) hz i30 rfl (ec_one _) ?_⟩
  have ha := Grow.act_after hts hdf hfr
  rw [show Grow.dsts _ 4 = [6, 7, 8, 4] from by kernel_rfl] at ha
  simp only [Grow.putAll, e8, e4] at ha
  generalize a.eval (.tmp 6) = u6 at ha
  generalize a.eval (.tmp 7) = u7 at ha
  have S1 := Lib.hid (S0.out.put hb hgs hz y)
  have HY := Lib.hid hy
  have HG : Hid (w3.heap.size ≤ g4) := hgs
  have HB3 : Hid (Below w3.heap.size w3 (w4.setRow g4 (ec y))) := below_setRow hb hgs _
  clear hk hts hdf hfr e8 e4 hb hz hgs hy
  subst ha
  generalize w4.setRow g4 (ec y) = w5 at *
  go_wp2
  by_cases hq : Fe.val (Fe.mul y y) % Fe.P = n % Fe.P
  · have HQ := Lib.hid hq
    have HT : Hid (decide (Fe.val (Fe.mul y y) % Fe.P = Fe.val x % Fe.P) = true) := by
      refine decide_eq_true ?_
      rw [HX.out.eq]; exact hq
    have HTU : Hid (Fe.Re (Fe.rd (Nm.pm Nm.PN 255 2 ((Nm.PN - 1) / 4))) (2 ^ ((Nm.PN - 1) / 4))) := turn_some
    clear hq
    refine Grow.region_all (by kernel_rfl) 4 (fun i => List.getD (Grow.Spec.is (.agg (ec (y))) :: Grow.Spec.is (.agg (ec (Fe.mul (y) (y)))) :: Grow.Spec.is (.agg (ec (x))) :: Grow.Spec.is (.bool true) :: []) i (Grow.Spec.is undef)) rfl (by kernel_rfl) ⟨
      Grow.h2_row (Or.inl rfl) 4 (g4) 49 (ec (y)) _ rfl Tryd.underlying49 i30 rfl (by kernel_rfl) rfl (S1.out.rows (g4, y) (by simp)) rfl,
      Grow.h2_call1 (Or.inl rfl) 72 Grow.enter72 _ _ rfl (fun a wx hk => by have e9 : a.eval (.tmp 9) = .agg (ec (y)) := (hk.deps 0 9 (by kernel_rfl)); rw [e9]; refine (square_any wx (y) (HY.out.ok)).mono ?_; rintro e w5 ⟨rfl, hb⟩; exact ⟨_, rfl, rfl, hb⟩),
      Grow.h2_row (Or.inl rfl) 1 (w.heap.size) 49 (ec (x)) _ rfl Tryd.underlying49 i30 rfl (by kernel_rfl) rfl (S1.out.rows (w.heap.size, x) (by simp)) rfl,
      Grow.h2_call2 (Or.inl rfl) 49 Grow.enter49 _ _ _ rfl (fun a wx hk => by have e10 : a.eval (.tmp 10) = .agg (ec (Fe.mul (y) (y))) := (hk.deps 1 10 (by kernel_rfl)); have e11 : a.eval (.tmp 11) = .agg (ec (x)) := (hk.deps 2 11 (by kernel_rfl)); rw [e10, e11]; refine (same_any wx _ _ (Fe.mul_ok (HY.out.ok) (HY.out.ok)) HX.out.ok).mono ?_; rintro e w5 ⟨rfl, hb⟩; rw [HT.out]; exact ⟨_, rfl, rfl, hb⟩),
      trivial⟩ ?_
    intro a wn hb hts hk hdf hfr
    have e12 : a.eval (.tmp 12) = .bool true := hk 3 12 (by decide) rfl
    have ha := Grow.act_after hts hdf hfr
    rw [show Grow.dsts _ 4 = [9, 10, 11, 12] from by kernel_rfl] at ha
    simp only [Grow.putAll, e12] at ha
    generalize a.eval (.tmp 9) = u9 at ha
    generalize a.eval (.tmp 10) = u10 at ha
    generalize a.eval (.tmp 11) = u11 at ha
    have SN := Lib.hid (S1.out.below hb)
    have HBN := Lib.hid hb
    clear hk hts hdf hfr e12 hb
    simp [Act.put] at ha
    subst ha
    go_wp2_with (first
      | ((with_reducible refine load_rowG (o := ⟨some 13, _, _, _, _, _⟩) (y) 4 g4 rfl rfl (SN.out.rows (g4, y) (by simp)) ?_ ?_); exact rfl)
      | ((with_reducible refine wpList_store_row (o := ⟨none, _, _, _, _, _⟩) rfl 49 (.tmp 2) (.tmp 13) rfl (w.heap.size + 1) (ec (y)) rfl rfl 49 _ (SN.out.rows (w.heap.size + 1, Fe.z) (by simp)) ?_ ?_ ?_ ?_); exact i30; exact rfl; exact ec_one _))
    refine bodyPost_ret (results_row_tmp Tryd.results73 _ _ (w.heap.size + 1) (y) rfl (setRow_heap wn (w.heap.size + 1) _ (ec (y)) 49 _ (SN.out.rows (w.heap.size + 1, Fe.z) (by simp)))) rfl ?_
    exact ⟨y, true, rfl, ⟨HY.out.ok, fun _ => HQ.out, (decide_eq_true ((root_iff HY.out HTU.out).1 (Or.inl HQ.out))).symm⟩, below_setRow SN.out.bb (Nat.le_succ _) _⟩
  · have HNQ := Lib.hid hq
    have HT : Hid (decide (Fe.val (Fe.mul y y) % Fe.P = Fe.val x % Fe.P) = false) := by
      refine decide_eq_false ?_
      rw [HX.out.eq]; exact hq
    clear hq
    refine Grow.region_all (by kernel_rfl) 4 (fun i => List.getD (Grow.Spec.is (.agg (ec (y))) :: Grow.Spec.is (.agg (ec (Fe.mul (y) (y)))) :: Grow.Spec.is (.agg (ec (x))) :: Grow.Spec.is (.bool false) :: []) i (Grow.Spec.is undef)) rfl (by kernel_rfl) ⟨
      Grow.h2_row (Or.inl rfl) 4 (g4) 49 (ec (y)) _ rfl Tryd.underlying49 i30 rfl (by kernel_rfl) rfl (S1.out.rows (g4, y) (by simp)) rfl,
      Grow.h2_call1 (Or.inl rfl) 72 Grow.enter72 _ _ rfl (fun a wx hk => by have e9 : a.eval (.tmp 9) = .agg (ec (y)) := (hk.deps 0 9 (by kernel_rfl)); rw [e9]; refine (square_any wx (y) (HY.out.ok)).mono ?_; rintro e w5 ⟨rfl, hb⟩; exact ⟨_, rfl, rfl, hb⟩),
      Grow.h2_row (Or.inl rfl) 1 (w.heap.size) 49 (ec (x)) _ rfl Tryd.underlying49 i30 rfl (by kernel_rfl) rfl (S1.out.rows (w.heap.size, x) (by simp)) rfl,
      Grow.h2_call2 (Or.inl rfl) 49 Grow.enter49 _ _ _ rfl (fun a wx hk => by have e10 : a.eval (.tmp 10) = .agg (ec (Fe.mul (y) (y))) := (hk.deps 1 10 (by kernel_rfl)); have e11 : a.eval (.tmp 11) = .agg (ec (x)) := (hk.deps 2 11 (by kernel_rfl)); rw [e10, e11]; refine (same_any wx _ _ (Fe.mul_ok (HY.out.ok) (HY.out.ok)) HX.out.ok).mono ?_; rintro e w5 ⟨rfl, hb⟩; rw [HT.out]; exact ⟨_, rfl, rfl, hb⟩),
      trivial⟩ ?_
    intro a wn hb hts hk hdf hfr
    have e12 : a.eval (.tmp 12) = .bool false := hk 3 12 (by decide) rfl
    have ha := Grow.act_after hts hdf hfr
    rw [show Grow.dsts _ 4 = [9, 10, 11, 12] from by kernel_rfl] at ha
    simp only [Grow.putAll, e12] at ha
    generalize a.eval (.tmp 9) = u9 at ha
    generalize a.eval (.tmp 10) = u10 at ha
    generalize a.eval (.tmp 11) = u11 at ha
    have SN := Lib.hid (S1.out.below hb)
    have HBN := Lib.hid hb
    clear hk hts hdf hfr e12 hb
    simp [Act.put] at ha
    subst ha
    have S10 := SN
    clear SN HT
    go_wp2_with (first
      | ((with_reducible refine wpList_store_row (o := ⟨none, _, _, _, _, _⟩) rfl 49 (.tmp 4) (.tmp 19) rfl g4 (ec (Fe.mul y t)) rfl rfl 49 _ (S15.out.rows (g4, y) (by simp)) ?_ ?_ ?_ ?_); exact i30; exact rfl; exact ec_one _)
      | (go_at_call 50; refine (mul_any _ y t HY.out.ok HTT.out.ok).mono ?_; rintro e wq15 ⟨rfl, hb⟩; have HC15 : Hid (Below wq13.heap.size wq13 wq15) := (below_setRow ((Below.refl _ _).alloc (Nat.le_refl _) _) (Nat.le_refl _) _).trans (hb.mono (by simp)); have S15 := Lib.hid (S14.out.below hb); clear hb)
      | ((with_reducible refine load_rowG (o := ⟨some 18, _, _, _, _, _⟩) (t) 5 wq13.heap.size rfl rfl (S14.out.rows (wq13.heap.size, t) (by simp)) ?_ ?_); exact rfl)
      | ((with_reducible refine load_rowG (o := ⟨some 17, _, _, _, _, _⟩) (y) 4 g4 rfl rfl (S14.out.rows (g4, y) (by simp)) ?_ ?_); exact rfl)
      | ((with_reducible refine wpList_store_row (o := ⟨none, _, _, _, _, _⟩) rfl 49 (.tmp 5) (.tmp 16) rfl wq13.heap.size (ec (t)) rfl rfl 49 _ (zero_new wq13) ?_ ?_ ?_ ?_); exact i30; exact rfl; exact ec_one _; have S14 := Lib.hid (S13.out.row (t)))
      | (go_at_call 80; refine (power_any _ (Fe.num 2) 2 (Fe.Re.num (n := 2) (by decide) (by decide)) (ends 251 31) (ends_length _ _) (ends_W8 (by unfold W8; omega) (by unfold W8; omega))).mono ?_; rintro e wq13 ⟨t, rfl, ht, hb⟩; have HC13 := Lib.hid hb; have S13 := Lib.hid (S12.out.below hb); rw [low_ends_turn] at ht; have HTT := Lib.hid ht; clear ht; clear hb)
      | (go_at_call 81; refine (exponent_any _ 251 31).mono ?_; rintro e wq12 ⟨rfl, hb⟩; have HC12 := Lib.hid hb; have S12 := Lib.hid (S11.out.below hb); clear hb)
      | (go_at_call 53; refine (num_any _ 2 (by decide) (by decide)).mono ?_; rintro e wq11 ⟨rfl, hb⟩; have HC11 := Lib.hid hb; have S11 := Lib.hid (S10.out.below hb); clear hb))
    have HBC : Hid (Below w3.heap.size w3 wq15) := below_of_heaps (Nat.le_refl _) HB3.out HBN.out HC11.out HC12.out HC13.out HC15.out
    have S20 := Lib.hid (S0.out.put HBC.out HG.out (S15.out.rows (g4, y) (by simp)) (Fe.mul y t))
    generalize wq15.setRow g4 (ec (Fe.mul y t)) = w8 at *
    by_cases hq : Fe.val (Fe.mul (Fe.mul y t) (Fe.mul y t)) % Fe.P = n % Fe.P
    · have HQ := Lib.hid hq
      have HT : Hid (decide (Fe.val (Fe.mul (Fe.mul y t) (Fe.mul y t)) % Fe.P = Fe.val x % Fe.P) = true) := by
        refine decide_eq_true ?_
        rw [HX.out.eq]; exact hq
      clear hq
      refine Grow.region_all (by kernel_rfl) 4 (fun i => List.getD (Grow.Spec.is (.agg (ec (Fe.mul y t))) :: Grow.Spec.is (.agg (ec (Fe.mul (Fe.mul y t) (Fe.mul y t)))) :: Grow.Spec.is (.agg (ec (x))) :: Grow.Spec.is (.bool true) :: []) i (Grow.Spec.is undef)) rfl (by kernel_rfl) ⟨
        Grow.h2_row (Or.inl rfl) 4 (g4) 49 (ec (Fe.mul y t)) _ rfl Tryd.underlying49 i30 rfl (by kernel_rfl) rfl (S20.out.rows (g4, Fe.mul y t) (by simp)) rfl,
        Grow.h2_call1 (Or.inl rfl) 72 Grow.enter72 _ _ rfl (fun a wx hk => by have e20 : a.eval (.tmp 20) = .agg (ec (Fe.mul y t)) := (hk.deps 0 20 (by kernel_rfl)); rw [e20]; refine (square_any wx (Fe.mul y t) (Fe.mul_ok HY.out.ok HTT.out.ok)).mono ?_; rintro e w5 ⟨rfl, hb⟩; exact ⟨_, rfl, rfl, hb⟩),
        Grow.h2_row (Or.inl rfl) 1 (w.heap.size) 49 (ec (x)) _ rfl Tryd.underlying49 i30 rfl (by kernel_rfl) rfl (S20.out.rows (w.heap.size, x) (by simp)) rfl,
        Grow.h2_call2 (Or.inl rfl) 49 Grow.enter49 _ _ _ rfl (fun a wx hk => by have e21 : a.eval (.tmp 21) = .agg (ec (Fe.mul (Fe.mul y t) (Fe.mul y t))) := (hk.deps 1 21 (by kernel_rfl)); have e22 : a.eval (.tmp 22) = .agg (ec (x)) := (hk.deps 2 22 (by kernel_rfl)); rw [e21, e22]; refine (same_any wx _ _ (Fe.mul_ok (Fe.mul_ok HY.out.ok HTT.out.ok) (Fe.mul_ok HY.out.ok HTT.out.ok)) HX.out.ok).mono ?_; rintro e w5 ⟨rfl, hb⟩; rw [HT.out]; exact ⟨_, rfl, rfl, hb⟩),
        trivial⟩ ?_
      intro a wn hb hts hk hdf hfr
      have e23 : a.eval (.tmp 23) = .bool true := hk 3 23 (by decide) rfl
      have ha := Grow.act_after hts hdf hfr
      rw [show Grow.dsts _ 4 = [20, 21, 22, 23] from by kernel_rfl] at ha
      simp only [Grow.putAll, e23] at ha
      generalize a.eval (.tmp 20) = u20 at ha
      generalize a.eval (.tmp 21) = u21 at ha
      generalize a.eval (.tmp 22) = u22 at ha
      have SN := Lib.hid (S20.out.below hb)
      have HBN2 := Lib.hid hb
      clear hk hts hdf hfr e23 hb
      simp [Act.put] at ha
      subst ha
      go_wp2_with (first
        | ((with_reducible refine load_rowG (o := ⟨some 24, _, _, _, _, _⟩) (Fe.mul y t) 4 g4 rfl rfl (SN.out.rows (g4, Fe.mul y t) (by simp)) ?_ ?_); exact rfl)
        | ((with_reducible refine wpList_store_row (o := ⟨none, _, _, _, _, _⟩) rfl 49 (.tmp 2) (.tmp 24) rfl (w.heap.size + 1) (ec (Fe.mul y t)) rfl rfl 49 _ (SN.out.rows (w.heap.size + 1, Fe.z) (by simp)) ?_ ?_ ?_ ?_); exact i30; exact rfl; exact ec_one _))
      refine bodyPost_ret (results_row_tmp Tryd.results73 _ _ (w.heap.size + 1) (Fe.mul y t) rfl (setRow_heap wn (w.heap.size + 1) _ (ec (Fe.mul y t)) 49 _ (SN.out.rows (w.heap.size + 1, Fe.z) (by simp)))) rfl ?_
      exact ⟨Fe.mul y t, true, rfl, ⟨Fe.mul_ok HY.out.ok HTT.out.ok, fun _ => HQ.out, (decide_eq_true ((root_iff HY.out HTT.out).1 (Or.inr HQ.out))).symm⟩, below_setRow SN.out.bb (Nat.le_succ _) _⟩
    · have HNQ2 := Lib.hid hq
      have HT : Hid (decide (Fe.val (Fe.mul (Fe.mul y t) (Fe.mul y t)) % Fe.P = Fe.val x % Fe.P) = false) := by
        refine decide_eq_false ?_
        rw [HX.out.eq]; exact hq
      clear hq
      refine Grow.region_all (by kernel_rfl) 4 (fun i => List.getD (Grow.Spec.is (.agg (ec (Fe.mul y t))) :: Grow.Spec.is (.agg (ec (Fe.mul (Fe.mul y t) (Fe.mul y t)))) :: Grow.Spec.is (.agg (ec (x))) :: Grow.Spec.is (.bool false) :: []) i (Grow.Spec.is undef)) rfl (by kernel_rfl) ⟨
        Grow.h2_row (Or.inl rfl) 4 (g4) 49 (ec (Fe.mul y t)) _ rfl Tryd.underlying49 i30 rfl (by kernel_rfl) rfl (S20.out.rows (g4, Fe.mul y t) (by simp)) rfl,
        Grow.h2_call1 (Or.inl rfl) 72 Grow.enter72 _ _ rfl (fun a wx hk => by have e20 : a.eval (.tmp 20) = .agg (ec (Fe.mul y t)) := (hk.deps 0 20 (by kernel_rfl)); rw [e20]; refine (square_any wx (Fe.mul y t) (Fe.mul_ok HY.out.ok HTT.out.ok)).mono ?_; rintro e w5 ⟨rfl, hb⟩; exact ⟨_, rfl, rfl, hb⟩),
        Grow.h2_row (Or.inl rfl) 1 (w.heap.size) 49 (ec (x)) _ rfl Tryd.underlying49 i30 rfl (by kernel_rfl) rfl (S20.out.rows (w.heap.size, x) (by simp)) rfl,
        Grow.h2_call2 (Or.inl rfl) 49 Grow.enter49 _ _ _ rfl (fun a wx hk => by have e21 : a.eval (.tmp 21) = .agg (ec (Fe.mul (Fe.mul y t) (Fe.mul y t))) := (hk.deps 1 21 (by kernel_rfl)); have e22 : a.eval (.tmp 22) = .agg (ec (x)) := (hk.deps 2 22 (by kernel_rfl)); rw [e21, e22]; refine (same_any wx _ _ (Fe.mul_ok (Fe.mul_ok HY.out.ok HTT.out.ok) (Fe.mul_ok HY.out.ok HTT.out.ok)) HX.out.ok).mono ?_; rintro e w5 ⟨rfl, hb⟩; rw [HT.out]; exact ⟨_, rfl, rfl, hb⟩),
        trivial⟩ ?_
      intro a wn hb hts hk hdf hfr
      have e23 : a.eval (.tmp 23) = .bool false := hk 3 23 (by decide) rfl
      have ha := Grow.act_after hts hdf hfr
      rw [show Grow.dsts _ 4 = [20, 21, 22, 23] from by kernel_rfl] at ha
      simp only [Grow.putAll, e23] at ha
      generalize a.eval (.tmp 20) = u20 at ha
      generalize a.eval (.tmp 21) = u21 at ha
      generalize a.eval (.tmp 22) = u22 at ha
      have SN := Lib.hid (S20.out.below hb)
      have HBN2 := Lib.hid hb
      clear hk hts hdf hfr e23 hb
      simp [Act.put] at ha
      subst ha
      go_wp2_with (first
        | ((with_reducible refine wpList_store_row (o := ⟨none, _, _, _, _, _⟩) rfl 49 (.tmp 2) (.tmp 25) rfl (w.heap.size + 1) #[.int .u64 0, .int .u64 0, .int .u64 0, .int .u64 0, .int .u64 0] rfl rfl 49 _ (SN.out.rows (w.heap.size + 1, Fe.z) (by simp)) ?_ ?_ ?_ ?_); exact i30; exact rfl; exact ec_one Fe.z))
      refine bodyPost_ret (results_row_tmp Tryd.results73 _ _ (w.heap.size + 1) Fe.z rfl (setRow_heap wn (w.heap.size + 1) _ (ec Fe.z) 49 _ (SN.out.rows (w.heap.size + 1, Fe.z) (by simp)))) rfl ?_
      exact ⟨Fe.z, false, rfl, ⟨Fe.z_ok, fun h => Bool.noConfusion h, (decide_eq_false (fun h => ((root_iff HY.out HTT.out).2 h).elim HNQ.out HNQ2.out)).symm⟩, below_setRow SN.out.bb (Nat.le_succ _) _⟩
end Go.Proofs.YtiinmdleechcgaaDoor
namespace Go.Proofs.YtiinmdleechcgaaDoor
open Go.RowKit
namespace Grow
section
variable {m : Nat} {ops : Array Oper} {Q : Exit → Act → World → Prop} {specs : Nat → Spec} {a0 : Act} {w0 : World} {i : Nat} {o : Oper}
theorem h2_not (hr : Runs2 ops specs a0 o) (j d : Nat) (b c : Bool) (hbc : (!b) = c) (ho : o.op = .unOp .not 4 (.tmp d)) (hj : deps .any ops o j d = true) (hs : specs j = .is (.bool b)) (hi : specs i = .is (.bool c)) : Hop2 Tryd.prog m ops specs Q a0 w0 i o :=
  h2_val hr fun a w hk => by
    have h1 := hk.deps j d hj
    rw [hs] at h1
    have h1 : a.eval (.tmp d) = .bool b := h1
    have hu := Tryd.underlying4
    refine ⟨.bool c, w, ?_, by rw [hi]; rfl, Below.refl _ _⟩
    unfold execOp
    rw [ho]
    simp only [h1]
    subst hbc
    go_simp
theorem h2_pickT (hr : Runs2 ops specs a0 o) (j1 d1 : Nat) (v : Value) (y : Operand) (ho : o.op = .pick (.tmp d1) (.const v) y) (hj1 : deps .any ops o j1 d1 = true) (hs1 : specs j1 = .is (.bool true)) (hs2 : specs i = .is v) : Hop2 Tryd.prog m ops specs Q a0 w0 i o :=
  h2_val hr fun a w hk => by
    have h1 := hk.deps j1 d1 hj1
    rw [hs1] at h1
    have h1 : a.eval (.tmp d1) = .bool true := h1
    refine ⟨v, w, ?_, by rw [hs2]; rfl, Below.refl _ _⟩
    unfold execOp
    rw [ho]
    simp only [h1]
    go_simp
theorem h2_pickF (hr : Runs2 ops specs a0 o) (j1 d1 j2 d2 : Nat) (x : Operand) (ho : o.op = .pick (.tmp d1) x (.tmp d2)) (hj1 : deps .any ops o j1 d1 = true) (hj2 : deps .any ops o j2 d2 = true) (hs1 : specs j1 = .is (.bool false)) (hs2 : specs i = specs j2) : Hop2 Tryd.prog m ops specs Q a0 w0 i o :=
  h2_val hr fun a w hk => by
    have h1 := hk.deps j1 d1 hj1
    have h2 := hk.deps j2 d2 hj2
    rw [hs1] at h1
    rw [← hs2] at h2
    have h1 : a.eval (.tmp d1) = .bool false := h1
    refine ⟨a.eval (.tmp d2), w, ?_, h2, Below.refl _ _⟩
    unfold execOp
    rw [ho]
    simp only [h1]
    go_simp
theorem c_rsquare {w : World} {u : Value} {N : Int} (hu : (nat N).meets u w) : Calls Tryd.prog 67 #[u] w fun e w' => ∃ v, e = .returned v ∧ v = .bool (decide (N = 0 ∨ N ^ ((Nm.PN - 1) / 2) % Fe.P = 1)) ∧ Below w.heap.size w w' := by
  obtain ⟨l, h1, h2, h3, h4⟩ := hu
  refine (rsquare_any w u l h1 h3 h4).mono ?_
  rintro e w' ⟨rfl, hb⟩
  exact ⟨_, rfl, by rw [h2], hb⟩
end
end Grow
theorem second_root {x : Int} (h0 : 0 ≤ x) {r : Fe.E} {ok : Bool} (h : IsRoot (x * x) r ok) : ok = true := by
  rw [h.2.2]
  refine decide_eq_true ?_
  rw [Fe.P_PN]
  exact Nm.roots_square h0

end Go.Proofs.YtiinmdleechcgaaDoor
