/- The walk of Tag. -/
import Derived.Test.YticoefnojgaplaaK
namespace Go.Proofs.Yticoefnojgaplaa
open Go.RowKit Go.Lib
namespace Grow
section
variable {m : Nat} {ops : Array Oper} {Q : Exit → Act → World → Prop} {specs : Nat → Spec} {a0 : Act} {w0 : World} {i : Nat} {o : Oper}
theorem h2_call3 (hr : Runs2 ops specs a0 o) (f : FuncId) (he : ∀ args w, (callFunc f args).run Try.prog w = .ok (.enter f args) w) (ts : Array TypeId) (x y z : Operand) (ho : o.op = .call { callee := .value (.func f), args := #[x, y, z], argTypes := ts })
    (h : ∀ a w, Known m ops specs a0 w0 o a w → Calls Try.prog f #[a.eval x, a.eval y, a.eval z] w fun e w' => ∃ v, e = .returned v ∧ (specs i).meets v w' ∧ Below w.heap.size w w') : Hop2 Try.prog m ops specs Q a0 w0 i o :=
  h2_wp hr fun a w hk => by
    refine wp_enter (f := f) (args := #[a.eval x, a.eval y, a.eval z]) ?_ ((h a w hk).mono ?_)
    · unfold execOp
      rw [ho]
      go_simp
    · rintro e w' ⟨v, rfl, h1, h2⟩
      exact ⟨v, rfl, v, rfl, h1, h2⟩
theorem h2_and (hr : Runs2 ops specs a0 o) (j d : Nat) (n c : Int) (ho : o.op = .binOp .and 46 (.tmp d) (.const (.int .u64 c)) 46) (hj : deps .any ops o j d = true) (hs : specs j = .is (.int .u64 n)) (hi : specs i = .is (.int .u64 (bits BinOp.and IntKind.u64 n c))) : Hop2 Try.prog m ops specs Q a0 w0 i o :=
  h2_val hr fun a w hk => by
    have h1 := hk.deps j d hj
    rw [hs] at h1
    have h1 : a.eval (.tmp d) = .int .u64 n := h1
    have hu := Try.underlying46
    refine ⟨.int .u64 (bits BinOp.and IntKind.u64 n c), w, ?_, by rw [hi]; rfl, Below.refl _ _⟩
    unfold execOp
    rw [ho]
    simp only [h1]
    go_simp
theorem h2_cutH (hr : Runs2 ops specs a0 o) (j d : Nat) (a1 : Option Addr) (n cap hi : Nat) (h2 : hi ≤ n) (l : List Int) (ho : o.op = .slice 22 (.tmp d) none (some (.const (.int .i64 hi))) none) (hj : deps .any ops o j d = true) (hs : specs j = .is (.slice a1 n cap)) (hS : Slc w0 (.slice a1 n cap) l) (hi' : specs i = .slc (l.take hi)) : Hop2 Try.prog m ops specs Q a0 w0 i o :=
  h2_val hr fun a w hk => by
    have h := hk.deps j d hj
    rw [hs] at h
    have h : a.eval (.tmp d) = .slice a1 n cap := h
    have hc : n ≤ cap := by
      obtain ⟨a', c', hv, hc, _⟩ := hS
      simp only [Value.slice.injEq] at hv
      obtain ⟨-, rfl, rfl⟩ := hv
      exact hc
    have hslc := slc_cut (hS.below hk.below (Nat.le_refl _)) 0 hi (Nat.zero_le _) h2
    rw [List.drop_zero, Nat.sub_zero] at hslc
    refine ⟨sliced a1 0 hi cap 1, w, ?_, by rw [hi']; exact hslc, Below.refl _ _⟩
    unfold execOp
    rw [ho]
    simp only [Option.map_some, Option.map_none, h]
    have e := run_cutH a1 n cap hi (Nat.le_trans h2 hc) hi rfl w
    have hu := Try.underlying22
    go_simp
theorem c_low {w : World} {u : Value} {l : List Int} (hu : (Spec.slc l).meets u w) (hl : l.length ≤ 8) : Calls Try.prog 25 #[u] w fun e w' => ∃ v, e = .returned v ∧ v = .int .u64 (Bt.low l : Nat) ∧ Below w.heap.size w w' := by
  have hs : Slc w u l := hu
  obtain ⟨a, c, rfl⟩ := slc_form hs
  refine (low_any w a c l hs hl).mono ?_
  rintro e w' ⟨rfl, hb⟩
  exact ⟨_, rfl, rfl, hb⟩
end
end Grow
theorem add64_any (x y c : Int) (x0 : 0 ≤ x) (y0 : 0 ≤ y) (hc0 : 0 ≤ c) (hc1 : c ≤ 1) (w : World) :
    (callFunc 30 #[.int .u64 x, .int .u64 y, .int .u64 c]).run Try.prog w = .ok (.value (.tuple #[.int .u64 ((x + y + c) % 18446744073709551616), .int .u64 ((x + y + c) / 18446744073709551616)])) w := by
  rw [run_callFunc_extern Try.func30 (by kernel_rfl) (by kernel_rfl) (by kernel_rfl) (e := add64Entry) (by kernel_rfl), run_add64 x y c x0 y0 hc0 hc1]
  rfl
/-- What lies where while a tag is made. -/
structure TgL (w : World) (gk gf gs : Nat) (K : List Int) (F s : Po.E) (wr : World) : Prop where
  kk : Blk wr gk .u8 44 K
  ff : wr.heap[gf]? = some (.cells (ec F) 48 (0, 0))
  ss : wr.heap[gs]? = some (.cells (ec s) 48 (0, 0))
  ne : gk < gs ∧ gf < gs ∧ w.heap.size ≤ gk ∧ w.heap.size ≤ gf
  bb : Below w.heap.size w wr
theorem TgL.below {w wr w' : World} {gk gf gs : Nat} {K : List Int} {F s : Po.E} (h : TgL w gk gf gs K F s wr) (hb : Below wr.heap.size wr w') : TgL w gk gf gs K F s w' :=
  ⟨h.kk.other (hb.block _ h.kk.lt), (hb.block _ (lt_of_block h.ff)).trans h.ff, (hb.block _ (lt_of_block h.ss)).trans h.ss, h.ne, h.bb.trans (hb.mono h.bb.size)⟩
theorem TgL.put {w wr w' : World} {gk gf gs : Nat} {K : List Int} {F s : Po.E} (h : TgL w gk gf gs K F s wr) (hb : Below wr.heap.size wr w') (t : Po.E) : TgL w gk gf gs K F t (w'.setRow gs (ec t)) := by
  have h2 := h.below hb
  obtain ⟨n1, n2, n3, n4⟩ := h.ne
  exact ⟨h2.kk.other (setRow_other _ _ _ _ (by omega)), (setRow_other _ _ _ _ (by omega)).trans h2.ff, setRow_heap w' gs _ (ec t) 48 _ h2.ss, h.ne, below_setRow h2.bb (by omega) _⟩
theorem at_from {w : World} {g : Nat} {t : TypeId} {l : List Int} (h : Blk w g .u8 t l) (lo : Nat) (hn : lo ≤ l.length) : At w .u8 g lo (l.drop lo) := by
  have := h.at.sub lo (l.length - lo) (by omega)
  rwa [Nat.zero_add, List.take_of_length_le (by rw [List.length_drop]; omega)] at this
theorem low_at {w : World} {g lo : Nat} {l : List Int} (c : Nat) (n : Nat) (hat : At w .u8 g lo l) (hg : g < w.heap.size) (h8 : ∀ x ∈ l, W8 x) (hn : l.length = n) (hc : n ≤ c) (h : n ≤ 8) : Calls Try.prog 25 #[.slice (some ⟨g, lo, none⟩) n c] w fun e w' => e = .returned (.int .u64 (Bt.low l : Nat)) ∧ Below w.heap.size w w' := by
  subst hn
  exact low_any w _ c l ⟨_, c, rfl, hc, h8, Or.inr ⟨g, lo, rfl, hg, hat⟩⟩ h
theorem at_part {w : World} {g : Nat} {t : TypeId} {l : List Int} (h : Blk w g .u8 t l) (lo n : Nat) (hn : lo + n ≤ l.length) : At w .u8 g 0 (l.take n) := by
  have := h.at.sub 0 n (by omega)
  rwa [List.drop_zero] at this
theorem at_part2 {w : World} {g : Nat} {t : TypeId} {l : List Int} (h : Blk w g .u8 t l) (lo n : Nat) (hn : lo + n ≤ l.length) : At w .u8 g lo ((l.drop lo).take n) := by
  have := h.at.sub lo n hn
  rwa [Nat.zero_add] at this
def slen : Value → Nat
  | .slice _ n _ => n
  | _ => 0
theorem tag_end {K Q : List Int} {s : Po.E} (h : Po.Sum K Q ((Q.length + 15) / 16) s) (h8 : ∀ x ∈ K, W8 x) (hl : K.length = 32) : ∃ A B : Nat, A < 2 ^ 64 ∧ B < 2 ^ 64 ∧ (Po.joinLo (Po.least s) + (Bt.low ((K.drop 16).take 8) : Nat)) % 18446744073709551616 = (A : Int) ∧ (Po.joinHi (Po.least s) + (Bt.low (K.drop 24) : Nat) + (Po.joinLo (Po.least s) + (Bt.low ((K.drop 16).take 8) : Nat)) / 18446744073709551616) % 18446744073709551616 = (B : Int) ∧ Bt.le A 8 ++ Bt.le B 8 = Po.tag K Q ∧
    (0 ≤ Po.joinLo (Po.least s) ∧ Po.joinLo (Po.least s) ≤ 18446744073709551615) ∧ (0 ≤ Po.joinHi (Po.least s) ∧ Po.joinHi (Po.least s) ≤ 18446744073709551615) := by
  obtain ⟨hv, hc⟩ := Po.least_val h.ok
  have hj := Po.join_val hc
  rw [hv, h.eq] at hj
  have hlo : 0 ≤ Po.joinLo (Po.least s) ∧ Po.joinLo (Po.least s) ≤ 18446744073709551615 := by unfold Po.joinLo; omega
  have hhi : 0 ≤ Po.joinHi (Po.least s) ∧ Po.joinHi (Po.least s) ≤ 18446744073709551615 := by unfold Po.joinHi; omega
  have ha0 : 0 ≤ Po.acc K Q ((Q.length + 15) / 16) := by rw [← h.eq]; exact Int.emod_nonneg _ (by decide)
  have e1 := Bt.low_two (K.drop 16) 8 8 (by rw [List.length_drop]; omega)
  have hd : (K.drop 16).take 16 = K.drop 16 := List.take_of_length_le (by rw [List.length_drop]; omega)
  rw [List.drop_drop, List.take_of_length_le (l := K.drop 24) (by rw [List.length_drop]; omega), hd] at e1
  have h1 := low8 (l := (K.drop 16).take 8) (fun x hx => h8 x (List.mem_of_mem_drop (List.mem_of_mem_take hx))) (by rw [List.length_take]; omega)
  have h2 := low8 (l := K.drop 24) (fun x hx => h8 x (List.mem_of_mem_drop hx)) (by rw [List.length_drop]; omega)
  have ht : Po.tagN K Q = (((Po.acc K Q ((Q.length + 15) / 16)).toNat % 2 ^ 128) + Bt.low (K.drop 16)) % 2 ^ 128 := by unfold Po.tagN; rw [hd]
  have htag : Po.tag K Q = Bt.le (Po.tagN K Q) 16 := rfl
  obtain ⟨X, hX⟩ := Int.eq_ofNat_of_zero_le ha0
  rw [hX] at hj ht
  generalize Po.joinLo (Po.least s) = lo at *
  generalize Po.joinHi (Po.least s) = hi at *
  generalize Bt.low ((K.drop 16).take 8) = k1 at *
  generalize Bt.low (K.drop 24) = k2 at *
  obtain ⟨lo, rfl⟩ := Int.eq_ofNat_of_zero_le hlo.1
  obtain ⟨hi, rfl⟩ := Int.eq_ofNat_of_zero_le hhi.1
  refine ⟨(lo + k1) % 2 ^ 64, (hi + k2 + (lo + k1) / 2 ^ 64) % 2 ^ 64, Nat.mod_lt _ (by decide), Nat.mod_lt _ (by decide), by simp, by simp, ?_, hlo, hhi⟩
  rw [Bt.le_app _ _ 8 8 (Nat.mod_lt _ (by decide)), htag, ht, e1]
  congr 1
  simp only [Nat.reducePow, Nat.reduceMul, Int.toNat_natCast] at *
  omega

set_option maxRecDepth 100000 in
set_option maxHeartbeats 4000000 in
theorem tag_any (w : World) (ak : Option Addr) (ck : Nat) (K : List Int) (hK : Slc w (.slice ak K.length ck) K) (ap : Option Addr) (cp : Nat) (Q : List Int) (hQ : Slc w (.slice ap Q.length cp) Q) :
    Calls Try.prog 13 #[.slice ak K.length ck, .slice ap Q.length cp] w fun e w' => ∃ v', e = .returned v' ∧ Own w.heap.size w' v' (Po.tag (fit K 32) Q) ∧ Below w.heap.size w w' := by
  have HKC := Lib.hid (keyOf_any w ak ck K hK)
  have HQ := Lib.hid hQ
  have hq8 : Hid (∀ x ∈ Q, W8 x) := by obtain ⟨_, _, _, _, h, _⟩ := hQ; exact h
  have hk8 : ∀ x ∈ K, W8 x := by obtain ⟨_, _, _, _, h, _⟩ := hK; exact h
  have H8 := Lib.hid (fit_W8 hk8 32)
  have HL := Lib.hid (fit_length K 32)
  clear hK hQ hk8
  generalize fit K 32 = KK at *
  unfold bv at HKC
  go_enter Try.func13, Try.ntmps13
  go_wp2_with (first
    | ((with_reducible refine wpList_store_row (o := ⟨none, _, _, _, _, _⟩) rfl 44 (.tmp 5) (.tmp 13) rfl w1.heap.size (KK.map (Value.int .u8)).toArray rfl rfl 44 ((zs 32).map (Value.int .u8)).toArray ?_ ?_ ?_ ?_ ?_); exact heap_alloc_new w1 (.cells ((zs 32).map (Value.int .u8)).toArray 44); exact (by rw [i44]; simp [HL.out]); exact (by simp [zs, HL.out]); exact bytes_one _)
    | (go_at_call 23; refine HKC.out.mono ?_; rintro e w1 ⟨rfl, hb⟩; have HB1 := Lib.hid hb; clear hb))
  rw [World.setRow_alloc_new]
  have HK1 : Hid (Blk (w1.alloc (.cells (KK.map (Value.int .u8)).toArray 44)) w1.heap.size .u8 44 KK) := heap_alloc_new w1 _
  have HB2 := Lib.hid (HB1.out.alloc HB1.out.size (.cells (KK.map (Value.int .u8)).toArray 44))
  have hgk : w.heap.size ≤ w1.heap.size := HB1.out.size
  clear HB1 HKC
  generalize w1.alloc (.cells (KK.map (Value.int .u8)).toArray 44) = w2 at *
  generalize w1.heap.size = gk at *
  refine Grow.region_tail (by kernel_rfl) 8 (fun i => List.getD (Grow.Spec.slc (KK.take 8) :: Grow.Spec.is (.int .u64 (Bt.low (KK.take 8) : Nat)) :: Grow.Spec.is (.int .u64 (Po.rlo KK)) :: Grow.Spec.slc ((KK.drop 8).take 8) :: Grow.Spec.is (.int .u64 (Bt.low ((KK.drop 8).take 8) : Nat)) :: Grow.Spec.is (.int .u64 (Po.rhi KK)) :: Grow.Spec.is (.agg (ec (Po.fac KK))) :: Grow.newRow w2 :: []) i (Grow.Spec.is undef)) (by kernel_rfl) ⟨
    Grow.h2_cutArr (Or.inl rfl) 5 (gk) 0 8 32 (KK.take 8) (by kernel_rfl) rfl (fun a wx hp => by unfold execOp; simp only [hp]; go_simp) (by rw [List.length_take, HL.out]; rfl) (by decide) (fun x hx => H8.out x (List.mem_of_mem_take hx)) HK1.out.lt (at_part HK1.out 0 8 (by rw [HL.out]; decide)) rfl,
    Grow.h2_call1 (Or.inl rfl) 25 Grow.enter25 _ _ rfl (fun a wx hk => by refine (Grow.c_low (hk.deps 0 14 (by kernel_rfl)) (by rw [List.length_take]; omega)).mono ?_; rintro e w5 ⟨v5, rfl, rfl, hb⟩; exact ⟨_, rfl, rfl, hb⟩),
    Grow.h2_and (Or.inl rfl) 1 15 _ _ rfl (by kernel_rfl) rfl rfl,
    Grow.h2_cutArr (Or.inl rfl) 5 (gk) 8 8 24 ((KK.drop 8).take 8) (by kernel_rfl) rfl (fun a wx hp => by unfold execOp; simp only [hp]; go_simp) (by rw [List.length_take, List.length_drop, HL.out]; rfl) (by decide) (fun x hx => H8.out x (List.mem_of_mem_drop (List.mem_of_mem_take hx))) HK1.out.lt (at_part2 HK1.out 8 8 (by rw [HL.out]; decide)) rfl,
    Grow.h2_call1 (Or.inl rfl) 25 Grow.enter25 _ _ rfl (fun a wx hk => by refine (Grow.c_low (hk.deps 3 17 (by kernel_rfl)) (by rw [List.length_take]; omega)).mono ?_; rintro e w5 ⟨v5, rfl, rfl, hb⟩; exact ⟨_, rfl, rfl, hb⟩),
    Grow.h2_and (Or.inl rfl) 4 18 _ _ rfl (by kernel_rfl) rfl rfl,
    Grow.h2_call3 (Or.inl rfl) 24 Grow.enter24 _ _ _ _ rfl (fun a wx hk => by have e16 : a.eval (.tmp 16) = .int .u64 (Po.rlo KK) := (hk.deps 2 16 (by kernel_rfl)); have e19 : a.eval (.tmp 19) = .int .u64 (Po.rhi KK) := (hk.deps 5 19 (by kernel_rfl)); rw [e16, e19]; refine (split_any wx (Po.rlo KK) (Po.rhi KK) 0 (Po.rlo_le H8.out).1 (Po.rlo_le H8.out).2 (Po.rhi_le H8.out).1 (Po.rhi_le H8.out).2 (by decide) (by decide)).mono ?_; rintro e w5 ⟨rfl, hb⟩; exact ⟨_, rfl, rfl, hb⟩),
    Grow.h2_alloc (Or.inl rfl) rfl rfl,
    trivial⟩ ?_
  intro o a w3 ho hb hts hk hdf hfr
  obtain rfl := Option.some.inj ho; clear ho
  have e20 : a.eval (.tmp 20) = .agg (ec (Po.fac KK)) := hk 6 20 (by decide) rfl
  obtain ⟨gf, e6, hz, hgf⟩ : ∃ g, a.eval (.tmp 6) = .pointer (some ⟨g, 0, none⟩) ∧ w3.heap[g]? = some (.cells (ec Po.z) 48 (0, 0)) ∧ w2.heap.size ≤ g := hk 7 6 (by decide) rfl
  refine ⟨rfl, wp_store_row 48 (.tmp 6) (.tmp 20) rfl gf (ec (Po.fac KK)) e6 e20 48 (ec Po.z) hz i48 rfl (ec_one _) ?_⟩
  have ha := Grow.act_after hts hdf hfr
  rw [show Grow.dsts _ 8 = [14, 15, 16, 17, 18, 19, 20, 6] from by kernel_rfl] at ha
  simp only [Grow.putAll, e20, e6] at ha
  generalize a.eval (.tmp 14) = u14 at ha
  generalize a.eval (.tmp 15) = u15 at ha
  generalize a.eval (.tmp 16) = u16 at ha
  generalize a.eval (.tmp 17) = u17 at ha
  generalize a.eval (.tmp 18) = u18 at ha
  generalize a.eval (.tmp 19) = u19 at ha
  simp [Act.put] at ha
  have hkk3 : Blk (w3.setRow gf (ec (Po.fac KK))) gk .u8 44 KK := Blk.other (HK1.out.other (hb.block _ HK1.out.lt)) (setRow_other _ _ _ _ (by have := HK1.out.lt; omega))
  have hff3 := setRow_heap w3 gf _ (ec (Po.fac KK)) 48 _ hz
  have hb3 : Below w.heap.size w (w3.setRow gf (ec (Po.fac KK))) := below_setRow (HB2.out.trans (hb.mono HB2.out.size)) (Nat.le_trans HB2.out.size hgf) _
  have TL : Hid (TgL w gk gf (w3.setRow gf (ec (Po.fac KK))).heap.size KK (Po.fac KK) Po.z ((w3.setRow gf (ec (Po.fac KK))).alloc (.cells (ec Po.z) 48))) := by
    refine ⟨hkk3.other (Below.heap_alloc _ _ _ hkk3.lt), (Below.heap_alloc _ _ _ (lt_of_block hff3)).trans hff3, heap_alloc_new _ _, ⟨hkk3.lt, lt_of_block hff3, hgk, Nat.le_trans HB2.out.size hgf⟩, hb3.alloc hb3.size _⟩
  clear hk hts hdf hfr e20 e6 hb hz hgf hkk3 hff3 hb3 HK1 HB2
  subst ha
  generalize w3.setRow gf (ec (Po.fac KK)) = w4 at *
  go_wp2_with fail
  change Code.wp _ _ _ _ (w4.alloc (.cells (ec Po.z) 48))
  generalize w4.alloc (.cells (ec Po.z) 48) = w5 at *
  generalize w4.heap.size = gs at *
  go_loopw [1] (fun v wr => ∃ (k : Nat) (s : Po.E), 16 * k ≤ Q.length ∧ Hid (Slc w v (Q.drop (16 * k))) ∧ Hid (TgL w gk gf gs KK (Po.fac KK) s wr) ∧ Hid (Po.Sum KK Q k s)) (fun v _ => slen v)
  case atStart => exact ⟨0, Po.z, by omega, HQ, TL, Po.Sum.zero _ _⟩
  case round =>
    clear TL HQ
    obtain ⟨k, s, hk16, HS, TL, HSUM⟩ := hrel
    obtain ⟨a1, c1, rfl⟩ := slc_form HS.out
    have HDL : Hid ((Q.drop (16 * k)).length = Q.length - 16 * k) := List.length_drop
    have H8L : Hid (∀ x ∈ Q.drop (16 * k), W8 x) := fun x hx => hq8.out x (List.mem_of_mem_drop hx)
    have HSW := Lib.hid (HS.out.below TL.out.bb (Nat.le_refl _))
    have HDD : Hid ((Q.drop (16 * k)).drop 16 = Q.drop (16 * (k + 1))) := by show _ = _; rw [List.drop_drop]; congr 1
    have HMO := fun b hc hv => HSUM.out.more (b := b) H8.out hc hv
    have HSM := Lib.hid HMO
    clear HMO
    by_cases h16 : 16 ≤ (Q.drop (16 * k)).length
    · obtain ⟨hbc, hbv⟩ := Po.blk_full H8L.out h16
      have HBC := Lib.hid hbc
      have HBV := Lib.hid hbv
      clear hbc hbv
      generalize Q.drop (16 * k) = L at *
      go_wp2_with fail
      refine Grow.region_tail (by kernel_rfl) 11 (fun i => List.getD (Grow.Spec.is (.agg (ec (s))) :: Grow.Spec.is (.slice a1 L.length c1) :: Grow.Spec.slc (L.take 8) :: Grow.Spec.is (.int .u64 (Bt.low (L.take 8) : Nat)) :: Grow.Spec.is (.slice a1 L.length c1) :: Grow.Spec.slc ((L.drop 8).take 8) :: Grow.Spec.is (.int .u64 (Bt.low ((L.drop 8).take 8) : Nat)) :: Grow.Spec.is (.agg (ec (Po.split (Bt.low (L.take 8) : Nat) (Bt.low ((L.drop 8).take 8) : Nat) 1))) :: Grow.Spec.is (.agg (ec (Po.plus s (Po.split (Bt.low (L.take 8) : Nat) (Bt.low ((L.drop 8).take 8) : Nat) 1)))) :: Grow.Spec.is (.agg (ec (Po.fac KK))) :: Grow.Spec.is (.agg (ec (Po.mul (Po.plus s (Po.split (Bt.low (L.take 8) : Nat) (Bt.low ((L.drop 8).take 8) : Nat) 1)) (Po.fac KK)))) :: []) i (Grow.Spec.is undef)) (by kernel_rfl) ⟨
        Grow.h2_row (Or.inl rfl) 7 gs 48 (ec (s)) _ rfl Try.underlying48 i48 rfl (by kernel_rfl) rfl TL.out.ss rfl,
        Grow.h2_move (Or.inl rfl) _ (Or.inl rfl) (fun a wx hk => by have e : a.eval (.tmp 1) = _ := hk.rest 1 (by kernel_rfl); rw [e]; rfl),
        Grow.h2_cutH (Or.inl rfl) 1 25 a1 L.length c1 8 (by omega) L rfl (by kernel_rfl) rfl HSW.out rfl,
        Grow.h2_call1 (Or.inl rfl) 25 Grow.enter25 _ _ rfl (fun a wx hk => by refine (Grow.c_low (hk.deps 2 26 (by kernel_rfl)) (by rw [List.length_take]; omega)).mono ?_; rintro e w5 ⟨v5, rfl, rfl, hb⟩; exact ⟨_, rfl, rfl, hb⟩),
        Grow.h2_move (Or.inl rfl) _ (Or.inl rfl) (fun a wx hk => by have e : a.eval (.tmp 1) = _ := hk.rest 1 (by kernel_rfl); rw [e]; rfl),
        Grow.h2_cut (Or.inl rfl) 4 28 a1 L.length c1 8 16 (by decide) (by omega) L rfl (by kernel_rfl) rfl HSW.out rfl,
        Grow.h2_call1 (Or.inl rfl) 25 Grow.enter25 _ _ rfl (fun a wx hk => by refine (Grow.c_low (hk.deps 5 29 (by kernel_rfl)) (by rw [List.length_take]; omega)).mono ?_; rintro e w5 ⟨v5, rfl, rfl, hb⟩; exact ⟨_, rfl, rfl, hb⟩),
        Grow.h2_call3 (Or.inl rfl) 24 Grow.enter24 _ _ _ _ rfl (fun a wx hk => by have e27 : a.eval (.tmp 27) = .int .u64 ((Bt.low (L.take 8) : Nat)) := (hk.deps 3 27 (by kernel_rfl)); have e30 : a.eval (.tmp 30) = .int .u64 ((Bt.low ((L.drop 8).take 8) : Nat)) := (hk.deps 6 30 (by kernel_rfl)); rw [e27, e30]; refine (split_any wx _ _ 1 (by omega) (low8 (fun x hx => H8L.out x (List.mem_of_mem_take hx)) (by rw [List.length_take]; omega)) (by omega) (low8 (fun x hx => H8L.out x (List.mem_of_mem_drop (List.mem_of_mem_take hx))) (by rw [List.length_take]; omega)) (by decide) (by decide)).mono ?_; rintro e w5 ⟨rfl, hb⟩; exact ⟨_, rfl, rfl, hb⟩),
        Grow.h2_call2 (Or.inl rfl) 26 Grow.enter26 _ _ _ rfl (fun a wx hk => by have e24 : a.eval (.tmp 24) = .agg (ec (s)) := (hk.deps 0 24 (by kernel_rfl)); have e31 : a.eval (.tmp 31) = .agg (ec (Po.split (Bt.low (L.take 8) : Nat) (Bt.low ((L.drop 8).take 8) : Nat) 1)) := (hk.deps 7 31 (by kernel_rfl)); rw [e24, e31]; refine (plus_any wx s (Po.split (Bt.low (L.take 8) : Nat) (Bt.low ((L.drop 8).take 8) : Nat) 1) (HSUM.out.ok.le.mono (by decide)) (Po.Le.mono HBC.out (by decide))).mono ?_; rintro e w5 ⟨rfl, hb⟩; exact ⟨_, rfl, rfl, hb⟩),
        Grow.h2_row (Or.inl rfl) 6 gf 48 (ec (Po.fac KK)) _ rfl Try.underlying48 i48 rfl (by kernel_rfl) rfl TL.out.ff rfl,
        Grow.h2_call2 (Or.inl rfl) 27 Grow.enter27 _ _ _ rfl (fun a wx hk => by have e32 : a.eval (.tmp 32) = .agg (ec (Po.plus s (Po.split (Bt.low (L.take 8) : Nat) (Bt.low ((L.drop 8).take 8) : Nat) 1))) := (hk.deps 8 32 (by kernel_rfl)); have e33 : a.eval (.tmp 33) = .agg (ec (Po.fac KK)) := (hk.deps 9 33 (by kernel_rfl)); rw [e32, e33]; refine (times_any wx (Po.plus s (Po.split (Bt.low (L.take 8) : Nat) (Bt.low ((L.drop 8).take 8) : Nat) 1)) (Po.fac KK) ((Po.plus_le HSUM.out.ok.le HBC.out).mono (by decide)) (Po.fac_can H8.out)).mono ?_; rintro e w5 ⟨rfl, hb⟩; exact ⟨_, rfl, rfl, hb⟩),
        trivial⟩ ?_
      intro o a w6 ho hb hts hk hdf hfr
      obtain rfl := Option.some.inj ho; clear ho
      have e34 : a.eval (.tmp 34) = .agg (ec (Po.mul (Po.plus s (Po.split (Bt.low (L.take 8) : Nat) (Bt.low ((L.drop 8).take 8) : Nat) 1)) (Po.fac KK))) := hk 10 34 (by decide) rfl
      have e7 : a.eval (.tmp 7) = .pointer (some ⟨gs, 0, none⟩) := hfr 7 (by kernel_rfl)
      refine ⟨rfl, wp_store_row 48 (.tmp 7) (.tmp 34) rfl gs (ec (Po.mul (Po.plus s (Po.split (Bt.low (L.take 8) : Nat) (Bt.low ((L.drop 8).take 8) : Nat) 1)) (Po.fac KK))) e7 e34 48 (ec s) (TL.out.below hb).ss i48 rfl (ec_one _) ?_⟩
      have ha := Grow.act_after hts hdf hfr
      rw [show Grow.dsts _ 11 = [24, 25, 26, 27, 28, 29, 30, 31, 32, 33, 34] from by kernel_rfl] at ha
      simp only [Grow.putAll, e34] at ha
      generalize a.eval (.tmp 24) = u24 at ha
      generalize a.eval (.tmp 25) = u25 at ha
      generalize a.eval (.tmp 26) = u26 at ha
      generalize a.eval (.tmp 27) = u27 at ha
      generalize a.eval (.tmp 28) = u28 at ha
      generalize a.eval (.tmp 29) = u29 at ha
      generalize a.eval (.tmp 30) = u30 at ha
      generalize a.eval (.tmp 31) = u31 at ha
      generalize a.eval (.tmp 32) = u32 at ha
      generalize a.eval (.tmp 33) = u33 at ha
      simp [Act.put] at ha
      have TN := Lib.hid (TL.out.put hb (Po.mul (Po.plus s (Po.split (Bt.low (L.take 8) : Nat) (Bt.low ((L.drop 8).take 8) : Nat) 1)) (Po.fac KK)))
      have SN := Lib.hid (HSM.out (Po.split (Bt.low (L.take 8) : Nat) (Bt.low ((L.drop 8).take 8) : Nat) 1) HBC.out HBV.out)
      have HSN : Hid (Slc w (sliced a1 16 L.length c1 1) (Q.drop (16 * (k + 1)))) := by
        have := slc_from HS.out 16 h16
        rw [HDD.out] at this
        exact this
      have hcut := run_cutL a1 L.length c1 16 h16 16 rfl
      have hsl : slen (sliced a1 16 L.length c1 1) = L.length - 16 := rfl
      have HSL := Lib.hid hsl
      have hk17 : 16 * (k + 1) ≤ Q.length := by have := HDL.out; omega
      clear hk hts hdf hfr e34 e7 hb hsl
      subst ha
      generalize sliced a1 16 L.length c1 1 = sv at *
      generalize Po.mul (Po.plus s (Po.split (Bt.low (L.take 8) : Nat) (Bt.low ((L.drop 8).take 8) : Nat) 1)) (Po.fac KK) = sn at *
      generalize w6.setRow gs (ec sn) = w7 at *
      go_wp2
      go_roundw
      case rel => exact ⟨k + 1, sn, hk17, HSN, TN, SN⟩
      case measure => rw [HSL.out]; show L.length - 16 < L.length; omega
    · have hne : True := trivial
      by_cases h0 : 0 < (Q.drop (16 * k)).length
      · obtain ⟨R, hRe⟩ : ∃ R, R = (fit (Q.drop (16 * k)) 16).set (Q.drop (16 * k)).length 1 := ⟨_, rfl⟩
        obtain ⟨hr1, hr2, hr3, hr4⟩ := Po.blk_rest H8L.out (by omega) R hRe
        have HR1 := Lib.hid hr1
        have HR2 := Lib.hid hr2
        have HBC := Lib.hid hr3
        have HBV := Lib.hid hr4
        have HRE := Lib.hid hRe
        have hk1 : k + 1 = (Q.length + 15) / 16 := by have := HDL.out; omega
        clear HDD hr1 hr2 hr3 hr4 hRe
        rw [hk1] at HSM
        have hl16 : (Q.drop (16 * k)).length < 16 := by omega
        clear HS HDL hk16 hk1
        generalize Q.drop (16 * k) = L at *
        have HSA := Lib.hid (HSW.out.below ((Below.refl _ _).alloc (Nat.le_refl _) (.cells ((zs 16).map (Value.int .u8)).toArray 52)) (Nat.le_refl _))
        have HPOS := Lib.hid (slc_pos HSA.out 16)
        have HF := Lib.hid (fit_splice L 16)
        have HT : Hid (((L.take 16).map (Value.int .u8)).length = L.length) := by show _ = _; rw [List.length_map, List.length_take, Nat.min_eq_right (by omega)]
        have HI := Lib.hid (ints_one .u8 (L.take 16))
        clear HSA
        generalize (L.take 16).map (Value.int .u8) = CS at *
        go_wp2_with ((with_reducible refine wpList_copy_splice (o := ⟨some 42, _, _, _, _, _⟩) rfl (.tmp 40) (.tmp 41) 22 22 rfl 5 Try.underlying22 i5 (some ⟨wr.heap.size, 0, none⟩) a1 16 16 L.length c1 rfl rfl wr.heap.size 0 ((zs 16).map (Value.int .u8)) 52 ?_ CS ?_ ?_ ?_ ?_ wr.heap.size wr ?_ ?_ ?_); exact heap_alloc_new wr (.cells ((zs 16).map (Value.int .u8)).toArray 52); exact (by rw [HT.out]; exact (Nat.min_eq_left (by omega)).symm); exact (fun h => ⟨rfl, HPOS.out h⟩); exact (by rw [HT.out, List.length_map]; show 0 + L.length ≤ 16; omega); exact HI.out; exact (Below.refl _ _).alloc (Nat.le_refl _) _; exact Nat.le_refl _; intro w3 hs3 hb3; rw [show goInt CS.length = .int .i64 (L.length : Nat) from by rw [HT.out]; rfl]; have HB : Hid (Blk w3 wr.heap.size .u8 52 (fit L 16)) := (by show w3.heap[_]? = _; rw [hs3.out, HF.out]); have HBB := Lib.hid hb3; have q1 := HB.out.cell L.length (by rw [fit_length]; omega); have q2 := HB.out.free L.length; clear hs3 hb3)
        have TN := Lib.hid (TL.out.below (HBB.out.setCell (p := ⟨wr.heap.size, L.length, none⟩) (Nat.le_refl _) (.int .u8 1)))
        have HRB : Hid (Blk (w3.setCell ⟨wr.heap.size, L.length, none⟩ (.int .u8 1)) wr.heap.size .u8 52 R) := by show Blk _ _ _ _ _; rw [HRE.out]; exact HB.out.set L.length 1
        clear q1 q2 HB HBB HRE HPOS HF HT HI
        generalize w3.setCell ⟨wr.heap.size, L.length, none⟩ (.int .u8 1) = w4 at *
        generalize wr.heap.size = gp at *
        refine Grow.region_tail (by kernel_rfl) 9 (fun i => List.getD (Grow.Spec.is (.agg (ec (s))) :: Grow.Spec.slc (R.take 8) :: Grow.Spec.is (.int .u64 (Bt.low (R.take 8) : Nat)) :: Grow.Spec.slc (R.drop 8) :: Grow.Spec.is (.int .u64 (Bt.low (R.drop 8) : Nat)) :: Grow.Spec.is (.agg (ec (Po.split (Bt.low (R.take 8) : Nat) (Bt.low (R.drop 8) : Nat) 0))) :: Grow.Spec.is (.agg (ec (Po.plus s (Po.split (Bt.low (R.take 8) : Nat) (Bt.low (R.drop 8) : Nat) 0)))) :: Grow.Spec.is (.agg (ec (Po.fac KK))) :: Grow.Spec.is (.agg (ec (Po.mul (Po.plus s (Po.split (Bt.low (R.take 8) : Nat) (Bt.low (R.drop 8) : Nat) 0)) (Po.fac KK)))) :: []) i (Grow.Spec.is undef)) (by kernel_rfl) ⟨
          Grow.h2_row (Or.inl rfl) 7 gs 48 (ec (s)) _ rfl Try.underlying48 i48 rfl (by kernel_rfl) rfl TN.out.ss rfl,
          Grow.h2_cutArr (Or.inl rfl) 8 (gp) 0 8 16 (R.take 8) (by kernel_rfl) rfl (fun a wx hp => by unfold execOp; simp only [hp]; go_simp) (by rw [List.length_take, HR1.out]; rfl) (by decide) (fun x hx => HR2.out x (List.mem_of_mem_take hx)) HRB.out.lt (at_part HRB.out 0 8 (by rw [HR1.out]; decide)) rfl,
          Grow.h2_call1 (Or.inl rfl) 25 Grow.enter25 _ _ rfl (fun a wx hk => by refine (Grow.c_low (hk.deps 1 45 (by kernel_rfl)) (by rw [List.length_take]; omega)).mono ?_; rintro e w5 ⟨v5, rfl, rfl, hb⟩; exact ⟨_, rfl, rfl, hb⟩),
          Grow.h2_cutArr (Or.inl rfl) 8 (gp) 8 8 8 (R.drop 8) (by kernel_rfl) rfl (fun a wx hp => by unfold execOp; simp only [hp]; go_simp) (by rw [List.length_drop, HR1.out]) (by decide) (fun x hx => HR2.out x (List.mem_of_mem_drop hx)) HRB.out.lt (at_from HRB.out 8 (by rw [HR1.out]; decide)) rfl,
          Grow.h2_call1 (Or.inl rfl) 25 Grow.enter25 _ _ rfl (fun a wx hk => by refine (Grow.c_low (hk.deps 3 47 (by kernel_rfl)) (by rw [List.length_drop, HR1.out]; decide)).mono ?_; rintro e w5 ⟨v5, rfl, rfl, hb⟩; exact ⟨_, rfl, rfl, hb⟩),
          Grow.h2_call3 (Or.inl rfl) 24 Grow.enter24 _ _ _ _ rfl (fun a wx hk => by have e46 : a.eval (.tmp 46) = .int .u64 ((Bt.low (R.take 8) : Nat)) := (hk.deps 2 46 (by kernel_rfl)); have e48 : a.eval (.tmp 48) = .int .u64 ((Bt.low (R.drop 8) : Nat)) := (hk.deps 4 48 (by kernel_rfl)); rw [e46, e48]; refine (split_any wx _ _ 0 (by omega) (low8 (fun x hx => HR2.out x (List.mem_of_mem_take hx)) (by rw [List.length_take]; omega)) (by omega) (low8 (fun x hx => HR2.out x (List.mem_of_mem_drop hx)) (by rw [List.length_drop, HR1.out]; decide)) (by decide) (by decide)).mono ?_; rintro e w5 ⟨rfl, hb⟩; exact ⟨_, rfl, rfl, hb⟩),
          Grow.h2_call2 (Or.inl rfl) 26 Grow.enter26 _ _ _ rfl (fun a wx hk => by have e44 : a.eval (.tmp 44) = .agg (ec (s)) := (hk.deps 0 44 (by kernel_rfl)); have e49 : a.eval (.tmp 49) = .agg (ec (Po.split (Bt.low (R.take 8) : Nat) (Bt.low (R.drop 8) : Nat) 0)) := (hk.deps 5 49 (by kernel_rfl)); rw [e44, e49]; refine (plus_any wx s (Po.split (Bt.low (R.take 8) : Nat) (Bt.low (R.drop 8) : Nat) 0) (HSUM.out.ok.le.mono (by decide)) (Po.Le.mono HBC.out (by decide))).mono ?_; rintro e w5 ⟨rfl, hb⟩; exact ⟨_, rfl, rfl, hb⟩),
          Grow.h2_row (Or.inl rfl) 6 gf 48 (ec (Po.fac KK)) _ rfl Try.underlying48 i48 rfl (by kernel_rfl) rfl TN.out.ff rfl,
          Grow.h2_call2 (Or.inl rfl) 27 Grow.enter27 _ _ _ rfl (fun a wx hk => by have e50 : a.eval (.tmp 50) = .agg (ec (Po.plus s (Po.split (Bt.low (R.take 8) : Nat) (Bt.low (R.drop 8) : Nat) 0))) := (hk.deps 6 50 (by kernel_rfl)); have e51 : a.eval (.tmp 51) = .agg (ec (Po.fac KK)) := (hk.deps 7 51 (by kernel_rfl)); rw [e50, e51]; refine (times_any wx (Po.plus s (Po.split (Bt.low (R.take 8) : Nat) (Bt.low (R.drop 8) : Nat) 0)) (Po.fac KK) ((Po.plus_le HSUM.out.ok.le HBC.out).mono (by decide)) (Po.fac_can H8.out)).mono ?_; rintro e w5 ⟨rfl, hb⟩; exact ⟨_, rfl, rfl, hb⟩),
          trivial⟩ ?_
        intro o a w6 ho hb hts hk hdf hfr
        obtain rfl := Option.some.inj ho
        clear ho
        have e52 : a.eval (.tmp 52) = .agg (ec (Po.mul (Po.plus s (Po.split (Bt.low (R.take 8) : Nat) (Bt.low (R.drop 8) : Nat) 0)) (Po.fac KK))) := hk 8 52 (by decide) rfl
        have e7 : a.eval (.tmp 7) = .pointer (some ⟨gs, 0, none⟩) := hfr 7 (by kernel_rfl)
        refine ⟨rfl, wp_store_row 48 (.tmp 7) (.tmp 52) rfl gs (ec (Po.mul (Po.plus s (Po.split (Bt.low (R.take 8) : Nat) (Bt.low (R.drop 8) : Nat) 0)) (Po.fac KK))) e7 e52 48 (ec s) (TN.out.below hb).ss i48 rfl (ec_one _) ?_⟩
        have ha := Grow.act_after hts hdf hfr
        rw [show Grow.dsts _ 9 = [44, 45, 46, 47, 48, 49, 50, 51, 52] from by kernel_rfl] at ha
        simp only [Grow.putAll, e52] at ha
        generalize a.eval (.tmp 44) = u44 at ha
        generalize a.eval (.tmp 45) = u45 at ha
        generalize a.eval (.tmp 46) = u46 at ha
        generalize a.eval (.tmp 47) = u47 at ha
        generalize a.eval (.tmp 48) = u48 at ha
        generalize a.eval (.tmp 49) = u49 at ha
        generalize a.eval (.tmp 50) = u50 at ha
        generalize a.eval (.tmp 51) = u51 at ha
        simp [Act.put] at ha
        have TL := Lib.hid (TN.out.put hb (Po.mul (Po.plus s (Po.split (Bt.low (R.take 8) : Nat) (Bt.low (R.drop 8) : Nat) 0)) (Po.fac KK)))
        have SUMF := Lib.hid (HSM.out (Po.split (Bt.low (R.take 8) : Nat) (Bt.low (R.drop 8) : Nat) 0) HBC.out HBV.out)
        clear hk hts hdf hfr e52 e7 hb TN HSM HBC HBV HRB HR1 HR2
        subst ha
        generalize Po.mul (Po.plus s (Po.split (Bt.low (R.take 8) : Nat) (Bt.low (R.drop 8) : Nat) 0)) (Po.fac KK) = s at *
        generalize w6.setRow gs (ec s) = wv at *
        have HLE := Lib.hid (tag_end SUMF.out H8.out HL.out)
        have hok := SUMF.out.ok
        have hcan := (Po.least_val hok).2
        have HLS := Lib.hid (least_any wv s hok)
        obtain ⟨Y, hY⟩ : ∃ Y, Y = Po.least s := ⟨_, rfl⟩
        rw [← hY] at HLE HLS hcan
        have HJ := Lib.hid (fun wq => joined_any wq Y hcan)
        clear hY hok hcan
        have hd1 : ((KK.drop 16).take 8).length = 8 := by rw [List.length_take, List.length_drop, HL.out]; rfl
        have hd2 : (KK.drop 24).length = 8 := by rw [List.length_drop, HL.out]
        have hm1 : ∀ x ∈ (KK.drop 16).take 8, W8 x := fun x hx => H8.out x (List.mem_of_mem_drop (List.mem_of_mem_take hx))
        have hm2 : ∀ x ∈ KK.drop 24, W8 x := fun x hx => H8.out x (List.mem_of_mem_drop hx)
        have HLA : Hid (∀ wq, TgL w gk gf gs KK (Po.fac KK) s wq → Calls Try.prog 25 #[.slice (some ⟨gk, 16, none⟩) 8 16] wq fun e w' => e = .returned (.int .u64 (Bt.low ((KK.drop 16).take 8) : Nat)) ∧ Below wq.heap.size wq w') := fun wq T => low_at 16 8 (at_part2 T.kk 16 8 (by rw [HL.out]; decide)) T.kk.lt hm1 hd1 (by decide) (by decide)
        have HLB : Hid (∀ wq, TgL w gk gf gs KK (Po.fac KK) s wq → Calls Try.prog 25 #[.slice (some ⟨gk, 24, none⟩) 8 8] wq fun e w' => e = .returned (.int .u64 (Bt.low (KK.drop 24) : Nat)) ∧ Below wq.heap.size wq w') := fun wq T => low_at 8 8 (at_from T.kk 24 (by rw [HL.out]; decide)) T.kk.lt hm2 hd2 (by decide) (by decide)
        have hk1 := low8 hm1 (by rw [hd1]; decide)
        have hk2 := low8 hm2 (by rw [hd2]; decide)
        have hk10 : (0 : Int) ≤ (Bt.low ((KK.drop 16).take 8) : Nat) := Int.natCast_nonneg _
        have hk20 : (0 : Int) ≤ (Bt.low (KK.drop 24) : Nat) := Int.natCast_nonneg _
        clear hm1 hm2 hd1 hd2
        generalize ((Bt.low ((KK.drop 16).take 8) : Nat) : Int) = k1 at *
        generalize ((Bt.low (KK.drop 24) : Nat) : Int) = k2 at *
        obtain ⟨A, B, hA, hB, hAe, hBe, htag, ⟨hlo0, hlo1⟩, ⟨hhi0, hhi1⟩⟩ := HLE.out
        clear HLE
        generalize Po.joinLo Y = lo at *
        generalize Po.joinHi Y = hi at *
        have e1 := add64_any lo k1 0 hlo0 hk10 (by decide) (by decide)
        rw [Int.add_zero, hAe] at e1
        have hc0 : 0 ≤ (lo + k1) / 18446744073709551616 := by omega
        have hc1 : (lo + k1) / 18446744073709551616 ≤ 1 := by omega
        generalize (lo + k1) / 18446744073709551616 = cc at *
        have e2 := add64_any hi k2 cc hhi0 hk20 hc0 hc1
        rw [hBe] at e2
        generalize (hi + k2 + cc) / 18446744073709551616 = dd at *
        have HTAG := Lib.hid htag
        have HA := Lib.hid hA
        have HB0 := Lib.hid hB
        clear hAe hBe htag hA hB
        have HAP : Hid (∀ wq, TgL w gk gf gs KK (Po.fac KK) s wq → Calls Try.prog 31 #[.slice none 0 0, .int .u64 A, .int .i64 8] wq fun e w' => ∃ v', e = .returned v' ∧ Own w.heap.size w' v' (Bt.le A 8) ∧ Below w.heap.size wq w') := fun wq T => append_low wq w.heap.size (.slice none 0 0) [] (Own.nil wq T.bb.size) (Nat.zero_le _) A HA.out 8 (Nat.le_refl _)
        have HBP : Hid (∀ wq v, Own w.heap.size wq v (Bt.le A 8) → Calls Try.prog 31 #[v, .int .u64 B, .int .i64 8] wq fun e w' => ∃ v', e = .returned v' ∧ Own w.heap.size w' v' (Bt.le A 8 ++ Bt.le B 8) ∧ Below w.heap.size wq w') := fun wq v hv => append_low wq w.heap.size v (Bt.le A 8) hv (by rw [Bt.le_length]; decide) B HB0.out 8 (Nat.le_refl _)
        clear HA HB0
        generalize Bt.le A 8 ++ Bt.le B 8 = AB at *
        generalize Bt.le A 8 = LA at *
        go_wp2_with (first
          | (go_at_call 31; refine (HBP.out w12 _ OV.out).mono ?_; rintro e w13 ⟨v2, rfl, hv2, hb13⟩; have OZ := Lib.hid hv2; have BZ := Lib.hid (BV.out.trans hb13); clear hv2 hb13; obtain ⟨av2, cv2, rfl⟩ := OZ.out.form)
          | (go_at_call 31; refine (HAP.out w11 T11.out).mono ?_; rintro e w12 ⟨vv, rfl, hv1, hb12⟩; have OV := Lib.hid hv1; have BV := Lib.hid (T11.out.bb.trans hb12); clear hv1 hb12; obtain ⟨av, cv, rfl⟩ := OV.out.form)
          | (go_at_call 25; refine (HLB.out w10 T10.out).mono ?_; rintro e w11 ⟨rfl, hb11⟩; have T11 := Lib.hid (T10.out.below hb11); clear hb11)
          | (go_at_call 25; refine (HLA.out w9 T9.out).mono ?_; rintro e w10 ⟨rfl, hb10⟩; have T10 := Lib.hid (T9.out.below hb10); clear hb10)
          | (go_at_call 29; refine (HJ.out w8).mono ?_; rintro e w9 ⟨rfl, hb9⟩; have T9 := Lib.hid (T8.out.below hb9); clear hb9)
          | (go_at_call 28; refine HLS.out.mono ?_; rintro e w8 ⟨rfl, hb8⟩; have T8 := Lib.hid (TL.out.below hb8); clear hb8)
          | ((with_reducible refine wpList_load_row (o := ⟨some 54, _, _, _, _, _⟩) rfl 48 (.tmp 7) rfl gs rfl 48 _ (0, 0) _ TL.out.ss Try.underlying48 rfl ?_ ?_); exact i48))
        go_ret
        exact ⟨_, rfl, by rw [← HTAG.out]; exact OZ.out, BZ.out⟩
      · have hk1 : k = (Q.length + 15) / 16 := by have := HDL.out; omega
        have SUMF : Hid (Po.Sum KK Q ((Q.length + 15) / 16) s) := by show Po.Sum _ _ _ _; rw [← hk1]; exact HSUM.out
        clear HDD HSM HSUM hk1 HS HDL hk16
        have hl0 : (Q.drop (16 * k)).length = 0 := by omega
        obtain hL0 : Q.drop (16 * k) = [] := List.eq_nil_of_length_eq_zero hl0
        clear hl0
        rw [hL0] at HSW ⊢
        clear hL0 h0 h16 H8L
        generalize wr = wv at *
        have HLE := Lib.hid (tag_end SUMF.out H8.out HL.out)
        have hok := SUMF.out.ok
        have hcan := (Po.least_val hok).2
        have HLS := Lib.hid (least_any wv s hok)
        obtain ⟨Y, hY⟩ : ∃ Y, Y = Po.least s := ⟨_, rfl⟩
        rw [← hY] at HLE HLS hcan
        have HJ := Lib.hid (fun wq => joined_any wq Y hcan)
        clear hY hok hcan
        have hd1 : ((KK.drop 16).take 8).length = 8 := by rw [List.length_take, List.length_drop, HL.out]; rfl
        have hd2 : (KK.drop 24).length = 8 := by rw [List.length_drop, HL.out]
        have hm1 : ∀ x ∈ (KK.drop 16).take 8, W8 x := fun x hx => H8.out x (List.mem_of_mem_drop (List.mem_of_mem_take hx))
        have hm2 : ∀ x ∈ KK.drop 24, W8 x := fun x hx => H8.out x (List.mem_of_mem_drop hx)
        have HLA : Hid (∀ wq, TgL w gk gf gs KK (Po.fac KK) s wq → Calls Try.prog 25 #[.slice (some ⟨gk, 16, none⟩) 8 16] wq fun e w' => e = .returned (.int .u64 (Bt.low ((KK.drop 16).take 8) : Nat)) ∧ Below wq.heap.size wq w') := fun wq T => low_at 16 8 (at_part2 T.kk 16 8 (by rw [HL.out]; decide)) T.kk.lt hm1 hd1 (by decide) (by decide)
        have HLB : Hid (∀ wq, TgL w gk gf gs KK (Po.fac KK) s wq → Calls Try.prog 25 #[.slice (some ⟨gk, 24, none⟩) 8 8] wq fun e w' => e = .returned (.int .u64 (Bt.low (KK.drop 24) : Nat)) ∧ Below wq.heap.size wq w') := fun wq T => low_at 8 8 (at_from T.kk 24 (by rw [HL.out]; decide)) T.kk.lt hm2 hd2 (by decide) (by decide)
        have hk1 := low8 hm1 (by rw [hd1]; decide)
        have hk2 := low8 hm2 (by rw [hd2]; decide)
        have hk10 : (0 : Int) ≤ (Bt.low ((KK.drop 16).take 8) : Nat) := Int.natCast_nonneg _
        have hk20 : (0 : Int) ≤ (Bt.low (KK.drop 24) : Nat) := Int.natCast_nonneg _
        clear hm1 hm2 hd1 hd2
        generalize ((Bt.low ((KK.drop 16).take 8) : Nat) : Int) = k1 at *
        generalize ((Bt.low (KK.drop 24) : Nat) : Int) = k2 at *
        obtain ⟨A, B, hA, hB, hAe, hBe, htag, ⟨hlo0, hlo1⟩, ⟨hhi0, hhi1⟩⟩ := HLE.out
        clear HLE
        generalize Po.joinLo Y = lo at *
        generalize Po.joinHi Y = hi at *
        have e1 := add64_any lo k1 0 hlo0 hk10 (by decide) (by decide)
        rw [Int.add_zero, hAe] at e1
        have hc0 : 0 ≤ (lo + k1) / 18446744073709551616 := by omega
        have hc1 : (lo + k1) / 18446744073709551616 ≤ 1 := by omega
        generalize (lo + k1) / 18446744073709551616 = cc at *
        have e2 := add64_any hi k2 cc hhi0 hk20 hc0 hc1
        rw [hBe] at e2
        generalize (hi + k2 + cc) / 18446744073709551616 = dd at *
        have HTAG := Lib.hid htag
        have HA := Lib.hid hA
        have HB0 := Lib.hid hB
        clear hAe hBe htag hA hB
        have HAP : Hid (∀ wq, TgL w gk gf gs KK (Po.fac KK) s wq → Calls Try.prog 31 #[.slice none 0 0, .int .u64 A, .int .i64 8] wq fun e w' => ∃ v', e = .returned v' ∧ Own w.heap.size w' v' (Bt.le A 8) ∧ Below w.heap.size wq w') := fun wq T => append_low wq w.heap.size (.slice none 0 0) [] (Own.nil wq T.bb.size) (Nat.zero_le _) A HA.out 8 (Nat.le_refl _)
        have HBP : Hid (∀ wq v, Own w.heap.size wq v (Bt.le A 8) → Calls Try.prog 31 #[v, .int .u64 B, .int .i64 8] wq fun e w' => ∃ v', e = .returned v' ∧ Own w.heap.size w' v' (Bt.le A 8 ++ Bt.le B 8) ∧ Below w.heap.size wq w') := fun wq v hv => append_low wq w.heap.size v (Bt.le A 8) hv (by rw [Bt.le_length]; decide) B HB0.out 8 (Nat.le_refl _)
        clear HA HB0
        generalize Bt.le A 8 ++ Bt.le B 8 = AB at *
        generalize Bt.le A 8 = LA at *
        go_wp2_with (first
          | (go_at_call 31; refine (HBP.out w12 _ OV.out).mono ?_; rintro e w13 ⟨v2, rfl, hv2, hb13⟩; have OZ := Lib.hid hv2; have BZ := Lib.hid (BV.out.trans hb13); clear hv2 hb13; obtain ⟨av2, cv2, rfl⟩ := OZ.out.form)
          | (go_at_call 31; refine (HAP.out w11 T11.out).mono ?_; rintro e w12 ⟨vv, rfl, hv1, hb12⟩; have OV := Lib.hid hv1; have BV := Lib.hid (T11.out.bb.trans hb12); clear hv1 hb12; obtain ⟨av, cv, rfl⟩ := OV.out.form)
          | (go_at_call 25; refine (HLB.out w10 T10.out).mono ?_; rintro e w11 ⟨rfl, hb11⟩; have T11 := Lib.hid (T10.out.below hb11); clear hb11)
          | (go_at_call 25; refine (HLA.out w9 T9.out).mono ?_; rintro e w10 ⟨rfl, hb10⟩; have T10 := Lib.hid (T9.out.below hb10); clear hb10)
          | (go_at_call 29; refine (HJ.out w8).mono ?_; rintro e w9 ⟨rfl, hb9⟩; have T9 := Lib.hid (T8.out.below hb9); clear hb9)
          | (go_at_call 28; refine HLS.out.mono ?_; rintro e w8 ⟨rfl, hb8⟩; have T8 := Lib.hid (TL.out.below hb8); clear hb8)
          | ((with_reducible refine wpList_load_row (o := ⟨some 54, _, _, _, _, _⟩) rfl 48 (.tmp 7) rfl gs rfl 48 _ (0, 0) _ TL.out.ss Try.underlying48 rfl ?_ ?_); exact i48))
        go_ret
        exact ⟨_, rfl, by rw [← HTAG.out]; exact OZ.out, BZ.out⟩
end Go.Proofs.Yticoefnojgaplaa
