/- The law's walk: the bytes that stand for a place, and back; bytes that stand for none. -/
import Derived.Test.YtghaknienffmjaaDoorMv
import Derived.Deep.Cut
namespace Go.Proofs.YtghaknienffmjaaDoor
open Go.RowKit Go.Maps
set_option linter.unusedVariables false
set_option maxRecDepth 20000 in
set_option maxHeartbeats 8000000 in
theorem tbytes_walk (w : World) (hG : Gv w) (n i : Int) (hn : 0 ≤ n ∧ n ≤ 255) (hi : Tm.I64 i) (po : Option Addr) (pcap : Nat) (P : List Int) (hpc : P.length ≤ pcap) (hp : Byt w po P) (hpb : ∀ x ∈ P, 0 ≤ x ∧ x ≤ 255)
    (Q : List Int) (hQ : Q.length = 32) (hQb : ∀ x ∈ Q, 0 ≤ x ∧ x ≤ 255) :
    Calls Tryd.prog 4 #[.int .u8 n, .int .i64 i, .slice po P.length pcap, .agg ((Q.map (Value.int .u8)).toArray)] w fun e w' => e = .returned (.bool true) ∧ Below w.heap.size w w' := by
  have hA := fun w hG => (let ⟨m, hm⟩ := Gv.mx (w := w) hG; awake_any w m hm (by have := Gv.sz hG; omega) : Calls Tryd.prog 8 #[] w fun e w' => e = .returned (.bool true) ∧ Below w.heap.size w w')
  obtain ⟨pl, hpl⟩ : ∃ pl, pl = P.length := ⟨_, rfl⟩
  obtain ⟨QV, hQV⟩ : ∃ QV, QV = (Q.map (Value.int .u8)).toArray := ⟨_, rfl⟩
  have hbq := Joins.below_alloc1 w (.cells QV 38)
  have hq0 := heap_alloc_new w (.cells QV 38)
  have hG0 := hG.on hbq
  rw [← hpl, ← hQV]
  have HPL := Lib.hid (And.intro hpl (And.intro hpc (And.intro hp hpb)))
  have HQV := Lib.hid (And.intro hQV (And.intro hQ hQb))
  obtain ⟨u, hu1, hu2, hu3, hu4⟩ := u_of i hi
  have HU := Lib.hid (And.intro hu1 (And.intro hu2 (And.intro hu3 hu4)))
  clear hpl hpc hp hpb hQV hQ hQb hu1 hu2 hu3 hu4
  have HB0 := Lib.hid hbq
  have HQ0 := Lib.hid hq0
  have HG0 := Lib.hid hG0
  have HG := Lib.hid hG
  have HI := Lib.hid hi
  clear hbq hq0 hG0 hG hi
  go_enter Tryd.func4, Tryd.ntmps4
  go_wp2_with (go_at_call 8; refine (hA _ HG0.out).mono ?_; rintro e w1 ⟨rfl, hb1⟩; refine Hid.out ?_)
  refine Lib.hid ?_
  have hw1 := HB0.out.trans (hb1.mono HB0.out.size)
  have hq1 := (hb1.block _ (Array.getElem?_eq_some_iff.1 HQ0.out).1).trans HQ0.out
  have hG1 := HG.out.on hw1
  have hA1 := hA _ hG1
  have HW1 := Lib.hid hw1
  have HQ1 := Lib.hid hq1
  have HG1 := Lib.hid hG1
  clear HB0 HQ0 HG0 hb1 hw1 hq1 hG1 hA
  generalize w.alloc (.cells QV 38) = w0 at *
  by_cases hp100 : 100 < pl
  · have h1 : (100 : Int) < pl := by omega
    go_wp2_with (go_at_call 8; refine hA1.mono ?_; rintro e w2 ⟨rfl, hb2⟩)
    go_ret
    exact ⟨rfl, HW1.out.trans (hb2.mono HW1.out.size)⟩
  have h1 : ¬ (100 : Int) < pl := by omega
  obtain ⟨k, hk, hk20⟩ : ∃ k : Nat, n % 20 = (k : Int) ∧ k < 20 := ⟨(n % 20).toNat, by omega, by omega⟩
  have hnw := new_any w1
  go_wp2_with (go_at_call 9; refine hnw.mono ?_; rintro e w2 ⟨rfl, rfl⟩; refine Hid.out ?_)
  refine Lib.hid ?_
  have hT0 := tab_new w1
  have hb2 := Joins.below_alloc1 w1 (.cells #[.slice none 0 0, .map none] 56)
  obtain ⟨tb, htb⟩ : ∃ B, B = w1.heap.size := ⟨_, rfl⟩
  rw [← htb] at hT0 hb2 ⊢
  have HTB := Lib.hid htb
  have HT0 := Lib.hid hT0
  have HB2 := Lib.hid hb2
  generalize w1.alloc (.cells #[.slice none 0 0, .map none] 56) = w2 at *
  clear hnw hA1 htb hT0 hb2 h1
  go_wp2_with fail
  rw [hk]
  clear hk
  go_loopw [11] (fun v wr => ∃ (j : Nat) (tv mv : Value) (E : List En), v = .int .i64 j ∧ j ≤ k ∧ Hid (Tab wr tb tb tv mv E ∧ Atoms E j ∧ Below tb w1 wr)) (fun v _ => k - (intOf v).toNat)
  case atStart => exact ⟨0, _, _, [], rfl, Nat.zero_le _, HT0.out, rfl, HB2.out⟩
  case round =>
    obtain ⟨j, tv, mv, E, rfl, hj, HT⟩ := hrel
    have hB1 : tb ≤ wr.heap.size := by have := HT.out.2.2.size; have := HTB.out; omega
    have hjk20 : j < 20 ∨ j = k := by omega
    by_cases hjk : j < k
    · have hj2 : (j : Int) < k := by omega
      have hput := put_frame (atom j) (atom_ok j (by omega)) none 0 wr (HG1.out.on (HT.out.2.2.mono (Nat.le_of_eq HTB.out.symm))) ⟨fun q hq => absurd hq (Nat.not_lt_zero _)⟩ tb tb tv mv E HT.out.1 hB1 (by rw [HT.out.2.1.len]; omega)
      have HP := Lib.hid (show Calls Tryd.prog 11 #[.pointer (some ⟨tb, 0, none⟩), .agg #[.int .u8 1, .slice none 0 0, .string ⟨#[]⟩, .int .i64 j]] wr (PutF wr tb tb tv mv E (atom j)) from hput)
      clear hput
      go_wp2_with (go_at_call 11; refine HP.out.mono ?_; rintro e9 w5 hr; obtain ⟨tv', mv', E', rfl, q1, q2, q3⟩ := HT.out.2.1.put hr; have HR := Lib.hid (And.intro q1 (And.intro q2 q3)); clear hr q1 q2 q3)
      go_roundw
      case rel => exact ⟨j + 1, tv', mv', E', rfl, by omega, HR.out.1, HR.out.2.1, HT.out.2.2.trans HR.out.2.2⟩
      case measure => exact meas j k (by omega)
    · obtain rfl : j = k := by omega
      have hj2 : ¬ (j : Int) < j := by omega
      have hGr := HG1.out.on (HT.out.2.2.mono (Nat.le_of_eq HTB.out.symm))
      have hby := bytes_any wr i u HU.out.1
      have HT1 := Lib.hid HT.out.1
      have HAt := Lib.hid HT.out.2.1
      have HBr := Lib.hid HT.out.2.2
      clear HT hGr hB1 hjk20 hj
      go_wp2_with (go_at_call 16; refine hby.mono ?_; rintro e9 w3 ⟨rfl, hrow, hb3⟩; refine Hid.out ?_)
      refine Lib.hid ?_
      have hT3 := HT1.out.on hb3
      have hB3 := HBr.out.trans (hb3.mono (by have := HBr.out.size; have := HTB.out; omega))
      have hby3 := bytes_any w3 i u HU.out.1
      have hpl3 : ∃ (bb : Bool) (AT : Int), (bb = true → 0 ≤ i ∧ i < j ∧ AT = i) ∧ (bb = false → ¬ (0 ≤ i ∧ i < j)) ∧ Calls Tryd.prog 15 #[.pointer (some ⟨tb, 0, none⟩), .slice (some ⟨wr.heap.size, 0, none⟩) 32 32] w3 fun e w' => e = .returned (.tuple #[.int .i64 AT, .bool bb]) ∧ w' = w3 := by
        have hbyt := byt_bt u hrow
        by_cases hin : u < j
        · have hi0 : 0 ≤ i := by
            rcases Int.lt_or_le i 0 with h | h
            · have := HU.out.2.2.2 h; omega
            · exact h
          have hui : (u : Int) = i := HU.out.2.2.1 hi0
          have h := place_yes w3 tb tb tv mv E hT3 (by rw [HAt.out.len]; omega) (some ⟨wr.heap.size, 0, none⟩) 32 (bl u 8) (by rw [bl_len]; decide) (by rw [bl_len]; exact Nat.le_refl _) hbyt (bl_byte u 8) ((bl_stands u _ HU.out.2.1).2 (by rw [HAt.out.len]; exact hin))
          rw [bl_len, bl_val8 u HU.out.2.1, hui] at h
          exact ⟨true, i, fun _ => ⟨hi0, by omega, rfl⟩, (fun h => by cases h), h⟩
        · have h := place_not w3 tb tb tv mv E hT3 (by rw [HAt.out.len]; omega) (some ⟨wr.heap.size, 0, none⟩) 32 (bl u 8) (by rw [bl_len]; decide) (by rw [bl_len]; exact Nat.le_refl _) hbyt (bl_byte u 8) (fun h => hin (by have := (bl_stands u _ HU.out.2.1).1 h; rw [HAt.out.len] at this; exact this))
          rw [bl_len] at h
          exact ⟨false, 0, (fun h => by cases h), fun _ ⟨h1, h2⟩ => hin (by have := HU.out.2.2.1 h1; omega), h⟩
      obtain ⟨bb, AT, hbt, hbf, hpl3⟩ := hpl3
      have HBT := Lib.hid hbt
      have HBF := Lib.hid hbf
      have HB3 := Lib.hid hB3
      have HT3 := Lib.hid hT3
      clear hrow hb3 hT3 hB3 hby hbt hbf hj2
      go_upto_region 10 with (go_at_call 15; refine hpl3.mono ?_; rintro e9 w4 ⟨rfl, hw⟩; obtain rfl := hw.symm)
      go_cut [14] from 29 (fun s14 wx => s14 = .bool bb ∧ wx = w3)
      case first =>
        by_cases h0 : 0 ≤ i
        · by_cases h1 : i < j
          · have HBB : Hid (bb = true) := by show _ = _; cases bb with | true => rfl | false => exact absurd ⟨h0, h1⟩ (HBF.out rfl)
            go_wp2_with fail
            go_meet
            case rel => exact ⟨by rw [HBB.out], rfl⟩
          · have HBB : Hid (bb = false) := by show _ = _; cases bb with | false => rfl | true => exact absurd (HBT.out rfl).2.1 h1
            go_wp2_with fail
            go_meet
            case rel => exact ⟨by rw [HBB.out], rfl⟩
        · have HBB : Hid (bb = false) := by show _ = _; cases bb with | false => rfl | true => exact absurd (HBT.out rfl).1 h0
          go_wp2_with fail
          go_meet
          case rel => exact ⟨by rw [HBB.out], rfl⟩
      case rest =>
        obtain ⟨rfl, rfl⟩ := hcut
        go_upto_region 11 with fail
        go_cut [80] from 29 (fun s80 wx => s80 = .bool false ∧ Hid (Below wc.heap.size wc wx))
        case first =>
          cases bb with
          | true =>
            obtain ⟨hi0, hij, rfl⟩ := HBT.out rfl
            go_wp2_with (go_at_call 16; refine hby3.mono ?_; rintro e9 w5 ⟨rfl, hrow5, hb5⟩)
            go_meet
            case rel => exact ⟨rfl, hb5⟩
          | false =>
            go_wp2_with (go_at_call 16; refine hby3.mono ?_; rintro e9 w5 ⟨rfl, hrow5, hb5⟩)
            go_meet
            case rel => exact ⟨rfl, hb5⟩
        case rest =>
          obtain ⟨rfl, hcut⟩ := hcut
          have hB4 := HB3.out.trans (hcut.out.mono (by have := HB3.out.size; have := HTB.out; omega))
          have hT4 := HT3.out.on hcut.out
          have HB4 := Lib.hid hB4
          have HT4 := Lib.hid hT4
          clear HB3 HT3 hcut hby3
          generalize wc = wd at *
          have hby4 := bytes_any wd i u HU.out.1
          go_upto_if 82 with fail
          go_cut [] from 29 (fun wx => Hid (Below wd.heap.size wd wx))
          case first =>
            by_cases h0 : 0 ≤ i
            · have hui : (u : Int) = i := HU.out.2.2.1 h0
              have hu63 : u < 9223372036854775808 := by have := HI.out.2; omega
              go_wp2_with (go_at_call 16; refine hby4.mono ?_; rintro e9 w5 ⟨rfl, hrow5, hb5⟩; refine Hid.out ?_)
              refine Lib.hid ?_
              obtain ⟨g, hg⟩ : ∃ g, g = wd.heap.size := ⟨_, rfl⟩
              rw [← hg] at hrow5 ⊢
              have HR5 := Lib.hid hrow5
              have HB5 := Lib.hid hb5
              clear hrow5 hb5 hby4 hg
              go_wp2_with fail
              go_loopw [16, 17] (fun a b wr => ∃ t M : Nat, a = .int .i64 M ∧ b = .int .i64 t ∧ t ≤ 8 ∧ Hid (M = u / 256 ^ t) ∧ wr = w5) (fun _ b _ => (intOf b).toNat)
              case atStart => exact ⟨8, 0, rfl, rfl, Nat.le_refl _, (Nat.div_eq_of_lt (by have := HU.out.2.1; exact this)).symm, rfl⟩
              case round =>
                obtain ⟨t, M, rfl, rfl, ht, HM, hw5⟩ := hrel
                obtain rfl := hw5
                by_cases ht0 : t = 0
                · subst ht0
                  obtain rfl : M = u := by rw [HM.out]; simp
                  have hc : wr.cell? ⟨g, 0, none⟩ = some (.int .u8 84) := by rw [cell_of_row _ _ _ _ _ _ HR5.out]; exact bt_get M 8 0 (by decide)
                  have ht2 : ¬ (1 : Int) ≤ ((0 : Nat) : Int) := by decide
                  go_wp2_with fail
                  go_meet
                  case rel => exact HB5.out
                · obtain ⟨s, rfl⟩ : ∃ s, t = s + 1 := ⟨t - 1, by omega⟩
                  have hc : wr.cell? ⟨g, s + 1, none⟩ = some (.int .u8 ((u / 256 ^ s % 256 : Nat) : Int)) := by
                    rw [cell_of_row _ _ _ _ _ _ HR5.out, bt_get u 8 (s + 1) (by omega)]
                    unfold bf
                    rw [if_neg (by omega), if_pos (by omega), Nat.add_sub_cancel]
                  have hst := div_step u s
                  rw [← HM.out] at hst
                  have hlt : u / 256 ^ s ≤ u := Nat.div_le_self _ _
                  obtain ⟨x, hx⟩ : ∃ x, x = u / 256 ^ s % 256 := ⟨_, rfl⟩
                  obtain ⟨M2, hM2⟩ : ∃ M2, M2 = u / 256 ^ s := ⟨_, rfl⟩
                  rw [← hx] at hc hst
                  rw [← hM2] at hst hlt
                  have HM2 := Lib.hid hM2
                  have ht1 : (1 : Int) ≤ ((s + 1 : Nat) : Int) := by omega
                  have hs1 : ((s + 1 : Nat) : Int) = (s : Int) + 1 := by omega
                  clear hx hM2
                  go_wp2_with fail
                  exact ⟨⟨s, M2, congrArg (Value.int IntKind.i64) (by omega), rfl, by omega, HM2.out, trivial⟩, by simp [intOf]⟩
            · go_wp2_with fail
              go_meet
              case rel => exact Below.refl _ _
          case rest =>
            have hB5 := HB4.out.trans (hcut.out.mono (by have := HB4.out.size; have := HTB.out; omega))
            have hT5 := HT4.out.on hcut.out
            have HB5 := Lib.hid hB5
            have HT5 := Lib.hid hT5
            clear HB4 HT4 hcut hby4
            generalize wc = we at *
            have hqlt : w.heap.size < tb := by have := (Array.getElem?_eq_some_iff.1 HQ1.out).1; have := HTB.out; omega
            have hqe := (HB5.out.block _ hqlt).trans HQ1.out
            have hc0 : we.cell? ⟨w.heap.size, 0, none⟩ = some (.int .u8 (Q.getD 0 0)) := by
              rw [cell_of_row _ _ _ _ _ _ hqe, HQV.out.1]
              have := HQV.out.2.1
              simp [List.getD_eq_getElem?_getD, this]
            have hf0 : we.frozen? ⟨w.heap.size, 0, none⟩ = false := by simp [World.frozen?, hqe]
            have HQE := Lib.hid hqe
            have HQL := Lib.hid hqlt
            obtain ⟨q0, hq0⟩ : ∃ q0, q0 = Q.getD 0 0 := ⟨_, rfl⟩
            rw [← hq0] at hc0
            have HQ00 := Lib.hid hq0
            clear hqe hqlt hq0
            have hin := HAt.out.of
            have HOF := Lib.hid hin
            clear hin
            go_upto_if 108 with fail
            go_cut [] from 29 (fun wx => Hid (∃ Q2 : List Int, Q2.length = 32 ∧ (∀ x ∈ Q2, 0 ≤ x ∧ x ≤ 255) ∧ Q2.getD 0 0 ≠ 84 ∧ Sq w wx tb Q2 tv mv E))
            case first =>
              by_cases h84 : q0 = 84
              · subst h84
                go_wp2_with fail
                go_meet
                case rel =>
                  refine ⟨Q.set 0 116, by simp [HQV.out.2.1], fun x hx => ?_, ?_, ⟨HT5.out.setOther w.heap.size 0 _ HQL.out HOF.out, ?_, HQL.out, ?_, ?_⟩⟩
                  · rcases List.mem_or_eq_of_mem_set hx with hx | rfl
                    · exact HQV.out.2.2 x hx
                    · decide
                  · have := HQV.out.2.1
                    simp [List.getD_eq_getElem?_getD, this]
                  · have h1 := heap_setCell_same we w.heap.size 0 _ 38 (.int .u8 116) HQE.out
                    rw [h1, HQV.out.1]
                    simp
                  · exact (HW1.out.trans (HB5.out.mono (by rw [HTB.out]; exact HW1.out.size))).setCell (p := ⟨w.heap.size, 0, none⟩) (Nat.le_refl _) _
                  · have := HB5.out.size
                    have e : (we.setCell ⟨w.heap.size, 0, none⟩ (.int .u8 116)).heap.size = we.heap.size := by simp [World.setCell]
                    rw [e, HTB.out]
                    exact this
              · have h84' : ¬ q0 = 84 := h84
                go_wp2_with fail
                go_meet
                case rel =>
                  refine ⟨Q, HQV.out.2.1, HQV.out.2.2, by rw [← HQ00.out]; exact h84, ⟨HT5.out, by rw [HQE.out, HQV.out.1], HQL.out, HW1.out.trans (HB5.out.mono (by rw [HTB.out]; exact HW1.out.size)), by rw [HTB.out]; exact HB5.out.size⟩⟩
            case rest =>
              obtain ⟨Q2, hQ2, hQb, hQn, hS⟩ := hcut.out
              have hSt : ∀ N, ¬ Stands Q2 N := fun N h => hQn h.2.1
              have HST := Lib.hid hSt
              have HQ2 := Lib.hid (And.intro hQ2 hQb)
              have hIN : Inp w po pcap P := ⟨HPL.out.2.2.1, HPL.out.2.1, HPL.out.2.2.2, by have := HPL.out.1; omega⟩
              have HIN := Lib.hid hIN
              have hrd := hS.read_not HG.out (by rw [HAt.out.len]; omega) (hS.inp hQ2 hQb) (hSt _)
              rw [hQ2] at hrd
              have HRD := Lib.hid hrd
              have HEk := Lib.hid HAt.out.len
              have HNR := Lib.hid (HAt.out.noraw Q2)
              have hplE : pl = P.length := HPL.out.1
              have HPE := Lib.hid hplE
              clear hcut hQ2 hQb hQn hSt hIN hrd hS hplE hc0 hf0 HQE HQ00 HB5 HT5
              generalize wc = wf at *
              go_wp2_with (go_at_call 17; refine HRD.out.mono ?_; rintro e9 w5 ⟨jj, tv5, mv5, E1, rfl, hS5, hC5, -⟩; refine Hid.out ?_)
              refine Lib.hid ?_
              have hE1 : E1.length = j + 1 ∧ jj = j := by
                rcases hC5 with ⟨-, h, h2⟩ | ⟨-, rfl, a, c, rfl⟩
                · exact absurd (h2 ▸ List.mem_map_of_mem (List.getElem_mem h)) HNR.out
                · rw [List.length_append, HEk.out]; exact ⟨rfl, rfl⟩
              obtain ⟨hE1l, rfl⟩ := hE1
              have hget := hS5.get (P := Q2) jj hC5.at_
              have HC5 := Lib.hid hC5.at_
              have HE1 := Lib.hid hE1l
              have HS5 := Lib.hid hS5
              clear hC5 hE1l hS5 HRD HNR HEk
              generalize hsn : strOfNums Q2 = sq at *
              have HSN := Lib.hid hsn
              clear hsn
              go_wp2_with (go_at_call 13; refine hget.mono ?_; rintro e9 w6 ⟨ao, cp, rfl, hb6⟩; refine Hid.out ?_)
              refine Lib.hid ?_
              have hb7 := hb6.trans ((Joins.below_alloc1 w6 (.cells #[.int .u8 2, .slice ao 0 cp, .string sq, .int .i64 0] 25)).mono hb6.size)
              have hX := Boxed.new w6 (.int .u8 2) (.slice ao 0 cp) (.string sq) (.int .i64 0)
              have hS7 := HS5.out.on hb7
              have hnf : ¬ Foot tb tv5 mv5 w6.heap.size := fun h => by have := foot_lt HS5.out.tab _ h; have := hb6.size; omega
              have hrd := hS7.read_not HG.out (by rw [HE1.out]; omega) (hS7.inp HQ2.out.1 HQ2.out.2) (HST.out _)
              rw [HQ2.out.1] at hrd
              have HRD := Lib.hid hrd
              have HX := Lib.hid hX
              have HNF := Lib.hid hnf
              clear hget hb6 hb7 hX hnf hrd hS7
              go_wp2_with (go_at_call 17; refine HRD.out.mono ?_; rintro e9 w8 ⟨j8, tv8, mv8, E8, rfl, hS8, hC8, hK8⟩; refine Hid.out ?_)
              refine Lib.hid ?_
              obtain ⟨hx8, hf8⟩ := hK8 w6.heap.size (by simp) HNF.out
              have hX8 := HX.out.keep hx8
              have hE8 : E8 = E1 ∧ j8 = jj := by
                obtain ⟨h1, h2⟩ := HC5.out
                rcases hC8 with ⟨rfl, h, h3⟩ | ⟨hn, -⟩
                · exact ⟨rfl, hS8.uniq h h1 (h3.trans h2.symm)⟩
                · exact absurd (h2 ▸ List.mem_map_of_mem (List.getElem_mem h1)) hn
              obtain ⟨rfl, rfl⟩ := hE8
              generalize w6.heap.size = xb at *
              have HS8 := Lib.hid hS8
              have HX8 := Lib.hid hX8
              have HF8 := Lib.hid hf8
              have hin8 := HIN.out.on hS8.bel
              have hIN8 := Lib.hid hin8
              clear HRD HX HNF hx8 hX8 hf8 hC8 hK8 hS8 HS5
              have hnE : j8 < 20 := hk20
              have hEl := HE1.out
              by_cases hsp : Stands P E8.length
              · have hrd := HS8.out.read_yes (by omega) hin8 hsp
                rw [← HPE.out] at hrd
                have hga := HS8.out.get_any (val8 P 8) hsp.2.2.2
                have HSP := Lib.hid hsp
                have HIN8 := Lib.hid hin8
                clear hin8 hsp
                obtain ⟨v, hv8⟩ : ∃ v, v = val8 P 8 := ⟨_, rfl⟩
                have HV8 := Lib.hid hv8
                rw [← hv8] at hrd hga
                clear hv8
                go_wp2_with (first
                  | (go_at_call 17; refine hrd.mono ?_; rintro e9 w9 ⟨rfl, hw⟩; obtain rfl := hw.symm)
                  | (go_at_call 13; refine hga.mono ?_; rintro e9 w9 ⟨uk, un, uo, ul, uc, us, rfl, hb9⟩; refine Hid.out ?_))
                refine Lib.hid ?_
                go_wp2_with (go_at_call 15; refine Hid.out ?_)
                refine Lib.hid ?_
                have hb10 := hb9.trans ((Joins.below_alloc1 w9 (.cells #[.int .u8 uk, .slice uo ul uc, .string us, .int .i64 un] 25)).mono hb9.size)
                have hS10 := HS8.out.on hb10
                have hX10 := HX8.out.on hb10 HX8.out.lt
                have hin10 := HIN8.out.on hb10
                have hpy := hS10.place_yes (by omega) hin10 HSP.out
                rw [← HPE.out, ← HV8.out] at hpy
                have hqn := hS10.place_not (by omega) (hS10.inp HQ2.out.1 HQ2.out.2) (HST.out _)
                rw [HQ2.out.1] at hqn
                have HS10 := Lib.hid hS10
                clear hb10 hin10 hS10 hrd hga hb9
                generalize w9.alloc (.cells #[.int .u8 uk, .slice uo ul uc, .string us, .int .i64 un] 25) = W at *
                have HBW := Lib.hid HS10.out.bel
                have hcq : ∀ n, (convert 37 9 (.slice (some ⟨w.heap.size, 0, none⟩) 32 32)).run Tryd.prog (W.drewN n) = .ok (.string sq) (W.drewN n) := fun n => by
                  have h := conv_bytes ((HS10.out.inp HQ2.out.1 HQ2.out.2).byt.on (below_drewN W n)) 32
                  rw [HQ2.out.1, HSN.out] at h
                  exact h
                have x0 := hX10.c0
                have x2 := hX10.c2
                clear hX10
                refine hpy.mono ?_
                rintro e9 w11 ⟨rfl, hw⟩
                obtain rfl := hw.symm
                go_upto_region 30 with fail
                go_wp2_with (go_at_call 15; refine Hid.out ?_)
                refine Lib.hid ?_
                refine hqn.mono ?_
                rintro e9 w11 ⟨rfl, hw⟩
                obtain rfl := hw.symm
                go_upto_region 31 with fail
                clear HPL HQV HU HI HW1 HQ1 HG1 HTB HT0 HB2 HG hn
                go_quiet (fail)
                go_wp2_with fail
                go_ret
                exact ⟨rfl, HBW.out.trans ((below_drewN _ _).mono HBW.out.size)⟩
              · have hrd := HS8.out.read_not HG.out (by omega) hin8 hsp
                rw [← HPE.out] at hrd
                have HRD := Lib.hid hrd
                have HSP := Lib.hid hsp
                have HIN8 := Lib.hid hin8
                clear hin8 hsp hrd
                go_wp2_with (go_at_call 17; refine HRD.out.mono ?_; rintro e9 w9 ⟨j9, tv9, mv9, E9, rfl, hS9, hC9, hK9⟩; refine Hid.out ?_)
                refine Lib.hid ?_
                have hX9 := HX8.out.keep (hK9 xb HX8.out.lt HF8.out).1
                have hga := hS9.get (P := P) j9 hC9.at_
                have hst : Stands P E9.length → val8 P 8 = j9 := fun h => by
                  rcases hC9 with ⟨rfl, -⟩ | ⟨-, rfl, a, c, rfl⟩
                  · exact absurd h HSP.out
                  · have h1 := h.2.2.2
                    have h2 : ¬ val8 P 8 < E8.length := fun h3 => HSP.out ⟨h.1, h.2.1, h.2.2.1, h3⟩
                    rw [List.length_append, List.length_singleton] at h1
                    omega
                have HST9 := Lib.hid hst
                have hE9 : E9.length ≤ 1000 := by have := hC9.len; omega
                have HS9 := Lib.hid hS9
                have HX9 := Lib.hid hX9
                obtain ⟨sp, hsp⟩ : ∃ sp, sp = strOfNums P := ⟨_, rfl⟩
                rw [← hsp] at hga
                have HSPN := Lib.hid hsp
                have hin9 := HIN.out.on hS9.bel
                have HIN9 := Lib.hid hin9
                clear hX9 hst hS9 hC9 hK9 HRD HSP hsp hin9 HIN8 HS8 HX8 HF8
                go_wp2_with (go_at_call 13; refine hga.mono ?_; rintro e9 w10 ⟨uo, uc, rfl, hb10⟩; refine Hid.out ?_)
                refine Lib.hid ?_
                go_wp2_with (go_at_call 15; refine Hid.out ?_)
                refine Lib.hid ?_
                have hbW := hb10.trans ((Joins.below_alloc1 w10 (.cells #[.int .u8 2, .slice uo 0 uc, .string sp, .int .i64 0] 25)).mono hb10.size)
                have hS10 := HS9.out.on hbW
                have hX10 := HX9.out.on hbW HX9.out.lt
                have hU10 := Boxed.new w10 (.int .u8 2) (.slice uo 0 uc) (.string sp) (.int .i64 0)
                have hin10 := HIN9.out.on hbW
                have hqn := hS10.place_not hE9 (hS10.inp HQ2.out.1 HQ2.out.2) (HST.out _)
                rw [HQ2.out.1] at hqn
                have HS10 := Lib.hid hS10
                clear hbW hS10 hga hb10
                generalize w10.alloc (.cells #[.int .u8 2, .slice uo 0 uc, .string sp, .int .i64 0] 25) = W at *
                generalize w10.heap.size = ub at *
                have HBW := Lib.hid HS10.out.bel
                have hcq : ∀ n, (convert 37 9 (.slice (some ⟨w.heap.size, 0, none⟩) 32 32)).run Tryd.prog (W.drewN n) = .ok (.string sq) (W.drewN n) := fun n => by
                  have h := conv_bytes ((HS10.out.inp HQ2.out.1 HQ2.out.2).byt.on (below_drewN W n)) 32
                  rw [HQ2.out.1, HSN.out] at h
                  exact h
                have x0 := hX10.c0
                have x2 := hX10.c2
                have hcp : ∀ n, (convert 37 9 (.slice po pl pcap)).run Tryd.prog (W.drewN n) = .ok (.string sp) (W.drewN n) := fun n => by
                  have h := conv_bytes (hin10.byt.on (below_drewN W n)) pcap
                  rw [← HPE.out, ← HSPN.out] at h
                  exact h
                have y0 := hU10.c0
                have y2 := hU10.c2
                by_cases hsp2 : Stands P E9.length
                · have hpy := HS10.out.place_yes hE9 hin10 hsp2
                  rw [← HPE.out, HST9.out hsp2] at hpy
                  clear hX10 hU10 hin10 hsp2
                  refine hpy.mono ?_
                  rintro e9 w11 ⟨rfl, hw⟩
                  obtain rfl := hw.symm
                  go_upto_region 30 with fail
                  go_wp2_with (go_at_call 15; refine Hid.out ?_)
                  refine Lib.hid ?_
                  refine hqn.mono ?_
                  rintro e9 w11 ⟨rfl, hw⟩
                  obtain rfl := hw.symm
                  go_upto_region 31 with fail
                  clear HPL HQV HU HI HW1 HQ1 HG1 HTB HT0 HB2 HG hn
                  go_quiet (fail)
                  go_wp2_with fail
                  go_ret
                  exact ⟨rfl, HBW.out.trans ((below_drewN _ _).mono HBW.out.size)⟩
                · have hpy := HS10.out.place_not hE9 hin10 hsp2
                  rw [← HPE.out] at hpy
                  clear hX10 hU10 hin10 hsp2
                  refine hpy.mono ?_
                  rintro e9 w11 ⟨rfl, hw⟩
                  obtain rfl := hw.symm
                  go_upto_region 30 with fail
                  go_wp2_with (go_at_call 15; refine Hid.out ?_)
                  refine Lib.hid ?_
                  refine hqn.mono ?_
                  rintro e9 w11 ⟨rfl, hw⟩
                  obtain rfl := hw.symm
                  go_upto_region 31 with fail
                  clear HPL HQV HU HI HW1 HQ1 HG1 HTB HT0 HB2 HG hn
                  go_quiet (fail)
                  go_wp2_with fail
                  go_ret
                  exact ⟨rfl, HBW.out.trans ((below_drewN _ _).mono HBW.out.size)⟩
end Go.Proofs.YtghaknienffmjaaDoor
