/- The document's Payload. -/
import Derived.Test.YtjigjckclpccmaaDoorX3
import Derived.Test.YtjigjckclpccmaaDoorC5
import Derived.Deep.CutRange
namespace Go.Proofs.YtjigjckclpccmaaDoor
open Go.RowKit
set_option linter.unusedVariables false
set_option linter.unusedSimpArgs false

/-- the payload's bytes, as the document puts them -/
def pyA (f : Fr) (mp wg : Bool) : List UInt8 := (if mp then [b8 f.pad] else []) ++ (if wg then prioB f else [])
def pyB (f : Fr) : List UInt8 := (if f.ty = 5 ∨ f.ty = 7 ∨ f.ty = 8 then be 4 f.last else []) ++ (if f.ty = 3 ∨ f.ty = 7 then be 4 f.code else [])
def pyL (f : Fr) (ps : List (Int × Int)) (mp wg : Bool) : List UInt8 := pyA f mp wg ++ pyB f ++ parB ps ++ f.data.data.toList ++ List.replicate f.pad.toNat 0

/-- a row of bytes that was made since W0 -/
def Pq (W0 W : World) (o : Value) (l : List UInt8) : Prop := Row W o l ∧ Gr W0 W (.slice none 0 0) o
theorem Pq.step {W0 W W' : World} {o o' : Value} {l m : List UInt8} (h : Pq W0 W o l) (h1 : Row W' o' m) (h2 : Gr W W' o o') : Pq W0 W' o' m := ⟨h1, h.2.trans h2⟩
theorem Pq.below {W0 W W' : World} {o : Value} {l : List UInt8} (h : Pq W0 W o l) (hb : Below W.heap.size W W') : Pq W0 W' o l := ⟨h.1.below hb, h.2.trans (Gr.below hb o)⟩
theorem Pq.bel {W0 W : World} {o : Value} {l : List UInt8} (h : Pq W0 W o l) : Below W0.heap.size W0 W := h.2.fresh

set_option maxRecDepth 100000 in
set_option maxHeartbeats 8000000 in
theorem payload_any (f : Fr) (p : Value) (ps : List (Int × Int)) (T X : Nat) (w : World) (hT : f.ty = (T : Int)) (hF : f.fl = (X : Int)) (hX : X < 256) (hp : PIn w p ps) (hd : wgS T X = true → 0 ≤ f.dep ∧ f.dep < 2147483648 ∧ 1 ≤ f.wt ∧ f.wt ≤ 256) (hpad0 : 0 ≤ f.pad) (hpad : f.pad < 256) (hl : 6 * ps.length + f.data.size + 600 ≤ 140737488355328) :
    Calls Tryd.prog 34 #[.agg (fv f p)] w fun e w' => ∃ o, e = .returned o ∧ Row w' o (pyL f ps (mpS T X) (wgS T X)) ∧ (∀ k, o.ownBlock = some k → w.heap.size ≤ k) ∧ Below w.heap.size w w' := by
  have hwl := fun (W : World) => weighed_any f p T X hT hF hX W
  have hmy := fun (W : World) => mayPad_any T X hX W
  have hwt := fun (W : World) (o : Value) (l : List UInt8) (h : Row W o l) (hl : l.length + 8 ≤ 140737488355328) (h1 : wgS T X = true) => weight_any W o l f p h hl (hd h1).1 (hd h1).2.1 (hd h1).2.2.1 (hd h1).2.2.2
  obtain ⟨mp, hmp⟩ : ∃ b, mpS T X = b := ⟨_, rfl⟩
  obtain ⟨wg, hwg⟩ : ∃ b, wgS T X = b := ⟨_, rfl⟩
  rw [hmp] at hmy ⊢
  rw [hwg] at hwl hwt ⊢
  clear hmp hwg hd
  obtain ⟨pb, pc, rfl⟩ := hp.sl
  obtain ⟨n, hn⟩ : ∃ n, ps.length = n := ⟨_, rfl⟩
  rw [hn] at hp hl hwl hwt ⊢
  obtain ⟨g, hg⟩ : ∃ g, w.heap.size = g := ⟨_, rfl⟩
  obtain ⟨W0, hW0⟩ : ∃ W0, w.alloc (.cells (fv f (.slice pb n pc)) 28) = W0 := ⟨_, rfl⟩
  have hblk : W0.heap[g]? = some (.cells (fv f (.slice pb n pc)) 28 (0, 0)) := by rw [← hW0, ← hg]; exact heap_alloc_new _ _
  have hB0 : Below w.heap.size w W0 := by rw [← hW0]; exact (Below.refl _ w).alloc (Nat.le_refl _) _
  have HN : Hid (ps.length = n) := hn
  have HP : Hid (PIn w (.slice pb n pc) ps) := hp
  have HB : Hid (Below w.heap.size w W0) := hB0
  have hbox : Hid (∀ W o l, Pq W0 W o l → W.heap[g]? = some (.cells (fv f (.slice pb n pc)) 28 (0, 0))) := fun W o l h => (h.bel.block g (Array.getElem?_eq_some_iff.1 hblk).1).trans hblk
  have hstart : Hid (Pq W0 W0 (.slice none 0 0) []) := ⟨Row.nil _, Gr.refl _ _⟩
  have hfin : Hid (∀ W o l, Pq W0 W o l → (∀ k, o.ownBlock = some k → w.heap.size ≤ k) ∧ Below w.heap.size w W) := fun W o l h => ⟨fun k hk => Nat.le_trans hB0.size (h.2.new k hk), hB0.trans (h.bel.mono hB0.size)⟩
  clear hn hp hblk hB0
  obtain ⟨ty, fl, st, data, pad, dep, excl, wt, code, last⟩ := f
  simp only at hT hF hpad0 hpad hl
  subst hT hF
  have hcell : Hid (∀ W o l, Pq W0 W o l → W.cell? ⟨g, 0, none⟩ = some (.int .i64 (T : Int)) ∧ W.cell? ⟨g, 1, none⟩ = some (.int .i64 (X : Int)) ∧ W.cell? ⟨g, 2, none⟩ = some (.int .i64 st) ∧ W.cell? ⟨g, 3, none⟩ = some (.string data) ∧ W.cell? ⟨g, 4, none⟩ = some (.int .i64 pad) ∧ W.cell? ⟨g, 5, none⟩ = some (.int .i64 dep) ∧ W.cell? ⟨g, 6, none⟩ = some (.bool excl) ∧ W.cell? ⟨g, 7, none⟩ = some (.int .i64 wt) ∧ W.cell? ⟨g, 8, none⟩ = some (.int .i64 code) ∧ W.cell? ⟨g, 9, none⟩ = some (.int .i64 last) ∧ W.cell? ⟨g, 10, none⟩ = some (.slice pb n pc)) := fun W o l h => by
    have hb := hbox.out W o l h
    exact ⟨cell_of_row _ _ _ _ _ _ hb, cell_of_row _ _ _ _ _ _ hb, cell_of_row _ _ _ _ _ _ hb, cell_of_row _ _ _ _ _ _ hb, cell_of_row _ _ _ _ _ _ hb, cell_of_row _ _ _ _ _ _ hb, cell_of_row _ _ _ _ _ _ hb, cell_of_row _ _ _ _ _ _ hb, cell_of_row _ _ _ _ _ _ hb, cell_of_row _ _ _ _ _ _ hb, cell_of_row _ _ _ _ _ _ hb⟩
  have hA0 : (pyA ⟨(T : Int), (X : Int), st, data, pad, dep, excl, wt, code, last⟩ mp wg).length ≤ 6 := by
    unfold pyA prioB
    cases mp <;> cases wg <;> simp [be_length]
  obtain ⟨LL, hLL⟩ : ∃ LL, pyL ⟨(T : Int), (X : Int), st, data, pad, dep, excl, wt, code, last⟩ ps mp wg = LL := ⟨_, rfl⟩
  rw [hLL]
  have HLL : Hid (pyA ⟨(T : Int), (X : Int), st, data, pad, dep, excl, wt, code, last⟩ mp wg ++ pyB ⟨(T : Int), (X : Int), st, data, pad, dep, excl, wt, code, last⟩ ++ parB ps ++ data.data.toList ++ List.replicate pad.toNat 0 = LL) := hLL
  clear hLL
  unfold fv at *
  simp only at *
  have HW : Hid _ := hW0
  have HG : Hid _ := hg
  clear hW0 hg
  go_enter Tryd.func34, Tryd.ntmps34
  go_upto_if 10 with (go_at_call 43; refine (hmy _).mono ?_; rintro e w' ⟨rfl, rfl⟩)
  rw [HW.out]
  rw [HG.out]
  obtain ⟨c0, c1, c2, c3, c4, c5, c6, c7, c8, c9, c10⟩ := hcell.out _ _ _ hstart.out
  go_cut [3] from 11 to 16 (fun o wx => Hid (Pq W0 wx o (if mp then [b8 pad] else [])))
  case first =>
    cases mp
    · go_wp2_with fail
      go_meet
      case rel => exact hstart
    · obtain ⟨o1, w1, hrun, hR1, hG1⟩ := put_one (l := []) (m := []) hstart.out.1 (Gr.refl _ _) (b8 pad) (by simp)
      have e : ((b8 pad).toNat : Int) = pad := (u8_int _).trans (by omega)
      rw [e] at hrun
      have HF : Hid (Pq W0 w1 o1 [b8 pad]) := hstart.out.step hR1 hG1
      clear hR1 hG1 e
      go_wp2_with (at_builtin; refine Lib.wpList_append_run _ rfl (.tmp 11) (.tmp 15) 56 56 rfl _ _ rfl rfl _ _ hrun ?_; clear hrun)
      go_meet
      case rel => exact HF
  case rest =>
    clear c0 c1 c2 c3 c4 c5 c6 c7 c8 c9 c10
    have HC := hcut
    clear hcut hstart
    obtain ⟨c0, c1, c2, c3, c4, c5, c6, c7, c8, c9, c10⟩ := hcell.out _ _ _ HC.out
    go_upto_if 18 with (go_at_call 44; refine (hwl _).mono ?_; rintro e w' ⟨rfl, rfl⟩)
    have HD : Hid (Pq W0 (wc.alloc _) u3 (if mp then [b8 pad] else [])) := HC.out.below ((Below.refl _ wc).alloc (Nat.le_refl _) (.cells #[.int .i64 (T : Int), .int .i64 (X : Int), .int .i64 st, .string data, .int .i64 pad, .int .i64 dep, .bool excl, .int .i64 wt, .int .i64 code, .int .i64 last, .slice pb n pc] 28))
    clear c0 c1 c2 c3 c4 c5 c6 c7 c8 c9 c10
    obtain ⟨c0, c1, c2, c3, c4, c5, c6, c7, c8, c9, c10⟩ := hcell.out _ _ _ HD.out
    generalize wc.alloc _ = wd at HD c0 c1 c2 c3 c4 c5 c6 c7 c8 c9 c10 ⊢
    clear HC
    go_cut [3] from 19 to 21 (fun o wx => Hid (Pq W0 wx o (pyA ⟨(T : Int), (X : Int), st, data, pad, dep, excl, wt, code, last⟩ mp wg)))
    case first =>
      cases wg
      · go_wp2_with fail
        go_meet
        case rel => exact (by unfold pyA; simpa using HD.out : Pq W0 _ _ (pyA ⟨(T : Int), (X : Int), st, data, pad, dep, excl, wt, code, last⟩ mp false))
      · have c48 := hwt wd u3 (if mp then [b8 pad] else []) HD.out.1 (by cases mp <;> simp) rfl
        go_wp2_with fail
        refine c48.mono ?_
        rintro e w1 ⟨o1, rfl, hR1, hG1⟩
        have HF : Hid (Pq W0 w1 o1 (pyA ⟨(T : Int), (X : Int), st, data, pad, dep, excl, wt, code, last⟩ mp true)) := HD.out.step hR1 hG1
        clear hR1 hG1 c48
        go_wp2_with fail
        go_meet
        case rel => exact HF
    case rest =>
      clear c0 c1 c2 c3 c4 c5 c6 c7 c8 c9 c10
      have HE := hcut
      clear hcut HD hwl hwt hmy
      obtain ⟨c0, c1, c2, c3, c4, c5, c6, c7, c8, c9, c10⟩ := hcell.out _ _ _ HE.out
      obtain ⟨tL, htL⟩ : ∃ b, decide (T = 5 ∨ T = 7 ∨ T = 8) = b := ⟨_, rfl⟩
      obtain ⟨tC, htC⟩ : ∃ b, decide (T = 3 ∨ T = 7) = b := ⟨_, rfl⟩
      have hpy' : pyB ⟨(T : Int), (X : Int), st, data, pad, dep, excl, wt, code, last⟩ = (if tL then be 4 last else []) ++ (if tC then be 4 code else []) := by
        have e1 : ((T : Int) = 5 ∨ (T : Int) = 7 ∨ (T : Int) = 8) ↔ (T = 5 ∨ T = 7 ∨ T = 8) := by omega
        have e2 : ((T : Int) = 3 ∨ (T : Int) = 7) ↔ (T = 3 ∨ T = 7) := by omega
        unfold pyB
        rw [← htL, ← htC]
        by_cases q1 : (T = 5 ∨ T = 7 ∨ T = 8)
        · by_cases q2 : (T = 3 ∨ T = 7)
          · rw [if_pos (e1.2 q1), if_pos (e2.2 q2), if_pos (decide_eq_true q1), if_pos (decide_eq_true q2)]
          · rw [if_pos (e1.2 q1), if_neg (fun h => q2 (e2.1 h)), if_pos (decide_eq_true q1), if_neg (fun h => q2 (of_decide_eq_true h))]
        · by_cases q2 : (T = 3 ∨ T = 7)
          · rw [if_neg (fun h => q1 (e1.1 h)), if_pos (e2.2 q2), if_neg (fun h => q1 (of_decide_eq_true h)), if_pos (decide_eq_true q2)]
          · rw [if_neg (fun h => q1 (e1.1 h)), if_neg (fun h => q2 (e2.1 h)), if_neg (fun h => q1 (of_decide_eq_true h)), if_neg (fun h => q2 (of_decide_eq_true h))]
      have hpy : Hid _ := hpy'
      clear hpy'
      have HL : Hid (decide (T = 5 ∨ T = 7 ∨ T = 8) = tL ∧ decide (T = 3 ∨ T = 7) = tC) := ⟨htL, htC⟩
      clear htL htC
      go_upto_region 6 with fail
      go_cut [34] from 22 to 33 (fun b wx => b = .bool tL ∧ wx = wc)
      case first =>
        have hL := HL.out.1
        by_cases h5 : T = 5
        · have b5 : ((T : Int) == 5) = true := by simp; omega
          rw [decide_eq_true (by omega)] at hL
          subst hL
          clear h5
          go_wp2_with fail
          go_meet
          case rel => exact ⟨rfl, rfl⟩
        have b5 : ((T : Int) == 5) = false := by simp; omega
        by_cases h7 : T = 7
        · have b7 : ((T : Int) == 7) = true := by simp; omega
          rw [decide_eq_true (by omega)] at hL
          subst hL
          clear h7
          go_wp2_with fail
          go_meet
          case rel => exact ⟨rfl, rfl⟩
        have b7 : ((T : Int) == 7) = false := by simp; omega
        by_cases h8 : T = 8
        · have b8' : ((T : Int) == 8) = true := by simp; omega
          rw [decide_eq_true (by omega)] at hL
          subst hL
          clear h8
          go_wp2_with fail
          go_meet
          case rel => exact ⟨rfl, rfl⟩
        · have b8' : ((T : Int) == 8) = false := by simp; omega
          rw [decide_eq_false (by omega)] at hL
          subst hL
          go_wp2_with fail
          go_meet
          case rel => exact ⟨rfl, rfl⟩
      case rest =>
        obtain ⟨rfl, rfl⟩ := hcut
        go_upto_if 34 with fail
        go_cut [3] from 35 to 38 (fun o wx => Hid (Pq W0 wx o (pyA ⟨(T : Int), (X : Int), st, data, pad, dep, excl, wt, code, last⟩ mp wg ++ (if tL then be 4 last else []))))
        case first =>
          cases tL
          · go_wp2_with fail
            go_meet
            case rel => exact (by simpa using HE.out : Pq W0 _ _ (pyA ⟨(T : Int), (X : Int), st, data, pad, dep, excl, wt, code, last⟩ mp wg ++ (if false then be 4 last else [])))
          · have c35 := rput4 _ _ _ last HE.out.1 (by omega)
            go_wp2_with fail
            refine c35.mono ?_
            rintro e w1 ⟨o1, rfl, hR1, hG1⟩
            have HF : Hid (Pq W0 w1 o1 (pyA ⟨(T : Int), (X : Int), st, data, pad, dep, excl, wt, code, last⟩ mp wg ++ (if true then be 4 last else []))) := HE.out.step hR1 hG1
            clear hR1 hG1 c35
            go_wp2_with fail
            go_meet
            case rel => exact HF
        case rest =>
          clear c0 c1 c2 c3 c4 c5 c6 c7 c8 c9 c10
          have HI := hcut
          clear hcut HE
          obtain ⟨c0, c1, c2, c3, c4, c5, c6, c7, c8, c9, c10⟩ := hcell.out _ _ _ HI.out
          go_upto_region 8 with fail
          go_cut [46] from 39 to 45 (fun b wx => b = .bool tC ∧ wx = wc)
          case first =>
            have hC := HL.out.2
            by_cases h3 : T = 3
            · have b3 : ((T : Int) == 3) = true := by simp; omega
              rw [decide_eq_true (by omega)] at hC
              subst hC
              clear h3
              go_wp2_with fail
              go_meet
              case rel => exact ⟨rfl, rfl⟩
            have b3 : ((T : Int) == 3) = false := by simp; omega
            by_cases h7 : T = 7
            · have b7 : ((T : Int) == 7) = true := by simp; omega
              rw [decide_eq_true (by omega)] at hC
              subst hC
              clear h7
              go_wp2_with fail
              go_meet
              case rel => exact ⟨rfl, rfl⟩
            · have b7 : ((T : Int) == 7) = false := by simp; omega
              rw [decide_eq_false (by omega)] at hC
              subst hC
              go_wp2_with fail
              go_meet
              case rel => exact ⟨rfl, rfl⟩
          case rest =>
            obtain ⟨rfl, rfl⟩ := hcut
            go_upto_if 46 with fail
            go_cut [3] from 47 to 50 (fun o wx => Hid (Pq W0 wx o (pyA ⟨(T : Int), (X : Int), st, data, pad, dep, excl, wt, code, last⟩ mp wg ++ (if tL then be 4 last else []) ++ (if tC then be 4 code else []))))
            case first =>
              cases tC
              · go_wp2_with fail
                go_meet
                case rel => exact (by simpa using HI.out : Pq W0 _ _ (pyA ⟨(T : Int), (X : Int), st, data, pad, dep, excl, wt, code, last⟩ mp wg ++ (if tL then be 4 last else []) ++ (if false then be 4 code else [])))
              · have c35 := rput4 _ _ _ code HI.out.1 (by rw [List.length_append]; cases tL <;> simp [be_length] <;> omega)
                go_wp2_with fail
                refine c35.mono ?_
                rintro e w1 ⟨o1, rfl, hR1, hG1⟩
                have HF : Hid (Pq W0 w1 o1 (pyA ⟨(T : Int), (X : Int), st, data, pad, dep, excl, wt, code, last⟩ mp wg ++ (if tL then be 4 last else []) ++ (if true then be 4 code else []))) := HI.out.step hR1 hG1
                clear hR1 hG1 c35
                go_wp2_with fail
                go_meet
                case rel => exact HF
            case rest =>
              clear c0 c1 c2 c3 c4 c5 c6 c7 c8 c9 c10
              have HJ : Hid (Pq W0 wc u3 (pyA ⟨(T : Int), (X : Int), st, data, pad, dep, excl, wt, code, last⟩ mp wg ++ pyB ⟨(T : Int), (X : Int), st, data, pad, dep, excl, wt, code, last⟩)) := by
                have := hcut.out
                rw [List.append_assoc, ← hpy.out] at this
                exact this
              have hlA : (pyA ⟨(T : Int), (X : Int), st, data, pad, dep, excl, wt, code, last⟩ mp wg ++ pyB ⟨(T : Int), (X : Int), st, data, pad, dep, excl, wt, code, last⟩).length ≤ 20 := by
                rw [List.length_append, hpy.out, List.length_append]
                cases tL <;> cases tC <;> simp [be_length] <;> omega
              generalize pyA ⟨(T : Int), (X : Int), st, data, pad, dep, excl, wt, code, last⟩ mp wg ++ pyB ⟨(T : Int), (X : Int), st, data, pad, dep, excl, wt, code, last⟩ = lA at HJ hlA HLL
              clear hcut HI HL hpy
              have HJ0 : Hid (Pq W0 wc u3 (lA ++ parB (ps.take 0))) := (by simpa [parB] using HJ.out : Pq W0 wc u3 (lA ++ parB (ps.take 0)))
              clear HJ
              go_wp2_with fail
              go_loopw [3, 4] (fun o i wr => ∃ k : Nat, k ≤ n ∧ i = .int .i64 (k : Int) ∧ Hid (Pq W0 wr o (lA ++ parB (ps.take k)))) (fun _ i _ => n - (intOf i).toNat)
              case atStart => exact ⟨0, Nat.zero_le _, rfl, HJ0⟩
              case round =>
                obtain ⟨k, hk, rfl, HK⟩ := hrel
                clear HJ0
                obtain ⟨c0, c1, c2, c3, c4, c5, c6, c7, c8, c9, c10⟩ := hcell.out _ _ _ HK.out
                by_cases hlt : k < n
                · have hlen := HN.out
                  obtain ⟨B, off, hpb, hnn, hc1, hc2, hBl, d1, d2⟩ := HP.out.get k (by omega)
                  have hq1 : Hid (∀ W o l, Pq W0 W o l → W.cell? ⟨B, off + k * 2, none⟩ = some (.int .i64 (ps[k]'(by omega)).1) ∧ W.cell? ⟨B, off + k * 2 + 1, none⟩ = some (.int .i64 (ps[k]'(by omega)).2)) := fun W o l h => ⟨((hfin.out W o l h).2.cell hBl).trans d1, ((hfin.out W o l h).2.cell hBl).trans d2⟩
                  have hsucc := parB_take ps k (by omega)
                  have hpl : (parB (ps.take k)).length ≤ 6 * n := by rw [parB_length, List.length_take]; omega
                  obtain ⟨q, hq⟩ : ∃ q, ps[k]'(by omega) = q := ⟨_, rfl⟩
                  rw [hq] at hq1 hsucc
                  obtain ⟨a, b⟩ := q
                  simp only at hsucc hq1
                  have HS : Hid (lA ++ parB (ps.take k) ++ be 2 a ++ be 4 b = lA ++ parB (ps.take (k + 1))) := (by rw [hsucc]; simp only [List.append_assoc] : lA ++ parB (ps.take k) ++ be 2 a ++ be 4 b = lA ++ parB (ps.take (k + 1)))
                  clear hsucc hq d1 d2 hnn hlen
                  subst hpb
                  have hlti : (k : Int) < (n : Int) := by omega
                  obtain ⟨d1, d2⟩ := hq1.out _ _ _ HK.out
                  have p2 := rput2 _ _ _ a HK.out.1 (by rw [List.length_append]; omega)
                  go_wp2_with fail
                  refine p2.mono ?_
                  rintro e w1 ⟨o1, rfl, hR1, hG1⟩
                  have HF := HK.out.step hR1 hG1
                  clear p2 c0 c1 c2 c3 c4 c5 c6 c7 c8 c9 c10 d1 d2 hR1 hG1
                  obtain ⟨c0, c1, c2, c3, c4, c5, c6, c7, c8, c9, c10⟩ := hcell.out _ _ _ HF
                  obtain ⟨d1, d2⟩ := hq1.out _ _ _ HF
                  have p4 := rput4 _ _ _ b HF.1 (by rw [List.length_append, List.length_append, be_length]; omega)
                  replace HF : Hid (Pq W0 w1 o1 (lA ++ parB (ps.take k) ++ be 2 a)) := HF
                  go_wp2_with fail
                  refine p4.mono ?_
                  rintro e w2 ⟨o2, rfl, hR2, hG2⟩
                  have HF2 := HF.out.step hR2 hG2
                  rw [HS.out] at HF2
                  replace HF2 : Hid (Pq W0 w2 o2 (lA ++ parB (ps.take (k + 1)))) := HF2
                  clear p4 c0 c1 c2 c3 c4 c5 c6 c7 c8 c9 c10 d1 d2 hR2 hG2 HF HS
                  go_wp2_with fail
                  go_roundw
                  case rel => exact ⟨k + 1, by omega, by simp, HF2⟩
                  case measure => simp [intOf]; omega
                · obtain rfl : k = n := by omega
                  have hlti : ¬ (k : Int) < (k : Int) := by omega
                  have hpl : (parB (ps.take k)).length ≤ 6 * k := by rw [parB_length, List.length_take]; omega
                  have htk : ps.take k = ps := List.take_of_length_le (by have := HN.out; omega)
                  obtain ⟨o2, W2, hrun, hR2, hG2⟩ := row_append_str _ _ _ HK.out.1 data (by rw [List.length_append]; omega)
                  have HF := HK.out.step hR2 hG2
                  have hlD : (lA ++ parB (ps.take k) ++ data.data.toList).length ≤ 20 + 6 * k + data.size := by
                    rw [List.length_append, List.length_append]
                    have : data.data.toList.length = data.size := by simp
                    omega
                  rw [htk] at HF hlD
                  obtain ⟨lD, hD⟩ : ∃ lD, lA ++ parB ps ++ data.data.toList = lD := ⟨_, rfl⟩
                  rw [hD] at HF hlD
                  rw [hD] at HLL
                  replace HF : Hid (Pq W0 W2 o2 (lD ++ List.replicate 0 0)) := (by simpa using HF : Pq W0 W2 o2 (lD ++ List.replicate 0 0))
                  obtain ⟨pd, hpd⟩ : ∃ pd : Nat, pad = (pd : Int) := ⟨pad.toNat, by omega⟩
                  have hpd' : pad.toNat = pd := by omega
                  rw [hpd'] at HLL
                  clear hR2 hG2 htk hpl HK hD
                  go_wp2_with (at_builtin; refine Lib.wpList_append_run _ rfl (.tmp 74) (.tmp 76) 56 9 rfl _ _ rfl rfl _ _ hrun ?_; clear hrun)
                  clear c0 c1 c2 c3 c4 c5 c6 c7 c8 c9 c10
                  go_loopw [3, 5] (fun o i wr => ∃ j : Nat, j ≤ pd ∧ i = .int .i64 (j : Int) ∧ Hid (Pq W0 wr o (lD ++ List.replicate j 0))) (fun _ i _ => pd - (intOf i).toNat)
                  case atStart => exact ⟨0, Nat.zero_le _, rfl, HF⟩
                  case round =>
                    obtain ⟨j, hj, rfl, HK⟩ := hrel
                    clear HF
                    obtain ⟨c0, c1, c2, c3, c4, c5, c6, c7, c8, c9, c10⟩ := hcell.out _ _ _ HK.out
                    by_cases hjn : j < pd
                    · obtain ⟨o3, W3, hrun, hR3, hG3⟩ := put_one (l := lD) (m := List.replicate j 0) HK.out.1 (Gr.refl _ _) 0 (by rw [List.length_replicate]; omega)
                      have HF3 := HK.out.step hR3 hG3
                      rw [← List.replicate_succ'] at HF3
                      replace HF3 : Hid _ := HF3
                      have hji : (j : Int) < pad := by omega
                      replace hrun : (Builtin.append_ #[56, 56] 56 #[u3, .slice (some ⟨wr.heap.size, 0, none⟩) 1 1]).run Tryd.prog (wr.alloc (.cells #[.int .u8 0] 5)) = .ok o3 W3 := hrun
                      clear hR3 hG3 HK hpd
                      go_wp2_with (at_builtin; refine Lib.wpList_append_run _ rfl (.tmp 84) (.tmp 85) 56 56 rfl _ _ rfl rfl _ _ hrun ?_; clear hrun)
                      go_roundw
                      case rel => exact ⟨j + 1, by omega, by simp, HF3⟩
                      case measure => simp [intOf]; omega
                    · obtain rfl : j = pd := by omega
                      have hji : ¬ (j : Int) < pad := by omega
                      clear hpd
                      go_wp2
                      go_ret
                      exact ⟨_, rfl, HLL.out ▸ HK.out.1, hfin.out _ _ _ HK.out⟩
end Go.Proofs.YtjigjckclpccmaaDoor
