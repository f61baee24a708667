/- The document's read of a Settings. -/
import Derived.Test.YtmhbaaemihljjaaDoorE1
import Derived.Test.YtmhbaaemihljjaaDoorA8
namespace Go.Proofs.YtmhbaaemihljjaaDoor
open Go.RowKit
set_option linter.unusedVariables false
set_option linter.unusedSimpArgs false

/-- what the document's read has made of a Settings so far -/
structure SSt (w wr : World) (f : Fr) (Q : ByteArray) (k : Nat) (p : Value) : Prop where
  fb : FB wr w.heap.size f p
  row : PRow wr p (prmS Q k)
  fresh : ∀ j, p.ownBlock = some j → w.heap.size + 1 + 1 < j
  r4 : wr.heap[w.heap.size + 1]? = some (.cells (fv Fr.zero (.slice none 0 0)) 28 (0, 0))
  r6 : wr.heap[w.heap.size + 1 + 1]? = some (.cells #[.int .i64 0, .int .i64 0] 30 (0, 0))
  bel : Below w.heap.size w wr

theorem finS (w wr : World) (f : Fr) (Q : ByteArray) (k : Nat) (p : Value) (h : SSt w wr f Q k p) :
    (sets (sets (wr.setCell ⟨w.heap.size, 3, none⟩ (.string ⟨#[]⟩)) (w.heap.size + 1) (fsets f p)) (w.heap.size + 1 + 1) [(0, .int .i64 0), (1, .int .i64 0)]).heap[w.heap.size + 1]? = some (.cells (fv f p) 28 (0, 0)) ∧
    (sets (sets (wr.setCell ⟨w.heap.size, 3, none⟩ (.string ⟨#[]⟩)) (w.heap.size + 1) (fsets f p)) (w.heap.size + 1 + 1) [(0, .int .i64 0), (1, .int .i64 0)]).heap[w.heap.size + 1 + 1]? = some (.cells #[.int .i64 0, .int .i64 0] 30 (0, 0)) ∧
    PRow (sets (sets (wr.setCell ⟨w.heap.size, 3, none⟩ (.string ⟨#[]⟩)) (w.heap.size + 1) (fsets f p)) (w.heap.size + 1 + 1) [(0, .int .i64 0), (1, .int .i64 0)]) p (prmS Q k) ∧
    Below w.heap.size w (sets (sets (wr.setCell ⟨w.heap.size, 3, none⟩ (.string ⟨#[]⟩)) (w.heap.size + 1) (fsets f p)) (w.heap.size + 1 + 1) [(0, .int .i64 0), (1, .int .i64 0)]) := by
  have h4 : (wr.setCell ⟨w.heap.size, 3, none⟩ (.string ⟨#[]⟩)).heap[w.heap.size + 1]? = some (.cells (fv Fr.zero (.slice none 0 0)) 28 (0, 0)) := (setCell_other _ _ _ _ _ (by omega)).trans h.r4
  have h6 : (wr.setCell ⟨w.heap.size, 3, none⟩ (.string ⟨#[]⟩)).heap[w.heap.size + 1 + 1]? = some (.cells #[.int .i64 0, .int .i64 0] 30 (0, 0)) := (setCell_other _ _ _ _ _ (by omega)).trans h.r6
  refine ⟨?_, ?_, h.row.below fun j hj _ => ?_, ?_⟩
  · rw [sets_other _ _ (by omega), sets_block _ _ _ _ _ _ h4]
    simp only [fsets, fv, Fr.zero, List.foldl_cons, List.foldl_nil, List.setIfInBounds_toArray, List.set_cons_zero, List.set_cons_succ]
  · rw [sets_block _ _ _ _ _ _ ((sets_other _ _ (by omega) _ _).trans h6)]
    simp only [List.foldl_cons, List.foldl_nil, List.setIfInBounds_toArray, List.set_cons_zero, List.set_cons_succ]
  · have := h.fresh j hj
    rw [sets_other _ _ (by omega), sets_other _ _ (by omega)]
    exact setCell_other _ _ _ _ _ (by omega)
  · exact ((h.bel.setCell (p := ⟨w.heap.size, 3, none⟩) (Nat.le_refl _) _).trans (sets_below (w.heap.size + 1) w.heap.size (by omega) (fsets f p) _)).trans (sets_below (w.heap.size + 1 + 1) w.heap.size (by omega) _ _)

set_option maxRecDepth 100000 in
set_option maxHeartbeats 4000000 in
theorem rr_s4 (X : Nat) (S : Int) (Q : ByteArray) (w : World) (hX : X < 256) (hPs : Q.size ≤ 65536) (hQ6 : Q.size % 6 = 0) :
    Calls Tryd.prog 48 #[.agg #[.int .i64 4, .int .i64 (X : Int), .int .i64 S, .string ⟨#[]⟩, .int .i64 0, .int .i64 0, .bool false, .int .i64 0, .int .i64 0, .int .i64 0, .slice none 0 0], .string Q] w fun e w' => RPost w (takeS 58 ⟨4, (X : Int), S, ⟨#[]⟩, 0, 0, false, 0, 0, 0⟩ Q, ((9 + Q.size : Nat) : Int), 0, 0) e w' := by
  have hmp : Hid (∀ W : World, Calls Tryd.prog 70 #[.int .i64 4, .int .i64 (X : Int)] W fun e w' => e = .returned (.bool false) ∧ w' = W) := fun W => by
    have := mayPad_any 4 X hX W
    rw [show mpS 4 X = false by simp [mpS]] at this
    exact this
  have hwg : Hid (∀ (W : World), Calls Tryd.prog 71 #[.agg #[.int .i64 4, .int .i64 (X : Int), .int .i64 S, .string ⟨#[]⟩, .int .i64 0, .int .i64 0, .bool false, .int .i64 0, .int .i64 0, .int .i64 0, .slice none 0 0]] W fun e w' => e = .returned (.bool false) ∧ w' = W.alloc (.cells #[.int .i64 4, .int .i64 (X : Int), .int .i64 S, .string ⟨#[]⟩, .int .i64 0, .int .i64 0, .bool false, .int .i64 0, .int .i64 0, .int .i64 0, .slice none 0 0] 28)) := fun W => by
    have := weighed_any ⟨4, (X : Int), S, ⟨#[]⟩, 0, 0, false, 0, 0, 0⟩ (.slice none 0 0) 4 X rfl rfl hX W
    rw [show wgS 4 X = false by simp [wgS]] at this
    exact this
  obtain ⟨M, hM⟩ : ∃ M : Nat, (9 : Int) + (Q.size : Int) = (M : Int) := ⟨9 + Q.size, by omega⟩
  rw [show ((9 + Q.size : Nat) : Int) = (M : Int) by omega]
  obtain ⟨f, hf⟩ : ∃ f : Fr, f = ⟨4, (X : Int), S, ⟨#[]⟩, 0, 0, false, 0, 0, 0⟩ := ⟨_, rfl⟩
  have hgg : Hid (takeS 58 ⟨4, (X : Int), S, ⟨#[]⟩, 0, 0, false, 0, 0, 0⟩ Q = (f, prmS Q (Q.size / 6))) := by
    show _ = _
    rw [hf]; rfl
  have HF : Hid (f = ⟨4, (X : Int), S, ⟨#[]⟩, 0, 0, false, 0, 0, 0⟩) := hf
  clear hf
  go_enter Tryd.func48, Tryd.ntmps48
  go_wp2_with (first | (go_at_call 70; refine (hmp.out _).mono ?_; rintro e w' ⟨rfl, rfl⟩) | (go_at_call 71; refine (hwg.out _).mono ?_; rintro e w' ⟨rfl, rfl⟩))
  go_loopw [1] (fun x wr => ∃ (k m : Nat) (s : ByteArray), 6 * k + 6 * m = Q.size ∧ x = .string s ∧ s.size = 6 * m ∧ Hid (s = Q.extract (6 * k) Q.size) ∧ Hid (∃ p, SSt w wr f Q k p)) (fun x _ => (match x with | .string s => s.size | _ => 0))
  case atStart =>
    refine ⟨0, Q.size / 6, Q, by omega, rfl, by omega, by simp [Hid], .slice none 0 0, ?_, PRow.nil _, fun j hj => by simp [Value.ownBlock] at hj, ?_, ?_, ?_⟩
    · rw [HF.out]
      unfold FB
      (simp only [heap_al, heap_dr, size_al, size_dr]; repeat (first | rw [if_pos trivial] | rw [if_neg (by omega)] | rw [if_pos (by omega)]))
      rfl
    · (simp only [heap_al, heap_dr, size_al, size_dr]; repeat (first | rw [if_pos trivial] | rw [if_neg (by omega)] | rw [if_pos (by omega)]))
      rfl
    · (simp only [heap_al, heap_dr, size_al, size_dr]; repeat (first | rw [if_pos trivial] | rw [if_neg (by omega)] | rw [if_pos (by omega)]))
    · (repeat (first | exact Below.refl _ _ | refine Below.drew ?_ | refine Below.alloc ?_ (by first | exact Nat.le_refl _ | (simp only [size_al, size_dr]; omega)) _))
  case round =>
    obtain ⟨k, m, s, hkm, rfl, hsz, HS, HP⟩ := hrel
    obtain ⟨p, hst⟩ := HP.out
    have hc0 : wr.cell? ⟨w.heap.size, 0, none⟩ = some (.int .i64 4) := by have := hst.fb.cell 0; rw [HF.out] at this; exact this
    by_cases hm : m = 0
    · subst hm
      have hse : s = ⟨#[]⟩ := by
        apply ByteArray.ext
        exact Array.eq_empty_of_size_eq_zero hsz
      subst hse
      have hk : k = Q.size / 6 := by omega
      subst hk
      obtain ⟨pb, pc, rfl⟩ := hst.row.slice
      have hfin := finS w wr f Q _ _ hst
      rw [HF.out] at hfin
      simp only [sets, fsets, List.foldl_cons, List.foldl_nil] at hfin
      replace hfin : Hid _ := hfin
      have hF := hst.fb
      rw [HF.out] at hF
      obtain ⟨c0, c1, c2, c3, c4, c5, c6, c7, c8, c9, c10⟩ := hF.cells
      have yf := hF.frozen 3
      have hr4 : FB wr (w.heap.size + 1) Fr.zero (.slice none 0 0) := hst.r4
      obtain ⟨z0, z1, z2, z3, z4, z5, z6, z7, z8, z9, z10⟩ := hr4.cells
      obtain ⟨y0, y1, y2, y3, y4, y5, y6, y7, y8, y9, y10⟩ := hr4.frozens
      have q0 := cell_of_row _ _ 0 _ _ _ hst.r6
      have q1 := cell_of_row _ _ 1 _ _ _ hst.r6
      have q2 : wr.frozen? ⟨w.heap.size + 1 + 1, 0, none⟩ = false := frozen_row hst.r6 0
      have q3 : wr.frozen? ⟨w.heap.size + 1 + 1, 1, none⟩ = false := frozen_row hst.r6 1
      have hfresh : Hid (∀ j, (Value.slice pb (prmS Q (Q.size / 6)).length pc).ownBlock = some j → w.heap.size ≤ j) := fun j hj => by have := hst.fresh j hj; omega
      simp only [Fr.zero, List.getElem?_toArray, List.getElem?_cons_succ, List.getElem?_cons_zero] at z0 z1 z2 z3 z4 z5 z6 z7 z8 z9 z10 q0 q1
      clear hst HP hF hr4 HS hkm hsz hc0
      go_wp2_with fail
      obtain ⟨x1, x2, x3, x4⟩ := hfin.out
      refine bodyPost_ret (results_three (p := 4) (ty := 28) (r := 5) (q := 6) (tz := 30) rfl _ _ (w.heap.size + 1) (w.heap.size + 1 + 1) 28 30 _ _ (0, 0) (0, 0) _ _ rfl x1 Tryd.underlying28 rfl (by kernel_rfl) rfl x2 Tryd.underlying30 rfl (by kernel_rfl)) rfl ?_
      rw [hgg.out, HF.out]
      exact ⟨_, rfl, x3, hfresh.out, x4⟩
    · have hsi : (0 : Int) < (s.size : Int) := by omega
      have hk1 : k + 1 ≤ Q.size / 6 := by omega
      have hlen : ((prmS Q k).length + 1) * 16 ≤ 140737488355328 := by rw [prmS_length]; omega
      have hsx : ∀ i j : Nat, j ≤ i + 4 → (s.extract i j).size ≤ 4 := fun i j h => by rw [ByteArray.size_extract]; omega
      have hx : s.extract 0 2 = Q.extract (6 * k) (6 * k + 2) := by
        rw [HS.out, ByteArray.extract_extract]
        congr 1
        omega
      have hy : s.extract 2 6 = Q.extract (6 * k + 2) (6 * k + 6) := by
        rw [HS.out, ByteArray.extract_extract]
        congr 1
        omega
      have hnext : s.extract 6 s.size = Q.extract (6 * (k + 1)) Q.size := by
        rw [HS.out, ByteArray.extract_extract]
        congr 1
        rw [← HS.out]; omega
      have hB : (wr.alloc (.cells #[.int .i64 (numS (s.extract 0 2) : Int), .int .i64 (numS (s.extract 2 6) : Int)] 49)).drew.heap[wr.heap.size]? = some (.cells #[.int .i64 (numS (s.extract 0 2) : Int), .int .i64 (numS (s.extract 2 6) : Int)] 49 (0, 0)) := heap_alloc_new wr _
      have hb1 : Below wr.heap.size wr (wr.alloc (.cells #[.int .i64 (numS (s.extract 0 2) : Int), .int .i64 (numS (s.extract 2 6) : Int)] 49)).drew := ((Below.refl _ wr).alloc (Nat.le_refl _) _).drew
      obtain ⟨base, cap, w2, hrun, hP2, hG2⟩ := prow_append _ p (prmS Q k) (hst.row.below (w' := (wr.alloc (.cells #[.int .i64 (numS (s.extract 0 2) : Int), .int .i64 (numS (s.extract 2 6) : Int)] 49)).drew) fun k _ hk => hb1.block k hk) wr.heap.size _ _ hB hlen
      have hold : ∀ j, j ≤ w.heap.size + 1 + 1 → j < wr.heap.size → w2.heap[j]? = wr.heap[j]? := fun j hj hl => (hG2.block j (Nat.lt_of_lt_of_le hl hb1.size) (fun e => by have := hst.fresh j e; omega)).trans (hb1.block j hl)
      have hF2 : FB w2 w.heap.size f p := (hold _ (by omega) hst.fb.lt).trans hst.fb
      have hc1 := hst.fb.cell 10
      simp only [fv, List.getElem?_toArray, List.getElem?_cons_succ, List.getElem?_cons_zero] at hc1
      have hcA : ∀ o : Obj, (wr.alloc o).cell? ⟨w.heap.size, 10, none⟩ = some p := fun o => ((hst.fb.below ((Below.refl _ wr).alloc (Nat.le_refl _) o)).cell 10)
      have hc2 := hF2.cell 10
      simp only [fv, List.getElem?_toArray, List.getElem?_cons_succ, List.getElem?_cons_zero] at hc2
      have hf2 := hF2.frozen 10
      have hfin : Hid (∃ (k' m' : Nat) (s' : ByteArray), 6 * k' + 6 * m' = Q.size ∧ Value.string (s.extract 6 s.size) = .string s' ∧ s'.size = 6 * m' ∧ Hid (s' = Q.extract (6 * k') Q.size) ∧ Hid (∃ p, SSt w (w2.setCell ⟨w.heap.size, 10, none⟩ (.slice base ((prmS Q k).length + 1) cap)) f Q k' p)) := by
        have hl4 := (Array.getElem?_eq_some_iff.1 hst.r4).1
        have hl6 := (Array.getElem?_eq_some_iff.1 hst.r6).1
        have hfr2 : ∀ j, (Value.slice base ((prmS Q k).length + 1) cap).ownBlock = some j → w.heap.size + 1 + 1 < j := fun j hj => (hG2.own j hj).elim (hst.fresh j) fun hh => by have := hb1.size; omega
        refine ⟨k + 1, m - 1, _, by omega, rfl, by rw [ByteArray.size_extract]; omega, hnext, .slice base ((prmS Q k).length + 1) cap, ?_, ?_, hfr2, ?_, ?_, ?_⟩
        · unfold FB
          rw [setCell_block _ _ _ _ _ _ _ hF2]
          rfl
        · rw [prmS_succ, ← hx, ← hy]
          refine hP2.below fun j hj hlt => setCell_other _ _ _ _ _ fun e => ?_
          have := hfr2 j hj
          omega
        · rw [setCell_other _ _ _ _ _ (by omega), hold _ (by omega) hl4]; exact hst.r4
        · rw [setCell_other _ _ _ _ _ (by omega), hold _ (by omega) hl6]; exact hst.r6
        · refine (hst.bel.trans ⟨hG2.os.trans hb1.os, hG2.tape.trans hb1.tape, hG2.output.trans hb1.output, Nat.le_trans hb1.size hG2.size, fun j hj => hold j (by omega) (by have := hst.fb.lt; omega)⟩).setCell (Nat.le_refl _) _
      have hm2 : (s.extract 6 s.size).size < s.size := by rw [ByteArray.size_extract]; omega
      obtain ⟨L, hL⟩ : ∃ L, L = (prmS Q k).length + 1 := ⟨_, rfl⟩
      rw [← hL] at hrun hfin
      replace hrun : Hid _ := hrun
      have h2s : (2 : Int) ≤ (s.size : Int) := by omega
      have h6s : (6 : Int) ≤ (s.size : Int) := by omega
      clear hsz hkm hQ6 hPs hk1 hP2 hG2 hF2 hB hb1 hnext hx hy hst HP HS hL hlen hold hM hmp hwg hm
      go_wp2_with fail
      go_region_law (first | (refine step_value 43 _ _ rfl ?_; go_simp; go_wp2_with (go_at_call 43; refine (get_any _ _ (hsx _ _ (by decide))).mono ?_; rintro e w' ⟨rfl, rfl⟩)) | (refine step_append_run rfl (.tmp 100) (.tmp 108) 26 26 rfl hrun.out (by simp [Act.eval]) (by simp [Act.eval]) ?_))
      all_goals
        go_wp2_with fail
        go_roundw
        case rel => exact hfin.out
        case measure => exact hm2
end Go.Proofs.YtmhbaaemihljjaaDoor
