/- Params: rows of them; takeParams. -/
import Derived.Test.YtmhbaaemihljjaaDoorA2
import Derived.Deep.RegionLaw
namespace Go.Proofs.YtmhbaaemihljjaaDoor
open Go.RowKit
set_option linter.unusedVariables false
set_option linter.unusedSimpArgs false

theorem info37 : (Tryd.prog.info? 49).map (fun i => (i.zero, i.size, i.bytes)) = some (some (.agg #[.int .i64 0, .int .i64 0]), 2, 16) := by kernel_rfl

/-- params, as the cells of a row -/
def pcells (l : List (Int × Int)) : List Value := l.flatMap fun p => [.int .i64 p.1, .int .i64 p.2]
theorem pcells_append (a b : List (Int × Int)) : pcells (a ++ b) = pcells a ++ pcells b := by simp [pcells]
theorem pcells_length (a : List (Int × Int)) : (pcells a).length = a.length * 2 := by
  induction a with
  | nil => rfl
  | cons x r ih => simp [pcells] at ih ⊢; omega
theorem pcells_one (a : List (Int × Int)) : ∀ u ∈ pcells a, u.oneCell' = true := by
  intro u hu
  obtain ⟨b, _, hb⟩ := List.mem_flatMap.1 hu
  simp at hb
  rcases hb with rfl | rfl <;> rfl

def PRow (w : World) (o : Value) (l : List (Int × Int)) : Prop := w.ownsRow 0 49 2 o l.length (pcells l)

theorem PRow.nil (w : World) : PRow w (.slice none 0 0) [] := World.ownsRow_nil w 0 49 2
theorem PRow.below {w w' : World} {o : Value} {l : List (Int × Int)} (h : PRow w o l) (hb : ∀ k, o.ownBlock = some k → k < w.heap.size → w'.heap[k]? = w.heap[k]?) : PRow w' o l := by
  refine ⟨h.1, ?_⟩
  rcases h.2 with hn | ⟨g, cap, cur, rfl, hbs, hgg, rest⟩
  · exact .inl hn
  · refine .inr ⟨g, cap, cur, rfl, hbs, ?_, rest⟩
    rw [hb g rfl (Array.getElem?_eq_some_iff.1 hgg).1]
    exact hgg
theorem PRow.lt {w : World} {o : Value} {l : List (Int × Int)} (h : PRow w o l) : ∀ k, o.ownBlock = some k → k < w.heap.size := fun k hk => (World.ownsRow.lt h k hk).2
theorem PRow.slice {w : World} {o : Value} {l : List (Int × Int)} (h : PRow w o l) : ∃ base cap, o = .slice base l.length cap := by
  rcases h.2 with ⟨rfl, hn⟩ | ⟨g, cap, cur, rfl, _⟩
  · exact ⟨none, 0, by rw [hn]⟩
  · exact ⟨_, cap, rfl⟩

/-- append of one param, which lies by itself in block B -/
theorem prow_append (w : World) (o : Value) (l : List (Int × Int)) (hR : PRow w o l) (B : Nat) (x y : Int) (hc : w.heap[B]? = some (.cells #[.int .i64 x, .int .i64 y] 49 (0, 0)))
    (hlen : (l.length + 1) * 16 ≤ 140737488355328) :
    ∃ base cap w', (Builtin.append_ #[26, 26] 26 #[o, .slice (some ⟨B, 0, none⟩) 1 1]).run Tryd.prog w = .ok (.slice base (l.length + 1) cap) w' ∧ PRow w' (.slice base (l.length + 1) cap) (l ++ [(x, y)]) ∧ Gr w w' o (.slice base (l.length + 1) cap) := by
  obtain ⟨i0, hi0, hz0, hz1, hz2⟩ := info_parts info37
  have hcell : ∀ j u, ([.int .i64 x, .int .i64 y] : List Value)[j]? = some u → w.cell? ((⟨B, 0, none⟩ : Addr).add j) = some u := by
    intro j u hj
    rw [Addr.add_lit, cell_of_row _ _ _ _ _ _ hc, Nat.zero_add]
    simpa using hj
  have hone : ∀ u ∈ ([.int .i64 x, .int .i64 y] : List Value), u.oneCell' = true := by simp [Value.oneCell']
  obtain ⟨v', w', hrun, ho, hg, hnil⟩ := run_append_own (P := Tryd.prog) w 0 26 26 49 i0 _ 2 16 Tryd.underlying26 hi0 hz0 hz1 hz2 rfl (by omega) o l.length (pcells l) hR ⟨B, 0, none⟩ 1 1 [.int .i64 x, .int .i64 y] rfl hcell hone (by unfold maxLen; omega) (by omega) (Nat.zero_le _)
  have hown : ∀ k, v'.ownBlock = some k → o.ownBlock = some k ∨ w.heap.size ≤ k := by
    intro k hk
    rcases hR.2 with ⟨rfl, h0⟩ | ⟨g, cap, cur, rfl, _, hgg, hnc, _, hcs, _⟩
    · have hr := run_append_nil (P := Tryd.prog) w 26 26 49 i0 _ Tryd.underlying26 hi0 hz0 ⟨B, 0, none⟩ 1 1 [.int .i64 x, .int .i64 y] (by rw [hz1]; rfl) hcell (by omega) (by omega) (by rw [hz2]; omega)
      rw [hrun] at hr
      injection hr with hr _
      subst hr
      simp [Value.ownBlock] at hk
      exact .inr (by omega)
    · by_cases hroom : l.length + 1 ≤ cap
      · have hr := run_append_room (P := Tryd.prog) w 26 26 49 i0 Tryd.underlying26 hi0 g l.length cap cur hgg ⟨B, 0, none⟩ 1 1 [.int .i64 x, .int .i64 y] (by rw [hz1]; rfl) hcell hone hroom (by rw [hcs, hz1]; simp; omega)
        rw [hrun] at hr
        injection hr with hr _
        subst hr
        exact .inl hk
      · have hr := run_append_grow (P := Tryd.prog) w 26 26 49 i0 _ Tryd.underlying26 hi0 hz0 ⟨g, 0, none⟩ l.length cap (pcells l) (by rw [pcells_length, hz1]) (World.ownsRow.cells hR (g := g) rfl) ⟨B, 0, none⟩ 1 1 [.int .i64 x, .int .i64 y] (by rw [hz1]; rfl) hcell (by omega) (by omega) (growslice_fits (by omega) (by rw [hz2]; omega))
        rw [hrun] at hr
        injection hr with hr _
        subst hr
        simp [Value.ownBlock] at hk
        exact .inr (by omega)
  have hP : PRow w' v' (l ++ [(x, y)]) := by
    unfold PRow
    rw [pcells_append, List.length_append]
    exact ho
  obtain ⟨base, cap, rfl⟩ := hP.slice
  rw [List.length_append] at hrun hP hown
  exact ⟨base, cap, w', hrun, hP, hg.os, hg.tape, hg.output, hg.size, fun k hk hne => hg.block k hk (fun e => hne e.symm), hown⟩

/-- a call of a Go function, as one step of a region: for a guard -/
theorem step_value {P : Program} {ops : Array Oper} {o : Oper} {a : Act} {w : World} {K : Act → World → Prop} {Q : Exit → Act → World → Prop} {R : Prop}
    (f : FuncId) (xs : Array Operand) (ats : Array TypeId) (_ho : o.op = .call { callee := .value (.func f), args := xs, argTypes := ats })
    (h : if Region.wanted o (yielded ops a.tmps) = true then Oper.wp P o a w K Q else R) : if Region.wanted o (yielded ops a.tmps) = true then Oper.wp P o a w K Q else R := h

/-- the params that bytes are -/
def prmS (b : ByteArray) (k : Nat) : List (Int × Int) := (List.range k).map fun i => ((numS (b.extract (6 * i) (6 * i + 2)) : Int), (numS (b.extract (6 * i + 2) (6 * i + 6)) : Int))
theorem prmS_length (b : ByteArray) (k : Nat) : (prmS b k).length = k := by simp [prmS]
theorem prmS_succ (b : ByteArray) (k : Nat) : prmS b (k + 1) = prmS b k ++ [((numS (b.extract (6 * k) (6 * k + 2)) : Int), (numS (b.extract (6 * k + 2) (6 * k + 6)) : Int))] := by
  simp [prmS, List.range_succ]

set_option maxRecDepth 100000 in
set_option maxHeartbeats 2000000 in
theorem takeParams_any (w : World) (g : Nat) (f : Fr) (b : ByteArray) (h : FB w g f (.slice none 0 0)) (hs : b.size % 6 = 0) (hlim : b.size / 6 * 16 ≤ 140737488355328) :
    Calls Tryd.prog 58 #[.pointer (some ⟨g, 0, none⟩), .string b] w fun e w' => e = .returned (.tuple #[]) ∧ ∃ p, FB w' g f p ∧ PRow w' p (prmS b (b.size / 6)) ∧ (∀ k, p.ownBlock = some k → w.heap.size ≤ k) ∧ Kp g w w' := by
  go_enter Tryd.func58, Tryd.ntmps58
  go_wp2
  go_loopw [1] (fun x wr => ∃ (k m : Nat) (s : ByteArray), 6 * k + 6 * m = b.size ∧ x = .string s ∧ s.size = 6 * m ∧ Hid (s = b.extract (6 * k) b.size) ∧ Hid (∃ p, FB wr g f p ∧ PRow wr p (prmS b k) ∧ (∀ k, p.ownBlock = some k → w.heap.size ≤ k) ∧ Kp g w wr)) (fun x _ => (match x with | .string s => s.size | _ => 0))
  case atStart => exact ⟨0, b.size / 6, b, by omega, rfl, by omega, by simp [Hid], _, h, PRow.nil _, fun k hk => by simp [Value.ownBlock] at hk, Kp.refl _ _⟩
  case round =>
    obtain ⟨k, m, s, hkm, rfl, hsz, HS, HP⟩ := hrel
    clear h
    by_cases hm : m = 0
    · subst hm
      have hse : s = ⟨#[]⟩ := by
        apply ByteArray.ext
        exact Array.eq_empty_of_size_eq_zero hsz
      subst hse
      have hk : k = b.size / 6 := by omega
      subst hk
      go_wp2
      go_end0
      exact ⟨rfl, HP.out⟩
    · obtain ⟨p, hF, hP, hfr, hK⟩ := HP.out
      have hne : s.toList.isEmpty = false := by
        have h1 : s.toList = s.data.toList := by simp [ByteArray.toList_eq]
        have h2 : s.data.toList.length = s.size := by simp
        rw [h1]
        cases hd : s.data.toList with
        | nil => rw [hd] at h2; simp at h2; omega
        | cons x r => rfl
      have hk1 : k + 1 ≤ b.size / 6 := by omega
      have hlen : ((prmS b k).length + 1) * 16 ≤ 140737488355328 := by rw [prmS_length]; omega
      have hsx : ∀ i j : Nat, j ≤ i + 4 → (s.extract i j).size ≤ 4 := fun i j h => by rw [ByteArray.size_extract]; omega
      have hx : s.extract 0 2 = b.extract (6 * k) (6 * k + 2) := by
        rw [HS.out, ByteArray.extract_extract]
        congr 1
        omega
      have hy : s.extract 2 6 = b.extract (6 * k + 2) (6 * k + 6) := by
        rw [HS.out, ByteArray.extract_extract]
        congr 1
        omega
      have hnext : s.extract 6 s.size = b.extract (6 * (k + 1)) b.size := by
        rw [HS.out, ByteArray.extract_extract]
        congr 1
        rw [← HS.out]; omega
      have hB : (wr.alloc (.cells #[.int .i64 (numS (s.extract 0 2) : Int), .int .i64 (numS (s.extract 2 6) : Int)] 49)).drew.heap[wr.heap.size]? = some (.cells #[.int .i64 (numS (s.extract 0 2) : Int), .int .i64 (numS (s.extract 2 6) : Int)] 49 (0, 0)) := heap_alloc_new wr _
      have hb1 : Below wr.heap.size wr (wr.alloc (.cells #[.int .i64 (numS (s.extract 0 2) : Int), .int .i64 (numS (s.extract 2 6) : Int)] 49)).drew := ((Below.refl _ wr).alloc (Nat.le_refl _) _).drew
      obtain ⟨base, cap, w2, hrun, hP2, hG2⟩ := prow_append _ p (prmS b k) (hP.below (w' := (wr.alloc (.cells #[.int .i64 (numS (s.extract 0 2) : Int), .int .i64 (numS (s.extract 2 6) : Int)] 49)).drew) fun k _ hk => hb1.block k hk) wr.heap.size _ _ hB hlen
      have hpg : p.ownBlock ≠ some g := by
        intro e
        rcases hP.2 with ⟨rfl, _⟩ | ⟨g', cap', cur, rfl, _, hgg, _⟩
        · simp [Value.ownBlock] at e
        · simp [Value.ownBlock] at e
          subst e
          rw [hF] at hgg
          simp at hgg
      have hF2 : FB w2 g f p := (hG2.block g (Nat.lt_of_lt_of_le hF.lt hb1.size) hpg).trans (hF.below hb1)
      have hc1 := hF.cell 10
      simp only [fv, List.getElem?_toArray, List.getElem?_cons_succ, List.getElem?_cons_zero] at hc1
      have hcA : ∀ o : Obj, (wr.alloc o).cell? ⟨g, 10, none⟩ = some p := fun o => ((hF.below ((Below.refl _ wr).alloc (Nat.le_refl _) o)).cell 10)
      have hc2 := hF2.cell 10
      simp only [fv, List.getElem?_toArray, List.getElem?_cons_succ, List.getElem?_cons_zero] at hc2
      have hf2 := hF2.frozen 10
      have hfin : Hid (∃ (k' m' : Nat) (s' : ByteArray), 6 * k' + 6 * m' = b.size ∧ Value.string (s.extract 6 s.size) = .string s' ∧ s'.size = 6 * m' ∧ Hid (s' = b.extract (6 * k') b.size) ∧ Hid (∃ p, FB (w2.setCell ⟨g, 10, none⟩ (.slice base ((prmS b k).length + 1) cap)) g f p ∧ PRow (w2.setCell ⟨g, 10, none⟩ (.slice base ((prmS b k).length + 1) cap)) p (prmS b k') ∧ (∀ k, p.ownBlock = some k → w.heap.size ≤ k) ∧ Kp g w (w2.setCell ⟨g, 10, none⟩ (.slice base ((prmS b k).length + 1) cap)))) := by
        have hfr2 : ∀ j, (Value.slice base ((prmS b k).length + 1) cap).ownBlock = some j → w.heap.size ≤ j := fun j hj => (hG2.own j hj).elim (hfr j) fun hh => by have := hK.size; have := hb1.size; omega
        have hgw : g < w.heap.size ∨ w.heap.size ≤ g := by omega
        refine ⟨k + 1, m - 1, _, by omega, rfl, by rw [ByteArray.size_extract]; omega, hnext, .slice base ((prmS b k).length + 1) cap, ?_, ?_, hfr2, ?_⟩
        · unfold FB
          rw [setCell_block _ _ _ _ _ _ _ hF2]
          rfl
        · rw [prmS_succ, ← hx, ← hy]
          refine hP2.below fun j hj hlt => setCell_other _ _ _ _ _ fun e => ?_
          subst e
          rcases hP2.2 with ⟨h0, _⟩ | ⟨g', cap', cur, h0, _, hgg, _⟩
          · rw [h0] at hj; simp [Value.ownBlock] at hj
          · rw [h0] at hj
            simp [Value.ownBlock] at hj
            subst hj
            rw [hF2] at hgg
            simp at hgg
        · refine Kp.trans (b := w2) ⟨hG2.os.trans (hb1.os.trans hK.os), hG2.tape.trans (hb1.tape.trans hK.tape), hG2.output.trans (hb1.output.trans hK.output), Nat.le_trans hK.size (Nat.le_trans hb1.size hG2.size), fun j hj hjg => ?_⟩ (Kp.setCell _ _ _ _)
          have hjw : j < wr.heap.size := Nat.lt_of_lt_of_le hj hK.size
          exact (hG2.block j (Nat.lt_of_lt_of_le hjw hb1.size) (fun e => by have := hfr j e; omega)).trans ((hb1.block j hjw).trans (hK.block j hj hjg))
      have hm2 : (s.extract 6 s.size).size < s.size := by rw [ByteArray.size_extract]; omega
      obtain ⟨L, hL⟩ : ∃ L, L = (prmS b k).length + 1 := ⟨_, rfl⟩
      rw [← hL] at hrun hfin
      replace hrun : Hid _ := hrun
      have h2s : (2 : Int) ≤ (s.size : Int) := by omega
      have h6s : (6 : Int) ≤ (s.size : Int) := by omega
      clear hsz hkm hs hlim hk1
      clear hP2 hG2 hF2 hB hb1 hnext hx hy hF hP hK hfr HP HS hL hlen hpg
      go_wp2_with fail
      clear hm hne
      go_region_law (first | (refine step_value 40 _ _ rfl ?_; go_simp; go_wp2_with (go_at_call 40; refine (number_any _ _ (hsx _ _ (by decide))).mono ?_; rintro e w' ⟨rfl, rfl⟩)) | (refine step_append_run rfl (.tmp 12) (.tmp 20) 26 26 rfl hrun.out (by simp [Act.eval]) (by simp [Act.eval]) ?_))
      all_goals
        go_wp2_with fail
        go_roundw
        case rel => exact hfin.out
        case measure => exact hm2
end Go.Proofs.YtmhbaaemihljjaaDoor
