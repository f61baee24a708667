import Derived.Test.YtfmljlflnpmceaaGreatDoorFA3
import Derived.Deep.RegionLaw
import Derived.Deep.RegionHeld3
import Derived.Deep.Cut
import Derived.Deep.CutRange
import Derived.Test.YtfmljlflnpmceaaGreatDoorVf1
/- parse. -/
namespace Go.Proofs.YtfmljlflnpmceaaGreatDoor.Fm
open Go.RowKit
set_option linter.unusedVariables false
set_option linter.unusedSimpArgs false

/-- the table of kinds -/
def kflags (i : Nat) : Int := ([9, 45, 0, 0, 1, 12, 1, 0, 0, 4, 255] : List Int).getD i 0
def kfrom (i : Nat) : Int := ([1, 1, 1, 1, 0, 1, 0, 0, 0, 1, 0] : List Int).getD i 0
def kto (i : Nat) : Int := ([2147483647, 2147483647, 2147483647, 2147483647, 0, 2147483647, 0, 0, 2147483647, 2147483647, 2147483647] : List Int).getD i 0

/-- The package's table is laid. -/
def kindCells : Array Value := ((List.range 11).flatMap fun i => [.int .i64 (kflags i), .int .i64 (kfrom i), .int .i64 (kto i)]).toArray
def Kinds (w : World) : Prop := ∃ t, w.heap[1]? = some (.cells kindCells t (0, 0))
theorem Kinds.of_eq {w w' : World} (h : Kinds w) (e : w'.heap[1]? = w.heap[1]?) : Kinds w' := by
  obtain ⟨t, ht⟩ := h
  exact ⟨t, e.trans ht⟩

theorem Kinds.cell {w : World} (h : Kinds w) (i : Nat) (hi : i < 11) : w.cell? ⟨1, i * 3, none⟩ = some (.int .i64 (kflags i)) ∧ w.cell? ⟨1, i * 3 + 1, none⟩ = some (.int .i64 (kfrom i)) ∧ w.cell? ⟨1, i * 3 + 2, none⟩ = some (.int .i64 (kto i)) := by
  obtain ⟨t, h⟩ := h
  rw [cell_of_row _ _ _ _ _ _ h, cell_of_row _ _ _ _ _ _ h, cell_of_row _ _ _ _ _ _ h]
  obtain rfl | rfl | rfl | rfl | rfl | rfl | rfl | rfl | rfl | rfl | rfl : i = 0 ∨ i = 1 ∨ i = 2 ∨ i = 3 ∨ i = 4 ∨ i = 5 ∨ i = 6 ∨ i = 7 ∨ i = 8 ∨ i = 9 ∨ i = 10 := by omega
  all_goals exact ⟨rfl, rfl, rfl⟩

theorem heap_al (w : World) (o : Obj) (k : Nat) : (w.alloc o).heap[k]? = if k = w.heap.size then some o else w.heap[k]? := by
  show (w.heap.push o)[k]? = _
  rw [Array.getElem?_push]
theorem heap_dr (w : World) (k : Nat) : w.drew.heap[k]? = w.heap[k]? := rfl
theorem size_al (w : World) (o : Obj) : (w.alloc o).heap.size = w.heap.size + 1 := by simp
theorem size_dr (w : World) : w.drew.heap.size = w.heap.size := rfl

/-- two results in cells -/
theorem results_two {P : Program} {fn : Func} {p q : Tmp} {ty tz : TypeId} (h : fn.results = #[.cell p ty, .cell q tz]) (tmps : Array Value) (w : World) (g k : Nat) (t u : TypeId) (cs ds : Array Value) (fr fs : Nat × Nat) (d e : TypeDesc)
    (hp : tmps.getD p undef = .pointer (some ⟨g, 0, none⟩)) (hg : w.heap[g]? = some (.cells cs t fr)) (hu : P.underlying ty = some d) (hd : (match d with | .struct _ | .array _ _ => true | _ => false) = true) (hi : (P.info? ty).map (·.size) = some cs.size)
    (hq : tmps.getD q undef = .pointer (some ⟨k, 0, none⟩)) (hk : w.heap[k]? = some (.cells ds u fs)) (hv : P.underlying tz = some e) (he : (match e with | .struct _ | .array _ _ => true | _ => false) = true) (hj : (P.info? tz).map (·.size) = some ds.size) :
    (results fn tmps).run P w = .ok (.tuple #[.agg cs, .agg ds]) w := by
  have hp' : tmps[p]?.getD undef = .pointer (some ⟨g, 0, none⟩) := by simpa using hp
  have hq' : tmps[q]?.getD undef = .pointer (some ⟨k, 0, none⟩) := by simpa using hq
  simp [results, h, hp', hq', asAddr, run_loadVar_row w g t ty cs fr d hg hu hd hi, run_loadVar_row w k u tz ds fs e hk hv he hj]

end Go.Proofs.YtfmljlflnpmceaaGreatDoor.Fm
/- Params: rows of them; takeParams. -/
namespace Go.Proofs.YtfmljlflnpmceaaGreatDoor.Fm
open Go.RowKit
set_option linter.unusedVariables false
set_option linter.unusedSimpArgs false

theorem info37 : (Tryz.prog.info? 42).map (fun i => (i.zero, i.size, i.bytes)) = some (some (.agg #[.int .i64 0, .int .i64 0]), 2, 16) := by kernel_rfl

/-- params, as the cells of a row -/
def pcells (l : List (Int × Int)) : List Value := l.flatMap fun p => [.int .i64 p.1, .int .i64 p.2]
theorem pcells_append (a b : List (Int × Int)) : pcells (a ++ b) = pcells a ++ pcells b := by simp [pcells]
theorem pcells_length (a : List (Int × Int)) : (pcells a).length = a.length * 2 := by
  induction a with
  | nil => rfl
  | cons x r ih => simp [pcells] at ih ⊢; omega
def PRow (w : World) (o : Value) (l : List (Int × Int)) : Prop := w.ownsRow 0 42 2 o l.length (pcells l)

theorem PRow.nil (w : World) : PRow w (.slice none 0 0) [] := World.ownsRow_nil w 0 42 2
theorem PRow.below {w w' : World} {o : Value} {l : List (Int × Int)} (h : PRow w o l) (hb : ∀ k, o.ownBlock = some k → k < w.heap.size → w'.heap[k]? = w.heap[k]?) : PRow w' o l := by
  refine ⟨h.1, ?_⟩
  rcases h.2 with hn | ⟨g, cap, cur, rfl, hbs, hgg, rest⟩
  · exact .inl hn
  · refine .inr ⟨g, cap, cur, rfl, hbs, ?_, rest⟩
    rw [hb g rfl (Array.getElem?_eq_some_iff.1 hgg).1]
    exact hgg
theorem PRow.lt {w : World} {o : Value} {l : List (Int × Int)} (h : PRow w o l) : ∀ k, o.ownBlock = some k → k < w.heap.size := fun k hk => (World.ownsRow.lt h k hk).2
theorem PRow.slice {w : World} {o : Value} {l : List (Int × Int)} (h : PRow w o l) : ∃ base cap, o = .slice base l.length cap := by
  rcases h.2 with ⟨rfl, hn⟩ | ⟨g, cap, cur, rfl, _⟩
  · exact ⟨none, 0, by rw [hn]⟩
  · exact ⟨_, cap, rfl⟩

/-- append of one param, which lies by itself in block B -/
theorem prow_append (w : World) (o : Value) (l : List (Int × Int)) (hR : PRow w o l) (B : Nat) (x y : Int) (hc : w.heap[B]? = some (.cells #[.int .i64 x, .int .i64 y] 42 (0, 0)))
    (hlen : (l.length + 1) * 16 ≤ 140737488355328) :
    ∃ base cap w', (Builtin.append_ #[29, 29] 29 #[o, .slice (some ⟨B, 0, none⟩) 1 1]).run Tryz.prog w = .ok (.slice base (l.length + 1) cap) w' ∧ PRow w' (.slice base (l.length + 1) cap) (l ++ [(x, y)]) ∧ Gr w w' o (.slice base (l.length + 1) cap) := by
  obtain ⟨i0, hi0, hz0, hz1, hz2⟩ := info_parts info37
  have hcell : ∀ j u, ([.int .i64 x, .int .i64 y] : List Value)[j]? = some u → w.cell? ((⟨B, 0, none⟩ : Addr).add j) = some u := by
    intro j u hj
    rw [Addr.add_lit, cell_of_row _ _ _ _ _ _ hc, Nat.zero_add]
    simpa using hj
  have hone : ∀ u ∈ ([.int .i64 x, .int .i64 y] : List Value), u.oneCell' = true := by simp [Value.oneCell']
  obtain ⟨v', w', hrun, ho, hg, hnil⟩ := run_append_own (P := Tryz.prog) w 0 29 29 42 i0 _ 2 16 Tryz.underlying29 hi0 hz0 hz1 hz2 rfl (by omega) o l.length (pcells l) hR ⟨B, 0, none⟩ 1 1 [.int .i64 x, .int .i64 y] rfl hcell hone (by unfold maxLen; omega) (by omega) (Nat.zero_le _)
  have hown : ∀ k, v'.ownBlock = some k → o.ownBlock = some k ∨ w.heap.size ≤ k := by
    intro k hk
    rcases hR.2 with ⟨rfl, h0⟩ | ⟨g, cap, cur, rfl, _, hgg, hnc, _, hcs, _⟩
    · have hr := run_append_nil (P := Tryz.prog) w 29 29 42 i0 _ Tryz.underlying29 hi0 hz0 ⟨B, 0, none⟩ 1 1 [.int .i64 x, .int .i64 y] (by rw [hz1]; rfl) hcell (by omega) (by omega) (by rw [hz2]; omega)
      rw [hrun] at hr
      injection hr with hr _
      subst hr
      simp [Value.ownBlock] at hk
      exact .inr (by omega)
    · by_cases hroom : l.length + 1 ≤ cap
      · have hr := run_append_room (P := Tryz.prog) w 29 29 42 i0 Tryz.underlying29 hi0 g l.length cap cur hgg ⟨B, 0, none⟩ 1 1 [.int .i64 x, .int .i64 y] (by rw [hz1]; rfl) hcell hone hroom (by rw [hcs, hz1]; simp; omega)
        rw [hrun] at hr
        injection hr with hr _
        subst hr
        exact .inl hk
      · have hr := run_append_grow (P := Tryz.prog) w 29 29 42 i0 _ Tryz.underlying29 hi0 hz0 ⟨g, 0, none⟩ l.length cap (pcells l) (by rw [pcells_length, hz1]) (World.ownsRow.cells hR (g := g) rfl) ⟨B, 0, none⟩ 1 1 [.int .i64 x, .int .i64 y] (by rw [hz1]; rfl) hcell (by omega) (by omega) (growslice_fits (by omega) (by rw [hz2]; omega))
        rw [hrun] at hr
        injection hr with hr _
        subst hr
        simp [Value.ownBlock] at hk
        exact .inr (by omega)
  have hP : PRow w' v' (l ++ [(x, y)]) := by
    unfold PRow
    rw [pcells_append, List.length_append]
    exact ho
  obtain ⟨base, cap, rfl⟩ := hP.slice
  rw [List.length_append] at hrun hP hown
  exact ⟨base, cap, w', hrun, hP, hg.os, hg.tape, hg.output, hg.size, fun k hk hne => hg.block k hk (fun e => hne e.symm), hown⟩

/-- a call of a Go function, as one step of a region: for a guard -/
theorem step_value {P : Program} {ops : Array Oper} {o : Oper} {a : Act} {w : World} {K : Act → World → Prop} {Q : Exit → Act → World → Prop} {R : Prop}
    (f : FuncId) (xs : Array Operand) (ats : Array TypeId) (_ho : o.op = .call { callee := .value (.func f), args := xs, argTypes := ats })
    (h : if Region.wanted o (yielded ops a.tmps) = true then Oper.wp P o a w K Q else R) : if Region.wanted o (yielded ops a.tmps) = true then Oper.wp P o a w K Q else R := h

/-- the params that bytes are -/
def prmS (b : ByteArray) (k : Nat) : List (Int × Int) := (List.range k).map fun i => ((numS (b.extract (6 * i) (6 * i + 2)) : Int), (numS (b.extract (6 * i + 2) (6 * i + 6)) : Int))
theorem prmS_length (b : ByteArray) (k : Nat) : (prmS b k).length = k := by simp [prmS]
theorem prmS_succ (b : ByteArray) (k : Nat) : prmS b (k + 1) = prmS b k ++ [((numS (b.extract (6 * k) (6 * k + 2)) : Int), (numS (b.extract (6 * k + 2) (6 * k + 6)) : Int))] := by
  simp [prmS, List.range_succ]

set_option maxRecDepth 100000 in
set_option maxHeartbeats 2000000 in
theorem takeParams_any (w : World) (g : Nat) (f : Fr) (b : ByteArray) (h : FB w g f (.slice none 0 0)) (hs : b.size % 6 = 0) (hlim : b.size / 6 * 16 ≤ 140737488355328) :
    Calls Tryz.prog 99 #[.pointer (some ⟨g, 0, none⟩), .string b] w fun e w' => e = .returned (.tuple #[]) ∧ ∃ p, FB w' g f p ∧ PRow w' p (prmS b (b.size / 6)) ∧ (∀ k, p.ownBlock = some k → w.heap.size ≤ k) ∧ Kp g w w' := by
  go_enter Tryz.func99, Tryz.ntmps99
  go_wp2
  go_loopw [1] (fun x wr => ∃ (k m : Nat) (s : ByteArray), 6 * k + 6 * m = b.size ∧ x = .string s ∧ s.size = 6 * m ∧ Hid (s = b.extract (6 * k) b.size) ∧ Hid (∃ p, FB wr g f p ∧ PRow wr p (prmS b k) ∧ (∀ k, p.ownBlock = some k → w.heap.size ≤ k) ∧ Kp g w wr)) (fun x _ => (match x with | .string s => s.size | _ => 0))
  case atStart => exact ⟨0, b.size / 6, b, by omega, rfl, by omega, by simp [Hid], _, h, PRow.nil _, fun k hk => by simp [Value.ownBlock] at hk, Kp.refl _ _⟩
  case round =>
    obtain ⟨k, m, s, hkm, rfl, hsz, HS, HP⟩ := hrel
    clear h
    by_cases hm : m = 0
    · subst hm
      have hse : s = ⟨#[]⟩ := by
        apply ByteArray.ext
        exact Array.eq_empty_of_size_eq_zero hsz
      subst hse
      have hk : k = b.size / 6 := by omega
      subst hk
      go_wp2
      go_end0
      exact ⟨rfl, HP.out⟩
    · obtain ⟨p, hF, hP, hfr, hK⟩ := HP.out
      have hne : s.toList.isEmpty = false := by
        have h1 : s.toList = s.data.toList := by simp [ByteArray.toList_eq]
        have h2 : s.data.toList.length = s.size := by simp
        rw [h1]
        cases hd : s.data.toList with
        | nil => rw [hd] at h2; simp at h2; omega
        | cons x r => rfl
      have hk1 : k + 1 ≤ b.size / 6 := by omega
      have hlen : ((prmS b k).length + 1) * 16 ≤ 140737488355328 := by rw [prmS_length]; omega
      have hsx : ∀ i j : Nat, j ≤ i + 4 → (s.extract i j).size ≤ 4 := fun i j h => by rw [ByteArray.size_extract]; omega
      have hx : s.extract 0 2 = b.extract (6 * k) (6 * k + 2) := by
        rw [HS.out, ByteArray.extract_extract]
        congr 1
        omega
      have hy : s.extract 2 6 = b.extract (6 * k + 2) (6 * k + 6) := by
        rw [HS.out, ByteArray.extract_extract]
        congr 1
        omega
      have hnext : s.extract 6 s.size = b.extract (6 * (k + 1)) b.size := by
        rw [HS.out, ByteArray.extract_extract]
        congr 1
        rw [← HS.out]; omega
      have hB : (wr.alloc (.cells #[.int .i64 (numS (s.extract 0 2) : Int), .int .i64 (numS (s.extract 2 6) : Int)] 42)).drew.heap[wr.heap.size]? = some (.cells #[.int .i64 (numS (s.extract 0 2) : Int), .int .i64 (numS (s.extract 2 6) : Int)] 42 (0, 0)) := heap_alloc_new wr _
      have hb1 : Below wr.heap.size wr (wr.alloc (.cells #[.int .i64 (numS (s.extract 0 2) : Int), .int .i64 (numS (s.extract 2 6) : Int)] 42)).drew := ((Below.refl _ wr).alloc (Nat.le_refl _) _).drew
      obtain ⟨base, cap, w2, hrun, hP2, hG2⟩ := prow_append _ p (prmS b k) (hP.below (w' := (wr.alloc (.cells #[.int .i64 (numS (s.extract 0 2) : Int), .int .i64 (numS (s.extract 2 6) : Int)] 42)).drew) fun k _ hk => hb1.block k hk) wr.heap.size _ _ hB hlen
      have hpg : p.ownBlock ≠ some g := by
        intro e
        rcases hP.2 with ⟨rfl, _⟩ | ⟨g', cap', cur, rfl, _, hgg, _⟩
        · simp [Value.ownBlock] at e
        · simp [Value.ownBlock] at e
          subst e
          rw [hF] at hgg
          simp at hgg
      have hF2 : FB w2 g f p := (hG2.block g (Nat.lt_of_lt_of_le hF.lt hb1.size) hpg).trans (hF.below hb1)
      have hc1 := hF.cell 10
      simp only [fv, List.getElem?_toArray, List.getElem?_cons_succ, List.getElem?_cons_zero] at hc1
      have hcA : ∀ o : Obj, (wr.alloc o).cell? ⟨g, 10, none⟩ = some p := fun o => ((hF.below ((Below.refl _ wr).alloc (Nat.le_refl _) o)).cell 10)
      have hc2 := hF2.cell 10
      simp only [fv, List.getElem?_toArray, List.getElem?_cons_succ, List.getElem?_cons_zero] at hc2
      have hf2 := hF2.frozen 10
      have hfin : Hid (∃ (k' m' : Nat) (s' : ByteArray), 6 * k' + 6 * m' = b.size ∧ Value.string (s.extract 6 s.size) = .string s' ∧ s'.size = 6 * m' ∧ Hid (s' = b.extract (6 * k') b.size) ∧ Hid (∃ p, FB (w2.setCell ⟨g, 10, none⟩ (.slice base ((prmS b k).length + 1) cap)) g f p ∧ PRow (w2.setCell ⟨g, 10, none⟩ (.slice base ((prmS b k).length + 1) cap)) p (prmS b k') ∧ (∀ k, p.ownBlock = some k → w.heap.size ≤ k) ∧ Kp g w (w2.setCell ⟨g, 10, none⟩ (.slice base ((prmS b k).length + 1) cap)))) := by
        have hfr2 : ∀ j, (Value.slice base ((prmS b k).length + 1) cap).ownBlock = some j → w.heap.size ≤ j := fun j hj => (hG2.own j hj).elim (hfr j) fun hh => by have := hK.size; have := hb1.size; omega
        have hgw : g < w.heap.size ∨ w.heap.size ≤ g := by omega
        refine ⟨k + 1, m - 1, _, by omega, rfl, by rw [ByteArray.size_extract]; omega, hnext, .slice base ((prmS b k).length + 1) cap, ?_, ?_, hfr2, ?_⟩
        · unfold FB
          rw [setCell_block _ _ _ _ _ _ _ hF2]
          rfl
        · rw [prmS_succ, ← hx, ← hy]
          refine hP2.below fun j hj hlt => setCell_other _ _ _ _ _ fun e => ?_
          subst e
          rcases hP2.2 with ⟨h0, _⟩ | ⟨g', cap', cur, h0, _, hgg, _⟩
          · rw [h0] at hj; simp [Value.ownBlock] at hj
          · rw [h0] at hj
            simp [Value.ownBlock] at hj
            subst hj
            rw [hF2] at hgg
            simp at hgg
        · refine Kp.trans (b := w2) ⟨hG2.os.trans (hb1.os.trans hK.os), hG2.tape.trans (hb1.tape.trans hK.tape), hG2.output.trans (hb1.output.trans hK.output), Nat.le_trans hK.size (Nat.le_trans hb1.size hG2.size), fun j hj hjg => ?_⟩ (Kp.setCell _ _ _ _)
          have hjw : j < wr.heap.size := Nat.lt_of_lt_of_le hj hK.size
          exact (hG2.block j (Nat.lt_of_lt_of_le hjw hb1.size) (fun e => by have := hfr j e; omega)).trans ((hb1.block j hjw).trans (hK.block j hj hjg))
      have hm2 : (s.extract 6 s.size).size < s.size := by rw [ByteArray.size_extract]; omega
      obtain ⟨L, hL⟩ : ∃ L, L = (prmS b k).length + 1 := ⟨_, rfl⟩
      rw [← hL] at hrun hfin
      replace hrun : Hid _ := hrun
      have h2s : (2 : Int) ≤ (s.size : Int) := by omega
      have h6s : (6 : Int) ≤ (s.size : Int) := by omega
      clear hsz hkm hs hlim hk1
      clear hP2 hG2 hF2 hB hb1 hnext hx hy hF hP hK hfr HP HS hL hlen hpg
      go_wp2_with fail
      clear hm hne
      go_region_law (first | (refine step_value 69 _ _ rfl ?_; go_simp; go_wp2_with (go_at_call 69; refine (number_any _ _ (hsx _ _ (by decide))).mono ?_; rintro e w' ⟨rfl, rfl⟩)) | (refine step_append_run rfl (.tmp 12) (.tmp 20) 29 29 rfl hrun.out (by simp [Act.eval]) (by simp [Act.eval]) ?_))
      all_goals
        go_wp2_with fail
        go_roundw
        case rel => exact hfin.out
        case measure => exact hm2
end Go.Proofs.YtfmljlflnpmceaaGreatDoor.Fm
/- Which payload, which functions: what they ask and do. -/
namespace Go.Proofs.YtfmljlflnpmceaaGreatDoor.Fm
open Go.RowKit
set_option linter.unusedVariables false
set_option linter.unusedSimpArgs false

theorem FB.cells {w : World} {g : Nat} {f : Fr} {p : Value} (h : FB w g f p) : w.cell? ⟨g, 0, none⟩ = some (.int .i64 f.ty) ∧ w.cell? ⟨g, 1, none⟩ = some (.int .i64 f.fl) ∧ w.cell? ⟨g, 2, none⟩ = some (.int .i64 f.st) ∧ w.cell? ⟨g, 3, none⟩ = some (.string f.data) ∧ w.cell? ⟨g, 4, none⟩ = some (.int .i64 f.pad) ∧ w.cell? ⟨g, 5, none⟩ = some (.int .i64 f.dep) ∧ w.cell? ⟨g, 6, none⟩ = some (.bool f.excl) ∧ w.cell? ⟨g, 7, none⟩ = some (.int .i64 f.wt) ∧ w.cell? ⟨g, 8, none⟩ = some (.int .i64 f.code) ∧ w.cell? ⟨g, 9, none⟩ = some (.int .i64 f.last) ∧ w.cell? ⟨g, 10, none⟩ = some (p) :=
  ⟨h.cell 0, h.cell 1, h.cell 2, h.cell 3, h.cell 4, h.cell 5, h.cell 6, h.cell 7, h.cell 8, h.cell 9, h.cell 10⟩
theorem FB.frozens {w : World} {g : Nat} {f : Fr} {p : Value} (h : FB w g f p) : w.frozen? ⟨g, 0, none⟩ = false ∧ w.frozen? ⟨g, 1, none⟩ = false ∧ w.frozen? ⟨g, 2, none⟩ = false ∧ w.frozen? ⟨g, 3, none⟩ = false ∧ w.frozen? ⟨g, 4, none⟩ = false ∧ w.frozen? ⟨g, 5, none⟩ = false ∧ w.frozen? ⟨g, 6, none⟩ = false ∧ w.frozen? ⟨g, 7, none⟩ = false ∧ w.frozen? ⟨g, 8, none⟩ = false ∧ w.frozen? ⟨g, 9, none⟩ = false ∧ w.frozen? ⟨g, 10, none⟩ = false :=
  ⟨h.frozen 0, h.frozen 1, h.frozen 2, h.frozen 3, h.frozen 4, h.frozen 5, h.frozen 6, h.frozen 7, h.frozen 8, h.frozen 9, h.frozen 10⟩

/-- what a payload's bytes say -/
def takeS (k4 : Nat) (f : Fr) (b : ByteArray) : Fr × List (Int × Int) :=
  if k4 = 92 then (dataS (prioS f (b.extract 0 5)) (b.extract 5 b.size), [])
  else if k4 = 95 then (prioS f b, [])
  else if k4 = 97 then (codeS f b, [])
  else if k4 = 99 then (f, prmS b (b.size / 6))
  else if k4 = 102 then (dataS (lastS f (b.extract 0 4)) (b.extract 4 b.size), [])
  else if k4 = 106 then (dataS (codeS (lastS f (b.extract 0 4)) (b.extract 4 8)) (b.extract 8 b.size), [])
  else if k4 = 108 then (lastS f b, [])
  else (dataS f b, [])

theorem kd_cases (ty fl : Int) : kd ty fl = (116, 5, 91, 92) ∨ kd ty fl = (117, 5, 94, 95) ∨ kd ty fl = (117, 4, 96, 97) ∨ kd ty fl = (117, 0, 98, 99) ∨ kd ty fl = (118, 6, 98, 99) ∨ kd ty fl = (116, 4, 101, 102) ∨ kd ty fl = (117, 8, 103, 104) ∨ kd ty fl = (116, 8, 105, 106) ∨ kd ty fl = (117, 4, 107, 108) ∨ kd ty fl = (116, 0, 103, 104) := by
  unfold kd
  repeat' split
  all_goals simp

theorem kd_fits {ty fl : Int} {k1 : Nat} {k2 : Int} {k3 k4 : Nat} (h : kd ty fl = (k1, k2, k3, k4)) (n : Int) (g : Nat) (w : World) (hc : w.cell? ⟨g, 0, none⟩ = some (.int .i64 k2)) :
    Calls Tryz.prog k1 #[.int .i64 n, .pointer (some ⟨g, 0, none⟩)] w fun e w' => e = .returned (.bool (ftS k1 k2 n)) ∧ w' = w := by
  rcases kd_cases ty fl with hk | hk | hk | hk | hk | hk | hk | hk | hk | hk
  all_goals
    rw [hk] at h
    simp only [Prod.mk.injEq] at h
    obtain ⟨rfl, rfl, rfl, rfl⟩ := h
    first | exact fits68 n _ g w hc | exact fits69 n _ g w hc | exact fits70 n g w hc

theorem kd_calls {ty fl : Int} {k1 : Nat} {k2 : Int} {k3 k4 : Nat} (h : kd ty fl = (k1, k2, k3, k4)) : (∀ (args : Array Value) (w : World), (callFunc k1 args).run Tryz.prog w = .ok (.enter k1 args) w) ∧ (∀ (args : Array Value) (w : World), (callFunc k3 args).run Tryz.prog w = .ok (.enter k3 args) w) ∧ (∀ (args : Array Value) (w : World), (callFunc k4 args).run Tryz.prog w = .ok (.enter k4 args) w) := by
  rcases kd_cases ty fl with hk | hk | hk | hk | hk | hk | hk | hk | hk | hk
  all_goals
    rw [hk] at h
    simp only [Prod.mk.injEq] at h
    obtain ⟨rfl, rfl, rfl, rfl⟩ := h
  · exact ⟨Tryz.call116, Tryz.call91, Tryz.call92⟩
  · exact ⟨Tryz.call117, Tryz.call94, Tryz.call95⟩
  · exact ⟨Tryz.call117, Tryz.call96, Tryz.call97⟩
  · exact ⟨Tryz.call117, Tryz.call98, Tryz.call99⟩
  · exact ⟨Tryz.call118, Tryz.call98, Tryz.call99⟩
  · exact ⟨Tryz.call116, Tryz.call101, Tryz.call102⟩
  · exact ⟨Tryz.call117, Tryz.call103, Tryz.call104⟩
  · exact ⟨Tryz.call116, Tryz.call105, Tryz.call106⟩
  · exact ⟨Tryz.call117, Tryz.call107, Tryz.call108⟩
  · exact ⟨Tryz.call116, Tryz.call103, Tryz.call104⟩

/-- a length that fits is none below 0 -/
theorem ft_nonneg {ty fl : Int} {k1 : Nat} {k2 : Int} {k3 k4 : Nat} (h : kd ty fl = (k1, k2, k3, k4)) (n : Int) (hn : -1 ≤ n ∨ k1 = 116) (hf : ftS k1 k2 n = true) : 0 ≤ n := by
  rcases kd_cases ty fl with hk | hk | hk | hk | hk | hk | hk | hk | hk | hk
  all_goals
    rw [hk] at h
    simp only [Prod.mk.injEq] at h
    obtain ⟨rfl, rfl, rfl, rfl⟩ := h
    simp [ftS] at hf
    try omega
  rcases hn with hn | hn
  · by_cases h1 : n = -1
    · subst h1; simp at hf
    · omega
  · omega

theorem kd_nonneg {ty fl : Int} {k1 : Nat} {k2 : Int} {k3 k4 : Nat} (h : kd ty fl = (k1, k2, k3, k4)) : 0 ≤ k2 := by
  rcases kd_cases ty fl with hk | hk | hk | hk | hk | hk | hk | hk | hk | hk
  all_goals
    rw [hk] at h
    simp only [Prod.mk.injEq] at h
    omega

theorem ft68 {m n : Int} (h : ftS 116 m n = true) : m ≤ n := by simpa [ftS] using h
theorem ft69 {m n : Int} (h : ftS 117 m n = true) : n = m := by simpa [ftS] using h
theorem ft70 {n : Nat} (h : ftS 118 6 (n : Int) = true) : n % 6 = 0 := by
  have h1 : (n : Int).tmod 6 = 0 := by simpa [ftS] using h
  rw [Int.tmod_eq_emod_of_nonneg (by omega)] at h1
  omega

theorem take_any {ty fl : Int} {k1 : Nat} {k2 : Int} {k3 k4 : Nat} (h : kd ty fl = (k1, k2, k3, k4)) (w : World) (g : Nat) (f : Fr) (b : ByteArray) (hF : FB w g f (.slice none 0 0)) (hf : ftS k1 k2 (b.size : Int) = true) (hlim : b.size ≤ 140737488355328) (hlim2 : k4 = 99 → b.size / 6 * 16 ≤ 140737488355328) :
    Calls Tryz.prog k4 #[.pointer (some ⟨g, 0, none⟩), .string b] w fun e w' => e = .returned (.tuple #[]) ∧ ∃ p, FB w' g (takeS k4 f b).1 p ∧ PRow w' p (takeS k4 f b).2 ∧ (∀ k, p.ownBlock = some k → w.heap.size ≤ k) ∧ Kp g w w' := by
  have hnil : ∀ k, (Value.slice none 0 0).ownBlock = some k → w.heap.size ≤ k := fun k hk => by simp [Value.ownBlock] at hk
  rcases kd_cases ty fl with hk | hk | hk | hk | hk | hk | hk | hk | hk | hk
  all_goals
    rw [hk] at h
    simp only [Prod.mk.injEq] at h
    obtain ⟨rfl, rfl, rfl, rfl⟩ := h
    first | replace hf := ft70 hf | replace hf := ft68 hf | replace hf := ft69 hf
  · refine (takeHeaders_any w g f _ b hF (by omega) (by omega)).mono ?_
    rintro e w' ⟨rfl, h1, h2⟩
    exact ⟨rfl, _, h1, PRow.nil _, hnil, h2⟩
  · refine (takePriority_any w g f _ b hF (by omega)).mono ?_
    rintro e w' ⟨rfl, h1, h2⟩
    exact ⟨rfl, _, h1, PRow.nil _, hnil, h2⟩
  · refine (takeCode_any w g f _ b hF (by omega)).mono ?_
    rintro e w' ⟨rfl, h1, h2⟩
    exact ⟨rfl, _, h1, PRow.nil _, hnil, h2⟩
  · exact takeParams_any w g f b hF (by omega) (hlim2 rfl)
  · exact takeParams_any w g f b hF (by omega) (hlim2 rfl)
  · refine (takePromise_any w g f _ b hF (by omega) (by omega)).mono ?_
    rintro e w' ⟨rfl, h1, h2⟩
    exact ⟨rfl, _, h1, PRow.nil _, hnil, h2⟩
  · refine (takeData_any w g f _ b hF (by omega)).mono ?_
    rintro e w' ⟨rfl, h1, h2⟩
    exact ⟨rfl, _, h1, PRow.nil _, hnil, h2⟩
  · refine (takeGoAway_any w g f _ b hF (by omega) (by omega)).mono ?_
    rintro e w' ⟨rfl, h1, h2⟩
    exact ⟨rfl, _, h1, PRow.nil _, hnil, h2⟩
  · refine (takeLast_any w g f _ b hF (by omega)).mono ?_
    rintro e w' ⟨rfl, h1, h2⟩
    exact ⟨rfl, _, h1, PRow.nil _, hnil, h2⟩
  · refine (takeData_any w g f _ b hF (by omega)).mono ?_
    rintro e w' ⟨rfl, h1, h2⟩
    exact ⟨rfl, _, h1, PRow.nil _, hnil, h2⟩

end Go.Proofs.YtfmljlflnpmceaaGreatDoor.Fm
/- parse. -/
namespace Go.Proofs.YtfmljlflnpmceaaGreatDoor.Fm
open Go.RowKit
set_option linter.unusedVariables false
set_option linter.unusedSimpArgs false

/-- what parse tells, out of the frame's parts -/
def parseB (T S L : Int) (ki : Nat) (pd : Bool) (R : ByteArray) (k : Nat × Int × Nat × Nat) : (Fr × List (Int × Int)) × Int × Int :=
  if S < kfrom ki ∨ kto ki < S then ((Fr.zero, []), 1, 0)
  else if ftS k.1 k.2.1 ((R.size : Int) - (if pd then 1 else 0 : Nat)) = false then ((Fr.zero, []), 6, if T = 2 then S else 0)
  else if ftS k.1 k.2.1 ((R.size : Int) - (if pd then byteAt R 0 else 0 : Nat) - (if pd then 1 else 0 : Nat)) = false then ((Fr.zero, []), 1, 0)
  else (takeS k.2.2.2 ⟨T, L, S, ⟨#[]⟩, ((if pd then byteAt R 0 else 0 : Nat) : Int), 0, false, 0, 0, 0⟩ (R.extract (if pd then 1 else 0) (R.size - (if pd then byteAt R 0 else 0))), 0, 0)

/-- parse's answer -/
def PPost (w : World) (res : (Fr × List (Int × Int)) × Int × Int) (e : Ending) (w' : World) : Prop :=
  ∃ p, e = .returned (.tuple #[.agg (fv res.1.1 p), .agg #[.int .i64 res.2.1, .int .i64 res.2.2]]) ∧ PRow w' p res.1.2 ∧ (∀ k, p.ownBlock = some k → w.heap.size ≤ k) ∧ Below w.heap.size w w'

theorem ppost_bad {w : World} {res : (Fr × List (Int × Int)) × Int × Int} {c s : Int} (h : res = ((Fr.zero, []), c, s)) (w' : World) (hb : Below w.heap.size w w') :
    PPost w res (.returned (.tuple #[.agg #[.int .i64 0, .int .i64 0, .int .i64 0, .string ⟨#[]⟩, .int .i64 0, .int .i64 0, .bool false, .int .i64 0, .int .i64 0, .int .i64 0, .slice none 0 0], .agg #[.int .i64 c, .int .i64 s]])) w' := by
  subst h
  exact ⟨.slice none 0 0, rfl, PRow.nil _, fun k hk => by simp [Value.ownBlock] at hk, hb⟩

/-- stores into one block, one behind the other -/
def sets (w : World) (g : Nat) (l : List (Nat × Value)) : World := l.foldl (fun w x => w.setCell ⟨g, x.1, none⟩ x.2) w
theorem sets_other (g k : Nat) (h : k ≠ g) : ∀ (l : List (Nat × Value)) (w : World), (sets w g l).heap[k]? = w.heap[k]?
  | [], _ => rfl
  | x :: r, w => (sets_other g k h r _).trans (setCell_other _ _ _ _ _ h)
theorem sets_block (g : Nat) (t : TypeId) (fz : Nat × Nat) : ∀ (l : List (Nat × Value)) (w : World) (c : Array Value), w.heap[g]? = some (.cells c t fz) → (sets w g l).heap[g]? = some (.cells (l.foldl (fun c x => c.setIfInBounds x.1 x.2) c) t fz)
  | [], _, _, h => h
  | x :: r, w, c, h => sets_block g t fz r _ _ (setCell_block _ _ _ _ _ _ _ h)
theorem sets_below (g B : Nat) (h : B ≤ g) : ∀ (l : List (Nat × Value)) (w : World), Below B w (sets w g l)
  | [], w => Below.refl _ _
  | x :: r, w => ((Below.refl _ w).setCell (p := ⟨g, x.1, none⟩) h x.2).trans (sets_below g B h r _)
def fsets (f : Fr) (p : Value) : List (Nat × Value) := [(0, .int .i64 f.ty), (1, .int .i64 f.fl), (2, .int .i64 f.st), (3, .string f.data), (4, .int .i64 f.pad), (5, .int .i64 f.dep), (6, .bool f.excl), (7, .int .i64 f.wt), (8, .int .i64 f.code), (9, .int .i64 f.last), (10, p)]
theorem fin13 (w wc : World) (f : Fr) (p : Value) (ps : List (Int × Int)) (h2 : wc.heap[w.heap.size]? = some (.cells #[.int .i64 0, .int .i64 0, .int .i64 0, .string ⟨#[]⟩, .int .i64 0, .int .i64 0, .bool false, .int .i64 0, .int .i64 0, .int .i64 0, .slice none 0 0] 31 (0, 0))) (h3 : wc.heap[w.heap.size + 1]? = some (.cells #[.int .i64 0, .int .i64 0] 106 (0, 0)))
    (hP : PRow wc p ps) (hfr : ∀ k, p.ownBlock = some k → w.heap.size + 1 + 1 < k) (hbel : Below w.heap.size w wc) :
    (sets (sets wc w.heap.size (fsets f p)) (w.heap.size + 1) [(0, .int .i64 0), (1, .int .i64 0)]).heap[w.heap.size]? = some (.cells (fv f p) 31 (0, 0)) ∧
    (sets (sets wc w.heap.size (fsets f p)) (w.heap.size + 1) [(0, .int .i64 0), (1, .int .i64 0)]).heap[w.heap.size + 1]? = some (.cells #[.int .i64 0, .int .i64 0] 106 (0, 0)) ∧
    PRow (sets (sets wc w.heap.size (fsets f p)) (w.heap.size + 1) [(0, .int .i64 0), (1, .int .i64 0)]) p ps ∧
    Below w.heap.size w (sets (sets wc w.heap.size (fsets f p)) (w.heap.size + 1) [(0, .int .i64 0), (1, .int .i64 0)]) := by
  refine ⟨?_, ?_, hP.below fun k hk _ => ?_, (hbel.trans (sets_below _ _ (Nat.le_refl _) _ _)).trans (sets_below _ _ (by omega) _ _)⟩
  · rw [sets_other _ _ (by omega), sets_block _ _ _ _ _ _ h2]
    simp only [fsets, fv, List.foldl_cons, List.foldl_nil, List.setIfInBounds_toArray, List.set_cons_zero, List.set_cons_succ]
  · rw [sets_block _ _ _ _ _ _ ((sets_other _ _ (by omega) _ _).trans h3)]
    simp only [List.foldl_cons, List.foldl_nil, List.setIfInBounds_toArray, List.set_cons_zero, List.set_cons_succ]
  · have := hfr k hk
    rw [sets_other _ _ (by omega), sets_other _ _ (by omega)]

end Go.Proofs.YtfmljlflnpmceaaGreatDoor.Fm
