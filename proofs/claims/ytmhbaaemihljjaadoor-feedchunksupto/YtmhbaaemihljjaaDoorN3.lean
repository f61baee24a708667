/- drained. -/
import Derived.Test.YtmhbaaemihljjaaDoorN2
namespace Go.Proofs.YtmhbaaemihljjaaDoor
open Go.RowKit
set_option linter.unusedVariables false
set_option linter.unusedSimpArgs false

theorem dn_cases (m : Int) (S : St) (h : Ok m S) :
    (∃ fp ok c x S', nextS S = ⟨fp, ok, c, x, S'⟩ ∧ ((ok = true) ∨ (ok = false ∧ c ≠ 0 ∧ x ≠ 0)) ∧ Ok m S' ∧ S'.wait.length + 9 ≤ S.wait.length ∧ dn S = ((fp, c, x) :: (dn S').1, (dn S').2)) ∨
    (∃ c S', nextS S = ⟨(Fr.zero, []), false, c, 0, S'⟩ ∧ Ok m S' ∧ dn S = ([], (c, 0), S')) := by
  rcases h with ⟨a, W, rfl⟩ | ⟨c, hc, rfl⟩
  · rcases nx_step a W m with ⟨fp, ok, c, x, W', hn, hl, hX⟩ | ⟨a1, W1, hl, h0, hX⟩ | ⟨c, hc, hX⟩
    · have h0 := hX []
      rw [List.append_nil, List.append_nil] at h0
      refine .inl ⟨fp, ok, c, x, _, h0, ?_, .inl ⟨_, _, rfl⟩, hl, dn_step_told a W W' m fp ok c x hn hl h0⟩
      cases ok with
      | true => exact .inl rfl
      | false => exact .inr ⟨rfl, fun e => hn ⟨rfl, .inl e⟩, fun e => hn ⟨rfl, .inr e⟩⟩
    · exact .inr ⟨0, _, h0, .inl ⟨_, _, rfl⟩, dn_none 0 _ h0⟩
    · have h0 := hX []
      rw [List.append_nil] at h0
      exact .inr ⟨c, _, h0, .inr ⟨c, hc, rfl⟩, dn_none c _ h0⟩
  · exact .inr ⟨c, _, nextS_dead c hc, .inr ⟨c, hc, rfl⟩, dn_none c _ (nextS_dead c hc)⟩

theorem All.gr {w W W' : World} {fs : List Fed} {v v' : Value} (h : All w W fs) (hg : Gr W W' v v') (ht : ∀ k, v.ownBlock = some k → ∃ cur, W.heap[k]? = some (.cells cur 71 (0, 0))) (hw : ∀ k, v.ownBlock = some k → w.heap.size ≤ k) : All w W' fs ∧ Ku v.ownBlock W W' := by
  refine ⟨⟨h.kin, h.pos, ?_, fun s hs => ?_, h.new, h.apart⟩, fun k cs t hk _ _ hne => (hg.block k (Array.getElem?_eq_some_iff.1 hk).1 hne).trans hk⟩
  · exact h.bel.trans ⟨hg.os, hg.tape, hg.output, hg.size, fun k hk => hg.block k (Nat.lt_of_lt_of_le hk h.bel.size) (fun e => by have := hw k e; omega)⟩
  · have hF := h.fd s hs
    refine hF.same (hg.block _ hF.lt (fun e => ?_)) (fun k hk => hg.block k (hF.row.lt k hk) (fun e => ?_))
    · obtain ⟨cur, hc⟩ := ht _ e
      rw [hF.blk] at hc
      simp at hc
    · obtain ⟨cur, hc⟩ := ht _ e
      obtain ⟨cur', hc'⟩ := hF.rowType k hk
      rw [hc'] at hc
      simp at hc

def waitLen (W : World) (g : Nat) : Nat := match W.cell? ⟨g, 1, none⟩ with | some (.slice _ n _) => n | _ => 0
theorem Fd.waitLen {W : World} {g : Nat} {v : Value} {S : St} (h : Fd W g v S) : waitLen W g = S.wait.length := by
  obtain ⟨b, c, rfl⟩ := h.row.slice
  unfold YtmhbaaemihljjaaDoor.waitLen
  rw [h.cells.2.1]

/-- a slot and a cell -/
theorem results_tc {P : Program} {fn : Func} {r q : Tmp} {tz : TypeId} (h : fn.results = #[.tmp r, .cell q tz]) (tmps : Array Value) (w : World) (k : Nat) (u : TypeId) (ds : Array Value) (fs : Nat × Nat) (e : TypeDesc)
    (hq : tmps.getD q undef = .pointer (some ⟨k, 0, none⟩)) (hk : w.heap[k]? = some (.cells ds u fs)) (hv : P.underlying tz = some e) (he : (match e with | .struct _ | .array _ _ => true | _ => false) = true) (hj : (P.info? tz).map (·.size) = some ds.size) :
    (results fn tmps).run P w = .ok (.tuple #[tmps.getD r undef, .agg ds]) w := by
  have hq' : tmps[q]?.getD undef = .pointer (some ⟨k, 0, none⟩) := by simpa using hq
  simp [results, h, hq', asAddr, run_loadVar_row w k u tz ds fs e hk hv he hj]

theorem set_get (fs : List Fed) (i : Nat) (a b : Fed) (h : fs[i]? = some a) : (fs.set i b)[i]? = some b := by
  have := (List.getElem?_eq_some_iff.1 h).1
  simp [this]

/-- how it stands ahead of a question -/
structure Dr (w W : World) (fs : List Fed) (i g : Nat) (S : St) (m : Int) (v : Value) (ts : List Tl) (S1 : St) (dne : List Tl) (vv1 : Value) (lb : Option Addr) (lc : Nat) (W1 : World) : Prop where
  ok : Ok m S1
  few : dne.length + S1.wait.length ≤ S.wait.length
  dn : dn S = (dne ++ (dn S1).1, (dn S1).2)
  all : All w W1 (fs.set i (g, vv1, S1))
  row : TRow W1 (.slice lb (ts.length + dne.length) lc) (ts ++ dne)
  ku : Ku v.ownBlock W W1
  own : ∀ k, (Value.slice lb (ts.length + dne.length) lc).ownBlock = some k → v.ownBlock = some k ∨ W.heap.size ≤ k
  size : W.heap.size < W1.heap.size
  box : W1.heap[W.heap.size]? = some (.cells #[.int .i64 0, .int .i64 0] 30 (0, 0))

def DPost (w W : World) (fs : List Fed) (i g : Nat) (S : St) (v : Value) (ts : List Tl) (e : Ending) (W' : World) : Prop :=
  ∃ lb lc vv', e = .returned (.tuple #[.slice lb (ts.length + (dn S).1.length) lc, .agg #[.int .i64 (dn S).2.1.1, .int .i64 (dn S).2.1.2]]) ∧ All w W' (fs.set i (g, vv', (dn S).2.2)) ∧ TRow W' (.slice lb (ts.length + (dn S).1.length) lc) (ts ++ (dn S).1) ∧ Ku v.ownBlock W W' ∧ (∀ k, (Value.slice lb (ts.length + (dn S).1.length) lc).ownBlock = some k → v.ownBlock = some k ∨ W.heap.size ≤ k) ∧ W.heap.size ≤ W'.heap.size

set_option maxRecDepth 100000 in
set_option maxHeartbeats 8000000 in
theorem drained_any {w W : World} {fs : List Fed} (h : All w W fs) (i : Nat) {g : Nat} {vv : Value} {S : St} (hi : fs[i]? = some (g, vv, S)) (m : Int) (hok : Ok m S) (vb : Option Addr) (vc : Nat) (ts : List Tl) (hT : TRow W (.slice vb ts.length vc) ts) (hv : ∀ k, (Value.slice vb ts.length vc).ownBlock = some k → w.heap.size ≤ k) (hlen : ts.length + S.wait.length ≤ 549755813888) :
    Calls Tryd.prog 16 #[.pointer (some ⟨g, 0, none⟩), .slice vb ts.length vc] W fun e W' => DPost w W fs i g S (.slice vb ts.length vc) ts e W' := by
  have hset : fs.set i (g, vv, S) = fs := by
    obtain ⟨hl, he⟩ := List.getElem?_eq_some_iff.1 hi
    rw [← he]
    exact List.set_getElem_self hl
  have hst : Hid (Dr w W fs i g S m (.slice vb ts.length vc) ts S [] vv vb vc (W.alloc (.cells #[.int .i64 0, .int .i64 0] 30))) :=
    ⟨hok, by simp, by simp, by rw [hset]; exact h.alloc _, by rw [List.append_nil]; exact hT.kt (Kt.alloc _ _), Ku.of_kt (Kt.alloc _ _), fun k hk => .inl hk, by simp, heap_alloc_new _ _⟩
  have HI : Hid _ := hi
  have HB : Hid (w.heap.size ≤ W.heap.size) := h.bel.size
  have HV : Hid _ := hv
  have HT : Hid (∀ k, (Value.slice vb ts.length vc).ownBlock = some k → ∃ cur, W.heap[k]? = some (.cells cur 71 (0, 0))) := hT.type
  clear h hi hok hT hv hset
  go_enter Tryd.func16, Tryd.ntmps16
  go_wp2_with fail
  go_loopw [1] (fun l W1 => ∃ S1 dne vv1 lb lc, l = .slice lb (ts.length + dne.length) lc ∧ Hid (Dr w W fs i g S m (.slice vb ts.length vc) ts S1 dne vv1 lb lc W1)) (fun _ W1 => waitLen W1 g)
  case atStart => exact ⟨S, [], vv, vb, vc, rfl, hst.out⟩
  case round =>
    clear hst
    obtain ⟨S1, dne, vv1, lb, lc, rfl, hD⟩ := hrel
    rcases dn_cases m S1 hD.out.ok with ⟨fp, ok, c, x, S', hn, hoc, hok', hl, hdn⟩ | ⟨c, S', hn, hok', hdn⟩
    · replace hdn : Hid _ := hdn
      replace hok' : Hid _ := hok'
      obtain ⟨f, ps⟩ := fp
      go_wp2_with fail
      refine (next_all hD.out.all i (g := g) (v := vv1) (S := S1) (set_get _ _ _ _ HI.out) _ hn).mono ?_
      rintro e W2 ⟨pb, pl, pc, vv2, rfl, hP, hPn, hA, kt⟩
      rw [List.set_set] at hA
      dsimp only at hP hPn hA ⊢
      have hD' := hD.out
      obtain ⟨hB, b6, b8, kt2⟩ := box2 hA f (.slice pb pl pc) c x
      have kt3 : Kt ((W2.alloc (.cells (fv f (.slice pb pl pc)) 28)).alloc (.cells #[.int .i64 c, .int .i64 x] 30)) (((W2.alloc (.cells (fv f (.slice pb pl pc)) 28)).alloc (.cells #[.int .i64 c, .int .i64 x] 30)).alloc (.cells (tcell ⟨f, pb, pl, pc, c, x⟩).toArray 71)) := Kt.alloc _ _
      have hR4 : TRow (((W2.alloc (.cells (fv f (.slice pb pl pc)) 28)).alloc (.cells #[.int .i64 c, .int .i64 x] 30)).alloc (.cells (tcell ⟨f, pb, pl, pc, c, x⟩).toArray 71)) (.slice lb (ts.length + dne.length) lc) (ts ++ dne) := ((hD'.row.kt kt).kt kt2).kt kt3
      have hP4 : PRow (((W2.alloc (.cells (fv f (.slice pb pl pc)) 28)).alloc (.cells #[.int .i64 c, .int .i64 x] 30)).alloc (.cells (tcell ⟨f, pb, pl, pc, c, x⟩).toArray 71)) (.slice pb pl pc) ps := kt3.prow (kt2.prow hP)
      have hown1 : ∀ k, (Value.slice lb (ts.length + dne.length) lc).ownBlock = some k → k < ((W2.alloc (.cells (fv f (.slice pb pl pc)) 28)).alloc (.cells #[.int .i64 c, .int .i64 x] 30)).heap.size := fun k hk => by
        obtain ⟨cur, hc⟩ := ((hD'.row.kt kt).kt kt2).type k hk
        exact (Array.getElem?_eq_some_iff.1 hc).1
      have hll : (ts ++ dne).length = ts.length + dne.length := List.length_append
      have hfew := hD'.few
      obtain ⟨base, cap, W5, hrun, hR5, hG⟩ := trow_append (((W2.alloc (.cells (fv f (.slice pb pl pc)) 28)).alloc (.cells #[.int .i64 c, .int .i64 x] 30)).alloc (.cells (tcell ⟨f, pb, pl, pc, c, x⟩).toArray 71)) _ (ts ++ dne) hR4 ((W2.alloc (.cells (fv f (.slice pb pl pc)) 28)).alloc (.cells #[.int .i64 c, .int .i64 x] 30)).heap.size ⟨f, pb, pl, pc, c, x⟩ ((f, ps), c, x) ⟨rfl, rfl, rfl, hP4⟩ (heap_alloc_new _ _) (fun e => Nat.lt_irrefl _ (hown1 _ e)) (by rw [hll]; omega)
      rw [hll] at hrun hR5 hG
      have hA4 : All w (((W2.alloc (.cells (fv f (.slice pb pl pc)) 28)).alloc (.cells #[.int .i64 c, .int .i64 x] 30)).alloc (.cells (tcell ⟨f, pb, pl, pc, c, x⟩).toArray 71)) (fs.set i (g, vv2, S')) := hB.alloc _
      have hwl : ∀ k, (Value.slice lb (ts.length + dne.length) lc).ownBlock = some k → w.heap.size ≤ k := fun k hk => (hD'.own k hk).elim (HV.out k) (fun h => Nat.le_trans HB.out h)
      obtain ⟨hA5, hK5⟩ := hA4.gr hG hR4.type hwl
      have hbx : W5.heap[W.heap.size]? = some (.cells #[.int .i64 0, .int .i64 0] 30 (0, 0)) := hK5.box (kt3.box (kt2.box (kt.box hD'.box))) (fun e => by
        obtain ⟨cur, hc⟩ := hR4.type _ e
        rw [kt3.box (kt2.box (kt.box hD'.box))] at hc
        simp at hc)
      have hfin : Hid (Dr w W fs i g S m (.slice vb ts.length vc) ts S' (dne ++ [((f, ps), c, x)]) vv2 base cap W5) := by
        have hl1 : (dne ++ [((f, ps), c, x)]).length = dne.length + 1 := by simp
        refine ⟨hok'.out, by rw [hl1]; omega, ?_, hA5, ?_, ?_, ?_, ?_, ?_⟩
        · rw [hD'.dn, hdn.out]; simp
        · rw [hl1, ← Nat.add_assoc, ← List.append_assoc]; exact hR5
        · intro k cs t hk h1 h2 h3
          refine hK5 k cs t (kt3 k cs t (kt2 k cs t (kt k cs t (hD'.ku k cs t hk h1 h2 h3) h1 h2) h1 h2) h1 h2) h1 h2 (fun e => ?_)
          rcases hD'.own k e with h4 | h4
          · exact h3 h4
          · have := (Array.getElem?_eq_some_iff.1 hk).1
            omega
        · intro k hk
          rw [hl1, ← Nat.add_assoc] at hk
          rcases hG.own k hk with h4 | h4
          · exact hD'.own k h4
          · simp only [size_al] at h4
            have := (Array.getElem?_eq_some_iff.1 (kt.box hD'.box)).1
            exact .inr (by omega)
        · exact (Array.getElem?_eq_some_iff.1 hbx).1
        · exact hbx
      have hmeas : Hid (waitLen W5 g < waitLen wr g) := by
        have e1 := (hA5.fd (g, vv2, S') (List.mem_of_getElem? (set_get _ _ _ _ HI.out))).waitLen
        have e2 := (hD'.all.fd (g, vv1, S1) (List.mem_of_getElem? (set_get _ _ _ _ HI.out))).waitLen
        show _ < _
        dsimp only at e1 e2
        omega
      obtain ⟨d0, d1, -, -⟩ := box_cells b8
      obtain ⟨z0, z1, z2, z3, z4, z5, z6, z7, z8, z9, z10⟩ := b6.cells
      obtain ⟨L, hL⟩ : ∃ L, L = ts.length + dne.length + 1 := ⟨_, rfl⟩
      rw [← hL] at hrun
      have HL : Hid _ := hL
      simp only [fv, tcell, size_al] at hrun d0 d1 z0 z1 z2 z3 z4 z5 z6 z7 z8 z9 z10
      replace hrun : Hid _ := hrun
      clear hbx hB b6 b8 kt2 kt3 hR4 hP4 hown1 hll hfew hR5 hG hA4 hwl hA5 hK5 hA kt hP hPn hD' hL hn hdn hok' hD hl
      rcases hoc with rfl | ⟨rfl, hc0, hx0⟩
      · go_wp2_with (at_builtin; refine Lib.wpList_append_run _ rfl (.tmp 29) (.tmp 33) 43 43 rfl _ _ rfl rfl _ _ hrun.out ?_)
        exact ⟨⟨S', dne ++ [((f, ps), c, x)], vv2, base, cap, by rw [HL.out, List.length_append]; rfl, hfin.out⟩, hmeas.out⟩
      · have hcb : (c == 0) = false := by simpa using hc0
        have hxb : (x == 0) = false := by simpa using hx0
        go_wp2_with (at_builtin; refine Lib.wpList_append_run _ rfl (.tmp 29) (.tmp 33) 43 43 rfl _ _ rfl rfl _ _ hrun.out ?_)
        exact ⟨⟨S', dne ++ [((f, ps), c, x)], vv2, base, cap, by rw [HL.out, List.length_append]; rfl, hfin.out⟩, hmeas.out⟩
    · replace hdn : Hid _ := hdn
      replace hok' : Hid _ := hok'
      go_wp2_with fail
      refine (next_all hD.out.all i (g := g) (v := vv1) (S := S1) (set_get _ _ _ _ HI.out) _ hn).mono ?_
      rintro e W2 ⟨pb, pl, pc, vv2, rfl, hP, hPn, hA, kt⟩
      rw [List.set_set] at hA
      dsimp only at hP hPn hA ⊢
      have hD' := hD.out
      obtain ⟨hB, b6, b8, kt2⟩ := box2 hA Fr.zero (.slice pb pl pc) c 0
      have bA := kt2.box (kt.box hD'.box)
      have hR3 := (hD'.row.kt kt).kt kt2
      obtain ⟨a0, a1, f0, f1⟩ := box_cells bA
      obtain ⟨hS, bS⟩ := box_set hB W.heap.size 0 0 c 0 bA HB.out
      have hne : ¬ W.heap.size = W2.heap.size := by
        have := (Array.getElem?_eq_some_iff.1 (kt.box hD'.box)).1
        omega
      have hne2 : ¬ W.heap.size = W2.heap.size + 1 := by
        have := (Array.getElem?_eq_some_iff.1 (kt.box hD'.box)).1
        omega
      have hfin : Hid (∀ W6 : World, W6.heap = ((((W2.alloc (.cells (fv Fr.zero (.slice pb pl pc)) 28)).alloc (.cells #[.int .i64 c, .int .i64 0] 30)).setCell ⟨W.heap.size, 0, none⟩ (.int .i64 c)).setCell ⟨W.heap.size, 1, none⟩ (.int .i64 0)).heap →
          W6.os = ((((W2.alloc (.cells (fv Fr.zero (.slice pb pl pc)) 28)).alloc (.cells #[.int .i64 c, .int .i64 0] 30)).setCell ⟨W.heap.size, 0, none⟩ (.int .i64 c)).setCell ⟨W.heap.size, 1, none⟩ (.int .i64 0)).os →
          W6.tape = ((((W2.alloc (.cells (fv Fr.zero (.slice pb pl pc)) 28)).alloc (.cells #[.int .i64 c, .int .i64 0] 30)).setCell ⟨W.heap.size, 0, none⟩ (.int .i64 c)).setCell ⟨W.heap.size, 1, none⟩ (.int .i64 0)).tape →
          W6.output = ((((W2.alloc (.cells (fv Fr.zero (.slice pb pl pc)) 28)).alloc (.cells #[.int .i64 c, .int .i64 0] 30)).setCell ⟨W.heap.size, 0, none⟩ (.int .i64 c)).setCell ⟨W.heap.size, 1, none⟩ (.int .i64 0)).output →
          W6.heap[W.heap.size]? = some (.cells #[.int .i64 c, .int .i64 0] 30 (0, 0)) ∧ DPost w W fs i g S (.slice vb ts.length vc) ts (.returned (.tuple #[.slice lb (ts.length + dne.length) lc, .agg #[.int .i64 c, .int .i64 0]])) W6) := by
        intro W6 e1 e2 e3 e4
        have hb6 : Below ((((W2.alloc (.cells (fv Fr.zero (.slice pb pl pc)) 28)).alloc (.cells #[.int .i64 c, .int .i64 0] 30)).setCell ⟨W.heap.size, 0, none⟩ (.int .i64 c)).setCell ⟨W.heap.size, 1, none⟩ (.int .i64 0)).heap.size ((((W2.alloc (.cells (fv Fr.zero (.slice pb pl pc)) 28)).alloc (.cells #[.int .i64 c, .int .i64 0] 30)).setCell ⟨W.heap.size, 0, none⟩ (.int .i64 c)).setCell ⟨W.heap.size, 1, none⟩ (.int .i64 0)) W6 := ⟨e2, e3, e4, by rw [e1]; exact Nat.le_refl _, fun k _ => by rw [e1]⟩
        have hother : ∀ k, k ≠ W.heap.size → W6.heap[k]? = ((W2.alloc (.cells (fv Fr.zero (.slice pb pl pc)) 28)).alloc (.cells #[.int .i64 c, .int .i64 0] 30)).heap[k]? := fun k hk => by
          rw [e1, setCell_other _ _ _ _ _ hk, setCell_other _ _ _ _ _ hk]
        refine ⟨by rw [e1]; exact bS, ?_⟩
        unfold DPost
        have e5 : dn S = (dne, (c, 0), S') := by rw [hD'.dn, hdn.out]; simp
        rw [e5]
        refine ⟨lb, lc, vv2, rfl, hS.later hb6, hR3.same (fun k hk => hother k (fun e => ?_)) (fun b n c' ps hp => hp.below fun k hk _ => hother k (fun e => ?_)), ?_, hD'.own, ?_⟩
        · obtain ⟨cur, hc⟩ := hR3.type k hk
          rw [e, bA] at hc
          simp at hc
        · obtain ⟨cur, hc⟩ := hp.type k hk
          rw [e, bA] at hc
          simp at hc
        · intro k cs t hk h1 h2 h3
          have hlt := (Array.getElem?_eq_some_iff.1 hk).1
          rw [hother k (by omega)]
          exact kt2 k cs t (kt k cs t (hD'.ku k cs t hk h1 h2 h3) h1 h2) h1 h2
        · have h1 := (Array.getElem?_eq_some_iff.1 bS).1
          rw [e1]
          omega
      obtain ⟨d0, d1, -, -⟩ := box_cells b8
      simp only [fv, Fr.zero] at hfin d0 d1 a0 a1 f0 f1
      clear hB b6 b8 kt2 bA hR3 hS bS hA kt hP hPn hD' hn hdn hok' hD
      simp only [Fr.zero]
      by_cases hc0 : c = 0
      · subst hc0
        go_wp2_with fail
        go_region
        all_goals
          go_wp2_with fail
          generalize hW2 : World.drew _ = w2
          obtain ⟨t1, t2⟩ := hfin.out w2 (by rw [← hW2]; exact drew_heap _) (by rw [← hW2]; exact drew_os _) (by rw [← hW2]; exact drew_tape _) (by rw [← hW2]; exact drew_output _)
          clear hW2
          exact bodyPost_ret (results_tc (r := 4) (q := 5) (tz := 30) rfl _ _ W.heap.size 30 _ (0, 0) _ rfl t1 Tryd.underlying30 rfl (by kernel_rfl)) rfl t2
      · have hcb : (c == 0) = false := by simpa using hc0
        go_wp2_with fail
        go_region
        all_goals
          go_wp2_with fail
          generalize hW2 : World.drew _ = w2
          obtain ⟨t1, t2⟩ := hfin.out w2 (by rw [← hW2]; exact drew_heap _) (by rw [← hW2]; exact drew_os _) (by rw [← hW2]; exact drew_tape _) (by rw [← hW2]; exact drew_output _)
          clear hW2
          exact bodyPost_ret (results_tc (r := 4) (q := 5) (tz := 30) rfl _ _ W.heap.size 30 _ (0, 0) _ rfl t1 Tryd.underlying30 rfl (by kernel_rfl)) rfl t2
end Go.Proofs.YtmhbaaemihljjaaDoor
