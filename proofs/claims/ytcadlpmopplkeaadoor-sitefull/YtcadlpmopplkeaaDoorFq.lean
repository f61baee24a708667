/- Several texts in one. -/
import Derived.Test.YtcadlpmopplkeaaDoorF0
/- site: New. -/
namespace Go.Proofs.YtcadlpmopplkeaaDoor
open Go.RowKit Go.Maps
open Go.Shelf
set_option linter.unusedVariables false
set_option linter.unusedSimpArgs false

def tgP (x : PC) : Tg := (x.1.a, x.1.p)
def epP (x : PC) : Ep := ⟨1, x.1.n, x.1.v, x.2⟩
/-- the first version's editions of these pages -/
def Fk (l : List PC) : Fm := fun t => (l.filter (fun x => decide (tgP x = t))).map epP
def Kk (l : List PC) : List Tg := l.foldl (fun K x => kadd K (tgP x)) []
theorem Fk_snoc (l : List PC) (x : PC) (t : Tg) : Fk (l ++ [x]) t = if tgP x = t then Fk l t ++ [epP x] else Fk l t := by
  unfold Fk
  rw [List.filter_append, List.map_append]
  by_cases h : tgP x = t
  · rw [if_pos h, List.filter_cons_of_pos (by simpa using h)]
    rfl
  · rw [if_neg h, List.filter_cons_of_neg (by simpa using h)]
    simp
theorem Kk_snoc (l : List PC) (x : PC) : Kk (l ++ [x]) = kadd (Kk l) (tgP x) := by
  unfold Kk
  rw [List.foldl_append]
  rfl
theorem kk_facts (l : List PC) : (Kk l).length ≤ l.length ∧ (∀ t, t ∈ Kk l ↔ t ∈ l.map tgP) ∧ ((Kk l).length = l.length → (l.map tgP).Nodup) ∧ ((l.map tgP).Nodup → Kk l = l.map tgP) := by
  refine snocRec (P := fun l => (Kk l).length ≤ l.length ∧ (∀ t, t ∈ Kk l ↔ t ∈ l.map tgP) ∧ ((Kk l).length = l.length → (l.map tgP).Nodup) ∧ ((l.map tgP).Nodup → Kk l = l.map tgP)) ?_ ?_ l
  · exact ⟨by simp [Kk], fun t => by simp [Kk], fun _ => by simp, fun _ => rfl⟩
  · intro l x ⟨h1, h2, h3, h4⟩
    rw [Kk_snoc]
    by_cases hm : tgP x ∈ Kk l
    · rw [kadd_in hm]
      have hm' := (h2 _).1 hm
      refine ⟨by simp; omega, fun t => ?_, fun e => ?_, fun e => ?_⟩
      · rw [h2, List.map_append, List.mem_append]
        constructor
        · exact .inl
        · rintro (h | h)
          · exact h
          · simp at h; rw [h]; exact hm'
      · simp at e; omega
      · rw [List.map_append, List.nodup_append] at e
        exact absurd rfl (e.2.2 _ hm' _ (by simp))
    · rw [kadd_not hm]
      refine ⟨by simp; omega, fun t => ?_, fun e => ?_, fun e => ?_⟩
      · rw [List.mem_append, h2, List.map_append, List.mem_append]
        simp
      · rw [List.map_append, List.nodup_append]
        refine ⟨h3 (by simp at e; omega), by simp, fun a ha b hb => ?_⟩
        simp at hb
        rw [hb]
        rintro rfl
        exact hm ((h2 _).2 ha)
      · rw [List.map_append, List.nodup_append] at e
        rw [h4 e.1, List.map_append]
        rfl
/-- within the loop: the first k pages are laid -/
def Nl (w wr : World) (g b : Nat) (ps : List PC) (k : Nat) : Prop := ∃ L, Si wr w.heap.size g b k 1 L ∧ (∀ t, (edL L t).map ep = Fk (ps.take k) t) ∧ L.map Te.t = Kk (ps.take k)
theorem Nl.start {w W : World} (hB : Below w.heap.size w W) (ps : List PC) : Nl w ((W.alloc (.map #[] 0)).alloc (.cells #[.int .i64 1, .map (some W.heap.size)] 79)) (W.heap.size + 1) W.heap.size ps 0 := by
  have hs := hB.size
  refine ⟨[], ⟨fresh2 _ _ _, ⟨0, .map [], Nat.le_refl _, (World.ownsMap_made W Tryd.prog 87 hd).alloc _, MS.nil⟩, ⟨fun r hr => by simp at hr, fun r hr => by simp at hr, fun r hr => by simp at hr, fun r hr => by simp at hr⟩, by omega, hs⟩, fun t => rfl, rfl⟩
theorem Nl.step {w w1 : World} {g b : Nat} {ps : List PC} {k : Nat} (hk : k < ps.length) (L : List Te) (h2 : ∀ t, (edL L t).map ep = Fk (ps.take k) t) (h3 : L.map Te.t = Kk (ps.take k)) (y z : SV) (p : Pg) (cs : List Ch) (hp : ps[k] = (p, cs)) (hS : Si w1 w.heap.size g b (k + 1) 1 (upd L ⟨(p.a, p.p), y, edL L (p.a, p.p) ++ [⟨1, p.n, p.v, z, cs⟩]⟩)) : Nl w w1 g b ps (k + 1) := by
  refine ⟨_, hS, fun t => ?_, ?_⟩
  · rw [List.take_succ_eq_append_getElem hk, Fk_snoc, hp, edL_upd]
    show _ = if (p.a, p.p) = t then _ else _
    by_cases e : (p.a, p.p) = t
    · rw [if_pos e, if_pos e, List.map_append, e, h2]
      rfl
    · rw [if_neg e, if_neg e, h2]
  · rw [List.take_succ_eq_append_getElem hk, Kk_snoc, map_upd, h3, hp]
    rfl
/-- what New tells -/
def nwE (ps : List PC) : Int := if ps.any wrB = true then 170 else if 64 < ps.length then 6 else if (ps.map tgP).Nodup then 0 else 7
def NwP (ps : List PC) (w : World) (e : Ending) (w' : World) : Prop :=
  Below w.heap.size w w' ∧ ((nwE ps ≠ 0 ∧ e = .returned (.tuple #[.pointer none, .int .i64 (nwE ps)])) ∨ (nwE ps = 0 ∧ ∃ g, w.heap.size ≤ g ∧ e = .returned (.tuple #[.pointer (some ⟨g, 0, none⟩), .int .i64 0]) ∧ Sx w' w.heap.size g ps.length 1 (Fk ps) (ps.map tgP)))
theorem fk_len {ps : List PC} (hn : (ps.map tgP).Nodup) (t : Tg) : (Fk ps t).length ≤ 1 := by
  unfold Fk
  rw [List.length_map]
  induction ps with
  | nil => simp
  | cons x r ih =>
    rw [List.map_cons, List.nodup_cons] at hn
    by_cases h : tgP x = t
    · rw [List.filter_cons_of_pos (by simpa using h)]
      have : r.filter (fun x => decide (tgP x = t)) = [] := List.filter_eq_nil_iff.2 fun y hy e => hn.1 (by rw [h, ← of_decide_eq_true e]; exact List.mem_map_of_mem hy)
      rw [this]
      simp
    · rw [List.filter_cons_of_neg (by simpa using h)]
      exact ih hn.2
theorem Nl.done {w wr : World} {g b : Nat} {ps : List PC} (h : Nl w wr g b ps ps.length) (hw : ps.any wrB = false) (h64 : ps.length ≤ 64) :
    ∃ n : Nat, (Builtin.len_ #[77] 3 #[.map (some b)]).run Tryd.prog wr = .ok (.int .i64 (n : Int)) wr ∧ wr.heap[g]? = some (.cells #[.int .i64 1, .map (some b)] 79 (0, 0)) ∧ ((n < ps.length ∧ nwE ps = 7) ∨ (n = ps.length ∧ nwE ps = 0 ∧ w.heap.size ≤ g ∧ Sx wr w.heap.size g ps.length 1 (Fk ps) (ps.map tgP))) := by
  obtain ⟨L, hS, h2, h3⟩ := h
  rw [List.take_length] at h2 h3
  obtain ⟨k1, k2, k3, k4⟩ := kk_facts ps
  have hl : L.length = (Kk ps).length := by rw [← h3]; simp
  refine ⟨L.length, hS.len, hS.hg, ?_⟩
  by_cases hn : (ps.map tgP).Nodup
  · have hK := k4 hn
    refine .inr ⟨by rw [hl, hK]; simp, ?_, hS.lg.1, ⟨⟨b, L, hS, h2, by rw [h3, hK]⟩, fun t => ?_, fun t e he => ?_, fun t e he => ?_, fun t => ?_, fun t => ?_, ?_⟩⟩
    · unfold nwE
      rw [hw, if_neg (by simp), if_neg (by omega), if_pos hn]
    · have := fk_len hn t
      cases hF : Fk ps t with
      | nil => exact .nil
      | cons a r =>
        cases r with
        | nil => exact List.pairwise_singleton _ _
        | cons b r => rw [hF] at this; simp at this
    · unfold Fk at he
      obtain ⟨x, _, rfl⟩ := List.mem_map.1 he
      simp [epP]
    · unfold Fk at he
      obtain ⟨x, hx, rfl⟩ := List.mem_map.1 he
      have hx' := (List.mem_filter.1 hx).1
      have hg := List.any_eq_false.1 hw x hx'
      unfold wrB at hg
      simp at hg
      have := pg_z hg
      exact ⟨this.2.2.1, fun c hc => (this.2.2.2 c hc).2⟩
    · have := fk_len hn t
      by_cases h0 : ps.length = 0
      · have : ps = [] := List.eq_nil_of_length_eq_zero h0
        rw [this]
        simp [Fk]
      · omega
    · unfold Fk
      rw [List.mem_map]
      constructor
      · rintro ⟨x, hx, e⟩ h0
        have := List.map_eq_nil_iff.1 h0
        have := List.filter_eq_nil_iff.1 this x hx
        simp [e] at this
      · intro h0
        obtain ⟨x, hx⟩ := List.exists_mem_of_ne_nil (ps.filter (fun x => decide (tgP x = t))) (fun e => h0 (by rw [e]; rfl))
        have := List.mem_filter.1 hx
        exact ⟨x, this.1, of_decide_eq_true this.2⟩
    · omega
  · refine .inl ⟨?_, ?_⟩
    · rw [hl]
      have : (Kk ps).length ≠ ps.length := fun e => hn (k3 e)
      omega
    · unfold nwE
      rw [hw, if_neg (by simp), if_neg (by omega), if_neg hn]
set_option maxHeartbeats 8000000 in
set_option maxRecDepth 100000 in
theorem new_any (x : SV) (ps : List PC) (w : World) (hI : In EPg w (sv x) ps) (hC : ChIn w ps) : Calls Tryd.prog 10 #[sv x] w fun e w' => NwP ps w e w' := by
  have HI : Hid (In EPg w (sv x) ps) := hI
  have HC : Hid (ChIn w ps) := hC
  have X1 : Hid (Calls Tryd.prog 33 #[sv x, .func (.func 34) #[] #[]] w fun e w' => e = .returned (.bool (ps.any wrB)) ∧ Below w.heap.size w w') := contains33_any x ps w hI hC
  obtain ⟨b, c, e, m1, m2⟩ := hI.slice
  obtain ⟨sb, sl, sc⟩ := x
  simp only [sv] at e HI X1 ⊢
  injection e with e1 e2 e3
  subst e1 e2 e3
  clear hI hC
  cases hw : ps.any wrB
  case true =>
    have hE : Hid (nwE ps = 170) := by show _ = _; unfold nwE; rw [if_pos hw]
    rw [hw] at X1
    clear hw
    go_enter Tryd.func10, Tryd.ntmps10
    go_wp2_with fail
    go_at_call 33
    refine X1.out.mono ?_
    rintro e w1 ⟨rfl, hb1⟩
    have HB1 : Hid (Below w.heap.size w w1) := hb1
    clear hb1 X1
    go_wp2_with fail
    go_ret2
    exact ⟨HB1.out, .inl ⟨by rw [hE.out]; decide, by rw [hE.out]; rfl⟩⟩
  rw [hw] at X1
  by_cases h64 : 64 < ps.length
  · have hE : Hid (nwE ps = 6) := by show _ = _; unfold nwE; rw [hw, if_neg (by simp), if_pos h64]
    have l0 : (64 : Int) < (ps.length : Int) := by omega
    clear h64 hw
    go_enter Tryd.func10, Tryd.ntmps10
    go_wp2_with fail
    go_at_call 33
    refine X1.out.mono ?_
    rintro e w1 ⟨rfl, hb1⟩
    have HB1 : Hid (Below w.heap.size w w1) := hb1
    clear hb1 X1
    go_wp2_with fail
    go_ret2
    exact ⟨HB1.out, .inl ⟨by rw [hE.out]; decide, by rw [hE.out]; rfl⟩⟩
  have l0 : ¬ (64 : Int) < (ps.length : Int) := by omega
  have H64 : Hid (ps.length ≤ 64) := Nat.not_lt.1 h64
  have HW : Hid (ps.any wrB = false) := hw
  clear h64 hw
  go_enter Tryd.func10, Tryd.ntmps10
  go_wp2_with fail
  go_at_call 33
  refine X1.out.mono ?_
  rintro e w3 ⟨rfl, hb1⟩
  have HB3 : Hid (Below w.heap.size w w3) := hb1
  clear hb1 X1
  have hmm := @run_makeMap Tryd.prog
  have HO : Hid (Nl w ((w3.alloc (.map #[] 0)).alloc (.cells #[.int .i64 1, .map (some w3.heap.size)] 79)) (w3.heap.size + 1) w3.heap.size ps 0) := Nl.start HB3.out ps
  have HB4 : Hid (Below w.heap.size w ((w3.alloc (.map #[] 0)).alloc (.cells #[.int .i64 1, .map (some w3.heap.size)] 79))) := HB3.out.trans ((bel2 _ _ _).mono HB3.out.size)
  clear HB3
  go_wp2_with fail
  obtain ⟨b, hb⟩ : ∃ b, b = w3.heap.size := ⟨_, rfl⟩
  obtain ⟨g, hg⟩ : ∃ g, g = w3.heap.size + 1 := ⟨_, rfl⟩
  obtain ⟨W, hW⟩ : ∃ W, W = (w3.alloc (.map #[] 0)).alloc (.cells #[.int .i64 1, .map (some w3.heap.size)] 79) := ⟨_, rfl⟩
  rw [← hW] at HO HB4 ⊢
  try rw [size_al]
  rw [← hg] at HO ⊢
  rw [← hb] at HO
  clear hb hg hW
  go_loopw [6, 19] (fun _ kv wr => ∃ k : Nat, kv = .int .i64 (k : Int) ∧ k ≤ ps.length ∧ Hid (Nl w wr g b ps k) ∧ Hid (Below w.heap.size w wr)) (fun _ kv _ => ps.length - (intOf kv).toNat)
  case atStart => exact ⟨0, rfl, by omega, HO.out, HB4.out⟩
  case round =>
    obtain ⟨k, rfl, hk, hO, hB⟩ := hrel
    by_cases hlt : k < ps.length
    · obtain ⟨Bk, off, cap, e, hc⟩ := HI.out.pg k hlt
      injection e with e1 e2 e3
      clear e2 e3
      subst e1
      obtain ⟨c0, c1, c2, c3, c4⟩ := hc wr hB.out
      obtain ⟨y, hy⟩ : ∃ y, ps[k] = y := ⟨_, rfl⟩
      rw [hy] at c0 c1 c2 c3 c4
      have HY : Hid (ps[k]'hlt = y) := hy
      have hym : y ∈ ps := by rw [← hy]; exact List.getElem_mem hlt
      have hpg : pgB y.1 y.2 = true := by
        have := List.any_eq_false.1 HW.out y hym
        unfold wrB at this
        simpa using this
      have hz := pg_z hpg
      obtain ⟨L, q1, q2, q3⟩ := hO.out
      have HLY : Hid (∀ V, Below wr.heap.size wr V → Calls Tryd.prog 35 #[.pointer (some ⟨g, 0, none⟩), .agg (pgv y.1)] V fun e w' => LyPost w.heap.size g b k 1 L y.1 y.2 V e w') := fun V hV => lay_any w.heap.size g b k 1 L y.1 y.2 V (q1.below hV) (by unfold maxLen; omega) (Nat.le_trans hB.out.size hV.size) (((HC.out y hym).below hB.out).below hV) hz.1.1 hz.1.2 ⟨hz.2.1, by omega⟩ (fun c hc => by have := hz.2.2.2 c hc; omega) (by
        have hl : (edL L (y.1.a, y.1.p)).length = (Fk (ps.take k) (y.1.a, y.1.p)).length := by rw [← q2]; simp
        have h5 : (Fk (ps.take k) (y.1.a, y.1.p)).length ≤ (ps.take k).length := by unfold Fk; rw [List.length_map]; exact List.length_filter_le _ _
        have h6 : (ps.take k).length ≤ 64 := by rw [List.length_take]; have := H64.out; omega
        omega)
      have HQ2 : Hid (∀ t, (edL L t).map ep = Fk (ps.take k) t) := q2
      have HQ3 : Hid (L.map Te.t = Kk (ps.take k)) := q3
      clear hc hy hym hpg hz q1 q2 q3 hO
      obtain ⟨⟨ya, yp, yn, yv, yb, yl, yc⟩, ych⟩ := y
      unfold pgv at HLY
      simp only [sv] at c0 c1 c2 c3 c4 HLY
      have hlt' : (k : Int) < (ps.length : Int) := by omega
      have hbA : Hid (Below wr.heap.size wr (wr.alloc (.cells #[.string ya, .string yp, .int .i64 yn, .string yv, .slice yb yl yc] 26))) := bel1 _ _
      go_wp2_with fail
      go_at_call 35
      refine (HLY.out _ hbA.out).mono ?_
      rintro e w1 ⟨rfl, hbl, y, z, hSi⟩
      have HN : Hid (Nl w w1 g b ps (k + 1)) := Nl.step hlt L HQ2.out HQ3.out y z _ _ HY.out hSi
      have HB5 : Hid (Below w.heap.size w w1) := (hB.out.trans (hbA.out.mono hB.out.size)).trans hbl.1
      clear hbl hSi HLY
      go_wp2_with fail
      go_roundw
      case rel => exact ⟨k + 1, by simp, by omega, HN.out, HB5.out⟩
      case measure => simp [intOf]; omega
    · obtain rfl : k = ps.length := by omega
      have hlt' : ¬ (ps.length : Int) < (ps.length : Int) := by omega
      obtain ⟨n, hn, hcg, hcase⟩ := hO.out.done HW.out H64.out
      have c0 := cell_blk hcg 1
      simp at c0
      rcases hcase with ⟨h1, h2⟩ | ⟨h1, h2, h3, h4⟩
      · have l1 : (n : Int) < (ps.length : Int) := by omega
        have H2 : Hid (nwE ps = 7) := h2
        clear h1 h2 hcg
        go_wp2_with fail
        go_ret2
        exact ⟨hB.out, .inl ⟨by rw [H2.out]; decide, by rw [H2.out]; rfl⟩⟩
      · have l1 : ¬ (n : Int) < (ps.length : Int) := by omega
        have H2 : Hid (nwE ps = 0) := h2
        have H3 : Hid (w.heap.size ≤ g ∧ Sx wr w.heap.size g ps.length 1 (Fk ps) (ps.map tgP)) := ⟨h3, h4⟩
        clear h1 h2 h3 h4 hcg
        go_wp2_with fail
        go_ret2
        exact ⟨hB.out, .inr ⟨H2.out, g, H3.out.1, rfl, H3.out.2⟩⟩
end Go.Proofs.YtcadlpmopplkeaaDoor

/- the law's page and get. -/
namespace Go.Proofs.YtcadlpmopplkeaaDoor
open Go.RowKit Go.Maps
open Go.Shelf
set_option linter.unusedVariables false
set_option linter.unusedSimpArgs false

def aTest : ByteArray := ⟨#[97, 46, 116, 101, 115, 116]⟩
def getS : ByteArray := ⟨#[71, 69, 84]⟩
def httpsS : ByteArray := ⟨#[104, 116, 116, 112, 115]⟩
def e0S : ByteArray := ⟨#[]⟩
set_option maxHeartbeats 2000000 in
theorem page_any (p b : ByteArray) (w : World) : Calls Tryd.prog 13 #[.string p, .string b] w fun e w' => ∃ y : SV, e = .returned (.agg (pgv ⟨aTest, p, 200, e0S, y⟩)) ∧ Below w.heap.size w w' ∧ R ECh w' (sv y) [⟨e0S, b⟩] ∧ ∀ k, (sv y).ownBlock = some k → w.heap.size ≤ k := by
  go_enter Tryd.func13, Tryd.ntmps13
  go_wp2_with fail
  refine bodyPost_ret (results_cell_row (p := 4) (ty := 26) rfl _ _ w.heap.size 26 _ (0, 0) _ rfl (by rw [heap_al, if_neg (by simp), heap_al, if_pos rfl]) Tryd.underlying26 rfl (by kernel_rfl)) rfl ?_
  refine ⟨(some ⟨w.heap.size + 1, 0, none⟩, 1, 1), by simp [pgv, sv, aTest, e0S], bel2 _ _ _, R.one okCh _ (by rw [fresh2]; rfl) rfl, fun k hk => by simp [sv, Value.ownBlock] at hk; omega⟩
set_option maxHeartbeats 2000000 in
theorem get_any (p : ByteArray) (f : SV) (w : World) : Calls Tryd.prog 12 #[.string p, sv f] w fun e w' => e = .returned (.agg (rqv getS httpsS aTest p (sv f) e0S)) ∧ Below w.heap.size w w' := by
  obtain ⟨fb, fl, fc⟩ := f
  simp only [sv]
  go_enter Tryd.func12, Tryd.ntmps12
  go_wp2_with fail
  refine bodyPost_ret (results_cell_row (p := 4) (ty := 41) rfl _ _ w.heap.size 41 _ (0, 0) _ rfl (by rw [heap_al, if_pos rfl]) Tryd.underlying41 rfl (by kernel_rfl)) rfl ?_
  exact ⟨rfl, bel1 _ _⟩
theorem nwE_one {x : PC} (h : pgB x.1 x.2 = true) : nwE [x] = 0 := by
  unfold nwE
  have hw : [x].any wrB = false := by simp [wrB, h]
  rw [hw, if_neg (by simp), if_neg (by simp), if_pos (by simp)]
/-- a page in a row of one -/
theorem one_page {w : World} (p : Pg) (cs : List Ch) (h : R ECh w (sv p.ys) cs) : In EPg (w.alloc (.cells (pgv p) 26)) (sv (some ⟨w.heap.size, 0, none⟩, 1, 1)) [(p, cs)] ∧ ChIn (w.alloc (.cells (pgv p) 26)) [(p, cs)] :=
  ⟨in_one (E := EPg) _ _ (p, cs) (pgv p) 26 (0, 0) (by rw [heap_al, if_pos rfl]) rfl, fun x hx => by rw [List.mem_singleton.1 hx]; exact (h.below (bel1 _ _)).isIn⟩
/-- New of one page that may be -/
theorem new_one {w : World} (p : Pg) (cs : List Ch) (h : R ECh w (sv p.ys) cs) (hp : pgB p cs = true) :
    Calls Tryd.prog 10 #[.slice (some ⟨w.heap.size, 0, none⟩) 1 1] (w.alloc (.cells (pgv p) 26)) fun e w' => Below w.heap.size w w' ∧ ∃ g, w.heap.size ≤ g ∧ e = .returned (.tuple #[.pointer (some ⟨g, 0, none⟩), .int .i64 0]) ∧ Sx w' (w.heap.size + 1) g 1 1 (Fk [(p, cs)]) [(p.a, p.p)] := by
  obtain ⟨h1, h2⟩ := one_page p cs h
  refine (new_any _ _ _ h1 h2).mono ?_
  rintro e w' ⟨hB, he⟩
  rw [size_al] at hB he
  refine ⟨(bel1 _ _).trans (hB.mono (Nat.le_succ _)), ?_⟩
  rcases he with ⟨q, _⟩ | ⟨_, g, hg, q1, q2⟩
  · exact absurd (nwE_one hp) q
  · exact ⟨g, by omega, q1, q2⟩
end Go.Proofs.YtcadlpmopplkeaaDoor

