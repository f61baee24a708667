import Derived.Test.YtfmljlflnpmceaaGreatDoorVz1
import Derived.ArgAppend
import Derived.Test.YtfmljlflnpmceaaGreatDoorU2
import Derived.Test.YtfmljlflnpmceaaGreatDoorU3
/- Lists of params that wait: a slice of slices, appended to and cut ahead. -/
namespace Go.Proofs.YtfmljlflnpmceaaGreatDoor
open Go.RowKit
set_option linter.unusedVariables false
set_option linter.unusedSimpArgs false
structure Pl where
  b : Option Addr
  n : Nat
  c : Nat
def sp (x : Pl) : Value := .slice x.b x.n x.c
def EPl : El Pl := ⟨38, 29, 1, 24, fun x => [sp x]⟩
theorem okPl : EPl.Ok := ⟨Tryz.underlying38, by kernel_rfl, by decide, by decide, fun _ => rfl, fun a u hu => by
  simp only [EPl, List.mem_cons, List.not_mem_nil, or_false] at hu
  subst hu; rfl⟩
/-- The slice holds these slices; behind them, up to its capacity, there is room. -/
def WPl (w : World) (v : Value) (l : List Pl) : Prop :=
  (v = .slice none 0 0 ∧ l = []) ∨ ∃ g off cap cur, v = .slice (some ⟨g, off, none⟩) l.length cap ∧ w.heap[g]? = some (.cells cur 29 (0, 0)) ∧ l.length ≤ cap ∧ cap ≤ 9223372036854775807 ∧ off + cap ≤ cur.size ∧ (cur.toList.drop off).take l.length = EPl.cs l
theorem WPl.slice {w : World} {v : Value} {l : List Pl} (h : WPl w v l) : ∃ base cap, v = .slice base l.length cap ∧ l.length ≤ cap ∧ cap ≤ 9223372036854775807 := by
  rcases h with ⟨rfl, rfl⟩ | ⟨g, off, cap, cur, rfl, _, h1, h2, _⟩
  · exact ⟨none, 0, rfl, Nat.le_refl _, by omega⟩
  · exact ⟨_, cap, rfl, h1, h2⟩
theorem WPl.lt {w : World} {v : Value} {l : List Pl} (h : WPl w v l) : ∀ k, v.ownBlock = some k → k < w.heap.size ∧ ∃ c, w.heap[k]? = some (.cells c 29 (0, 0)) := by
  rcases h with ⟨rfl, rfl⟩ | ⟨g, off, cap, cur, rfl, hg, _⟩
  · intro k hk; simp [Value.ownBlock] at hk
  · intro k hk
    simp [Value.ownBlock] at hk
    subst hk
    exact ⟨heap_lt hg, _, hg⟩
theorem WPl.same {w w' : World} {v : Value} {l : List Pl} (h : WPl w v l) (hb : ∀ k, v.ownBlock = some k → w'.heap[k]? = w.heap[k]?) : WPl w' v l := by
  rcases h with h | ⟨g, off, cap, cur, rfl, hg, rest⟩
  · exact .inl h
  · exact .inr ⟨g, off, cap, cur, rfl, (hb g rfl).trans hg, rest⟩
theorem WPl.below {w w' : World} {v : Value} {l : List Pl} (h : WPl w v l) (hb : Below w.heap.size w w') : WPl w' v l := h.same fun k hk => hb.block k (h.lt k hk).1
theorem sp_cell {cur : Array Value} {off : Nat} {l : List Pl} (h : (cur.toList.drop off).take l.length = EPl.cs l) (j : Nat) (hj : j < l.length) : cur[off + j]? = some (sp l[j]) := by
  have h1 : ((cur.toList.drop off).take l.length)[j]? = (EPl.cs l)[j]? := by rw [h]
  rw [List.getElem?_take, if_pos hj, List.getElem?_drop] at h1
  have h2 := okPl.get l j 0 hj (by decide)
  simp only [EPl, Nat.mul_one, Nat.add_zero] at h2
  rw [← Array.getElem?_toList, h1]
  exact h2

/-- the first of them, and the others -/
theorem WPl.first {w : World} {v : Value} {x : Pl} {l : List Pl} (h : WPl w v (x :: l)) : ∃ g off cap, v = .slice (some ⟨g, off, none⟩) (l.length + 1) cap ∧ l.length + 1 ≤ cap ∧ cap ≤ 9223372036854775807 ∧ w.cell? ⟨g, off, none⟩ = some (sp x) ∧ g < w.heap.size ∧
    (cap = 1 → WPl w (.slice (some ⟨g, off, none⟩) l.length (cap - 1)) l) ∧ (cap ≠ 1 → WPl w (.slice (some ⟨g, off + 1, none⟩) l.length (cap - 1)) l) := by
  rcases h with ⟨_, h0⟩ | ⟨g, off, cap, cur, rfl, hg, h1, h2, h3, h4⟩
  · cases h0
  · have hc := sp_cell h4 0 (by simp)
    simp only [List.length_cons] at h1 h4
    refine ⟨g, off, cap, rfl, h1, h2, (cell_blk hg off).trans hc, heap_lt hg, fun e => ?_, fun e => ?_⟩
    · have hl : l = [] := List.eq_nil_of_length_eq_zero (by omega)
      subst hl
      exact .inr ⟨g, off, cap - 1, cur, rfl, hg, by simp, by omega, by omega, rfl⟩
    · refine .inr ⟨g, off + 1, cap - 1, cur, rfl, hg, by omega, by omega, by omega, ?_⟩
      have e1 : EPl.cs (x :: l) = sp x :: EPl.cs l := rfl
      rw [e1] at h4
      have h5 := congrArg (List.drop 1) h4
      rw [List.drop_take, List.drop_drop] at h5
      simpa using h5

/-- append of one -/
theorem wpl_push (w : World) (v : Value) (l : List Pl) (hR : WPl w v l) (x : Pl) (B : Nat) (hB : w.heap[B]? = some (.cells #[sp x] 29 (0, 0))) (hlen : l.length ≤ 1099511627776) :
    ∃ b c w', (Builtin.append_ #[38, 38] 38 #[v, .slice (some ⟨B, 0, none⟩) 1 1]).run Tryz.prog w = .ok (.slice b (l.length + 1) c) w' ∧ WPl w' (.slice b (l.length + 1) c) (l ++ [x]) ∧ Gr w w' v (.slice b (l.length + 1) c) := by
  obtain ⟨i0, z, hi0, hz0, hz1, hz2, hz3⟩ := info_z okPl
  have hz1' : i0.size = 1 := hz1
  have hz2' : i0.bytes = 24 := hz2
  have hz3' : z.cells.size = 1 := hz3
  have hone : ∀ u ∈ ([sp x] : List Value), u.oneCell' = true := by intro u hu; simp at hu; subst hu; rfl
  have hcell : ∀ j u, ([sp x] : List Value)[j]? = some u → w.cell? ((⟨B, 0, none⟩ : Addr).add j) = some u := by
    intro j u hj
    rw [Addr.add_lit, cell_blk hB, Nat.zero_add]
    simpa using hj
  have hcsx : EPl.cs [x] = [sp x] := rfl
  have hll : (l ++ [x]).length = l.length + 1 := by simp
  have hclen : (EPl.cs l).length = l.length := by rw [okPl.length]; exact Nat.mul_one _
  have fin : ∀ (c0 : Nat) (D : Array Value) (hD : D.toList.take (l.length + 1) = EPl.cs l ++ [sp x]) (hDs : D.size = c0) (hc : l.length + 1 ≤ c0) (hm : c0 ≤ maxLen),
      WPl (w.drew.alloc (.cells D 29)) (.slice (some ⟨w.heap.size, 0, none⟩) (l.length + 1) c0) (l ++ [x]) ∧ Gr w (w.drew.alloc (.cells D 29)) v (.slice (some ⟨w.heap.size, 0, none⟩) (l.length + 1) c0) := by
    intro c0 D hD hDs hc hm
    refine ⟨.inr ⟨w.heap.size, 0, c0, D, by rw [hll], heap_alloc_new w.drew _, by rw [hll]; exact hc, by unfold maxLen at hm; omega, by omega, ?_⟩, rfl, rfl, rfl, by simp, fun k hk _ => heap_alloc_old w.drew _ hk, fun k hk => by simp [Value.ownBlock] at hk; exact .inr (by omega)⟩
    rw [hll, List.drop_zero, El.cs_append, hcsx]
    exact hD
  rcases hR with ⟨rfl, rfl⟩ | ⟨g, off, cap, cur, rfl, hg, h1, h2, h3, h4⟩
  · have hr := run_append_nil (P := Tryz.prog) w 38 38 29 i0 z Tryz.underlying38 hi0 hz0 ⟨B, 0, none⟩ 1 1 [sp x] (by rw [hz1']; rfl) hcell (by omega) (by omega) (by rw [hz2']; omega)
    have hge := grownCap_ge w 1 0 29
    have hF := fin (grownCap w 1 0 29) ([sp x].toArray ++ Builtin.zeroCells z.cells (grownCap w 1 0 29 - 1)) (by simp [El.cs]) (by simp [size_zeroCells, hz3']; omega) (by simpa using hge) (grownCap_le_maxLen w 1 0 29 (by unfold maxLen; omega))
    exact ⟨_, _, _, hr, hF.1, hF.2⟩
  · by_cases hroom : l.length + 1 ≤ cap
    · have hr := run_append_room_cells (P := Tryz.prog) w 38 38 29 i0 Tryz.underlying38 hi0 g off l.length cap ⟨B, 0, none⟩ 1 1 [sp x] (by rw [hz1']; rfl) hcell hone hroom (by
        intro j hj
        simp at hj
        subst hj
        rw [cell_blk hg, hz1']
        simp
        omega) (fun j _ => frozen_blk hg _)
      rw [hz1', Nat.mul_one] at hr
      have hsc : w.setCells g (off + l.length) [sp x] = w.setCell ⟨g, off + l.length, none⟩ (sp x) := by simp [World.setCells]
      rw [hsc] at hr
      refine ⟨_, _, _, hr, .inr ⟨g, off, cap, _, by rw [hll], setCell_block _ _ _ _ _ _ _ hg, by rw [hll]; exact hroom, h2, by simpa using h3, ?_⟩, rfl, rfl, rfl, by simp [World.setCell], fun k _ hk => setCell_other _ _ _ _ _ (fun e => hk (by rw [e]; rfl)), fun k hk => .inl hk⟩
      rw [hll, El.cs_append, hcsx, ← h4, Array.toList_setIfInBounds]
      apply List.ext_getElem?
      intro j
      rw [List.getElem?_take, List.getElem?_drop, List.getElem?_set]
      by_cases hj : j < l.length
      · rw [if_pos (by omega), if_neg (by omega), List.getElem?_append_left (by simp; omega), List.getElem?_take, if_pos hj, List.getElem?_drop]
      · by_cases hj2 : j = l.length
        · subst hj2
          rw [if_pos (by omega), if_pos rfl, if_pos (by have hh : cur.toList.length = cur.size := Array.length_toList; omega), List.getElem?_append_right (by simp; omega)]
          have e : ((cur.toList.drop off).take l.length).length = l.length := by simp; omega
          rw [e, Nat.sub_self]
          rfl
        · rw [if_neg (by omega), List.getElem?_eq_none (by simp; omega)]
    · have hr := run_append_grow (P := Tryz.prog) w 38 38 29 i0 z Tryz.underlying38 hi0 hz0 ⟨g, off, none⟩ l.length cap (EPl.cs l) (by rw [hz1', hclen, Nat.mul_one]) (by
        intro j u hu
        have hj : j < l.length := by
          have := (List.getElem?_eq_some_iff.1 hu).1
          omega
        rw [Addr.add_lit, cell_blk hg, sp_cell h4 j hj]
        have h5 := okPl.get l j 0 hj (by decide)
        simp only [EPl, Nat.mul_one, Nat.add_zero] at h5
        exact h5.symm.trans hu) ⟨B, 0, none⟩ 1 1 [sp x] (by rw [hz1']; rfl) hcell (by omega) (by omega) (growslice_fits (by omega) (by rw [hz2']; omega))
      have hge := grownCap_ge w (l.length + 1) cap 29
      have hF := fin (grownCap w (l.length + 1) cap 29) ((EPl.cs l).toArray ++ [sp x].toArray ++ Builtin.zeroCells z.cells (grownCap w (l.length + 1) cap 29 - (l.length + 1))) (by
        simp only [Array.toList_append, List.toList_toArray]
        exact List.take_left' (by simp [hclen])) (by simp [size_zeroCells, hz3', hclen]; omega) hge (grownCap_le_maxLen w _ cap 29 (by unfold maxLen; omega))
      exact ⟨_, _, _, hr, hF.1, hF.2⟩

end Go.Proofs.YtfmljlflnpmceaaGreatDoor
/- What TraceRight keeps, in memory; the size of a DATA frame. -/
namespace Go.Proofs.YtfmljlflnpmceaaGreatDoor
open Go.RowKit
set_option linter.unusedVariables false
set_option linter.unusedSimpArgs false
set_option maxRecDepth 100000 in
set_option maxHeartbeats 4000000 in
theorem size_any (e : Et) (p : Value) (w : World) (hd : e.f.data.size ≤ 140737488355328) (hp : e.has 8 = true → 0 ≤ e.f.pad ∧ e.f.pad < 256) :
    Calls Tryz.prog 14 #[.agg (Fm.fv e.f p)] w fun r w' => r = .returned (.int .i64 e.size) ∧ Below w.heap.size w w' := by
  obtain ⟨SZ, hSZ⟩ : ∃ z, e.size = z := ⟨_, rfl⟩
  obtain ⟨b8, hb8⟩ : ∃ b, e.has 8 = b := ⟨_, rfl⟩
  have hsz : SZ = if b8 = true then (e.f.data.size : Int) + (1 + e.f.pad) else (e.f.data.size : Int) := by
    rw [← hSZ, ← hb8]
    rfl
  rw [hSZ]
  rw [hb8] at hp
  obtain ⟨s, ⟨ty, fl, st, da, pa, de, ex, wt, co, la⟩, ps, n⟩ := e
  obtain ⟨dz, hdz⟩ : ∃ n : Nat, da.size = n := ⟨_, rfl⟩
  obtain ⟨bb, hbb⟩ : ∃ b, bits .and .i64 fl 8 = b := ⟨_, rfl⟩
  have hb8' : (bb != 0) = b8 := by rw [← hbb]; exact hb8
  simp only at hsz hp hd
  simp only [Fm.fv]
  rw [hdz] at hd hsz
  obtain ⟨W1, hW1⟩ : ∃ V, w.alloc (.cells #[.int .i64 ty, .int .i64 fl, .int .i64 st, .string da, .int .i64 pa, .int .i64 de, .bool ex, .int .i64 wt, .int .i64 co, .int .i64 la, p] 31) = V := ⟨_, rfl⟩
  have HB : Hid (Below w.heap.size w W1) := by rw [← hW1]; exact bel1 _ _
  obtain ⟨q, hq⟩ : ∃ q, w.heap.size = q := ⟨_, rfl⟩
  have g1 : W1.heap[q]? = some (.cells #[.int .i64 ty, .int .i64 fl, .int .i64 st, .string da, .int .i64 pa, .int .i64 de, .bool ex, .int .i64 wt, .int .i64 co, .int .i64 la, p] 31 (0, 0)) := by rw [← hW1, ← hq, heap_al, if_pos rfl]
  have k1 := cell_blk g1 1
  have k3 := cell_blk g1 3
  have k4 := cell_blk g1 4
  simp only [List.getElem?_toArray, List.getElem?_cons_succ, List.getElem?_cons_zero] at k1 k3 k4
  clear hb8 hSZ g1
  cases b8
  · rw [if_neg (by decide)] at hsz
    subst hsz
    clear hp
    go_enter Tryz.func14, Tryz.ntmps14
    go_wp2_with fail
    go_ret
    exact ⟨by first | rfl | simp [hdz], by first | exact HB.out | (rw [hW1]; exact HB.out)⟩
  · rw [if_pos rfl] at hsz
    have hpa := hp rfl
    have hw1 : wrap64 ((dz : Int) + 1) = (dz : Int) + 1 := by unfold wrap64; omega
    have hw2 : wrap64 ((dz : Int) + 1 + pa) = SZ := by rw [hsz]; unfold wrap64; omega
    clear hp hpa hsz
    go_enter Tryz.func14, Tryz.ntmps14
    go_wp2_with fail
    go_ret
    exact ⟨by first | rfl | simp [hdz, hw1, hw2] | (simp only [hw1, hw2]), by first | exact HB.out | (rw [hW1]; exact HB.out)⟩
/-- lists that wait, and what they are -/
def Fw (w : World) : List Pl → List (List (Int × Int)) → Prop
  | [], [] => True
  | p :: P, l :: L => (In EP w (sp p) l ∧ l.length ≤ 1099511627776) ∧ Fw w P L
  | _, _ => False
theorem Fw.snoc {w : World} : ∀ {P : List Pl} {L : List (List (Int × Int))} {p : Pl} {l : List (Int × Int)}, Fw w P L → In EP w (sp p) l → l.length ≤ 1099511627776 → Fw w (P ++ [p]) (L ++ [l])
  | [], [], _, _, _, h, hl => ⟨⟨h, hl⟩, trivial⟩
  | [], _ :: _, _, _, h, _, _ => by simp [Fw] at h
  | _ :: _, [], _, _, h, _, _ => by simp [Fw] at h
  | _ :: P, _ :: L, _, _, h, hi, hl => ⟨h.1, Fw.snoc h.2 hi hl⟩
theorem Fw.nil {w : World} {P : List Pl} {L : List (List (Int × Int))} (h : Fw w P L) : P.length = L.length := by
  induction P generalizing L with
  | nil => cases L <;> simp [Fw] at h ⊢
  | cons p P ih => cases L with
    | nil => simp [Fw] at h
    | cons l L => simp [ih h.2]
def wi (s : Bool) : Nat := if s then 1 else 0
/-- all that TraceRight keeps -/
structure Rm (w W : World) (gl gs : Nat) (sv : Bool → Value) (v : Value) (pl : List Pl) (g : Rg) (n : Nat) : Prop where
  lb : W.heap[gl]? = some (.cells #[.int .i64 (g.left false), .int .i64 (g.left true)] 35 (0, 0))
  sb : W.heap[gs]? = some (.cells #[sv false, sv true] 37 (0, 0))
  row : ∀ s, R EI W (sv s) (g.sh s)
  len : ∀ s, (g.sh s).length ≤ n
  ap : ∀ k, (sv false).ownBlock = some k → (sv true).ownBlock ≠ some k
  own : ∀ s k, (sv s).ownBlock = some k → w.heap.size ≤ k
  wt : WPl W v pl
  wo : ∀ k, v.ownBlock = some k → w.heap.size ≤ k
  wl : pl.length ≤ n
  fw : Fw w pl g.wait
  gl : w.heap.size ≤ gl
  gs : w.heap.size ≤ gs
  bel : Below w.heap.size w W
variable {w W V : World} {gl gs n : Nat} {sv : Bool → Value} {v : Value} {pl : List Pl} {g : Rg}
theorem Rm.below (h : Rm w W gl gs sv v pl g n) (hb : Below W.heap.size W V) : Rm w V gl gs sv v pl g n :=
  ⟨(hb.block _ (heap_lt h.lb)).trans h.lb, (hb.block _ (heap_lt h.sb)).trans h.sb, fun s => (h.row s).below hb, h.len, h.ap, h.own, h.wt.below hb, h.wo, h.wl, h.fw, h.gl, h.gs, h.bel.trans (hb.mono h.bel.size)⟩
theorem Rm.more (h : Rm w W gl gs sv v pl g n) {m : Nat} (hm : n ≤ m) : Rm w W gl gs sv v pl g m :=
  ⟨h.lb, h.sb, h.row, fun s => Nat.le_trans (h.len s) hm, h.ap, h.own, h.wt, h.wo, Nat.le_trans h.wl hm, h.fw, h.gl, h.gs, h.bel⟩
theorem wi_set (s : Bool) (a b x : Value) : (#[a, b] : Array Value).setIfInBounds (wi s) x = #[if s = false then x else a, if s = true then x else b] := by cases s <;> rfl
theorem wi_get (s : Bool) (f : Bool → Value) : (#[f false, f true] : Array Value)[wi s]? = some (f s) := by cases s <;> rfl
/-- another number in left -/
theorem Rm.left (h : Rm w W gl gs sv v pl g n) (s : Bool) (x : Int) : (W.cell? ⟨gl, wi s, none⟩ = some (.int .i64 (g.left s)) ∧ W.frozen? ⟨gl, wi s, none⟩ = false ∧ gl < W.heap.size) ∧ Rm w (W.setCell ⟨gl, wi s, none⟩ (.int .i64 x)) gl gs sv v pl { g with left := fun t => if t = s then x else g.left t } n := by
  have o : ∀ {k : Nat} {cc : Array Value} {t : TypeId} {fz : Nat × Nat}, W.heap[k]? = some (.cells cc t fz) → t ≠ 35 → (W.setCell ⟨gl, wi s, none⟩ (.int .i64 x)).heap[k]? = W.heap[k]? := fun hk ht => setCell_other _ _ _ _ _ (ty_ne hk h.lb ht)
  refine ⟨⟨?_, frozen_blk h.lb _, heap_lt h.lb⟩, ?_, (o h.sb (by decide)).trans h.sb, fun t => (h.row t).stays fun k hk _ => ?_, h.len, h.ap, h.own, h.wt.same fun k hk => ?_, h.wo, h.wl, h.fw, h.gl, h.gs, h.bel.trans ((Ks.setCell (fun i => i = gl) W gl _ _ rfl).below h.bel.size fun i hi e => ?_)⟩
  · rw [cell_blk h.lb]
    exact wi_get s fun t => .int .i64 (g.left t)
  · rw [setCell_block _ _ _ _ _ _ _ h.lb, wi_set]
    cases s <;> rfl
  · obtain ⟨cc, hc⟩ := (h.row t).ty k hk
    exact o hc (by decide)
  · obtain ⟨_, cc, hc⟩ := h.wt.lt k hk
    exact o hc (by decide)
  · have := h.gl
    omega
theorem Rm.shc (h : Rm w W gl gs sv v pl g n) (s : Bool) : W.cell? ⟨gs, wi s, none⟩ = some (sv s) ∧ W.frozen? ⟨gs, wi s, none⟩ = false ∧ gs < W.heap.size := by
  refine ⟨?_, frozen_blk h.sb _, heap_lt h.sb⟩
  rw [cell_blk h.sb]
  exact wi_get s sv
/-- one reset more -/
theorem Rm.shut (h : Rm w W gl gs sv v pl g n) (s : Bool) (x : Int) {u : Value} (hG : Gr W V (sv s) u) (hR : R EI V u (g.sh s ++ [x])) : V.frozen? ⟨gs, wi s, none⟩ = false ∧ Rm w (V.setCell ⟨gs, wi s, none⟩ u) gl gs (fun t => if t = s then u else sv t) v pl { g with sh := fun t => if t = s then g.sh t ++ [x] else g.sh t } (n + 1) := by
  have o1 : ∀ {k : Nat} {cc : Array Value} {t : TypeId} {fz : Nat × Nat}, W.heap[k]? = some (.cells cc t fz) → t ≠ 2 → V.heap[k]? = W.heap[k]? := fun hk ht => hG.block _ (heap_lt hk) fun e => by
    obtain ⟨cc, hc⟩ := (h.row s).ty _ e
    exact ty_ne hk hc ht rfl
  have hsb : V.heap[gs]? = _ := (o1 h.sb (by decide)).trans h.sb
  have o2 : ∀ {k : Nat} {cc : Array Value} {t : TypeId} {fz : Nat × Nat}, V.heap[k]? = some (.cells cc t fz) → t ≠ 37 → (V.setCell ⟨gs, wi s, none⟩ u).heap[k]? = V.heap[k]? := fun hk ht => setCell_other _ _ _ _ _ (ty_ne hk hsb ht)
  have rowt : ∀ t, t ≠ s → R EI V (sv t) (g.sh t) := fun t ht => (h.row t).stays fun k hk hl => hG.block k hl fun e => by
    cases t <;> cases s
    · exact ht rfl
    · exact h.ap k hk e
    · exact h.ap k e hk
    · exact ht rfl
  have hbs : Below w.heap.size W V := hG.belowB h.bel.size fun k hk => h.own s k hk
  have uo : ∀ k, u.ownBlock = some k → w.heap.size ≤ k := fun k hk => (hG.own k hk).elim (h.own s k) fun e => Nat.le_trans h.bel.size e
  have uap : ∀ t, t ≠ s → ∀ k, u.ownBlock = some k → (sv t).ownBlock ≠ some k := fun t ht k hk e => (hG.own k hk).elim (fun e2 => by
    cases t <;> cases s
    · exact ht rfl
    · exact h.ap k e e2
    · exact h.ap k e2 e
    · exact ht rfl) fun e2 => by
      have := (h.row t).lt k e
      omega
  refine ⟨frozen_blk hsb _, (o2 ((o1 h.lb (by decide)).trans h.lb) (by decide)).trans ((o1 h.lb (by decide)).trans h.lb), ?_, fun t => ?_, fun t => ?_, ?_, fun t => ?_, h.wt.same fun k hk => ?_, h.wo, Nat.le_succ_of_le h.wl, h.fw, h.gl, h.gs, h.bel.trans (hbs.trans ((Ks.setCell (fun i => i = gs) V gs _ _ rfl).below (Nat.le_trans h.bel.size hG.size) fun i hi e => ?_))⟩
  · rw [setCell_block _ _ _ _ _ _ _ hsb, wi_set]
    cases s <;> rfl
  · simp only
    split
    · rename_i ht
      subst ht
      exact hR.stays fun k hk _ => by
        obtain ⟨cc, hc⟩ := hR.ty k hk
        exact o2 hc (by decide)
    · rename_i ht
      exact (rowt t ht).stays fun k hk _ => by
        obtain ⟨cc, hc⟩ := (rowt t ht).ty k hk
        exact o2 hc (by decide)
  · show (if t = s then g.sh t ++ [x] else g.sh t).length ≤ n + 1
    have := h.len t
    split
    · rw [List.length_append, List.length_singleton]
      omega
    · omega
  · cases s
    · exact fun k hk => uap true (by decide) k hk
    · exact fun k hk e => uap false (by decide) k e hk
  · intro k hk
    have hk' : (if t = s then u else sv t).ownBlock = some k := hk
    split at hk'
    · exact uo k hk'
    · exact h.own t k hk'
  · obtain ⟨_, cc, hc⟩ := h.wt.lt k hk
    have e1 := o1 hc (by decide)
    exact (o2 (e1.trans hc) (by decide)).trans e1
  · have := h.gs
    omega
/-- one list more waits -/
theorem Rm.push (h : Rm w W gl gs sv v pl g n) {u : Value} {p : Pl} {l : List (Int × Int)} (hG : Gr W V v u) (hR : WPl V u (pl ++ [p])) (hp : In EP w (sp p) l) (hl : l.length ≤ 1099511627776) : Rm w V gl gs sv u (pl ++ [p]) { g with wait := g.wait ++ [l] } (n + 1) := by
  have o1 : ∀ {k : Nat} {cc : Array Value} {t : TypeId} {fz : Nat × Nat}, W.heap[k]? = some (.cells cc t fz) → t ≠ 29 → V.heap[k]? = W.heap[k]? := fun hk ht => hG.block _ (heap_lt hk) fun e => by
    obtain ⟨_, cc, hc⟩ := h.wt.lt _ e
    exact ty_ne hk hc ht rfl
  exact ⟨(o1 h.lb (by decide)).trans h.lb, (o1 h.sb (by decide)).trans h.sb, fun t => (h.row t).stays fun k hk _ => by
    obtain ⟨cc, hc⟩ := (h.row t).ty k hk
    exact o1 hc (by decide), fun s => Nat.le_succ_of_le (h.len s), h.ap, h.own, hR, fun k hk => (hG.own k hk).elim (h.wo k) fun e => Nat.le_trans h.bel.size e, by simp; exact h.wl, h.fw.snoc hp hl, h.gl, h.gs, h.bel.trans (hG.belowB h.bel.size h.wo)⟩
/-- the first list goes -/
theorem Rm.pop (h : Rm w W gl gs sv v pl g n) {l : List (Int × Int)} {L : List (List (Int × Int))} (hw : g.wait = l :: L) (q : Int) : ∃ p P b off cap, pl = p :: P ∧ v = .slice (some ⟨b, off, none⟩) (P.length + 1) cap ∧ P.length + 1 ≤ cap ∧ cap ≤ 9223372036854775807 ∧ W.cell? ⟨b, off, none⟩ = some (sp p) ∧ b < W.heap.size ∧ In EP w (sp p) l ∧ l.length ≤ 1099511627776 ∧
    (cap = 1 → Rm w W gl gs sv (.slice (some ⟨b, off, none⟩) P.length (cap - 1)) P { g with push := q, wait := L } n) ∧ (cap ≠ 1 → Rm w W gl gs sv (.slice (some ⟨b, off + 1, none⟩) P.length (cap - 1)) P { g with push := q, wait := L } n) := by
  have hf := h.fw
  rw [hw] at hf
  cases pl with
  | nil => simp [Fw] at hf
  | cons p P =>
    obtain ⟨b, off, cap, hv, h1, h2, h3, h4, h5, h6⟩ := h.wt.first
    subst hv
    have hwl := h.wl
    simp only [List.length_cons] at hwl
    exact ⟨p, P, b, off, cap, rfl, rfl, h1, h2, h3, h4, hf.1.1, hf.1.2, fun e => ⟨h.lb, h.sb, h.row, h.len, h.ap, h.own, h5 e, h.wo, by omega, hf.2, h.gl, h.gs, h.bel⟩, fun e => ⟨h.lb, h.sb, h.row, h.len, h.ap, h.own, h6 e, h.wo, by omega, hf.2, h.gl, h.gs, h.bel⟩⟩
end Go.Proofs.YtfmljlflnpmceaaGreatDoor
