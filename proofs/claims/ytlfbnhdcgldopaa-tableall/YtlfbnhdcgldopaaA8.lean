/- slices.Insert at the front of a row of entries. -/
import Derived.Test.YtlfbnhdcgldopaaA5
import Derived.Lib.AppendZerosOnto
import Derived.Lib.JoinLaws
import Derived.Lib.Overlaps
import Derived.Laws.Externs
import Derived.Laws.NewBlocks
namespace Go.Proofs.Ytlfbnhdcgldopaa
open Go.RowKit Go.Shelf Go.Lib

/-- copy(d, s) on rows of entries. -/
theorem run_copy_e (w : World) (ty g o dLen dCap : Nat) (a : Addr) (sLen sCap : Nat) (cur : Array Value) (cs : List Value)
    (hg : w.heap[g]? = some (.cells cur 64 (0, 0))) (hn : cs.length = Nat.min sLen dLen * 2)
    (hsrc : ∀ j v, cs[j]? = some v → w.cell? (a.add j) = some v) (hfit : o + cs.length ≤ cur.size) (h1 : ∀ v ∈ cs, v.oneCell' = true) :
    (Builtin.copy_ #[60, 60] ty #[.slice (some ⟨g, o, none⟩) dLen dCap, .slice (some a) sLen sCap]).run Try.prog w =
      .ok (goInt (Nat.min sLen dLen)) (w.setRow g (cur.toList.take o ++ cs ++ cur.toList.drop (o + cs.length)).toArray) := by
  have hl := run_loadCells_list (P := Try.prog) w a cs hsrc
  have hst := run_storeCells_at Try.prog g o 64 cs 0 cur w hg (by simpa using hfit) h1
  rw [hn] at hl hst
  rw [hn]
  simp [Builtin.copy_, run_underlying Try.underlying60, Builtin.lenOf, Builtin.firstCells, Try.sizeOf64, hl, hst]

theorem step_copy_e {ops : Array Oper} {o : Oper} {a : Act} {w : World} {K : Act → World → Prop} {Q : Exit → Act → World → Prop} {R : Prop}
    (hg : o.guard = none) (d x : Operand) (hop : o.op = Op.call { callee := Callee.builtin Builtin.copy, args := #[d, x], argTypes := #[60, 60] })
    (v u : Value) (hd : a.eval d = v) (hx : a.eval x = u) {v' : Value} {w' : World} (hr : (Builtin.copy_ #[60, 60] o.type #[v, u]).run Try.prog w = .ok v' w') (hK : K (a.put o.dst v') w') :
    if Region.wanted o (yielded ops a.tmps) = true then Oper.wp Try.prog o a w K Q else R := by
  have hw : Region.wanted o (yielded ops a.tmps) = true := by simp [Region.wanted, hg]
  rw [if_pos hw]
  unfold Oper.wp
  simp [execOp, hop, resolve, invoke, builtin, hd, hx, hr, Result.andThen]
  exact hK

theorem wpList_copy_e (w : World) {ops : Array Oper} {rest : List Oper} {o : Oper} {a : Act} {Q : Exit → Act → World → Prop} (hgd : o.guard = none) (d s : Operand)
    (ho : o.op = .call { callee := .builtin .copy, args := #[d, s], argTypes := #[60, 60] }) (v u : Value) (hd : a.eval d = v) (hs : a.eval s = u) {v' : Value} {w' : World}
    (hr : (Builtin.copy_ #[60, 60] o.type #[v, u]).run Try.prog w = .ok v' w') (h : wpList Try.prog ops Q rest (a.put o.dst v') w') : wpList Try.prog ops Q (o :: rest) a w :=
  wpList_plain hgd fun _ hK => by
    unfold Oper.wp execOp
    simp only [ho, resolve, invoke, builtin, Sem.run_bind, Sem.run_pure, Result.andThen_ok, List.map_toArray, List.map_cons, List.map_nil, hd, hs, hr]
    exact hK _ _ h

theorem two_cells {w : World} {vb : Nat} {x y : Value} (hv : w.heap[vb]? = some (.cells #[x, y] 64 (0, 0))) : ∀ j u, [x, y][j]? = some u → w.cell? ((⟨vb, 0, none⟩ : Addr).add j) = some u := by
  intro j u hu
  rw [Addr.add_lit, cell_of_row _ _ _ _ _ _ hv, Nat.zero_add]
  simpa using hu

section
variable (w : World) (x y : ByteArray) (vb : Nat)

set_option maxHeartbeats 1000000 in
set_option maxRecDepth 100000 in
/-- No entry yet, and room for one. -/
theorem insert_first_room (g cap : Nat) (cur : Array Value) (hg : w.heap[g]? = some (.cells cur 64 (0, 0))) (hcs : cur.size = cap * 2) (hcap : 0 < cap) (hc : cap ≤ 9223372036854775807)
    (hv : w.heap[vb]? = some (.cells #[.string x, .string y] 64 (0, 0))) :
    Calls Try.prog 29 #[.slice (some ⟨g, 0, none⟩) 0 cap, .int .i64 0, .slice (some ⟨vb, 0, none⟩) 1 1] w fun e w' => e = .returned (.slice (some ⟨g, 0, none⟩) 1 cap) ∧
      w' = w.setRow g ([Value.string x, Value.string y] ++ cur.toList.drop 2).toArray := by
  obtain ⟨i0, hi0, hz0, hz1, hz2⟩ := info_parts info64
  have hrun : ∀ ty, (Builtin.append_ #[60, 60] ty #[.slice (some ⟨g, 0, none⟩) 0 cap, .slice (some ⟨vb, 0, none⟩) 1 1]).run Try.prog w = .ok (.slice (some ⟨g, 0, none⟩) 1 cap) (w.setRow g ([Value.string x, Value.string y] ++ cur.toList.drop 2).toArray) := fun ty => by
    have h := run_append_room (P := Try.prog) w 60 ty 64 i0 Try.underlying60 hi0 g 0 cap cur hg ⟨vb, 0, none⟩ 1 1 [Value.string x, Value.string y] (by rw [hz1]; rfl) (two_cells hv) (by simp [Value.oneCell']) (by omega) (by rw [hz1, hcs]; simp; omega)
    simpa using h
  go_enter Try.func29, Try.ntmps29
  go_wp2_with (at_builtin; refine Lib.wpList_append_run _ rfl _ _ _ _ rfl _ _ rfl rfl _ _ (hrun _) ?_)
  all_goals
    go_ret
    exact ⟨rfl, rfl⟩

set_option maxHeartbeats 1000000 in
set_option maxRecDepth 100000 in
/-- No entry yet, and no room. -/
theorem insert_first_grow (base : Option Addr) (hv : w.heap[vb]? = some (.cells #[.string x, .string y] 64 (0, 0))) :
    Calls Try.prog 29 #[.slice base 0 0, .int .i64 0, .slice (some ⟨vb, 0, none⟩) 1 1] w fun e w' => e = .returned (.slice (some ⟨w.heap.size, 0, none⟩) 1 (grownCap w 1 0 64)) ∧
      w' = w.drew.alloc (.cells ([Value.string x, Value.string y].toArray ++ Builtin.zeroCells #[.string ⟨#[]⟩, .string ⟨#[]⟩] (grownCap w 1 0 64 - 1)) 64) := by
  obtain ⟨i0, hi0, hz0, hz1, hz2⟩ := info_parts info64
  have hsrc : Src Try.prog i0.size 60 (.slice (some ⟨vb, 0, none⟩) 1 1) 1 [Value.string x, Value.string y] w := Src.ofSlice w Try.underlying60 ⟨vb, 0, none⟩ 1 1 _ (by rw [hz1]; rfl) (two_cells hv) (by simp [Value.oneCell'])
  have hold : (Builtin.firstCells i0.size 0 (.slice base 0 0)).run Try.prog w.drew = .ok ([] : List Value).toArray w.drew := by
    cases base with
    | none => exact run_firstCells_none w.drew _ 0 0 0
    | some a => exact run_firstCells_some w.drew _ 0 a 0 0 [] (by simp) (by simp)
  have hrun : ∀ ty, (Builtin.append_ #[60, 60] ty #[.slice base 0 0, .slice (some ⟨vb, 0, none⟩) 1 1]).run Try.prog w = .ok (.slice (some ⟨w.heap.size, 0, none⟩) 1 (grownCap w 1 0 64)) (w.drew.alloc (.cells ([Value.string x, Value.string y].toArray ++ Builtin.zeroCells #[.string ⟨#[]⟩, .string ⟨#[]⟩] (grownCap w 1 0 64 - 1)) 64)) := fun ty => by
    have h := run_append_grow_src w 60 60 ty 64 i0 _ Try.underlying60 hi0 hz0 base 0 0 [] hold _ 1 _ hsrc (by omega) (by omega) (by rw [hz2]; exact growslice_fits (by omega) (by omega))
    simpa [Value.cells] using h
  generalize w.drew.alloc (.cells ([Value.string x, Value.string y].toArray ++ Builtin.zeroCells #[.string ⟨#[]⟩, .string ⟨#[]⟩] (grownCap w 1 0 64 - 1)) 64) = W1 at hrun ⊢
  generalize grownCap w 1 0 64 = G at hrun ⊢
  cases base with
  | none =>
    go_enter Try.func29, Try.ntmps29
    go_wp2_with (at_builtin; refine Lib.wpList_append_run _ rfl _ _ _ _ rfl _ _ rfl rfl _ _ (hrun _) ?_)
    all_goals
      go_ret
      exact ⟨rfl, rfl⟩
  | some a =>
    obtain ⟨ab, ao, asp⟩ := a
    go_enter Try.func29, Try.ntmps29
    go_wp2_with (at_builtin; refine Lib.wpList_append_run _ rfl _ _ _ _ rfl _ _ rfl rfl _ _ (hrun _) ?_)
    all_goals
      go_ret
      exact ⟨rfl, rfl⟩

theorem overlaps_no (a c lb cb : Nat) (W : World) (hne : vb ≠ a) (hv : W.heap[vb]? = some (.cells #[.string x, .string y] 64 (0, 0))) (cur : Array Value) (ha : W.heap[a]? = some (.cells cur 64 (0, 0))) (hcs : cur.size ≠ 0) :
    (callFunc 44 #[.slice (some ⟨vb, 0, none⟩) 1 1, .slice (some ⟨a, c, none⟩) lb cb]).run Try.prog W = .ok (.value (.bool false)) W := by
  rw [run_callFunc_extern Try.func44 (by kernel_rfl) (by kernel_rfl) (by kernel_rfl) (e := Extern.SlicesOverlaps.overlaps #[60, 60] #[4]) (by kernel_rfl),
    Lib.run_overlaps_apart W 60 4 64 Try.underlying60 2 Try.sizeOf64 ⟨vb, 0, none⟩ ⟨a, c, none⟩ 1 1 lb cb hne 64 64 2 cur.size (by unfold World.shape?; rw [hv]; rfl) (by unfold World.shape?; rw [ha]) hcs (by simp [World.frozen?, hv]) (by simp [World.frozen?, hv])]
  rfl

set_option maxHeartbeats 4000000 in
set_option maxRecDepth 100000 in
/-- Some entries, and room for one more. -/
theorem insert_shift (g n cap : Nat) (cur : Array Value) (cs : List Value) (hg : w.heap[g]? = some (.cells cur 64 (0, 0))) (hcs : cur.size = cap * 2) (hn : 0 < n) (hroom : n + 1 ≤ cap) (hc : cap ≤ 9223372036854775807)
    (hv : w.heap[vb]? = some (.cells #[.string x, .string y] 64 (0, 0))) (hne : vb ≠ g) (hcl : cs.length = n * 2) (htk : cur.toList.take (n * 2) = cs) (h1 : ∀ v ∈ cs, v.oneCell' = true) :
    Calls Try.prog 29 #[.slice (some ⟨g, 0, none⟩) n cap, .int .i64 0, .slice (some ⟨vb, 0, none⟩) 1 1] w fun e w' => e = .returned (.slice (some ⟨g, 0, none⟩) (n + 1) cap) ∧
      ∃ X : Array Value, w' = (w.drew.setRow g X).setRow g ([Value.string x, Value.string y] ++ X.toList.drop 2).toArray ∧ X = (cur.toList.take 2 ++ cs ++ cur.toList.drop (2 + n * 2)).toArray := by
  have hov : ∀ lb cb, (callFunc 44 #[.slice (some ⟨vb, 0, none⟩) 1 1, .slice (some ⟨g, 2, none⟩) lb cb]).run Try.prog w = .ok (.value (.bool false)) w := fun lb cb => overlaps_no x y vb g 2 lb cb w hne hv cur hg (by omega)
  obtain ⟨X, hX⟩ : ∃ X : Array Value, X = (cur.toList.take 2 ++ cs ++ cur.toList.drop (2 + n * 2)).toArray := ⟨_, rfl⟩
  have hXs : X.size = cap * 2 := by rw [hX]; simp [hcl, hcs]; omega
  have hcp1 : ∀ ty dc sc, (Builtin.copy_ #[60, 60] ty #[.slice (some ⟨g, 2, none⟩) n dc, .slice (some ⟨g, 0, none⟩) (n + 1) sc]).run Try.prog w.drew = .ok (goInt (Nat.min (n + 1) n)) (w.drew.setRow g X) := fun ty dc sc => by
    have h := run_copy_e w.drew ty g 2 n dc ⟨g, 0, none⟩ (n + 1) sc cur cs hg (by rw [hcl, show Nat.min (n + 1) n = n from Nat.min_eq_right (by omega)]) (fun j v hj => by
      rw [Addr.add_lit, cell_of_row _ _ _ _ _ _ (show w.drew.heap[g]? = _ from hg), Nat.zero_add]
      rw [← htk, List.getElem?_take] at hj
      split at hj
      · simpa using hj
      · cases hj) (by rw [hcl]; omega) h1
    rw [hcl, ← hX] at h
    exact h
  have hgX : (w.drew.setRow g X).heap[g]? = some (.cells X 64 (0, 0)) := setRow_heap _ _ cur _ 64 (0, 0) hg
  have hvX : (w.drew.setRow g X).heap[vb]? = some (.cells #[.string x, .string y] 64 (0, 0)) := (setRow_other _ _ _ _ hne).trans hv
  have hcp2 : ∀ ty dc, (Builtin.copy_ #[60, 60] ty #[.slice (some ⟨g, 0, none⟩) (n + 1) dc, .slice (some ⟨vb, 0, none⟩) 1 1]).run Try.prog (w.drew.setRow g X) = .ok (goInt (Nat.min 1 (n + 1))) ((w.drew.setRow g X).setRow g ([Value.string x, Value.string y] ++ X.toList.drop 2).toArray) := fun ty dc => by
    have h := run_copy_e (w.drew.setRow g X) ty g 0 (n + 1) dc ⟨vb, 0, none⟩ 1 1 X [Value.string x, Value.string y] hgX (by rw [show Nat.min 1 (n + 1) = 1 from Nat.min_eq_left (by omega)]; rfl) (two_cells hvX) (by simp; omega) (by simp [Value.oneCell'])
    simpa using h
  refine Calls.mono (R := fun e w' => e = .returned (.slice (some ⟨g, 0, none⟩) (n + 1) cap) ∧ w' = (w.drew.setRow g X).setRow g ([Value.string x, Value.string y] ++ X.toList.drop 2).toArray) ?_ (fun e w' h => ⟨h.1, X, h.2, hX⟩)
  generalize ([Value.string x, Value.string y] ++ X.toList.drop 2).toArray = Y at hcp2 ⊢
  clear hX hgX hvX htk
  have hw1 : IntKind.i64.wrap 1 = 1 := by rw [IntKind.wrap_i64]; omega
  have hz2 : ¬ ((0 : Int) = (n : Int)) := by omega
  have hz3 : (1 : Int) ≤ (n : Int) + 1 := by omega
  have hz4 : (0 : Int) ≤ (n : Int) + 1 := by omega
  have hb2 : ¬ (cap = 1) := by omega
  have hb4 : ¬ (cap = 0) := by omega
  go_enter Try.func29, Try.ntmps29
  go_wp2_with (simp only [hov])
  go_region_law (refine step_copy_e rfl _ _ rfl _ _ (by simp [Act.eval, Act.put]) (by simp [Act.eval, Act.put]) (hcp1 _ _ _) ?_)
  go_wp2_with (at_builtin; refine wpList_copy_e _ rfl _ _ rfl _ _ rfl rfl (hcp2 _ _) ?_)
  go_ret
  exact ⟨rfl, rfl⟩

set_option maxHeartbeats 4000000 in
set_option maxRecDepth 100000 in
/-- Some entries, and no room. -/
theorem insert_grow (g n cap : Nat) (cur : Array Value) (cs : List Value) (hg : w.heap[g]? = some (.cells cur 64 (0, 0))) (hn : 0 < n) (hnc : n ≤ cap) (hroom : cap < n + 1) (hbig : n ≤ 4096)
    (hv : w.heap[vb]? = some (.cells #[.string x, .string y] 64 (0, 0))) (hcl : cs.length = n * 2) (htk : cur.toList.take (n * 2) = cs) (h1 : ∀ v ∈ cs, v.oneCell' = true) :
    Calls Try.prog 29 #[.slice (some ⟨g, 0, none⟩) n cap, .int .i64 0, .slice (some ⟨vb, 0, none⟩) 1 1] w fun e w' => ∃ (G : Nat) (T : List Value), e = .returned (.slice (some ⟨w.heap.size, 0, none⟩) (n + 1) G) ∧ n + 1 ≤ G ∧ G ≤ maxLen ∧
      w'.heap[w.heap.size]? = some (.cells (Value.string x :: Value.string y :: cs ++ T).toArray 64 (0, 0)) ∧ (n + 1) * 2 + T.length = G * 2 ∧ w.grownBy w' none := by
  obtain ⟨i0, hi0, hz0, hz1, hz2⟩ := info_parts info64
  obtain ⟨G, hG⟩ : ∃ G, G = grownCap w (n + 1) cap 64 := ⟨_, rfl⟩
  have hGn : n + 1 ≤ G := by rw [hG]; exact grownCap_ge w _ _ _
  have hGm : G ≤ maxLen := by rw [hG]; exact grownCap_le_maxLen w (n + 1) cap 64 (by unfold maxLen; omega)
  obtain ⟨ROW, hROW⟩ : ∃ ROW : Array Value, ROW = ([] : List Value).toArray ++ Builtin.zeroCells (Value.agg #[.string ⟨#[]⟩, .string ⟨#[]⟩]).cells (n + 1) ++ Builtin.zeroCells (Value.agg #[.string ⟨#[]⟩, .string ⟨#[]⟩]).cells (G - (n + 1)) := ⟨_, rfl⟩
  have hRs : ROW.size = G * 2 := by rw [hROW]; simp [Builtin.zeroCells, Value.cells]; omega
  have hrz : ∀ ty, (Builtin.append_ #[60, 3] ty #[.slice (some ⟨g, 0, none⟩) 0 cap, .int .i64 ((n : Int) + 1)]).run Try.prog w = .ok (.slice (some ⟨w.heap.size, 0, none⟩) (n + 1) G) (w.drew.alloc (.cells ROW 64)) := fun ty => by
    have h := Lib.run_append_grow_zeros (P := Try.prog) w 60 3 ty 64 i0 _ .i64 .i64 Try.underlying60 Try.underlying3 hi0 hz0 (some ⟨g, 0, none⟩) 0 cap [] (run_firstCells_some w.drew _ 0 _ 0 cap [] (by simp) (by simp)) (n + 1) (by omega) (by omega) (by omega) (by omega) (by rw [hz2]; omega) (by rw [hz2]; exact growslice_fits (by omega) (by omega))
    rw [Nat.zero_add, ← hG, ← hROW] at h
    simpa using h
  have hgl : g < w.heap.size := (Array.getElem?_eq_some_iff.1 hg).1
  have hvl : vb < w.heap.size := (Array.getElem?_eq_some_iff.1 hv).1
  obtain ⟨N, hN⟩ : ∃ N, N = w.heap.size := ⟨_, rfl⟩
  obtain ⟨W1, hW1⟩ : ∃ W1, W1 = w.drew.alloc (.cells ROW 64) := ⟨_, rfl⟩
  have hR1 : W1.heap[N]? = some (.cells ROW 64 (0, 0)) := by rw [hW1, hN]; exact heap_alloc_new w.drew _
  have hg1 : W1.heap[g]? = some (.cells cur 64 (0, 0)) := by rw [hW1]; exact (heap_alloc_old w.drew _ hgl).trans hg
  have hv1 : W1.heap[vb]? = some (.cells #[.string x, .string y] 64 (0, 0)) := by rw [hW1]; exact (heap_alloc_old w.drew _ hvl).trans hv
  have hk1 : w.grownBy W1 none := by rw [hW1]; exact ⟨rfl, rfl, rfl, by simp, fun k hk _ => heap_alloc_old w.drew _ hk⟩
  rw [← hW1, ← hN] at hrz
  obtain ⟨Y, hY⟩ : ∃ Y : Array Value, Y = ([Value.string x, Value.string y] ++ ROW.toList.drop 2).toArray := ⟨_, rfl⟩
  have hYs : Y.size = G * 2 := by rw [hY]; simp [hRs]; omega
  obtain ⟨W2, hW2⟩ : ∃ W2, W2 = W1.setRow N Y := ⟨_, rfl⟩
  have hcpA : ∀ ty, (Builtin.copy_ #[60, 60] ty #[.slice (some ⟨N, 0, none⟩) (n + 1) G, .slice (some ⟨vb, 0, none⟩) 1 1]).run Try.prog W1 = .ok (goInt (Nat.min 1 (n + 1))) W2 := fun ty => by
    have h := run_copy_e W1 ty N 0 (n + 1) G ⟨vb, 0, none⟩ 1 1 ROW [Value.string x, Value.string y] hR1 (by rw [show Nat.min 1 (n + 1) = 1 from Nat.min_eq_left (by omega)]; rfl) (two_cells hv1) (by simp; omega) (by simp [Value.oneCell'])
    rw [hW2, hY]
    simpa using h
  have hR2 : W2.heap[N]? = some (.cells Y 64 (0, 0)) := by rw [hW2]; exact setRow_heap _ _ ROW _ 64 (0, 0) hR1
  have hg2 : W2.heap[g]? = some (.cells cur 64 (0, 0)) := by rw [hW2, setRow_other _ _ _ _ (by omega)]; exact hg1
  have hk2 : w.grownBy W2 none := by rw [hW2]; exact ⟨hk1.os, hk1.tape, hk1.output, by simpa using hk1.size, fun k hk hs => by rw [setRow_other _ _ _ _ (by omega)]; exact hk1.block k hk hs⟩
  obtain ⟨W3, hW3⟩ : ∃ W3, W3 = W2.drew.setRow N (Y.toList.take 2 ++ cs ++ Y.toList.drop (2 + n * 2)).toArray := ⟨_, rfl⟩
  have hcpB : ∀ ty dc sc, (Builtin.copy_ #[60, 60] ty #[.slice (some ⟨N, 2, none⟩) n dc, .slice (some ⟨g, 0, none⟩) n sc]).run Try.prog W2.drew = .ok (goInt (Nat.min n n)) W3 := fun ty dc sc => by
    have h := run_copy_e W2.drew ty N 2 n dc ⟨g, 0, none⟩ n sc Y cs hR2 (by rw [hcl, show Nat.min n n = n from Nat.min_self n]) (fun j v hj => by
      rw [Addr.add_lit, cell_of_row _ _ _ _ _ _ (show W2.drew.heap[g]? = _ from hg2), Nat.zero_add]
      rw [← htk, List.getElem?_take] at hj
      split at hj
      · simpa using hj
      · cases hj) (by rw [hcl]; omega) h1
    rw [hcl, ← hW3] at h
    exact h
  have hR3 : W3.heap[N]? = some (.cells (Value.string x :: Value.string y :: cs ++ Y.toList.drop (2 + n * 2)).toArray 64 (0, 0)) := by
    rw [hW3]
    exact (setRow_heap W2.drew N Y _ 64 (0, 0) hR2).trans (by rw [hY]; simp)
  have hk3 : w.grownBy W3 none := by rw [hW3]; exact ⟨hk2.os, hk2.tape, hk2.output, by simpa using hk2.size, fun k hk hs => by rw [setRow_other _ _ _ _ (by omega)]; exact hk2.block k hk hs⟩
  have hTl : (n + 1) * 2 + (Y.toList.drop (2 + n * 2)).length = G * 2 := by rw [List.length_drop, Array.length_toList, hYs]; omega
  refine Calls.mono (R := fun e w' => e = .returned (.slice (some ⟨N, 0, none⟩) (n + 1) G) ∧ w' = W3) ?_ (fun e w' h => ⟨G, _, by rw [← hN]; exact h.1, hGn, hGm, by rw [h.2, ← hN]; exact hR3, hTl, by rw [h.2]; exact hk3⟩)
  have hw1 : IntKind.i64.wrap 1 = 1 := by rw [IntKind.wrap_i64]; omega
  have hz2' : ¬ ((0 : Int) = (n : Int)) := by omega
  have hz3 : (cap : Int) < (n : Int) + 1 := by omega
  have hz4 : (0 : Int) ≤ (n : Int) + 1 := by omega
  have hz5 : (1 : Int) ≤ (n : Int) + 1 := by omega
  have hb1 : ¬ (G = 1) := by omega
  have hb2 : ¬ (G = 0) := by omega
  have hb3 : ¬ (cap = 0) := by omega
  have hG63 : G ≤ 9223372036854775807 := by unfold maxLen at hGm; omega
  clear hG hROW hRs hW1 hR1 hg1 hv1 hk1 hY hYs hW2 hR2 hg2 hk2 hW3 hR3 hk3 hTl htk hN hGm
  go_enter Try.func29, Try.ntmps29
  go_wp2_with (at_builtin; first | refine Lib.wpList_append_run _ rfl _ _ _ _ rfl _ _ rfl rfl _ _ (hrz _) ?_ | refine wpList_copy_e _ rfl _ _ rfl _ _ rfl rfl (hcpA _) ?_)
  go_region_law (refine step_copy_e rfl _ _ rfl _ _ (by simp [Act.eval, Act.put]) (by simp [Act.eval, Act.put]) (hcpB _ _ _) ?_)
  go_wp2
  go_ret
  exact ⟨rfl, rfl⟩

end

/-- slices.Insert(s, 0, e): the row with e ahead, where it was or new. -/
theorem insert_any (w : World) (v : Value) (es : List E) (e : E) (vb : Nat) (hown : w.ownsRow 0 64 2 v es.length (cellsOf es)) (hlen : es.length ≤ 4096)
    (hv : w.heap[vb]? = some (.cells #[.string e.1, .string e.2] 64 (0, 0))) (hne : v.ownBlock ≠ some vb) :
    Calls Try.prog 29 #[v, .int .i64 0, .slice (some ⟨vb, 0, none⟩) 1 1] w fun r w' => ∃ base' cap', r = .returned (.slice base' (es.length + 1) cap') ∧ w'.ownsRow 0 64 2 (.slice base' (es.length + 1) cap') (es.length + 1) (cellsOf (e :: es)) ∧
      (∀ k, (Value.slice base' (es.length + 1) cap').ownBlock = some k → v.ownBlock = some k ∨ w.heap.size ≤ k) ∧ w.grownBy w' v.ownBlock := by
  have hl2 : (cellsOf (e :: es)).length = (es.length + 1) * 2 := by rw [length_cellsOf]; rfl
  have mk : ∀ (w' : World) (g cap : Nat) (T : List Value), w'.heap[g]? = some (.cells (cellsOf (e :: es) ++ T).toArray 64 (0, 0)) → es.length + 1 ≤ cap → cap ≤ maxLen → (es.length + 1) * 2 + T.length = cap * 2 →
      w'.ownsRow 0 64 2 (.slice (some ⟨g, 0, none⟩) (es.length + 1) cap) (es.length + 1) (cellsOf (e :: es)) := fun w' g cap T h1 h2 h3 h4 =>
    ⟨hl2, .inr ⟨g, cap, _, rfl, Nat.zero_le _, h1, h2, h3, by simp [hl2]; omega, by rw [List.toList_toArray, List.take_append_of_le_length (by omega), List.take_of_length_le (by omega)]⟩⟩
  rcases hown.2 with ⟨rfl, hn⟩ | ⟨g, cap, cur, rfl, _, hg, hc, hm, hs, htk⟩
  · obtain rfl : es = [] := List.length_eq_zero_iff.1 hn
    refine (insert_first_grow w e.1 e.2 vb none hv).mono ?_
    rintro r w' ⟨rfl, rfl⟩
    have hG := grownCap_ge w 1 0 64
    refine ⟨_, _, rfl, mk _ _ _ _ (by rw [show w.heap.size = w.drew.heap.size from rfl, heap_alloc_new]; congr 2; rw [← Array.toList_inj]; simp [cellsOf]; rfl) hG (grownCap_le_maxLen w 1 0 64 (by unfold maxLen; omega)) ?_, fun k hk => ?_, ⟨rfl, rfl, rfl, by simp, fun k hk _ => heap_alloc_old w.drew _ hk⟩⟩
    · simp [Builtin.zeroCells]; omega
    · simp [Value.ownBlock] at hk; omega
  have hvg : vb ≠ g := fun h => hne (by rw [h]; rfl)
  have h63 : cap ≤ 9223372036854775807 := by unfold maxLen at hm; omega
  by_cases h0 : es.length = 0
  · obtain rfl : es = [] := List.length_eq_zero_iff.1 h0
    by_cases hc0 : cap = 0
    · subst hc0
      refine (insert_first_grow w e.1 e.2 vb (some ⟨g, 0, none⟩) hv).mono ?_
      rintro r w' ⟨rfl, rfl⟩
      have hG := grownCap_ge w 1 0 64
      refine ⟨_, _, rfl, mk _ _ _ _ (by rw [show w.heap.size = w.drew.heap.size from rfl, heap_alloc_new]; congr 2; rw [← Array.toList_inj]; simp [cellsOf]; rfl) hG (grownCap_le_maxLen w 1 0 64 (by unfold maxLen; omega)) ?_, fun k hk => ?_, ⟨rfl, rfl, rfl, by simp, fun k hk _ => heap_alloc_old w.drew _ hk⟩⟩
      · simp [Builtin.zeroCells]; omega
      · simp [Value.ownBlock] at hk; omega
    · refine (insert_first_room w e.1 e.2 vb g cap cur hg hs (by omega) h63 hv).mono ?_
      rintro r w' ⟨rfl, rfl⟩
      refine ⟨_, _, rfl, mk _ _ _ _ (setRow_heap _ _ cur _ 64 (0, 0) hg) (by simp; omega) hm ?_, fun k hk => .inl hk, ⟨rfl, rfl, rfl, by simp, fun k _ hk => setRow_other _ _ _ _ fun h => hk (by rw [h]; rfl)⟩⟩
      simp [hs]; omega
  · by_cases hroom : es.length + 1 ≤ cap
    · refine (insert_shift w e.1 e.2 vb g es.length cap cur (cellsOf es) hg hs (by omega) hroom h63 hv hvg (length_cellsOf es) htk (cellsOf_one es)).mono ?_
      rintro r w' ⟨rfl, X, rfl, hX⟩
      have hXs : X.size = cap * 2 := by rw [hX]; simp [length_cellsOf, hs]; omega
      refine ⟨_, _, rfl, mk _ _ _ (cur.toList.drop (2 + es.length * 2)) ((setRow_heap _ _ X _ 64 (0, 0) (setRow_heap _ _ cur _ 64 (0, 0) hg)).trans ?_) hroom hm ?_, fun k hk => .inl hk, ⟨rfl, rfl, rfl, by simp, fun k _ hk => ?_⟩⟩
      · rw [hX]
        have h2 : (cur.toList.take 2).length = 2 := by simp; omega
        simp [cellsOf, h2, List.append_assoc]
        done
      · simp [hs]; omega
      · have hkg : k ≠ g := fun h => hk (by rw [h]; rfl)
        rw [setRow_other _ _ _ _ hkg, setRow_other _ _ _ _ hkg]
        rfl
    · refine (insert_grow w e.1 e.2 vb g es.length cap cur (cellsOf es) hg (by omega) hc (by omega) hlen hv (length_cellsOf es) htk (cellsOf_one es)).mono ?_
      rintro r w' ⟨G, T, rfl, hGn, hGm, hh, hT, hk⟩
      refine ⟨_, _, rfl, mk _ _ _ T (by rw [hh]; rfl) hGn hGm hT, fun k hk' => ?_, ⟨hk.os, hk.tape, hk.output, hk.size, fun k h1 _ => hk.block k h1 (by simp)⟩⟩
      simp [Value.ownBlock] at hk'; omega

end Go.Proofs.Ytlfbnhdcgldopaa
