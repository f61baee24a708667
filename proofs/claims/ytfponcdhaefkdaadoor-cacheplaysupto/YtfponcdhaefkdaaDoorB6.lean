/- Names, walked. -/
import Derived.Test.YtfponcdhaefkdaaDoorVa
namespace Go.Proofs.YtfponcdhaefkdaaDoor
open Go.RowKit Go.Shelf Go.Maps
set_option linter.unusedVariables false
set_option linter.unusedSimpArgs false
attribute [local go_sem] Oper.semAt_some

theorem splitSeq_any (v : ByteArray) (w : World) : Calls Tryd.prog 29 #[.string v, .string ⟨#[44]⟩] w fun e w' => e = .returned (.func (.func 75) #[] #[.pointer (some ⟨w.heap.size + 1, 0, none⟩), .pointer (some ⟨w.heap.size, 0, none⟩), .pointer (some ⟨w.heap.size + 2, 0, none⟩)]) ∧ w' = ((w.alloc (.cells #[.string v] 9)).alloc (.cells #[.string ⟨#[44]⟩] 9)).alloc (.cells #[.int .i64 0] 3) := by
  have h26 : Hid (Calls Tryd.prog 56 #[.string v, .string ⟨#[44]⟩, .int .i64 0] w fun e w' => e = .returned (.func (.func 75) #[] #[.pointer (some ⟨w.heap.size + 1, 0, none⟩), .pointer (some ⟨w.heap.size, 0, none⟩), .pointer (some ⟨w.heap.size + 2, 0, none⟩)]) ∧ w' = ((w.alloc (.cells #[.string v] 9)).alloc (.cells #[.string ⟨#[44]⟩] 9)).alloc (.cells #[.int .i64 0] 3)) := by
    show Calls _ _ _ _ _
    go_enter Tryd.func56, Tryd.ntmps56
    go_wp2_with fail
    go_ret
    exact ⟨rfl, rfl⟩
  go_enter Tryd.func29, Tryd.ntmps29
  go_wp2_with fail
  go_at_call 56
  refine h26.out.mono ?_
  rintro e w' ⟨rfl, rfl⟩
  go_wp2_with fail
  go_ret
  exact ⟨rfl, rfl⟩
theorem Ns.withX {w : World} {vs : List ByteArray} {vb : Option Addr} {vl vc : Nat} {ds : List Deferred} {ps : List ByteArray} {W : World} (h : Ns w vs vb vl vc ds ps (fun _ => False) W) (X : Nat → Prop) (hX : ∀ k, X k → W.heap.size ≤ k) : Ns w vs vb vl vc ds ps X W := by
  obtain ⟨nb, nl, nc, b1, b2, b3⟩ := h.bx
  have hm := heap_lt h.mb
  exact ⟨h.bel, ⟨nb, nl, nc, b1, b2, fun k hk => ⟨(b3 k hk).1, fun hx => by have := hX k hx; have := b2.lt k hk; omega, (b3 k hk).2.2⟩⟩, h.mp, h.mb, h.vr, fun k hk => ⟨(h.vo k hk).1, fun hx => by have := hX k hx; have := h.vr.lt k hk; omega⟩, h.dl, fun d hd D hD => ⟨fun hx => by have := hX D hx; have := (h.dl.lt d hd D hD).1; omega, (h.dx d hd D hD).2⟩, fun k hk => by have := hX k hk; omega⟩
theorem Ns.mark {w : World} {vs : List ByteArray} {vb : Option Addr} {vl vc : Nat} {ds : List Deferred} {ps : List ByteArray} {X : Nat → Prop} {W : World} (h : Ns w vs vb vl vc ds ps X W) (L : Nat) (hL : W.heap[L]? = some (.deferred (some []))) (h1 : ∀ d ∈ ds, ∀ D, d.target = .collected D → D < L) (h2 : w.heap.size + 4 ≤ L) : Ns w vs vb vl vc ({ target := .collected L, args := #[] } :: ds) ps (fun _ => False) W := by
  obtain ⟨nb, nl, nc, b1, b2, b3⟩ := h.bx
  refine ⟨h.bel, ⟨nb, nl, nc, b1, b2, fun k hk => ⟨(b3 k hk).1, fun h => h, (b3 k hk).2.2⟩⟩, h.mp, h.mb, h.vr, fun k hk => ⟨(h.vo k hk).1, fun h => h⟩, ⟨⟨L, rfl, hL, h1⟩, h.dl⟩, fun d hd D hD => ⟨fun h => h, ?_⟩, fun k h => h.elim⟩
  rcases List.mem_cons.1 hd with rfl | hd
  · simp only [Target.collected.injEq] at hD
    omega
  · exact (h.dx d hd D hD).2
theorem trim_size (x : ByteArray) : (⟨(Lib.trimS x.data.toList [32, 9]).toArray⟩ : ByteArray).size ≤ x.size := by
  rw [show (⟨(Lib.trimS x.data.toList [32, 9]).toArray⟩ : ByteArray) = bt (Lib.trimS x.data.toList [32, 9]) from rfl, bt_size, Lib.size_eq x]
  unfold Lib.trimS Lib.trimRightS Lib.trimLeftS
  refine Nat.le_trans (List.dropWhile_suffix _).length_le ?_
  rw [List.length_reverse]
  refine Nat.le_trans (List.dropWhile_suffix _).length_le ?_
  rw [List.length_reverse]
  exact Nat.le_refl _
theorem ne_empty {p : ByteArray} (h : p ≠ noS) : p.toList.isEmpty = false := by
  rw [ByteArray.toList_eq]
  cases e : p.data.toList with
  | nil => exact absurd (ba_eq (b := noS) (by rw [e]; rfl)) h
  | cons _ _ => rfl
theorem ne_star {p : ByteArray} (h : p ≠ starS) : (p.toList == [42]) = false := by
  rw [beq_eq_false_iff_ne, ByteArray.toList_eq]
  exact fun e => h (ba_eq (b := starS) (by rw [e]; rfl))
theorem pcS_size (x : ByteArray) : (pcS x).size ≤ x.size := by
  have := trim_size x
  unfold pcS smS smL
  rw [bt_size, List.length_map, ← Lib.size_eq]
  exact this
theorem wpListIn_append_run {F : Fence} {nF : Nat} {P : Program} (w : World) {ops : Array Oper} {rest : List Oper} {o : Oper} {a : Act} {Q : Exit → Act → World → Prop} (hg : o.guard = none) (s x : Operand) (t tn : TypeId)
    (hop : o.op = .call { callee := .builtin .append, args := #[s, x], argTypes := #[t, tn] }) (vs vx : Value) (hs : a.eval s = vs) (hx : a.eval x = vx)
    (v' : Value) (w' : World) (hr : (Builtin.append_ #[t, tn] o.type #[vs, vx]).run P w = .ok v' w') (h : wpListIn F nF P ops Q rest (a.put o.dst v') w') : wpListIn F nF P ops Q (o :: rest) a w := by
  refine wpListIn_plain hg fun K hK' => ?_
  unfold Oper.wpIn
  refine ⟨?_, ?_⟩
  · simp [Oper.about, hop, resolve, Target.leads, Sem.run_pure]
  · rw [Oper.semAt_plain F _ _ (by rw [hop]; intro c hc'; cases hc')]
    simp [execOp, hop, resolve, invoke, builtin, hs, hx, hr, Result.andThen]
    exact hK' _ _ h
def NmPost (vs : List ByteArray) (w : World) (e : Ending) (w' : World) : Prop :=
  ∃ z : SV, e = .returned (.tuple #[sv z, .bool (decide (0 < cnt (allP vs) starS))]) ∧ Below w.heap.size w w' ∧ R ES w' (sv z) (nmL (allP vs)) ∧ ∀ k, (sv z).ownBlock = some k → w.heap.size ≤ k
def rsv (n : Int) (y : Value) (b : ByteArray) : Array Value := #[.int .i64 n, y, .string b]
set_option maxRecDepth 100000 in
set_option maxHeartbeats 8000000 in
theorem names_in (n : Int) (y : SV) (b : ByteArray) (l : List Fd) (w : World) (hI : In EFd w (sv y) l) (hlen : l.length * 40 ≤ 140737488355328) (hz : ∀ v ∈ vsL l varyS, v.size ≤ 140737488355328) (hp : (allP (vsL l varyS)).length ≤ 4398046511104) :
    CallsIn Fence.wide 3 Tryd.prog 7 #[.agg (rsv n (sv y) b)] w fun e w' => NmPost (vsL l varyS) w e w' := by
  obtain ⟨yb, yl, yc⟩ := y
  obtain ⟨vs, hvs⟩ : ∃ x, vsL l varyS = x := ⟨_, rfl⟩
  have hV : Hid (∀ W, Below w.heap.size w W → Calls Tryd.prog 28 #[.slice yb yl yc, .string ⟨#[118, 97, 114, 121]⟩] W fun e w' => VsPost vs W e w') := fun W hb => by
    have := values_any (yb, yl, yc) l varyS W (hI.below hb) hlen
    rw [hvs] at this
    exact this
  rw [hvs] at hz hp ⊢
  have HZ : Hid (∀ v ∈ vs, v.size ≤ 140737488355328) := hz
  have HP : Hid ((allP vs).length ≤ 4398046511104) := hp
  clear hI hlen hvs hz hp
  refine callsIn_of_wp_marks Tryd.func7 rfl trivial ?_ rfl
  simp only [rsv, sv, Tryd.ntmps7, List.size_toArray, List.length_cons, List.length_nil, Nat.reduceAdd, Nat.reduceSub, Array.replicate_succ, Array.replicate_zero, List.push_toArray, List.append_toArray, List.nil_append, List.cons_append]
  have hmm := @run_makeMap Tryd.prog
  gi_wp2_with (refine ⟨trivial, ?_⟩; gi_at_call 28; refine (callsIn_wide.2 (hV.out _ (((bel3 w _ _ _).trans ((bel1 _ _).mono (by simp; omega)))))).mono ?_; rintro e w1 ⟨⟨vb, vl, vc⟩, rfl, b1, r1, o1⟩; simp only [sv])
  have N1 : Ns w vs vb vl vc [] [] (fun _ => False) w1 := by
    have hb3 := bel3 w (.cells #[.int .i64 n, .slice yb yl yc, .string b] 26) (.cells #[.slice none 0 0] 27) (.map #[] 0)
    obtain ⟨wa, hwa⟩ : ∃ x, (w.alloc (.cells #[.int .i64 n, .slice yb yl yc, .string b] 26)).alloc (.cells #[.slice none 0 0] 27) = x := ⟨_, rfl⟩
    have sa : wa.heap.size = w.heap.size + 2 := by rw [← hwa]; simp
    have ha : wa.heap[w.heap.size + 1]? = some (.cells #[.slice none 0 0] 27 (0, 0)) := by rw [← hwa]; exact fresh2 _ _ _
    rw [hwa] at b1 o1 hb3
    have hm := Mc.start wa
    rw [sa] at hm
    have bb1 := bel1 (wa.alloc (.map #[] 0)) (.cells #[.map (some (w.heap.size + 1 + 1))] 72)
    have s4 : ((wa.alloc (.map #[] 0)).alloc (.cells #[.map (some (w.heap.size + 1 + 1))] 72)).heap.size = w.heap.size + 4 := by simp [sa]
    rw [s4] at b1 o1
    have hm3 : ((wa.alloc (.map #[] 0)).alloc (.cells #[.map (some (w.heap.size + 1 + 1))] 72)).heap[w.heap.size + 3]? = some (.cells #[.map (some (w.heap.size + 2))] 72 (0, 0)) := by rw [heap_al, if_pos (by simp [sa])]
    have ha3 : ((wa.alloc (.map #[] 0)).alloc (.cells #[.map (some (w.heap.size + 1 + 1))] 72)).heap[w.heap.size + 1]? = some (.cells #[.slice none 0 0] 27 (0, 0)) := by rw [heap_al, if_neg (by simp [sa]), heap_al, if_neg (by simp [sa]), ha]
    refine ⟨(hb3.trans (bb1.mono (by simp [sa]; omega))).trans (b1.mono (by omega)), ⟨none, 0, 0, (b1.block _ (by omega)).trans ha3, R.nil _ _, fun k hk => by simp [Value.ownBlock] at hk⟩, ?_, (b1.block _ (by omega)).trans hm3, r1, fun k hk => ⟨o1 k hk, fun h => h⟩, trivial, fun d hd => by simp at hd, fun k h => h.elim⟩
    have hm4 := hm.stays (w' := (wa.alloc (.map #[] 0)).alloc (.cells #[.map (some (w.heap.size + 1 + 1))] 72)) (bb1.block _ (by simp [sa]))
    exact hm4.stays (b1.block _ (by omega))
  obtain ⟨e1, hc1, hc2⟩ := slice_len (R.isIn r1)
  replace e1 : Hid (vl = vs.length) := e1
  replace N1 : Hid (Ns w vs vb vl vc [] [] (fun _ => False) w1) := N1
  have hcv : vl ≤ vc := by rw [e1.out]; exact hc1
  have hcv2 : vc ≤ 9223372036854775807 := hc2
  clear b1 r1 o1 hV hc1 hc2
  gi_wp2
  refine wpIn_loop (fun a' W => ∃ (k : Nat) (ds : List Deferred) (x7 x16 x17 x18 x19 x20 x45 : Value), k ≤ vl ∧ Ns w vs vb vl vc ds (allP (vs.take k)) (fun _ => False) W ∧ a' = { tmps := #[.agg #[.int .i64 n, .slice yb yl yc, .string b], .pointer (some ⟨w.heap.size, 0, none⟩), .slice none 0 0, .bool false, .pointer (some ⟨w.heap.size + 1, 0, none⟩), .pointer (some ⟨w.heap.size + 3, 0, none⟩), undef, x7, undef, undef, .map (some (w.heap.size + 2)), .pointer (some ⟨w.heap.size, 1, none⟩), .slice yb yl yc, .slice vb vl vc, .int .i64 (vl : Int), .int .i64 (k : Int), x16, x17, x18, x19, x20, undef, undef, undef, undef, undef, undef, undef, undef, undef, undef, undef, undef, undef, undef, undef, undef, undef, undef, undef, undef, undef, undef, undef, undef, x45, undef, undef, undef, undef], defers := ds }) (fun a' _ => vl - (intOf (a'.tmps.getD 15 undef)).toNat) ⟨0, [], undef, undef, undef, undef, undef, undef, undef, by omega, by simpa [allP] using N1.out, rfl⟩ ?_
  rintro _ wr ⟨k, ds, x7, x16, x17, x18, x19, x20, x45, hk, hN, rfl⟩
  replace hN : Hid (Ns w vs vb vl vc ds (allP (vs.take k)) (fun _ => False) wr) := hN
  clear N1
  by_cases hlt : k < vl
  · have hlt' : (k : Int) < (vl : Int) := by omega
    have kv : k < vs.length := by rw [← e1.out]; exact hlt
    obtain ⟨B1, o1, c1, e, c0⟩ := (R.isIn hN.out.vr).str k kv
    injection e with e1' e2 e3
    subst e1'
    clear e2 e3
    replace c0 := c0 wr (Below.refl _ _)
    obtain ⟨v, hv⟩ : ∃ x, vs[k] = x := ⟨_, rfl⟩
    rw [hv] at c0
    have hvz : v.size ≤ 140737488355328 := HZ.out v (by rw [← hv]; exact List.getElem_mem kv)
    have HV : Hid (allP (vs.take (k + 1)) = allP (vs.take k) ++ (cutS v).map pcS) := by show _ = _; rw [allP_succ vs k kv, hv]
    have HQ : Hid ((allP (vs.take k)).length + (cutS v).length ≤ 4398046511104) := by
      have h1 := HP.out
      have h2 : (allP (vs.take (k + 1))).length ≤ (allP vs).length := by
        have : allP vs = allP (vs.take (k + 1)) ++ allP (vs.drop (k + 1)) := by unfold allP; rw [← List.flatMap_append, List.take_append_drop]
        rw [this, List.length_append]
        omega
      rw [HV.out, List.length_append, List.length_map] at h2
      show _ ≤ _
      omega
    clear hv kv
    gi_wp2_with (refine ⟨trivial, ?_⟩; gi_at_call 29; refine (callsIn_wide.2 (splitSeq_any v _)).mono ?_; rintro e w2 ⟨rfl, hw2⟩; have HW2 : Hid (w2 = ((wr.alloc (.cells #[.string v] 9)).alloc (.cells #[.string ⟨#[44]⟩] 9)).alloc (.cells #[.int .i64 0] 3)) := hw2; clear hw2)
    have hb2 : Below wr.heap.size wr w2 := by rw [HW2.out]; exact bel3 wr _ _ _
    have hs2 : Hid (w2.heap.size = wr.heap.size + 3) := by show _ = _; rw [HW2.out]; simp
    have hBx : Bx wr.heap.size (wr.heap.size + 1) (wr.heap.size + 2) v w2 := by
      rw [HW2.out]
      refine ⟨?_, ?_, fresh3 _ _ _ _⟩
      · rw [heap_al, if_neg (by simp; omega), heap_al, if_neg (by simp), heap_al, if_pos rfl]
      · rw [heap_al, if_neg (by simp)]; exact fresh2 _ _ _
    have hNX := (hN.out.withX (fun k => k = wr.heap.size ∨ k = wr.heap.size + 1 ∨ k = wr.heap.size + 2 ∨ k = wr.heap.size + 3 ∨ k = wr.heap.size + 4) (fun k hk => by omega)).below hb2
    have hw4 : w.heap.size + 4 ≤ wr.heap.size := by have := heap_lt hN.out.mb; omega
    clear HW2
    gi_wp2
    refine range_split (bs := wr.heap.size) (bp := wr.heap.size + 1) (bz := wr.heap.size + 2) (s := v) rfl hBx (by omega) (by omega) hvz
      (fun pre W => Ns w vs (some ⟨B1, o1, none⟩) vl vc ds (allP (vs.take k) ++ pre.map pcS) (fun k => k = wr.heap.size ∨ k = wr.heap.size + 1 ∨ k = wr.heap.size + 2 ∨ k = wr.heap.size + 3 ∨ k = wr.heap.size + 4) W)
      (fun x a₁ => a₁ = { tmps := #[.agg #[.int .i64 n, .slice yb yl yc, .string b], .pointer (some ⟨w.heap.size, 0, none⟩), .slice none 0 0, .bool false, .pointer (some ⟨w.heap.size + 1, 0, none⟩), .pointer (some ⟨w.heap.size + 3, 0, none⟩), undef, .string v, .string x, undef, .map (some (w.heap.size + 2)), .pointer (some ⟨w.heap.size, 1, none⟩), .slice yb yl yc, .slice (some ⟨B1, o1, none⟩) vl vc, .int .i64 (vl : Int), .int .i64 (k : Int), .bool true, .pointer (some ⟨B1, o1 + k, none⟩), .string v, .string v, .func (.func 75) #[] #[.pointer (some ⟨wr.heap.size + 1, 0, none⟩), .pointer (some ⟨wr.heap.size, 0, none⟩), .pointer (some ⟨wr.heap.size + 2, 0, none⟩)], .string x, undef, undef, undef, undef, undef, undef, undef, undef, undef, undef, undef, undef, undef, undef, undef, undef, undef, undef, undef, undef, undef, undef, undef, x45, undef, undef, undef, undef], defers := [] }) ?abide (by simpa using hNX) ?assign ?body ?done
    case abide =>
      intro pre W W' h hk
      refine h.abide (hk.mono fun i _ e => ?_)
      rw [hs2.out] at e
      omega
    case assign =>
      intro l x W K hK
      replace hK : Hid (K { tmps := #[.agg #[.int .i64 n, .slice yb yl yc, .string b], .pointer (some ⟨w.heap.size, 0, none⟩), .slice none 0 0, .bool false, .pointer (some ⟨w.heap.size + 1, 0, none⟩), .pointer (some ⟨w.heap.size + 3, 0, none⟩), undef, .string v, .string x, undef, .map (some (w.heap.size + 2)), .pointer (some ⟨w.heap.size, 1, none⟩), .slice yb yl yc, .slice (some ⟨B1, o1, none⟩) vl vc, .int .i64 (vl : Int), .int .i64 (k : Int), .bool true, .pointer (some ⟨B1, o1 + k, none⟩), .string v, .string v, .func (.func 75) #[] #[.pointer (some ⟨wr.heap.size + 1, 0, none⟩), .pointer (some ⟨wr.heap.size, 0, none⟩), .pointer (some ⟨wr.heap.size + 2, 0, none⟩)], .string x, undef, undef, undef, undef, undef, undef, undef, undef, undef, undef, undef, undef, undef, undef, undef, undef, undef, undef, undef, undef, undef, undef, undef, x45, undef, undef, undef, undef], defers := [] } W) := hK _ rfl
      gi_wp2
      exact hK.out
    case body =>
      intro l pre x r a₁ W hpx hi ha hsz
      subst ha
      have hxm : x ∈ cutS v := by rw [← hpx]; simp
      have hx47 : x.size ≤ 140737488355328 := Nat.le_trans (cutS_size hxm) hvz
      have hx63 : x.size ≤ 9223372036854775807 := by omega
      have hPL : (allP (vs.take k) ++ pre.map pcS).length ≤ 4398046511104 := by
        have h1 := HQ.out; have h2 := congrArg List.length hpx; simp at h2 ⊢; omega
      have HPC : Hid (allP (vs.take k) ++ (pre ++ [x]).map pcS = (allP (vs.take k) ++ pre.map pcS) ++ [pcS x]) := by show _ = _; simp
      obtain ⟨PS, hPS⟩ : ∃ q, allP (vs.take k) ++ pre.map pcS = q := ⟨_, rfl⟩
      rw [hPS] at hi hPL HPC
      replace hi : Hid (Ns w vs (some ⟨B1, o1, none⟩) vl vc ds PS (fun k => k = wr.heap.size ∨ k = wr.heap.size + 1 ∨ k = wr.heap.size + 2 ∨ k = wr.heap.size + 3 ∨ k = wr.heap.size + 4) W) := hi
      have hsz' : wr.heap.size + 4 < W.heap.size := by have := hs2.out; omega
      clear hPS hxm hpx hsz hNX hBx hN c0
      gi_wp2_with (refine ⟨trivial, ?_⟩; gi_at_call 31; refine ((callsIn_wide.2 (Tryd.strings_Trim_blanks x _ hx63)).inRound l).mono ?_; rintro e w3 ⟨rfl, b3⟩; have B3 : Hid (Below W.heap.size W w3) := b3; clear b3)
      refine ⟨trivial, ?_⟩
      gi_at_call 30
      refine ((callsIn_wide.2 (small_any _ _ (Nat.le_trans (trim_size x) hx47))).inRound l).mono ?_
      rintro e w4 ⟨rfl, b4⟩
      have B4 : Hid (Below W.heap.size W w4) := B3.out.trans (b4.mono B3.out.size)
      obtain ⟨p, hp⟩ : ∃ p, pcS x = p := ⟨_, rfl⟩
      rw [show smS ⟨(Lib.trimS x.data.toList [32, 9]).toArray⟩ = p from hp]
      rw [hp] at HPC
      have hpm : p.size ≤ maxLen := by have := pcS_size x; rw [hp] at this; unfold maxLen; omega
      have N4 := hi.out.below B4.out
      obtain ⟨nb, nl, nc, n1, n2, n3⟩ := N4.bx
      obtain ⟨W5, u, m1, m2, m3, m4, m5⟩ := N4.count p hpm (by omega)
      have hf1 := N4.mp.find p hpm
      have hf2 := m4.find p hpm
      rw [cnt_snoc, if_pos rfl] at hf2
      have hcn := nmL_snoc PS p
      have hcl := cnt_le PS p
      obtain ⟨c, hc⟩ : ∃ c, cnt PS p = c := ⟨_, rfl⟩
      rw [hc] at m1 hf1 hf2 hcn hcl
      have hc42 : c ≤ 4398046511104 := by omega
      rw [show ((c + 1 : Nat) : Int) = (c : Int) + 1 by omega] at hf2
      have q4 : w4.cell? ⟨w.heap.size + 3, 0, none⟩ = some (.map (some (w.heap.size + 2))) := cell_blk N4.mb 0
      have l4 := heap_lt N4.mb
      have q5 : W5.cell? ⟨w.heap.size + 3, 0, none⟩ = some (.map (some (w.heap.size + 2))) := cell_blk ((m3 _ l4 (by omega)).trans N4.mb) 0
      have l5 : w.heap.size + 3 < W5.heap.size := Nat.lt_of_lt_of_le l4 m2
      have hLW : wr.heap.size + 4 < w4.heap.size := Nat.lt_of_lt_of_le hsz' B4.out.size
      have hcm : ∀ k, w.heap.size + 4 ≤ k → k < w4.heap.size → W5.heap[k]? = w4.heap[k]? := fun k h1 h2 => m3 k h2 (by omega)
      have hCW : ∀ W', W5.heap.size ≤ W'.heap.size → (∀ k, k = wr.heap.size ∨ k = wr.heap.size + 1 ∨ k = wr.heap.size + 2 ∨ k = wr.heap.size + 3 ∨ k = wr.heap.size + 4 → W'.heap[k]? = W5.heap[k]?) → Cm wr.heap.size (wr.heap.size + 1) (wr.heap.size + 2) W W' ∧ W'.heap[w2.heap.size]? = W.heap[w2.heap.size]? ∧ W'.heap[w2.heap.size + 1]? = W.heap[w2.heap.size + 1]? := fun W' hs hk => by
        have key : ∀ k, k = wr.heap.size ∨ k = wr.heap.size + 1 ∨ k = wr.heap.size + 2 ∨ k = wr.heap.size + 3 ∨ k = wr.heap.size + 4 → W'.heap[k]? = W.heap[k]? := fun k hkx => (hk k hkx).trans ((hcm k (by omega) (by omega)).trans (B4.out.block k (by omega)))
        rw [hs2.out]
        exact ⟨⟨Nat.le_trans B4.out.size (Nat.le_trans m2 hs), key _ (by omega), key _ (by omega), key _ (by omega)⟩, key _ (by omega), key _ (by omega)⟩
      have HSK : Hid (nmL (PS ++ [p]) = nmL PS → (Cm wr.heap.size (wr.heap.size + 1) (wr.heap.size + 2) W W5 ∧ W5.heap[w2.heap.size]? = W.heap[w2.heap.size]? ∧ W5.heap[w2.heap.size + 1]? = W.heap[w2.heap.size + 1]?) ∧ Ns w vs (some ⟨B1, o1, none⟩) vl vc ds (allP (vs.take k) ++ (pre ++ [x]).map pcS) (fun k => k = wr.heap.size ∨ k = wr.heap.size + 1 ∨ k = wr.heap.size + 2 ∨ k = wr.heap.size + 3 ∨ k = wr.heap.size + 4) W5) := fun hn => ⟨hCW W5 (Nat.le_refl _) fun _ _ => rfl, by rw [HPC.out]; exact N4.skip p m5 m4 hn⟩
      have HTE : Hid (nmL (PS ++ [p]) = nmL PS ++ [p] → ∃ b' c' W6, Hid ((Builtin.append_ #[27, 27] 27 #[.slice nb nl nc, .slice (some ⟨W5.heap.size, 0, none⟩) 1 1]).run Tryd.prog (W5.alloc (.cells #[.string p] 9)) = .ok (.slice b' (nl + 1) c') W6) ∧ W6.cell? ⟨w.heap.size + 1, 0, none⟩ = some (.slice nb nl nc) ∧ W6.frozen? ⟨w.heap.size + 1, 0, none⟩ = false ∧ w.heap.size + 1 < W6.heap.size ∧ Hid ((Cm wr.heap.size (wr.heap.size + 1) (wr.heap.size + 2) W (W6.setCell ⟨w.heap.size + 1, 0, none⟩ (.slice b' (nl + 1) c')) ∧ (W6.setCell ⟨w.heap.size + 1, 0, none⟩ (.slice b' (nl + 1) c')).heap[w2.heap.size]? = W.heap[w2.heap.size]? ∧ (W6.setCell ⟨w.heap.size + 1, 0, none⟩ (.slice b' (nl + 1) c')).heap[w2.heap.size + 1]? = W.heap[w2.heap.size + 1]?) ∧ Ns w vs (some ⟨B1, o1, none⟩) vl vc ds (allP (vs.take k) ++ (pre ++ [x]).map pcS) (fun k => k = wr.heap.size ∨ k = wr.heap.size + 1 ∨ k = wr.heap.size + 2 ∨ k = wr.heap.size + 3 ∨ k = wr.heap.size + 4) (W6.setCell ⟨w.heap.size + 1, 0, none⟩ (.slice b' (nl + 1) c')))) := fun hn => by
        obtain ⟨b', c', W6, a1, a2, a3, a4, a5, a6, a7⟩ := N4.tell p m5 m4 hn hPL (fun k hk => by omega) nb nl nc n1 n2 n3
        refine ⟨b', c', W6, a1, a2, a3, a4, hCW _ a7 fun k hk => a6 k ?_ ?_ ?_, by rw [HPC.out]; exact a5⟩
        · have := m2; omega
        · omega
        · exact fun e => (n3 k e).2.1 hk
      have q1 : W5.cell? ⟨w.heap.size + 1, 0, none⟩ = some (.slice nb nl nc) := cell_blk ((m3 _ (heap_lt n1) (by omega)).trans n1) 0
      have l1 : w.heap.size + 1 < W5.heap.size := by omega
      have HCN : Hid (nmL (PS ++ [p]) = nmL PS ++ if c ≠ 0 ∨ p = noS ∨ p = starS then [] else [p]) := hcn
      clear N4 n1 n2 n3 m4 m5 m3 hcm hCW hi HPC hp hcn hc b4 B3 B4 hcl hPL hx47 hx63 hsz' hLW HV HQ HZ HP e1
      by_cases hc0 : c = 0
      · subst hc0
        rw [show (((0 : Nat) : Int) + 1) = 1 from rfl] at m1 hf2
        rw [show ((0 : Nat) : Int) = 0 from rfl] at hf1
        by_cases hp0 : p = noS
        · have HN := HSK.out (by rw [HCN.out, if_pos (.inr (.inl hp0)), List.append_nil])
          subst hp0
          replace HN : Hid _ := HN
          clear HSK HTE HCN
          unfold noS at *
          gi_wp2
          exact HN.out
        · have s0 : (p.toList == (⟨#[]⟩ : ByteArray).toList) = false := str_ne hp0
          have s0' : (p.toList != (⟨#[]⟩ : ByteArray).toList) = true := by rw [bne, s0]; rfl
          have s0e : p.toList.isEmpty = false := ne_empty hp0
          by_cases hps : p = starS
          · have HN := HSK.out (by rw [HCN.out, if_pos (.inr (.inr hps)), List.append_nil])
            subst hps
            replace HN : Hid _ := HN
            clear HSK HTE HCN s0 s0' hp0
            unfold starS at *
            gi_wp2
            exact HN.out
          · have s1 : (p.toList == (⟨#[42]⟩ : ByteArray).toList) = false := str_ne hps
            have s1' : (p.toList != (⟨#[42]⟩ : ByteArray).toList) = true := by rw [bne, s1]; rfl
            have s1e : (p.toList == [42]) = false := ne_star hps
            have s1f : (p.toList != [42]) = true := by rw [bne, s1e]; rfl
            obtain ⟨b', c', W6, a1, a2, a3, a4, a5⟩ := HTE.out (by rw [HCN.out, if_neg (by simp [hp0, hps])])
            clear HSK HTE HCN hp0 hps
            gi_wp2_with (gi_at_builtin; refine wpListIn_append_run _ rfl _ _ _ _ rfl _ _ rfl rfl _ _ a1.out ?_)
            exact a5.out
      · have HN := HSK.out (by rw [HCN.out, if_pos (.inl hc0), List.append_nil])
        have hc1 : (((c : Int) + 1) == 1) = false := by simp; omega
        have hc2 : ¬ (c : Int) + 1 = 1 := by omega
        replace HN : Hid _ := HN
        clear HSK HTE HCN hc0
        gi_wp2
        exact HN.out
    case done =>
      intro W hi hd
      have HN2 : Hid (Ns w vs (some ⟨B1, o1, none⟩) vl vc ({ target := .collected w2.heap.size, args := #[] } :: ds) (allP (vs.take (k + 1))) (fun _ => False) W) := by
        rw [HV.out]
        refine hi.mark w2.heap.size hd (fun d hd' D hD => ?_) (by have := hs2.out; omega)
        have := (hN.out.dl.lt d hd' D hD).1
        have := hs2.out
        omega
      clear hi hNX hBx hN
      gi_wp2
      refine ⟨⟨k + 1, _, .string v, .bool true, .pointer (some ⟨B1, o1 + k, none⟩), .string v, .string v, .func (.func 75) #[] #[.pointer (some ⟨wr.heap.size + 1, 0, none⟩), .pointer (some ⟨wr.heap.size, 0, none⟩), .pointer (some ⟨wr.heap.size + 2, 0, none⟩)], .int .i64 ((k : Int) + 1), by omega, HN2.out, ?_⟩, ?_⟩
      · rw [show (((k + 1 : Nat)) : Int) = (k : Int) + 1 by omega]
      · simp [intOf]
        omega
  · obtain rfl : k = vl := by omega
    have hlt' : ¬ (k : Int) < (k : Int) := by omega
    have NE : Hid (Ns w vs vb k vc ds (allP vs) (fun _ => False) wr) := by
      have h := hN.out
      rw [e1.out, List.take_length] at h
      rw [← e1.out] at h
      exact h
    clear hN
    obtain ⟨nb, nl, nc, n1, n2, n3⟩ := NE.out.bx
    have c1 := cell_blk n1 0
    have l1 := heap_lt n1
    have c3 := cell_blk NE.out.mb 0
    have l3 := heap_lt NE.out.mb
    simp only [List.getElem?_toArray, List.getElem?_cons_zero] at c1 c3
    have hf := (NE.out.mp.stays (w' := wr.drew) rfl).find ⟨#[42]⟩ (by decide)
    have HR : Hid (R ES wr (.slice nb nl nc) (nmL (allP vs)) ∧ ∀ k, (Value.slice nb nl nc).ownBlock = some k → w.heap.size ≤ k) := ⟨n2, fun k hk => by have := (n3 k hk).1; omega⟩
    obtain ⟨c, hc⟩ : ∃ c, cnt (allP vs) ⟨#[42]⟩ = c := ⟨_, rfl⟩
    have HC : Hid (cnt (allP vs) starS = c) := hc
    rw [hc] at hf
    clear n1 n2 n3 hc
    gi_wp2
    gi_region
    have HL : ∀ (tm : Array Value) (z : Value), tm.getD 2 undef = .slice nb nl nc → tm.getD 3 undef = z → z = .bool (decide (0 < c)) → LeavesInM Fence.wide 3 Tryd.prog Tryd.f7 tm (fun e w' => NmPost vs w e w') ds .returning wr.drew := fun tm z h2 h3 hz => by
      have NE2 := NE.out.abide (W' := wr.drew) ⟨rfl, rfl, rfl, Nat.le_refl _, fun _ _ _ => rfl⟩
      refine leaves_marks ds wr.drew NE2.dl fun W' hW' => ⟨.tuple #[.slice nb nl nc, .bool (decide (0 < c))], ?_, (nb, nl, nc), by rw [HC.out]; rfl, ?_, ?_, HR.out.2⟩
      · have h2' : tm[2]?.getD undef = .slice nb nl nc := by rw [← h2]; simp
        have h3' : tm[3]?.getD undef = .bool (decide (0 < c)) := by rw [← hz, ← h3]; simp
        simp [results, Tryd.f7, go_sem, h2', h3']
      · refine NE2.bel.trans (hW'.below NE2.bel.size fun i hi hd => ?_)
        obtain ⟨d, h1, h2⟩ := hd
        have := (NE2.dx d h1 i h2).2
        omega
      · refine R.stays (R.stays HR.out.1 (w' := wr.drew) fun _ _ _ => rfl) fun k hk hlt => hW'.block k hlt fun hd => ?_
        obtain ⟨c', hc'⟩ := HR.out.1.ty k hk
        obtain ⟨d, h1, h2⟩ := hd
        have hh := (NE2.dl.lt d h1 k h2).2
        rw [show wr.drew.heap[k]? = wr.heap[k]? from rfl, hc'] at hh
        cases hh
    replace HL : Hid (∀ (tm : Array Value) (z : Value), tm.getD 2 undef = .slice nb nl nc → tm.getD 3 undef = z → z = .bool (decide (0 < c)) → LeavesInM Fence.wide 3 Tryd.prog Tryd.f7 tm (fun e w' => NmPost vs w e w') ds .returning wr.drew) := HL
    gi_wp2
    exact HL.out _ _ rfl rfl rfl
theorem names_any (n : Int) (y : SV) (b : ByteArray) (l : List Fd) (w : World) (hI : In EFd w (sv y) l) (hlen : l.length * 40 ≤ 140737488355328) (hz : ∀ v ∈ vsL l varyS, v.size ≤ 140737488355328) (hp : (allP (vsL l varyS)).length ≤ 4398046511104) :
    Calls Tryd.prog 7 #[.agg (rsv n (sv y) b)] w fun e w' => NmPost (vsL l varyS) w e w' := callsIn_wide.1 (names_in n y b l w hI hlen hz hp)
end Go.Proofs.YtfponcdhaefkdaaDoor
