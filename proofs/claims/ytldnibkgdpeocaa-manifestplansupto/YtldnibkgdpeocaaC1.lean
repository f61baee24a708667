/- Plan; at, page, same, in, names. -/
import Derived.Test.YtldnibkgdpeocaaB3
namespace Go.Proofs.Ytldnibkgdpeocaa
open Go.RowKit Go.Maps
open Go.Shelf
set_option linter.unusedVariables false
set_option linter.unusedSimpArgs false

/-- the plan -/
def plan (nm : Tg → List Tg) (t : Tg) (most : Int) : List Tg := wk nm t (min most 8) 9 (nm t) []
/-- a row of one's own, made since w -/
def PlPost (T : List Tg) (w : World) (e : Ending) (w' : World) : Prop := ∃ y : SV, e = .returned (sv y) ∧ R ET w' (sv y) T ∧ Below w.heap.size w w' ∧ ∀ k, (sv y).ownBlock = some k → w.heap.size ≤ k
set_option maxHeartbeats 4000000 in
theorem plan_any (L : List Ru) (hn : (L.map Ru.t).Nodup) (lo hi g b : Nat) (t : Tg) (ht : tz t) (most : Int) (w : World) (hM : Mf w lo hi g b L) :
    Calls Try.prog 12 #[.pointer (some ⟨g, 0, none⟩), .agg (tgv t), .int .i64 most] w fun e w' => PlPost (plan (nmR L) t most) w e w' := by
  obtain ⟨ta, tp⟩ := t
  obtain ⟨m, hm⟩ : ∃ m : Int, min most 8 = m := ⟨_, rfl⟩
  have hm8 : m ≤ 8 := by omega
  have HC : Hid (∀ W, Below w.heap.size w W → Calls Try.prog 27 #[.pointer (some ⟨g, 0, none⟩), .agg (tgv (ta, tp)), .agg (tgv (ta, tp)), sv (none, 0, 0), .int .i64 m] W fun e w' => WkPost (none, 0, 0) (wk (nmR L) (ta, tp) m 9 (nmR L (ta, tp)) []) W e w') := fun W hW => walk_any L hn lo hi g b (ta, tp) ht m hm8 9 (ta, tp) ht (none, 0, 0) [] W (hM.below hW) (by simp) (by simp) (R.nil _ _) (fun k hk => by simp [sv, Value.ownBlock] at hk)
  unfold plan
  rw [hm]
  unfold tgv at HC ⊢
  simp only [sv] at HC ⊢
  have hmin : ∀ W, (Builtin.min_ #[3, 3] 3 #[.int .i64 most, .int .i64 8]).run Try.prog W = .ok (.int .i64 m) W := fun W => by
    rw [← hm]
    by_cases h : most ≤ 8
    · have h2 : ¬ (8 : Int) < most := by omega
      rw [Int.min_eq_left h]
      simp [Builtin.min_, Builtin.min2, go_sem, h, h2]
    · have h2 : (8 : Int) < most := by omega
      rw [Int.min_eq_right (by omega)]
      simp [Builtin.min_, Builtin.min2, go_sem, h, h2]
  have HB0 : Hid (Below w.heap.size w (w.alloc (.cells #[.string ta, .string tp] 26))) := bel1 _ _
  clear hm hM ht hn hm8
  go_enter Try.func12, Try.ntmps12
  go_wp2_with fail
  go_at_call 27
  refine (HC.out _ HB0.out).mono ?_
  rintro e w1 ⟨y, rfl, hR, hG⟩
  have HR : Hid (R ET w1 (sv y) (wk (nmR L) (ta, tp) m 9 (nmR L (ta, tp)) [])) := hR
  have HB : Hid (Below w.heap.size w w1) := HB0.out.trans (hG.fresh.mono HB0.out.size)
  have HN : Hid (∀ k, (sv y).ownBlock = some k → w.heap.size ≤ k) := fun k hk => by have := hG.new k hk; have := HB0.out.size; omega
  clear hR hG HC HB0
  obtain ⟨yb, yl, yc⟩ := y
  simp only [sv] at HR HN ⊢
  go_wp2_with fail
  go_ret
  exact ⟨(yb, yl, yc), rfl, HR.out, HB.out, HN.out⟩

def slash (x : UInt8) : ByteArray := ⟨#[47, x]⟩
def aS : ByteArray := ⟨#[97]⟩
set_option maxHeartbeats 1000000 in
theorem at_any (p : ByteArray) (w : World) : Calls Try.prog 19 #[.string p] w fun e w' => e = .returned (.agg (tgv (aS, p))) ∧ Below w.heap.size w w' := by
  unfold tgv aS
  simp only
  go_enter Try.func19, Try.ntmps19
  go_wp2_with fail
  refine bodyPost_ret (results_cell_row (p := 2) (ty := 26) rfl _ _ w.heap.size 26 _ (0, 0) _ rfl (by rw [heap_al, if_pos rfl]) Try.underlying26 rfl (by kernel_rfl)) rfl ⟨rfl, bel1 _ _⟩

set_option maxHeartbeats 4000000 in
set_option maxRecDepth 100000 in
theorem same_any (x y : SV) (l k : List Tg) (w : World) (hI : In ET w (sv x) l) (hJ : In ET w (sv y) k) : Calls Try.prog 13 #[sv x, sv y] w fun e w' => e = .returned (.bool (decide (l = k))) ∧ Below w.heap.size w w' := by
  have HI : Hid (In ET w (sv x) l) := hI
  have HJ : Hid (In ET w (sv y) k) := hJ
  obtain ⟨b, c, e, m1, m2⟩ := hI.slice
  obtain ⟨b', c', e', m1', m2'⟩ := hJ.slice
  obtain ⟨sb, sl, sc⟩ := x
  obtain ⟨zb, zl, zc⟩ := y
  simp only [sv] at e e' HI HJ ⊢
  injection e with e1 e2 e3
  injection e' with e1' e2' e3'
  subst e1 e2 e3 e1' e2' e3'
  clear hI hJ
  by_cases hlen : l.length = k.length
  · obtain ⟨N, hN⟩ : ∃ N, N = l.length := ⟨_, rfl⟩
    have HN : Hid (N = l.length ∧ N = k.length) := ⟨hN, by omega⟩
    rw [← hlen] at HJ m1' ⊢
    rw [← hN] at HI HJ m1 m1' ⊢
    clear hN hlen
    go_enter Try.func13, Try.ntmps13
    go_wp2_with fail
    go_loopw [5] (fun iv wr => ∃ i : Nat, iv = .int .i64 (i : Int) ∧ i ≤ N ∧ Hid (∀ j (h : j < l.length) (h' : j < k.length), j < i → l[j] = k[j]) ∧ Hid (Below w.heap.size w wr)) (fun iv _ => N - (intOf iv).toNat)
    case atStart => exact ⟨0, rfl, by omega, fun j _ _ h => absurd h (by omega), Below.refl _ _⟩
    case round =>
      obtain ⟨i, rfl, hi, hno, hb⟩ := hrel
      by_cases hlt : i < N
      · have h1 : i < l.length := by have := HN.out.1; omega
        have h2 : i < k.length := by have := HN.out.2; omega
        obtain ⟨B1, o1, p1, e, _, hc⟩ := HI.out.tg i h1
        injection e with e1 e2 e3
        clear e2 e3
        subst e1
        obtain ⟨B2, o2, p2, e, _, hd⟩ := HJ.out.tg i h2
        injection e with e1 e2 e3
        clear e2 e3
        subst e1
        obtain ⟨c0, c1⟩ := hc wr hb.out
        obtain ⟨d0, d1⟩ := hd wr hb.out
        obtain ⟨u, hu⟩ : ∃ u, l[i] = u := ⟨_, rfl⟩
        obtain ⟨v, hv⟩ : ∃ v, k[i] = v := ⟨_, rfl⟩
        rw [hu] at c0 c1
        rw [hv] at d0 d1
        have Hu : Hid (l[i]'h1 = u) := hu
        have Hv : Hid (k[i]'h2 = v) := hv
        clear hc hd hu hv
        obtain ⟨ua, up⟩ := u
        obtain ⟨va, vp⟩ := v
        simp only at c0 c1 d0 d1
        have hq := neq_tg ua up va vp
        have hlt' : (i : Int) < (N : Int) := by omega
        cases hE : decide ((ua, up) = (va, vp))
        · rw [hE] at hq
          have HE : Hid ((ua, up) ≠ (va, vp)) := of_decide_eq_false hE
          clear hE
          have hb3 : Hid (Below w.heap.size w wr.drew) := hb.out.drew
          go_wp2_with fail
          go_region
          go_wp2_with fail
          go_ret
          refine ⟨?_, hb3.out⟩
          have : decide (l = k) = false := decide_eq_false fun e => HE.out (by rw [← Hu.out, ← Hv.out]; simp only [e])
          rw [this]
          rfl
        · rw [hE] at hq
          have HE : Hid ((ua, up) = (va, vp)) := (of_decide_eq_true hE : (ua, up) = (va, vp))
          clear hE
          have hb3 : Hid (Below w.heap.size w wr.drew) := hb.out.drew
          go_wp2_with fail
          go_region
          go_wp2_with fail
          go_roundw
          case rel =>
            refine ⟨i + 1, by simp, by omega, fun j hj hj' h => ?_, hb3.out⟩
            by_cases hji : j = i
            · subst hji
              rw [Hu.out, Hv.out]
              exact HE.out
            · exact hno.out j hj hj' (by omega)
          case measure => simp [intOf]; omega
      · have hlt' : ¬ (i : Int) < (N : Int) := by omega
        go_wp2_with fail
        go_ret
        refine ⟨?_, hb.out⟩
        have : decide (l = k) = true := decide_eq_true (List.ext_getElem (by have := HN.out; omega) fun j h1 h2 => hno.out j h1 h2 (by have := HN.out; omega))
        rw [this]
        rfl
  · have h1 : ((l.length : Int) == (k.length : Int)) = false := beq_eq_false_iff_ne.2 (by omega)
    have h2 : decide (l = k) = false := decide_eq_false fun e => hlen (by rw [e])
    rw [h2]
    clear h2 hlen
    go_enter Try.func13, Try.ntmps13
    go_wp2_with fail
    go_ret
    exact ⟨rfl, Below.refl _ _⟩

set_option maxHeartbeats 4000000 in
set_option maxRecDepth 100000 in
theorem in_any (x : SV) (l : List Tg) (t : Tg) (w : World) (hI : In ET w (sv x) l) : Calls Try.prog 14 #[sv x, .agg (tgv t)] w fun e w' => e = .returned (.bool (inB l t)) ∧ Below w.heap.size w w' := by
  have HI : Hid (In ET w (sv x) l) := hI
  obtain ⟨b, c, e, m1, m2⟩ := hI.slice
  obtain ⟨sb, sl, sc⟩ := x
  obtain ⟨ta, tp⟩ := t
  simp only [sv] at e HI ⊢
  injection e with e1 e2 e3
  subst e1 e2 e3
  clear hI
  unfold tgv
  simp only
  obtain ⟨W, hW⟩ : ∃ W, W = w.alloc (.cells #[.string ta, .string tp] 26) := ⟨_, rfl⟩
  have hb0 : Hid (Below w.heap.size w W) := by rw [hW]; exact bel1 _ _
  have d0 : W.cell? ⟨w.heap.size, 0, none⟩ = some (.string ta) := by rw [hW]; exact cell_blk (c := #[.string ta, .string tp]) (t := 26) (by rw [heap_al, if_pos rfl]) 0
  have d1 : W.cell? ⟨w.heap.size, 1, none⟩ = some (.string tp) := by rw [hW]; exact cell_blk (c := #[.string ta, .string tp]) (t := 26) (by rw [heap_al, if_pos rfl]) 1
  go_enter Try.func14, Try.ntmps14
  go_wp2_with fail
  rw [← hW]
  clear hW
  go_loopw [5] (fun kv wr => ∃ k : Nat, kv = .int .i64 (k : Int) ∧ k ≤ l.length ∧ Hid (∀ j (h : j < l.length), j < k → l[j] ≠ (ta, tp)) ∧ Hid (Below W.heap.size W wr)) (fun kv _ => l.length - (intOf kv).toNat)
  case atStart => exact ⟨0, rfl, by omega, fun j _ h => absurd h (by omega), Below.refl _ _⟩
  case round =>
    obtain ⟨k, rfl, hk, hno, hbr⟩ := hrel
    have hl0 : w.heap.size < W.heap.size := World.block_lt_of_cell? _ _ d0
    have f0 : wr.cell? ⟨w.heap.size, 0, none⟩ = some (.string ta) := (hbr.out.cell hl0).trans d0
    have f1 : wr.cell? ⟨w.heap.size, 1, none⟩ = some (.string tp) := (hbr.out.cell hl0).trans d1
    have hb2 : Hid (Below w.heap.size w wr) := hb0.out.trans (hbr.out.mono hb0.out.size)
    clear hl0
    by_cases hlt : k < l.length
    · obtain ⟨Bk, off, cap, e, hBk, hc⟩ := HI.out.tg k hlt
      injection e with e1 e2 e3
      clear e2 e3
      subst e1
      obtain ⟨c0, c1⟩ := hc _ hb2.out
      obtain ⟨y, hy⟩ : ∃ y, l[k] = y := ⟨_, rfl⟩
      rw [hy] at c0 c1
      have Hy : Hid (l[k]'hlt = y) := hy
      clear hc hy
      obtain ⟨ya, yp⟩ := y
      simp only at c0 c1
      have hq := eql_tg ya yp ta tp
      cases hE : decide ((ya, yp) = (ta, tp))
      · rw [hE] at hq
        have HE : Hid ((ya, yp) ≠ (ta, tp)) := of_decide_eq_false hE
        clear hE
        go_wp2_with fail
        go_region
        have hb3 : Hid (Below W.heap.size W wr.drew) := hbr.out.drew
        go_wp2_with fail
        go_roundw
        case rel =>
          refine ⟨k + 1, by simp, by omega, fun j hj h => ?_, hb3.out⟩
          by_cases hjk : j = k
          · subst hjk
            rw [Hy.out]
            exact HE.out
          · exact hno.out j hj (by omega)
        case measure => simp [intOf]; omega
      · rw [hE] at hq
        have HE : Hid ((ya, yp) = (ta, tp)) := (of_decide_eq_true hE : (ya, yp) = (ta, tp))
        have hb3 : Hid (Below w.heap.size w wr.drew) := hb2.out.drew
        clear hE
        go_wp2_with fail
        go_region
        go_wp2_with fail
        go_ret
        have : inB l (ta, tp) = true := inB_iff.2 (by rw [← HE.out, ← Hy.out]; exact List.getElem_mem hlt)
        exact ⟨by rw [this]; rfl, hb3.out⟩
    · have hlt' : ¬ (k : Int) < (l.length : Int) := by omega
      go_wp2_with fail
      go_ret
      have : inB l (ta, tp) = false := inB_not.2 fun hx => by
        obtain ⟨j, hj, e⟩ := List.getElem_of_mem hx
        exact hno.out j hj (by omega) e
      exact ⟨by rw [this]; rfl, hb2.out⟩

set_option maxHeartbeats 4000000 in
set_option maxRecDepth 100000 in
theorem names_any (x : SV) (l : List Ru) (t : Tg) (w : World) (hI : In ER w (sv x) l) : Calls Try.prog 15 #[sv x, .agg (tgv t)] w fun e w' => e = .returned (sv (yR l t)) ∧ Below w.heap.size w w' := by
  have HI : Hid (In ER w (sv x) l) := hI
  obtain ⟨b, c, e, m1, m2⟩ := hI.slice
  obtain ⟨sb, sl, sc⟩ := x
  obtain ⟨ta, tp⟩ := t
  simp only [sv] at e HI
  injection e with e1 e2 e3
  subst e1 e2 e3
  clear hI
  unfold tgv
  simp only [sv.eq_1 (sb, l.length, sc)]
  obtain ⟨Y, hY⟩ : ∃ Y, yR l (ta, tp) = Y := ⟨_, rfl⟩
  rw [hY]
  have HY : Hid (yR l (ta, tp) = Y) := hY
  clear hY
  obtain ⟨W, hW⟩ : ∃ W, W = w.alloc (.cells #[.string ta, .string tp] 26) := ⟨_, rfl⟩
  have hb0 : Hid (Below w.heap.size w W) := by rw [hW]; exact bel1 _ _
  have d0 : W.cell? ⟨w.heap.size, 0, none⟩ = some (.string ta) := by rw [hW]; exact cell_blk (c := #[.string ta, .string tp]) (t := 26) (by rw [heap_al, if_pos rfl]) 0
  have d1 : W.cell? ⟨w.heap.size, 1, none⟩ = some (.string tp) := by rw [hW]; exact cell_blk (c := #[.string ta, .string tp]) (t := 26) (by rw [heap_al, if_pos rfl]) 1
  go_enter Try.func15, Try.ntmps15
  go_wp2_with fail
  rw [← hW]
  clear hW
  go_loopw [5] (fun kv wr => ∃ k : Nat, kv = .int .i64 (k : Int) ∧ k ≤ l.length ∧ Hid (∀ j (h : j < l.length), j < k → l[j].t ≠ (ta, tp)) ∧ Hid (Below W.heap.size W wr)) (fun kv _ => l.length - (intOf kv).toNat)
  case atStart => exact ⟨0, rfl, by omega, fun j _ h => absurd h (by omega), Below.refl _ _⟩
  case round =>
    obtain ⟨k, rfl, hk, hno, hbr⟩ := hrel
    have hl0 : w.heap.size < W.heap.size := World.block_lt_of_cell? _ _ d0
    have f0 : wr.cell? ⟨w.heap.size, 0, none⟩ = some (.string ta) := (hbr.out.cell hl0).trans d0
    have f1 : wr.cell? ⟨w.heap.size, 1, none⟩ = some (.string tp) := (hbr.out.cell hl0).trans d1
    have hb2 : Hid (Below w.heap.size w wr) := hb0.out.trans (hbr.out.mono hb0.out.size)
    clear hl0
    by_cases hlt : k < l.length
    · obtain ⟨Bk, off, cap, e, hBk, hc⟩ := HI.out.ru k hlt
      injection e with e1 e2 e3
      clear e2 e3
      subst e1
      obtain ⟨c0, c1, c2⟩ := hc _ hb2.out
      obtain ⟨y, hy⟩ : ∃ y, l[k] = y := ⟨_, rfl⟩
      rw [hy] at c0 c1 c2
      have Hy : Hid (l[k]'hlt = y) := hy
      clear hc hy
      obtain ⟨⟨ya, yp⟩, ⟨yb, yl, yc⟩, yps⟩ := y
      simp only [sv] at c0 c1 c2
      have hq := eql_tg ya yp ta tp
      cases hE : decide ((ya, yp) = (ta, tp))
      · rw [hE] at hq
        have HE : Hid ((ya, yp) ≠ (ta, tp)) := of_decide_eq_false hE
        clear hE
        go_wp2_with fail
        go_region
        have hb3 : Hid (Below W.heap.size W wr.drew) := hbr.out.drew
        go_wp2_with fail
        go_roundw
        case rel =>
          refine ⟨k + 1, by simp, by omega, fun j hj h => ?_, hb3.out⟩
          by_cases hjk : j = k
          · subst hjk
            rw [Hy.out]
            exact HE.out
          · exact hno.out j hj (by omega)
        case measure => simp [intOf]; omega
      · rw [hE] at hq
        have HE : Hid ((ya, yp) = (ta, tp)) := (of_decide_eq_true hE : (ya, yp) = (ta, tp))
        have hb3 : Hid (Below w.heap.size w wr.drew) := hb2.out.drew
        clear hE
        go_wp2_with fail
        go_region
        go_wp2_with fail
        go_ret
        have hf : l.find? (fun r => decide (r.t = (ta, tp))) = some ⟨(ya, yp), (yb, yl, yc), yps⟩ := List.find?_eq_some_iff_getElem.2 ⟨decide_eq_true HE.out, k, hlt, Hy.out, fun j hj => by
          have := hno.out j (by omega) hj
          simp [this]⟩
        refine ⟨?_, hb3.out⟩
        rw [← HY.out]
        unfold yR
        rw [hf]
        rfl
    · have hlt' : ¬ (k : Int) < (l.length : Int) := by omega
      go_wp2_with fail
      go_ret
      have hf : l.find? (fun r => decide (r.t = (ta, tp))) = none := List.find?_eq_none.2 fun r hr => by
        obtain ⟨j, hj, e⟩ := List.getElem_of_mem hr
        have := hno.out j hj (by omega)
        rw [e] at this
        simp [this]
      refine ⟨?_, hb2.out⟩
      rw [← HY.out]
      unfold yR
      rw [hf]
      rfl
end Go.Proofs.Ytldnibkgdpeocaa
