/- The document's text, Right, In, Names. -/
import Derived.Test.YtldnibkgdpeocaaS3
namespace Go.Proofs.Ytldnibkgdpeocaa
open Go.RowKit Go.Maps
open Go.Shelf
set_option linter.unusedVariables false
set_option linter.unusedSimpArgs false

theorem vis_iff (x : UInt8) : visB (x.toNat : Int) = true ↔ 33 ≤ x.toNat ∧ x.toNat ≤ 126 := by
  unfold visB
  simp only [Bool.and_eq_true, decide_eq_true_eq]
  omega
set_option maxHeartbeats 4000000 in
set_option maxRecDepth 100000 in
theorem text_any (s : ByteArray) (most : Int) (w : World) (hz : s.size ≤ 281474976710656) : Calls Try.prog 36 #[.string s, .int .i64 most] w fun e w' => e = .returned (.bool (consB most s)) ∧ w' = w := by
  have hz63 : s.size ≤ 9223372036854775807 := by omega
  clear hz
  go_enter Try.func36, Try.ntmps36
  go_wp2_with fail
  go_loopw [5] (fun iv wr => ∃ i : Nat, iv = .int .i64 (i : Int) ∧ i ≤ s.size ∧ wr = w ∧ Hid (frontB s i)) (fun iv _ => s.size - (intOf iv).toNat)
  case atStart => exact ⟨0, rfl, by omega, rfl, fun j _ h => absurd h (by omega)⟩
  case round =>
    obtain ⟨i, rfl, hi, rfl, hfr⟩ := hrel
    by_cases hlt : i < s.size
    · have l1 : (i : Int) < (s.size : Int) := by omega
      obtain ⟨x, hx⟩ : ∃ x : UInt8, s[i]'hlt = x := ⟨_, rfl⟩
      have HX : Hid (s[i]'hlt = x) := hx
      by_cases hB : 33 ≤ x.toNat ∧ x.toNat ≤ 126
      · have l2 : ¬ ((x.toNat : Int) < 33) := by omega
        have l3 : ¬ (126 < (x.toNat : Int)) := by omega
        have HB : Hid (visB (x.toNat : Int) = true) := (vis_iff x).2 hB
        clear hB
        go_wp2_with fail
        go_roundw
        case rel =>
          refine ⟨i + 1, by simp, by omega, by first | trivial | rfl, fun j hj h => ?_⟩
          by_cases hji : j = i
          · subst hji
            rw [HX.out]
            exact HB.out
          · exact hfr.out j hj (by omega)
        case measure => simp [intOf]; omega
      · have hfa : Hid (consB most s = false) := by
          have := all_false hlt (by rw [hx]; exact Bool.eq_false_iff.2 fun h => hB ((vis_iff x).1 h))
          show _ = _
          unfold consB
          rw [this]
          simp
        by_cases hB1 : x.toNat < 33
        · have l2 : (x.toNat : Int) < 33 := by omega
          clear hB hB1
          go_wp2_with fail
          go_ret
          exact ⟨by rw [hfa.out]; rfl, rfl⟩
        · have l2 : ¬ ((x.toNat : Int) < 33) := by omega
          have l3 : 126 < (x.toNat : Int) := by omega
          clear hB hB1
          go_wp2_with fail
          go_ret
          exact ⟨by rw [hfa.out]; rfl, rfl⟩
    · obtain rfl : i = s.size := by omega
      have l1 : ¬ (s.size : Int) < (s.size : Int) := by omega
      have hc : consB most s = (decide (1 ≤ s.size) && decide ((s.size : Int) ≤ most)) := by unfold consB; rw [hfr.out.all]; simp
      by_cases h1 : 1 ≤ s.size
      · have a1 : (1 : Int) ≤ (s.size : Int) := by omega
        rw [decide_eq_true h1] at hc
        by_cases h2 : (s.size : Int) ≤ most
        · rw [decide_eq_true h2] at hc
          have HC : Hid (consB most s = true) := hc
          clear hc h1
          go_wp2_with fail
          go_ret
          exact ⟨by rw [HC.out]; rfl, rfl⟩
        · rw [decide_eq_false h2] at hc
          have HC : Hid (consB most s = false) := hc
          have hd : decide ((s.size : Int) ≤ most) = false := decide_eq_false h2
          clear hc h1 h2
          go_wp2_with fail
          go_ret
          exact ⟨by rw [HC.out]; rfl, rfl⟩
      · have a1 : ¬ (1 : Int) ≤ (s.size : Int) := by omega
        rw [decide_eq_false h1] at hc
        have HC : Hid (consB most s = false) := hc
        clear hc h1
        go_wp2_with fail
        go_ret
        exact ⟨by rw [HC.out]; rfl, rfl⟩

set_option maxHeartbeats 2000000 in
theorem right_any (t : Tg) (w : World) (hz : tz t) : Calls Try.prog 28 #[.agg (tgv t)] w fun e w' => e = .returned (.bool (tgB t)) ∧ Below w.heap.size w w' := by
  obtain ⟨a, p⟩ := t
  have h1 : Hid (∀ W, Calls Try.prog 36 #[.string a, .int .i64 255] W fun e w' => e = .returned (.bool (consB 255 a)) ∧ w' = W) := fun W => text_any a 255 W hz.1
  have h2 : Hid (∀ W, Calls Try.prog 36 #[.string p, .int .i64 4096] W fun e w' => e = .returned (.bool (consB 4096 p)) ∧ w' = W) := fun W => text_any p 4096 W hz.2
  clear hz
  unfold tgv tgB
  simp only
  cases hA : consB 255 a
  · rw [hA] at h1
    clear hA h2
    go_enter Try.func28, Try.ntmps28
    go_wp2_with (go_at_call 36; refine (h1.out _).mono ?_; rintro e w1 ⟨rfl, hw⟩; rw [hw])
    go_ret
    exact ⟨by simp, bel1 _ _⟩
  · rw [hA] at h1
    clear hA
    cases hP : consB 4096 p
    · rw [hP] at h2
      clear hP
      go_enter Try.func28, Try.ntmps28
      go_wp2_with fail
      go_at_call 36
      refine (h1.out _).mono ?_
      rintro e w1 ⟨rfl, hw⟩
      rw [hw]
      clear hw
      go_wp2_with fail
      go_at_call 36
      refine (h2.out _).mono ?_
      rintro e w1 ⟨rfl, hw⟩
      rw [hw]
      clear hw
      go_wp2_with fail
      go_ret
      exact ⟨by simp, bel1 _ _⟩
    · rw [hP] at h2
      have hp : 0 < p.size := consB_size hP
      clear hP
      go_enter Try.func28, Try.ntmps28
      go_wp2_with fail
      go_at_call 36
      refine (h1.out _).mono ?_
      rintro e w1 ⟨rfl, hw⟩
      rw [hw]
      clear hw
      go_wp2_with fail
      go_at_call 36
      refine (h2.out _).mono ?_
      rintro e w1 ⟨rfl, hw⟩
      rw [hw]
      clear hw
      go_wp2_with fail
      go_ret
      exact ⟨by rw [← first_eq hp]; rfl, bel1 _ _⟩

set_option maxHeartbeats 4000000 in
set_option maxRecDepth 100000 in
theorem rin_any (x : SV) (l : List Tg) (t : Tg) (w : World) (hI : In ET w (sv x) l) : Calls Try.prog 29 #[sv x, .agg (tgv t)] w fun e w' => e = .returned (.bool (inB l t)) ∧ Below w.heap.size w w' := by
  have HI : Hid (In ET w (sv x) l) := hI
  obtain ⟨b, c, e, m1, m2⟩ := hI.slice
  obtain ⟨sb, sl, sc⟩ := x
  obtain ⟨ta, tp⟩ := t
  simp only [sv] at e HI ⊢
  injection e with e1 e2 e3
  subst e1 e2 e3
  clear hI
  unfold tgv
  simp only
  obtain ⟨W, hW⟩ : ∃ W, W = w.alloc (.cells #[.string ta, .string tp] 26) := ⟨_, rfl⟩
  have hb0 : Hid (Below w.heap.size w W) := by rw [hW]; exact bel1 _ _
  have d0 : W.cell? ⟨w.heap.size, 0, none⟩ = some (.string ta) := by rw [hW]; exact cell_blk (c := #[.string ta, .string tp]) (t := 26) (by rw [heap_al, if_pos rfl]) 0
  have d1 : W.cell? ⟨w.heap.size, 1, none⟩ = some (.string tp) := by rw [hW]; exact cell_blk (c := #[.string ta, .string tp]) (t := 26) (by rw [heap_al, if_pos rfl]) 1
  go_enter Try.func29, Try.ntmps29
  go_wp2_with fail
  rw [← hW]
  clear hW
  go_loopw [5] (fun kv wr => ∃ k : Nat, kv = .int .i64 (k : Int) ∧ k ≤ l.length ∧ Hid (∀ j (h : j < l.length), j < k → l[j] ≠ (ta, tp)) ∧ Hid (Below W.heap.size W wr)) (fun kv _ => l.length - (intOf kv).toNat)
  case atStart => exact ⟨0, rfl, by omega, fun j _ h => absurd h (by omega), Below.refl _ _⟩
  case round =>
    obtain ⟨k, rfl, hk, hno, hbr⟩ := hrel
    have hl0 : w.heap.size < W.heap.size := World.block_lt_of_cell? _ _ d0
    have f0 : wr.cell? ⟨w.heap.size, 0, none⟩ = some (.string ta) := (hbr.out.cell hl0).trans d0
    have f1 : wr.cell? ⟨w.heap.size, 1, none⟩ = some (.string tp) := (hbr.out.cell hl0).trans d1
    have hb2 : Hid (Below w.heap.size w wr) := hb0.out.trans (hbr.out.mono hb0.out.size)
    clear hl0
    by_cases hlt : k < l.length
    · obtain ⟨Bk, off, cap, e, hBk, hc⟩ := HI.out.tg k hlt
      injection e with e1 e2 e3
      clear e2 e3
      subst e1
      obtain ⟨c0, c1⟩ := hc _ hb2.out
      obtain ⟨y, hy⟩ : ∃ y, l[k] = y := ⟨_, rfl⟩
      rw [hy] at c0 c1
      have Hy : Hid (l[k]'hlt = y) := hy
      clear hc hy
      obtain ⟨ya, yp⟩ := y
      simp only at c0 c1
      have hq := eql_tg ya yp ta tp
      cases hE : decide ((ya, yp) = (ta, tp))
      · rw [hE] at hq
        have HE : Hid ((ya, yp) ≠ (ta, tp)) := of_decide_eq_false hE
        clear hE
        go_wp2_with fail
        go_region
        have hb3 : Hid (Below W.heap.size W wr.drew) := hbr.out.drew
        go_wp2_with fail
        go_roundw
        case rel =>
          refine ⟨k + 1, by simp, by omega, fun j hj h => ?_, hb3.out⟩
          by_cases hjk : j = k
          · subst hjk
            rw [Hy.out]
            exact HE.out
          · exact hno.out j hj (by omega)
        case measure => simp [intOf]; omega
      · rw [hE] at hq
        have HE : Hid ((ya, yp) = (ta, tp)) := (of_decide_eq_true hE : (ya, yp) = (ta, tp))
        have hb3 : Hid (Below w.heap.size w wr.drew) := hb2.out.drew
        clear hE
        go_wp2_with fail
        go_region
        go_wp2_with fail
        go_ret
        have : inB l (ta, tp) = true := inB_iff.2 (by rw [← HE.out, ← Hy.out]; exact List.getElem_mem hlt)
        exact ⟨by rw [this]; rfl, hb3.out⟩
    · have hlt' : ¬ (k : Int) < (l.length : Int) := by omega
      go_wp2_with fail
      go_ret
      have : inB l (ta, tp) = false := inB_not.2 fun hx => by
        obtain ⟨j, hj, e⟩ := List.getElem_of_mem hx
        exact hno.out j hj (by omega) e
      exact ⟨by rw [this]; rfl, hb2.out⟩

set_option maxHeartbeats 4000000 in
set_option maxRecDepth 100000 in
theorem rnames_any (g : Nat) (x : SV) (l : List Ru) (t : Tg) (w : World) (hg : w.cell? ⟨g, 0, none⟩ = some (sv x)) (hI : In ER w (sv x) l) : Calls Try.prog 30 #[.pointer (some ⟨g, 0, none⟩), .agg (tgv t)] w fun e w' => e = .returned (sv (yR l t)) ∧ Below w.heap.size w w' := by
  have HI : Hid (In ER w (sv x) l) := hI
  obtain ⟨b, c, e, m1, m2⟩ := hI.slice
  obtain ⟨sb, sl, sc⟩ := x
  obtain ⟨ta, tp⟩ := t
  simp only [sv] at e HI hg
  injection e with e1 e2 e3
  subst e1 e2 e3
  have HG : Hid (∀ V, Below w.heap.size w V → V.cell? ⟨g, 0, none⟩ = some (.slice sb l.length sc)) := fun V hV => (hV.cell (World.block_lt_of_cell? _ _ hg)).trans hg
  clear hI hg
  unfold tgv
  simp only
  obtain ⟨Y, hY⟩ : ∃ Y, yR l (ta, tp) = Y := ⟨_, rfl⟩
  rw [hY]
  have HY : Hid (yR l (ta, tp) = Y) := hY
  clear hY
  obtain ⟨W, hW⟩ : ∃ W, W = w.alloc (.cells #[.string ta, .string tp] 26) := ⟨_, rfl⟩
  have hb0 : Hid (Below w.heap.size w W) := by rw [hW]; exact bel1 _ _
  have d0 : W.cell? ⟨w.heap.size, 0, none⟩ = some (.string ta) := by rw [hW]; exact cell_blk (c := #[.string ta, .string tp]) (t := 26) (by rw [heap_al, if_pos rfl]) 0
  have d1 : W.cell? ⟨w.heap.size, 1, none⟩ = some (.string tp) := by rw [hW]; exact cell_blk (c := #[.string ta, .string tp]) (t := 26) (by rw [heap_al, if_pos rfl]) 1
  go_enter Try.func30, Try.ntmps30
  go_wp2_with fail
  rw [← hW]
  clear hW
  go_loopw [5] (fun kv wr => ∃ k : Nat, kv = .int .i64 (k : Int) ∧ k ≤ l.length ∧ Hid (∀ j (h : j < l.length), j < k → l[j].t ≠ (ta, tp)) ∧ Hid (Below W.heap.size W wr)) (fun kv _ => l.length - (intOf kv).toNat)
  case atStart => exact ⟨0, rfl, by omega, fun j _ h => absurd h (by omega), Below.refl _ _⟩
  case round =>
    obtain ⟨k, rfl, hk, hno, hbr⟩ := hrel
    have hl0 : w.heap.size < W.heap.size := World.block_lt_of_cell? _ _ d0
    have f0 : wr.cell? ⟨w.heap.size, 0, none⟩ = some (.string ta) := (hbr.out.cell hl0).trans d0
    have f1 : wr.cell? ⟨w.heap.size, 1, none⟩ = some (.string tp) := (hbr.out.cell hl0).trans d1
    have hb2 : Hid (Below w.heap.size w wr) := hb0.out.trans (hbr.out.mono hb0.out.size)
    clear hl0
    have hgr := HG.out wr hb2.out
    by_cases hlt : k < l.length
    · obtain ⟨Bk, off, cap, e, hBk, hc⟩ := HI.out.ru k hlt
      injection e with e1 e2 e3
      clear e2 e3
      subst e1
      obtain ⟨c0, c1, c2⟩ := hc _ hb2.out
      obtain ⟨y, hy⟩ : ∃ y, l[k] = y := ⟨_, rfl⟩
      rw [hy] at c0 c1 c2
      have Hy : Hid (l[k]'hlt = y) := hy
      clear hc hy
      obtain ⟨⟨ya, yp⟩, ⟨yb, yl, yc⟩, yps⟩ := y
      simp only [sv] at c0 c1 c2
      have hq := eql_tg ya yp ta tp
      cases hE : decide ((ya, yp) = (ta, tp))
      · rw [hE] at hq
        have HE : Hid ((ya, yp) ≠ (ta, tp)) := of_decide_eq_false hE
        clear hE
        go_wp2_with fail
        go_region
        have hb3 : Hid (Below W.heap.size W wr.drew) := hbr.out.drew
        go_wp2_with fail
        go_roundw
        case rel =>
          refine ⟨k + 1, by simp, by omega, fun j hj h => ?_, hb3.out⟩
          by_cases hjk : j = k
          · subst hjk
            rw [Hy.out]
            exact HE.out
          · exact hno.out j hj (by omega)
        case measure => simp [intOf]; omega
      · rw [hE] at hq
        have HE : Hid ((ya, yp) = (ta, tp)) := (of_decide_eq_true hE : (ya, yp) = (ta, tp))
        have hb3 : Hid (Below w.heap.size w wr.drew) := hb2.out.drew
        clear hE
        go_wp2_with fail
        go_region
        go_wp2_with fail
        go_ret
        have hf : l.find? (fun r => decide (r.t = (ta, tp))) = some ⟨(ya, yp), (yb, yl, yc), yps⟩ := List.find?_eq_some_iff_getElem.2 ⟨decide_eq_true HE.out, k, hlt, Hy.out, fun j hj => by
          have := hno.out j (by omega) hj
          simp [this]⟩
        refine ⟨?_, hb3.out⟩
        rw [← HY.out]
        unfold yR
        rw [hf]
        rfl
    · have hlt' : ¬ (k : Int) < (l.length : Int) := by omega
      go_wp2_with fail
      go_ret
      have hf : l.find? (fun r => decide (r.t = (ta, tp))) = none := List.find?_eq_none.2 fun r hr => by
        obtain ⟨j, hj, e⟩ := List.getElem_of_mem hr
        have := hno.out j hj (by omega)
        rw [e] at this
        simp [this]
      refine ⟨?_, hb2.out⟩
      rw [← HY.out]
      unfold yR
      rw [hf]
      rfl
end Go.Proofs.Ytldnibkgdpeocaa
