/- Rows of targets; ContainsFunc(targets, isWrongTarget), Contains. -/
import Derived.Test.YtldnibkgdpeocaaA1
import Derived.Laws.StructEq
namespace Go.Proofs.Ytldnibkgdpeocaa
open Go.RowKit
open Go.Shelf
set_option linter.unusedVariables false
set_option linter.unusedSimpArgs false

abbrev SV := Option Addr × Nat × Nat
def sv (x : SV) : Value := .slice x.1 x.2.1 x.2.2
def ET : El Tg := ⟨27, 26, 2, 32, fun t => (tgv t).toList⟩
theorem okT : ET.Ok := ⟨Try.underlying27, by kernel_rfl, by decide, by decide, fun _ => rfl, fun a u hu => by
  simp only [ET, tgv, List.mem_cons, List.not_mem_nil, or_false] at hu
  rcases hu with rfl | rfl <;> rfl⟩
theorem In.tg {w : World} {v : Value} {l : List Tg} (h : In ET w v l) (k : Nat) (hk : k < l.length) : ∃ B off cap, v = .slice (some ⟨B, off, none⟩) l.length cap ∧ B < w.heap.size ∧ ∀ W, Below w.heap.size w W → W.cell? ⟨B, off + k * 2, none⟩ = some (.string l[k].1) ∧ W.cell? ⟨B, off + k * 2 + 1, none⟩ = some (.string l[k].2) := by
  obtain ⟨B, off, cap, e, hB, hc⟩ := h.get okT k hk
  refine ⟨B, off, cap, e, hB, fun W hW => ?_⟩
  have c0 := hc 0 (.string l[k].1) rfl
  have c1 := hc 1 (.string l[k].2) rfl
  exact ⟨(hW.cell hB).trans c0, (hW.cell hB).trans c1⟩

theorem en32 : ∀ args W, (callFunc 32 args).run Try.prog W = .ok (.enter 32 args) W := enters_of Try.func32 (by kernel_rfl) rfl
def badT (t : Tg) : Bool := !tgB t
set_option maxHeartbeats 4000000 in
set_option maxRecDepth 100000 in
theorem index38_any (x : SV) (l : List Tg) (w : World) (hI : In ET w (sv x) l) :
    Calls Try.prog 38 #[sv x, .func (.func 32) #[] #[]] w fun e w' => ∃ n : Int, e = .returned (.int .i64 n) ∧ decide (0 ≤ n) = l.any badT ∧ Below w.heap.size w w' := by
  have HI : Hid (In ET w (sv x) l) := hI
  have hen := en32
  obtain ⟨b, c, e, m1, m2⟩ := hI.slice
  obtain ⟨sb, sl, sc⟩ := x
  simp only [sv] at e HI ⊢
  injection e with e1 e2 e3
  subst e1 e2 e3
  clear hI
  go_enter Try.func38, Try.ntmps38
  go_wp2_with fail
  go_loopw [5, 8] (fun _ kv wr => ∃ k : Nat, kv = .int .i64 (k : Int) ∧ k ≤ l.length ∧ Hid (∀ j (h : j < l.length), j < k → badT l[j] = false) ∧ Hid (Below w.heap.size w wr)) (fun _ kv _ => l.length - (intOf kv).toNat)
  case atStart => exact ⟨0, rfl, by omega, fun j _ h => absurd h (by omega), Below.refl _ _⟩
  case round =>
    obtain ⟨k, rfl, hk, hno, hb⟩ := hrel
    by_cases hlt : k < l.length
    · obtain ⟨Bk, off, cap, e, hBk, hc⟩ := HI.out.tg k hlt
      injection e with e1 e2 e3
      clear e2 e3
      subst e1
      obtain ⟨c0, c1⟩ := hc wr hb.out
      obtain ⟨y, hy⟩ : ∃ y, l[k] = y := ⟨_, rfl⟩
      rw [hy] at c0 c1
      have Hy : Hid (l[k]'hlt = y) := hy
      have hCl : Hid (Calls Try.prog 32 #[.agg (tgv y)] wr fun e w' => e = .returned (.bool (badT y)) ∧ Below wr.heap.size wr w') := isWrongTarget_any y wr
      clear hc hy
      obtain ⟨ya, yp⟩ := y
      unfold tgv at hCl
      simp only at c0 c1 hCl
      cases hB : badT (ya, yp)
      · rw [hB] at hCl
        have HB : Hid (badT (ya, yp) = false) := hB
        clear hB
        go_wp2_with fail
        refine hCl.out.mono ?_
        rintro e w1 ⟨rfl, hb1⟩
        have hb2 : Hid (Below w.heap.size w w1) := hb.out.trans (hb1.mono hb.out.size)
        clear hb1
        go_wp2_with fail
        go_roundw
        case rel =>
          refine ⟨k + 1, by simp, by omega, fun j hj h => ?_, hb2.out⟩
          by_cases hjk : j = k
          · subst hjk
            rw [Hy.out]
            exact HB.out
          · exact hno.out j hj (by omega)
        case measure => simp [intOf]; omega
      · rw [hB] at hCl
        have HB : Hid (badT (ya, yp) = true) := hB
        clear hB
        go_wp2_with fail
        refine hCl.out.mono ?_
        rintro e w1 ⟨rfl, hb1⟩
        have hb2 : Hid (Below w.heap.size w w1) := hb.out.trans (hb1.mono hb.out.size)
        clear hb1
        go_wp2_with fail
        go_ret
        refine ⟨(k : Int), rfl, ?_, hb2.out⟩
        have : l.any badT = true := List.any_eq_true.2 ⟨_, by rw [← Hy.out]; exact List.getElem_mem hlt, HB.out⟩
        rw [this]
        simp
    · have hlt' : ¬ (k : Int) < (l.length : Int) := by omega
      go_wp2_with fail
      go_ret
      refine ⟨-1, rfl, ?_, hb.out⟩
      have : l.any badT = false := List.any_eq_false.2 fun x hx => by
        obtain ⟨j, hj, e⟩ := List.getElem_of_mem hx
        rw [← e, hno.out j hj (by omega)]
        simp
      rw [this]
      rfl

set_option maxHeartbeats 1000000 in
theorem contains33_any (x : SV) (l : List Tg) (w : World) (hI : In ET w (sv x) l) :
    Calls Try.prog 33 #[sv x, .func (.func 32) #[] #[]] w fun e w' => e = .returned (.bool (l.any badT)) ∧ Below w.heap.size w w' := by
  have hX : Hid (Calls Try.prog 38 #[sv x, .func (.func 32) #[] #[]] w fun e w' => ∃ n : Int, e = .returned (.int .i64 n) ∧ decide (0 ≤ n) = l.any badT ∧ Below w.heap.size w w') := index38_any x l w hI
  obtain ⟨sb, sl, sc⟩ := x
  simp only [sv] at hX ⊢
  clear hI
  go_enter Try.func33, Try.ntmps33
  go_wp2_with fail
  go_at_call 38
  refine hX.out.mono ?_
  rintro e w1 ⟨n, rfl, hn, hb1⟩
  have HN : Hid (decide (0 ≤ n) = l.any badT) := hn
  clear hn hX
  go_wp2_with fail
  go_ret
  exact ⟨by rw [← HN.out]; rfl, hb1⟩

theorem bytes_eq {a b : ByteArray} (h : a.toList = b.toList) : a = b := by
  rw [ByteArray.toList_eq, ByteArray.toList_eq] at h
  exact ByteArray.ext (Array.toList_inj.mp h)
theorem eql_tg (a p b q : ByteArray) (W : World) : (binOp .eql 26 (.agg #[.string a, .string p]) (.agg #[.string b, .string q])).run Try.prog W = .ok (.bool (decide ((a, p) = (b, q)))) W := by
  by_cases h1 : a = b
  · subst h1
    by_cases h2 : p = q
    · subst h2
      simp [go_sem]
    · have h3 : ¬ p.toList = q.toList := fun e => h2 (bytes_eq e)
      simp [go_sem, h2, h3]
  · have h3 : ¬ a.toList = b.toList := fun e => h1 (bytes_eq e)
    simp [go_sem, h1, h3]
theorem neq_tg (a p b q : ByteArray) (W : World) : (binOp .neq 26 (.agg #[.string a, .string p]) (.agg #[.string b, .string q])).run Try.prog W = .ok (.bool (!decide ((a, p) = (b, q)))) W := by
  by_cases h1 : a = b
  · subst h1
    by_cases h2 : p = q
    · subst h2
      simp [go_sem]
    · have h3 : ¬ p.toList = q.toList := fun e => h2 (bytes_eq e)
      simp [go_sem, h2, h3]
  · have h3 : ¬ a.toList = b.toList := fun e => h1 (bytes_eq e)
    simp [go_sem, h1, h3]
/-- does it stand in the list? -/
def inB (l : List Tg) (t : Tg) : Bool := l.any fun x => decide (x = t)
theorem inB_iff {l : List Tg} {t : Tg} : inB l t = true ↔ t ∈ l := by
  unfold inB
  rw [List.any_eq_true]
  exact ⟨fun ⟨x, h1, h2⟩ => by rw [← of_decide_eq_true h2]; exact h1, fun h => ⟨t, h, decide_eq_true rfl⟩⟩
theorem inB_not {l : List Tg} {t : Tg} : inB l t = false ↔ t ∉ l := by rw [← inB_iff, Bool.not_eq_true]

set_option maxHeartbeats 4000000 in
set_option maxRecDepth 100000 in
theorem index39_any (x : SV) (l : List Tg) (t : Tg) (w : World) (hI : In ET w (sv x) l) :
    Calls Try.prog 39 #[sv x, .agg (tgv t)] w fun e w' => ∃ n : Int, e = .returned (.int .i64 n) ∧ decide (0 ≤ n) = inB l t ∧ Below w.heap.size w w' := by
  have HI : Hid (In ET w (sv x) l) := hI
  obtain ⟨b, c, e, m1, m2⟩ := hI.slice
  obtain ⟨sb, sl, sc⟩ := x
  obtain ⟨ta, tp⟩ := t
  simp only [sv] at e HI ⊢
  injection e with e1 e2 e3
  subst e1 e2 e3
  clear hI
  unfold tgv
  simp only
  obtain ⟨W, hW⟩ : ∃ W, W = w.alloc (.cells #[.string ta, .string tp] 26) := ⟨_, rfl⟩
  have hb0 : Hid (Below w.heap.size w W) := by rw [hW]; exact bel1 _ _
  have d0 : W.cell? ⟨w.heap.size, 0, none⟩ = some (.string ta) := by rw [hW]; exact cell_blk (c := #[.string ta, .string tp]) (t := 26) (by rw [heap_al, if_pos rfl]) 0
  have d1 : W.cell? ⟨w.heap.size, 1, none⟩ = some (.string tp) := by rw [hW]; exact cell_blk (c := #[.string ta, .string tp]) (t := 26) (by rw [heap_al, if_pos rfl]) 1
  go_enter Try.func39, Try.ntmps39
  go_wp2_with fail
  rw [← hW]
  clear hW
  go_loopw [5, 8] (fun _ kv wr => ∃ k : Nat, kv = .int .i64 (k : Int) ∧ k ≤ l.length ∧ Hid (∀ j (h : j < l.length), j < k → l[j] ≠ (ta, tp)) ∧ Hid (Below W.heap.size W wr)) (fun _ kv _ => l.length - (intOf kv).toNat)
  case atStart => exact ⟨0, rfl, by omega, fun j _ h => absurd h (by omega), Below.refl _ _⟩
  case round =>
    obtain ⟨k, rfl, hk, hno, hbr⟩ := hrel
    have hl0 : w.heap.size < W.heap.size := World.block_lt_of_cell? _ _ d0
    have f0 : wr.cell? ⟨w.heap.size, 0, none⟩ = some (.string ta) := (hbr.out.cell hl0).trans d0
    have f1 : wr.cell? ⟨w.heap.size, 1, none⟩ = some (.string tp) := (hbr.out.cell hl0).trans d1
    have hb2 : Hid (Below w.heap.size w wr) := hb0.out.trans (hbr.out.mono hb0.out.size)
    clear hl0
    by_cases hlt : k < l.length
    · obtain ⟨Bk, off, cap, e, hBk, hc⟩ := HI.out.tg k hlt
      injection e with e1 e2 e3
      clear e2 e3
      subst e1
      obtain ⟨c0, c1⟩ := hc _ hb2.out
      obtain ⟨y, hy⟩ : ∃ y, l[k] = y := ⟨_, rfl⟩
      rw [hy] at c0 c1
      have Hy : Hid (l[k]'hlt = y) := hy
      clear hc hy
      obtain ⟨ya, yp⟩ := y
      simp only at c0 c1
      have hq := eql_tg ta tp ya yp
      cases hE : decide ((ta, tp) = (ya, yp))
      · rw [hE] at hq
        have HE : Hid ((ta, tp) ≠ (ya, yp)) := of_decide_eq_false hE
        clear hE
        go_wp2_with fail
        go_region
        have hb3 : Hid (Below W.heap.size W wr.drew) := hbr.out.drew
        go_wp2_with fail
        go_roundw
        case rel =>
          refine ⟨k + 1, by simp, by omega, fun j hj h => ?_, hb3.out⟩
          by_cases hjk : j = k
          · subst hjk
            rw [Hy.out]
            exact fun e => HE.out e.symm
          · exact hno.out j hj (by omega)
        case measure => simp [intOf]; omega
      · rw [hE] at hq
        have HE : Hid ((ta, tp) = (ya, yp)) := (of_decide_eq_true hE : (ta, tp) = (ya, yp))
        have hb3 : Hid (Below w.heap.size w wr.drew) := hb2.out.drew
        clear hE
        go_wp2_with fail
        go_region
        go_wp2_with fail
        go_ret
        refine ⟨(k : Int), rfl, ?_, hb3.out⟩
        have : inB l (ta, tp) = true := inB_iff.2 (by rw [HE.out, ← Hy.out]; exact List.getElem_mem hlt)
        rw [this]
        simp
    · have hlt' : ¬ (k : Int) < (l.length : Int) := by omega
      go_wp2_with fail
      go_ret
      refine ⟨-1, rfl, ?_, hb2.out⟩
      have : inB l (ta, tp) = false := inB_not.2 fun hx => by
        obtain ⟨j, hj, e⟩ := List.getElem_of_mem hx
        exact hno.out j hj (by omega) e
      rw [this]
      rfl

set_option maxHeartbeats 1000000 in
theorem contains34_any (x : SV) (l : List Tg) (t : Tg) (w : World) (hI : In ET w (sv x) l) :
    Calls Try.prog 34 #[sv x, .agg (tgv t)] w fun e w' => e = .returned (.bool (inB l t)) ∧ Below w.heap.size w w' := by
  have hX : Hid (∀ W, Below w.heap.size w W → Calls Try.prog 39 #[sv x, .agg (tgv t)] W fun e w' => ∃ n : Int, e = .returned (.int .i64 n) ∧ decide (0 ≤ n) = inB l t ∧ Below W.heap.size W w') := fun W hW => index39_any x l t W (hI.below hW)
  obtain ⟨sb, sl, sc⟩ := x
  obtain ⟨ta, tp⟩ := t
  unfold tgv at hX ⊢
  simp only [sv] at hX ⊢
  clear hI
  have hb0 : Hid (Below w.heap.size w (w.alloc (.cells #[.string ta, .string tp] 26))) := bel1 _ _
  go_enter Try.func34, Try.ntmps34
  go_wp2_with fail
  go_at_call 39
  refine (hX.out _ hb0.out).mono ?_
  rintro e w1 ⟨n, rfl, hn, hb1⟩
  have HN : Hid (decide (0 ≤ n) = inB l (ta, tp)) := hn
  have hb2 : Hid (Below w.heap.size w w1) := hb0.out.trans (hb1.mono hb0.out.size)
  clear hn hX hb1 hb0
  go_wp2_with fail
  go_ret
  exact ⟨by rw [← HN.out]; rfl, hb2.out⟩
end Go.Proofs.Ytldnibkgdpeocaa
