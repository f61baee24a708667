/- site: pages; ContainsFunc(pages, isWrong). -/
import Derived.Test.YtcadlpmopplkeaaDoorB6
namespace Go.Proofs.YtcadlpmopplkeaaDoor
open Go.RowKit
open Go.Shelf
set_option linter.unusedVariables false
set_option linter.unusedSimpArgs false

/-- pages with their choices -/
abbrev PC := Pg × List Ch
def EPg : El PC := ⟨34, 26, 5, 80, fun x => (pgv x.1).toList⟩
theorem okPg : EPg.Ok := ⟨Tryd.underlying34, by kernel_rfl, by decide, by decide, fun _ => rfl, fun a u hu => by
  simp only [EPg, pgv, List.mem_cons, List.not_mem_nil, or_false] at hu
  rcases hu with rfl | rfl | rfl | rfl | rfl <;> rfl⟩
/-- the pages' choices can be read -/
def ChIn (w : World) (l : List PC) : Prop := ∀ x ∈ l, In ECh w (sv x.1.ys) x.2
theorem ChIn.below {w w' : World} {l : List PC} (h : ChIn w l) (hb : Below w.heap.size w w') : ChIn w' l := fun x hx => (h x hx).below hb
theorem In.pg {w : World} {v : Value} {l : List PC} (h : In EPg w v l) (k : Nat) (hk : k < l.length) : ∃ B off cap, v = .slice (some ⟨B, off, none⟩) l.length cap ∧ ∀ W, Below w.heap.size w W → W.cell? ⟨B, off + k * 5, none⟩ = some (.string l[k].1.a) ∧ W.cell? ⟨B, off + k * 5 + 1, none⟩ = some (.string l[k].1.p) ∧ W.cell? ⟨B, off + k * 5 + 2, none⟩ = some (.int .i64 l[k].1.n) ∧ W.cell? ⟨B, off + k * 5 + 3, none⟩ = some (.string l[k].1.v) ∧ W.cell? ⟨B, off + k * 5 + 4, none⟩ = some (sv l[k].1.ys) := by
  obtain ⟨B, off, cap, e, hB, d⟩ := h.get okPg k hk
  exact ⟨B, off, cap, e, fun W hb => ⟨(hb.cell hB).trans (d 0 _ rfl), (hb.cell hB).trans (d 1 _ rfl), (hb.cell hB).trans (d 2 _ rfl), (hb.cell hB).trans (d 3 _ rfl), (hb.cell hB).trans (d 4 _ rfl)⟩⟩

def wrB (x : PC) : Bool := !pgB x.1 x.2
theorem en34 : ∀ args W, (callFunc 34 args).run Tryd.prog W = .ok (.enter 34 args) W := enters_of Tryd.func34 (by kernel_rfl) rfl
set_option maxHeartbeats 4000000 in
set_option maxRecDepth 100000 in
theorem index51_any (x : SV) (l : List PC) (w : World) (hI : In EPg w (sv x) l) (hC : ChIn w l) :
    Calls Tryd.prog 51 #[sv x, .func (.func 34) #[] #[]] w fun e w' => ∃ n : Int, e = .returned (.int .i64 n) ∧ decide (0 ≤ n) = l.any wrB ∧ Below w.heap.size w w' := by
  have HI : Hid (In EPg w (sv x) l) := hI
  have HC : Hid (ChIn w l) := hC
  have hen := en34
  obtain ⟨b, c, e, m1, m2⟩ := hI.slice
  obtain ⟨sb, sl, sc⟩ := x
  simp only [sv] at e HI ⊢
  injection e with e1 e2 e3
  subst e1 e2 e3
  clear hI hC
  go_enter Tryd.func51, Tryd.ntmps51
  go_wp2_with fail
  go_loopw [5, 8] (fun _ kv wr => ∃ k : Nat, kv = .int .i64 (k : Int) ∧ k ≤ l.length ∧ Hid (∀ j (h : j < l.length), j < k → wrB l[j] = false) ∧ Hid (Below w.heap.size w wr)) (fun _ kv _ => l.length - (intOf kv).toNat)
  case atStart => exact ⟨0, rfl, by omega, fun j _ h => absurd h (by omega), Below.refl _ _⟩
  case round =>
    obtain ⟨k, rfl, hk, hno, hb⟩ := hrel
    by_cases hlt : k < l.length
    · obtain ⟨Bk, off, cap, e, hc⟩ := HI.out.pg k hlt
      injection e with e1 e2 e3
      clear e2 e3
      subst e1
      obtain ⟨c0, c1, c2, c3, c4⟩ := hc wr hb.out
      obtain ⟨y, hy⟩ : ∃ y, l[k] = y := ⟨_, rfl⟩
      rw [hy] at c0 c1 c2 c3 c4
      have Hy : Hid (l[k]'hlt = y) := hy
      have hCl : Hid (Calls Tryd.prog 34 #[.agg (pgv y.1)] wr fun e w' => e = .returned (.bool (wrB y)) ∧ Below wr.heap.size wr w') := isWrong_any y.1 y.2 wr ((HC.out y (by rw [← hy]; exact List.getElem_mem hlt)).below hb.out)
      clear hc hy
      obtain ⟨⟨ya, yp, yn, yv, yb, yl, yc⟩, ych⟩ := y
      unfold pgv at hCl
      simp only [sv] at c0 c1 c2 c3 c4 hCl
      cases hB : wrB (⟨ya, yp, yn, yv, yb, yl, yc⟩, ych)
      · rw [hB] at hCl
        have HB : Hid (wrB (⟨ya, yp, yn, yv, yb, yl, yc⟩, ych) = false) := hB
        clear hB
        go_wp2_with fail
        refine hCl.out.mono ?_
        rintro e w1 ⟨rfl, hb1⟩
        have hb2 : Hid (Below w.heap.size w w1) := hb.out.trans (hb1.mono hb.out.size)
        clear hb1
        go_wp2_with fail
        go_roundw
        case rel =>
          refine ⟨k + 1, by simp, by omega, fun j hj h => ?_, hb2.out⟩
          by_cases hjk : j = k
          · subst hjk
            rw [Hy.out]
            exact HB.out
          · exact hno.out j hj (by omega)
        case measure => simp [intOf]; omega
      · rw [hB] at hCl
        have HB : Hid (wrB (⟨ya, yp, yn, yv, yb, yl, yc⟩, ych) = true) := hB
        clear hB
        go_wp2_with fail
        refine hCl.out.mono ?_
        rintro e w1 ⟨rfl, hb1⟩
        have hb2 : Hid (Below w.heap.size w w1) := hb.out.trans (hb1.mono hb.out.size)
        clear hb1
        go_wp2_with fail
        go_ret
        refine ⟨(k : Int), rfl, ?_, hb2.out⟩
        have : l.any wrB = true := List.any_eq_true.2 ⟨_, by rw [← Hy.out]; exact List.getElem_mem hlt, HB.out⟩
        rw [this]
        simp
    · have hlt' : ¬ (k : Int) < (l.length : Int) := by omega
      go_wp2_with fail
      go_ret
      refine ⟨-1, rfl, ?_, hb.out⟩
      have : l.any wrB = false := List.any_eq_false.2 fun x hx => by
        obtain ⟨j, hj, e⟩ := List.getElem_of_mem hx
        rw [← e, hno.out j hj (by omega)]
        simp
      rw [this]
      rfl

set_option maxHeartbeats 1000000 in
theorem contains33_any (x : SV) (l : List PC) (w : World) (hI : In EPg w (sv x) l) (hC : ChIn w l) :
    Calls Tryd.prog 33 #[sv x, .func (.func 34) #[] #[]] w fun e w' => e = .returned (.bool (l.any wrB)) ∧ Below w.heap.size w w' := by
  have hX : Hid (Calls Tryd.prog 51 #[sv x, .func (.func 34) #[] #[]] w fun e w' => ∃ n : Int, e = .returned (.int .i64 n) ∧ decide (0 ≤ n) = l.any wrB ∧ Below w.heap.size w w') := index51_any x l w hI hC
  obtain ⟨sb, sl, sc⟩ := x
  simp only [sv] at hX ⊢
  clear hI hC
  go_enter Tryd.func33, Tryd.ntmps33
  go_wp2_with fail
  go_at_call 51
  refine hX.out.mono ?_
  rintro e w1 ⟨n, rfl, hn, hb1⟩
  have HN : Hid (decide (0 ≤ n) = l.any wrB) := hn
  clear hn hX
  go_wp2_with fail
  go_ret
  exact ⟨by rw [← HN.out]; rfl, hb1⟩

end Go.Proofs.YtcadlpmopplkeaaDoor
