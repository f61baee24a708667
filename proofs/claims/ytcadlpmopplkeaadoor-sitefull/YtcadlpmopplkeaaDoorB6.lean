/- site: isWrong. -/
import Derived.Test.YtcadlpmopplkeaaDoorB5
namespace Go.Proofs.YtcadlpmopplkeaaDoor
open Go.RowKit
open Go.Shelf
set_option linter.unusedVariables false
set_option linter.unusedSimpArgs false

theorem areChoices_any (x : SV) (l : List Ch) (vary : ByteArray) (w : World) (hI : In ECh w (sv x) l) :
    Calls Tryd.prog 54 #[sv x, .string vary] w fun e w' => e = .returned (.bool (chB l vary)) ∧ Below w.heap.size w w' := by
  by_cases h : 1 ≤ l.length ∧ l.length ≤ 8
  · cases hv : noVary vary
    · exact areChoices_many x l vary w hI h hv
    · exact areChoices_lone x l vary w hI h hv
  · exact areChoices_size x l vary w hI h

/-- a page's values; its choices stand behind ys -/
structure Pg where
  a : ByteArray
  p : ByteArray
  n : Int
  v : ByteArray
  ys : SV
def pgv (x : Pg) : Array Value := #[.string x.a, .string x.p, .int .i64 x.n, .string x.v, sv x.ys]
/-- is it a page that may be? -/
def pgB (x : Pg) (l : List Ch) : Bool := txB x.a && (txB x.p && (first0 x.p == 47) && (staB x.n && chB l x.v))

set_option maxHeartbeats 8000000 in
set_option maxRecDepth 100000 in
theorem isWrong_any (x : Pg) (l : List Ch) (w : World) (hI : In ECh w (sv x.ys) l) :
    Calls Tryd.prog 34 #[.agg (pgv x)] w fun e w' => e = .returned (.bool (!pgB x l)) ∧ Below w.heap.size w w' := by
  obtain ⟨a, p, n, v, yb, yl, yc⟩ := x
  unfold pgB pgv
  simp only [sv] at hI ⊢
  obtain ⟨w0, hw0⟩ : ∃ w0, w.alloc (.cells #[.string a, .string p, .int .i64 n, .string v, .slice yb yl yc] 26) = w0 := ⟨_, rfl⟩
  have hb0 : Hid (Below w.heap.size w w0) := by show Below _ _ _; rw [← hw0]; exact bel1 _ _
  have hA : Hid (Calls Tryd.prog 52 #[.string a] w0 fun e w' => e = .returned (.bool (txB a)) ∧ w' = w0) := isText_any a w0
  have hP : Hid (Calls Tryd.prog 52 #[.string p] w0 fun e w' => e = .returned (.bool (txB p)) ∧ w' = w0) := isText_any p w0
  have hS : Hid (Calls Tryd.prog 53 #[.int .i64 n] w0 fun e w' => e = .returned (.bool (staB n)) ∧ w' = w0) := isStatus_any n w0
  have hC : Hid (Calls Tryd.prog 54 #[.slice yb yl yc, .string v] w0 fun e w' => e = .returned (.bool (chB l v)) ∧ Below w0.heap.size w0 w') := areChoices_any (yb, yl, yc) l v w0 (hI.below hb0.out)
  have hFF : w0.heap[w.heap.size]? = some (.cells #[.string a, .string p, .int .i64 n, .string v, .slice yb yl yc] 26 (0, 0)) := by rw [← hw0, heap_al, if_pos rfl]
  have c0 := cell_blk hFF 0
  have c1 := cell_blk hFF 1
  have c2 := cell_blk hFF 2
  have c3 := cell_blk hFF 3
  have c4 := cell_blk hFF 4
  simp at c0 c1 c2 c3 c4
  clear hFF hI
  cases h1 : txB a
  · rw [h1] at hA
    clear h1 hP hS hC c1 c2 c3 c4
    go_enter Tryd.func34, Tryd.ntmps34
    go_wp2_with fail
    go_at_call 52
    refine hA.out.mono ?_
    rintro e w' ⟨rfl, hw⟩
    rw [hw]
    clear hw
    go_wp2_with fail
    go_ret
    exact ⟨rfl, hb0.out⟩
  · rw [h1] at hA
    clear h1
    cases h2 : txB p
    · rw [h2] at hP
      clear h2 hS hC c2 c3 c4
      go_enter Tryd.func34, Tryd.ntmps34
      go_wp2_with fail
      go_at_call 52
      refine hA.out.mono ?_
      rintro e w' ⟨rfl, hw⟩
      rw [hw]
      clear hw
      go_wp2_with fail
      go_at_call 52
      refine hP.out.mono ?_
      rintro e w' ⟨rfl, hw⟩
      rw [hw]
      clear hw
      go_wp2_with fail
      go_ret
      exact ⟨rfl, hb0.out⟩
    · rw [h2] at hP
      have hsz : 0 < p.size := consB_size h2
      obtain ⟨z, hz⟩ : ∃ z : UInt8, p[0]'hsz = z := ⟨_, rfl⟩
      have hfz : first0 p = (z.toNat : Int) := by rw [← first_eq hsz, hz]
      rw [hfz]
      clear h2 hfz
      by_cases h3 : (z.toNat : Int) = 47
      · have b3 : ((z.toNat : Int) == 47) = true := beq_iff_eq.2 h3
        rw [b3]
        cases h4 : staB n
        · rw [h4] at hS
          clear h4 hC c3 c4
          go_enter Tryd.func34, Tryd.ntmps34
          go_wp2_with fail
          go_at_call 52
          refine hA.out.mono ?_
          rintro e w' ⟨rfl, hw⟩
          rw [hw]
          clear hw
          go_wp2_with fail
          go_at_call 52
          refine hP.out.mono ?_
          rintro e w' ⟨rfl, hw⟩
          rw [hw]
          clear hw
          go_wp2_with fail
          go_at_call 53
          refine hS.out.mono ?_
          rintro e w' ⟨rfl, hw⟩
          rw [hw]
          clear hw
          go_wp2_with fail
          go_ret
          exact ⟨rfl, hb0.out⟩
        · rw [h4] at hS
          clear h4
          go_enter Tryd.func34, Tryd.ntmps34
          go_wp2_with fail
          go_at_call 52
          refine hA.out.mono ?_
          rintro e w' ⟨rfl, hw⟩
          rw [hw]
          clear hw
          go_wp2_with fail
          go_at_call 52
          refine hP.out.mono ?_
          rintro e w' ⟨rfl, hw⟩
          rw [hw]
          clear hw
          go_wp2_with fail
          go_at_call 53
          refine hS.out.mono ?_
          rintro e w' ⟨rfl, hw⟩
          rw [hw]
          clear hw
          go_wp2_with fail
          go_at_call 54
          refine hC.out.mono ?_
          rintro e w' ⟨rfl, hw⟩
          have hw2 : Hid (Below w.heap.size w w') := hb0.out.trans (hw.mono hb0.out.size)
          clear hw
          go_wp2_with fail
          go_ret
          exact ⟨by simp, hw2.out⟩
      · have b3 : ((z.toNat : Int) == 47) = false := beq_eq_false_iff_ne.2 h3
        rw [b3]
        clear hS hC c2 c3 c4
        go_enter Tryd.func34, Tryd.ntmps34
        go_wp2_with fail
        go_at_call 52
        refine hA.out.mono ?_
        rintro e w' ⟨rfl, hw⟩
        rw [hw]
        clear hw
        go_wp2_with fail
        go_at_call 52
        refine hP.out.mono ?_
        rintro e w' ⟨rfl, hw⟩
        rw [hw]
        clear hw
        go_wp2_with fail
        go_ret
        exact ⟨rfl, hb0.out⟩

end Go.Proofs.YtcadlpmopplkeaaDoor
