/- site: choices; isBody, placeOf, firstValue. -/
import Derived.Test.YtacboeeimnikdaaDoorAf
import Derived.Test.YtacboeeimnikdaaDoorV1
import Derived.Test.YtacboeeimnikdaaDoorB1
namespace Go.Proofs.YtacboeeimnikdaaDoor
open Go.RowKit
open Go.Shelf
set_option linter.unusedVariables false
set_option linter.unusedSimpArgs false

/-- a choice -/
structure Ch where
  v : ByteArray
  b : ByteArray
def chv (c : Ch) : Array Value := #[.string c.v, .string c.b]
def ECh : El Ch := ⟨24, 29, 2, 32, fun c => (chv c).toList⟩
theorem okCh : ECh.Ok := ⟨Tryd.underlying24, by kernel_rfl, by decide, by decide, fun _ => rfl, fun a u hu => by
  simp only [ECh, chv, List.mem_cons, List.not_mem_nil, or_false] at hu
  rcases hu with rfl | rfl <;> rfl⟩
theorem In.ch {w : World} {v : Value} {l : List Ch} (h : In ECh w v l) (k : Nat) (hk : k < l.length) : ∃ B off cap, v = .slice (some ⟨B, off, none⟩) l.length cap ∧ ∀ W, Below w.heap.size w W → W.cell? ⟨B, off + k * 2, none⟩ = some (.string l[k].v) ∧ W.cell? ⟨B, off + k * 2 + 1, none⟩ = some (.string l[k].b) := by
  obtain ⟨B, off, cap, e, hB, hc⟩ := h.get okCh k hk
  refine ⟨B, off, cap, e, fun W hW => ?_⟩
  have c0 := hc 0 (.string l[k].v) rfl
  have c1 := hc 1 (.string l[k].b) rfl
  exact ⟨(hW.cell hB).trans c0, (hW.cell hB).trans c1⟩

def bdB (s : ByteArray) : Bool := decide (s.size ≤ 65536)
set_option maxHeartbeats 1000000 in
theorem isBody_any (s : ByteArray) (w : World) : Calls Tryd.prog 70 #[.string s] w fun e w' => e = .returned (.bool (bdB s)) ∧ w' = w := by
  by_cases h : s.size ≤ 65536
  · have h1 : (s.size : Int) ≤ 65536 := by omega
    have e : bdB s = true := by simp [bdB, h]
    rw [e]; clear e h
    go_enter Tryd.func70, Tryd.ntmps70
    go_wp2_with fail
    go_ret
    exact ⟨rfl, rfl⟩
  · have h1 : ¬ (s.size : Int) ≤ 65536 := by omega
    have e : bdB s = false := by simp [bdB, h]
    rw [e]; clear e h
    go_enter Tryd.func70, Tryd.ntmps70
    go_wp2_with fail
    go_ret
    exact ⟨rfl, rfl⟩

set_option maxHeartbeats 1000000 in
theorem place1_any (c : Ch) (s : ByteArray) (g : Nat) (w : World) (hg : w.cell? ⟨g, 0, none⟩ = some (.string s)) :
    Calls Tryd.prog 92 #[.agg (chv c), .pointer (some ⟨g, 0, none⟩)] w fun e w' => e = .returned (.bool (c.v.toList == s.toList)) ∧ Below w.heap.size w w' := by
  have hlt : g < w.heap.size := World.block_lt_of_cell? _ _ hg
  have hg2 : (w.alloc (.cells #[.string c.v, .string c.b] 29)).cell? ⟨g, 0, none⟩ = some (.string s) := ((bel1 w _).cell hlt).trans hg
  obtain ⟨E, hE⟩ : ∃ E, (c.v.toList == s.toList) = E := ⟨_, rfl⟩
  rw [hE]
  unfold chv
  clear hlt hg
  go_enter Tryd.func92, Tryd.ntmps92
  go_wp2_with fail
  go_ret
  exact ⟨rfl, bel1 _ _⟩

/-- where the choice for a value stands -/
def plI (l : List Ch) (s : ByteArray) : Int := match l.findIdx? (fun c => c.v.toList == s.toList) with | some k => (k : Int) | none => -1
theorem plI_some {l : List Ch} {s : ByteArray} {k : Nat} (h : k < l.length) (h1 : (l[k].v.toList == s.toList) = true) (h2 : ∀ j (hj : j < l.length), j < k → (l[j].v.toList == s.toList) = false) : plI l s = (k : Int) := by
  have : l.findIdx? (fun c => c.v.toList == s.toList) = some k := List.findIdx?_eq_some_iff_getElem.2 ⟨h, h1, fun j hj => by rw [h2 j (by omega) hj]; simp⟩
  unfold plI
  rw [this]
theorem plI_none {l : List Ch} {s : ByteArray} (h2 : ∀ j (hj : j < l.length), (l[j].v.toList == s.toList) = false) : plI l s = -1 := by
  have : l.findIdx? (fun c => c.v.toList == s.toList) = none := List.findIdx?_eq_none_iff.2 fun x hx => by
    obtain ⟨j, hj, e⟩ := List.getElem_of_mem hx
    rw [← e]
    exact h2 j hj
  unfold plI
  rw [this]

theorem en92 : ∀ args W, (callFunc 92 args).run Tryd.prog W = .ok (.enter 92 args) W := enters_of Tryd.func92 (by kernel_rfl) rfl
set_option maxHeartbeats 4000000 in
set_option maxRecDepth 100000 in
theorem index91_any (x : SV) (l : List Ch) (s : ByteArray) (g : Nat) (w : World) (hI : In ECh w (sv x) l) (hg : w.cell? ⟨g, 0, none⟩ = some (.string s)) :
    Calls Tryd.prog 91 #[sv x, .func (.func 92) #[] #[.pointer (some ⟨g, 0, none⟩)]] w fun e w' => e = .returned (.int .i64 (plI l s)) ∧ Below w.heap.size w w' := by
  have hlt : g < w.heap.size := World.block_lt_of_cell? _ _ hg
  have HF : Hid (∀ c W, Below w.heap.size w W → Calls Tryd.prog 92 #[.agg (chv c), .pointer (some ⟨g, 0, none⟩)] W fun e w' => e = .returned (.bool (c.v.toList == s.toList)) ∧ Below W.heap.size W w') := fun c W hW => place1_any c s g W ((hW.cell hlt).trans hg)
  have HI : Hid (In ECh w (sv x) l) := hI
  have hen := en92
  obtain ⟨b, c, e, m1, m2⟩ := hI.slice
  obtain ⟨sb, sl, sc⟩ := x
  simp only [sv] at e HI ⊢
  injection e with e1 e2 e3
  subst e1 e2 e3
  clear hI hg hlt
  unfold chv at HF
  go_enter Tryd.func91, Tryd.ntmps91
  go_wp2_with fail
  go_loopw [5, 8] (fun _ kv wr => ∃ k : Nat, kv = .int .i64 (k : Int) ∧ k ≤ l.length ∧ Hid (∀ j (h : j < l.length), j < k → (l[j].v.toList == s.toList) = false) ∧ Hid (Below w.heap.size w wr)) (fun _ kv _ => l.length - (intOf kv).toNat)
  case atStart => exact ⟨0, rfl, by omega, fun j _ h => absurd h (by omega), Below.refl _ _⟩
  case round =>
    obtain ⟨k, rfl, hk, hno, hb⟩ := hrel
    by_cases hlt : k < l.length
    · obtain ⟨Bk, off, cap, e, hc⟩ := HI.out.ch k hlt
      injection e with e1 e2 e3
      clear e2 e3
      subst e1
      obtain ⟨c0, c1⟩ := hc wr hb.out
      obtain ⟨y, hy⟩ : ∃ y, l[k] = y := ⟨_, rfl⟩
      rw [hy] at c0 c1
      have Hy : Hid (l[k]'hlt = y) := hy
      have hC : Hid (Calls Tryd.prog 92 #[.agg #[.string y.v, .string y.b], .pointer (some ⟨g, 0, none⟩)] wr fun e w' => e = .returned (.bool (y.v.toList == s.toList)) ∧ Below wr.heap.size wr w') := HF.out y wr hb.out
      clear hc hy
      cases hB : (y.v.toList == s.toList)
      · rw [hB] at hC
        have HB : Hid ((y.v.toList == s.toList) = false) := hB
        clear hB
        go_wp2_with fail
        refine hC.out.mono ?_
        rintro e w1 ⟨rfl, hb1⟩
        have hb2 : Hid (Below w.heap.size w w1) := hb.out.trans (hb1.mono hb.out.size)
        clear hb1
        go_wp2_with fail
        go_roundw
        case rel =>
          refine ⟨k + 1, by simp, by omega, fun j hj h => ?_, hb2.out⟩
          by_cases hjk : j = k
          · subst hjk
            rw [Hy.out]
            exact HB.out
          · exact hno.out j hj (by omega)
        case measure => simp [intOf]; omega
      · rw [hB] at hC
        have HB : Hid ((y.v.toList == s.toList) = true) := hB
        clear hB
        go_wp2_with fail
        refine hC.out.mono ?_
        rintro e w1 ⟨rfl, hb1⟩
        have hb2 : Hid (Below w.heap.size w w1) := hb.out.trans (hb1.mono hb.out.size)
        clear hb1
        go_wp2_with fail
        go_ret
        exact ⟨by rw [plI_some hlt (by rw [Hy.out]; exact HB.out) hno.out]; rfl, hb2.out⟩
    · have hlt' : ¬ (k : Int) < (l.length : Int) := by omega
      go_wp2_with fail
      go_ret
      exact ⟨by rw [plI_none fun j hj => hno.out j hj (by omega)]; rfl, hb.out⟩

set_option maxHeartbeats 1000000 in
theorem placeOf_any (x : SV) (l : List Ch) (s : ByteArray) (w : World) (hI : In ECh w (sv x) l) :
    Calls Tryd.prog 73 #[sv x, .string s] w fun e w' => e = .returned (.int .i64 (plI l s)) ∧ Below w.heap.size w w' := by
  have hC : Hid (Calls Tryd.prog 91 #[sv x, .func (.func 92) #[] #[.pointer (some ⟨w.heap.size, 0, none⟩)]] (w.alloc (.cells #[.string s] 9)) fun e w' => e = .returned (.int .i64 (plI l s)) ∧ Below (w.alloc (.cells #[.string s] 9)).heap.size (w.alloc (.cells #[.string s] 9)) w') := index91_any x l s _ _ (hI.below (bel1 _ _)) (cell_blk (c := #[.string s]) (t := 9) (by rw [heap_al, if_pos rfl]) 0)
  have hB : Hid (Below w.heap.size w (w.alloc (.cells #[.string s] 9))) := bel1 _ _
  clear hI
  obtain ⟨xb, xl, xc⟩ := x
  simp only [sv] at hC ⊢
  go_enter Tryd.func73, Tryd.ntmps73
  go_wp2_with fail
  go_at_call 91
  refine hC.out.mono ?_
  rintro e w1 ⟨rfl, hb1⟩
  have hb2 : Hid (Below w.heap.size w w1) := hB.out.trans (hb1.mono hB.out.size)
  clear hb1 hC hB
  go_wp2_with fail
  go_ret
  exact ⟨rfl, hb2.out⟩

end Go.Proofs.YtacboeeimnikdaaDoor
