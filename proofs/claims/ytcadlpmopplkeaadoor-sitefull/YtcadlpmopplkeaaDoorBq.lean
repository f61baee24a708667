/- Several texts in one. -/
import Derived.Test.YtcadlpmopplkeaaDoorA7
import Derived.Test.YtcadlpmopplkeaaDoorAf
import Derived.Test.YtcadlpmopplkeaaDoorV1
import Derived.Deep.RegionHeld3
/- site: isText, isStatus. -/
namespace Go.Proofs.YtcadlpmopplkeaaDoor
open Go.RowKit
open Go.Shelf
set_option linter.unusedVariables false
set_option linter.unusedSimpArgs false

/-- an authority, or a path but for how it begins -/
def txB (s : ByteArray) : Bool := consB visB 4096 s

theorem vis_iff (x : UInt8) : (visB (x.toNat : Int) && decide (x.toNat < 128)) = true ↔ 33 ≤ x.toNat ∧ x.toNat ≤ 126 := by
  unfold visB
  simp only [Bool.and_eq_true, decide_eq_true_eq]
  omega

set_option maxHeartbeats 4000000 in
set_option maxRecDepth 100000 in
theorem isText_any (s : ByteArray) (w : World) : Calls Tryd.prog 52 #[.string s] w fun e w' => e = .returned (.bool (txB s)) ∧ w' = w := by
  unfold txB
  by_cases h1 : 1 ≤ s.size
  · by_cases h2 : (s.size : Int) ≤ 4096
    · have a1 : ¬ (s.size : Int) < 1 := by omega
      have a2 : ¬ (4096 : Int) < (s.size : Int) := by omega
      have hc : consB visB 4096 s = allB visB s := by unfold consB; simp [h1, h2]
      rw [hc]
      have hz : Hid ((s.size : Int) ≤ 4096) := h2
      clear hc h1 h2
      go_enter Tryd.func52, Tryd.ntmps52
      go_wp2_with fail
      go_loopg [3, 14] s.size (fun g _ nv wx => ∃ i : Nat, i + g = s.size ∧ wx = w ∧ nv = .int .i64 (i : Int) ∧ Hid (frontB visB s i))
      case atStart => exact ⟨0, by omega, rfl, rfl, fun j _ h => absurd h (by omega)⟩
      case round =>
        obtain ⟨i, hig, rfl, rfl, hfr⟩ := hrel
        cases gk with
        | zero =>
          obtain rfl : i = s.size := by omega
          have l1 : ¬ ((s.size : Int) < (s.size : Int)) := by omega
          go_wp2_with fail
          go_ret
          exact ⟨by rw [hfr.out.all]; rfl, rfl⟩
        | succ g =>
          have hi : i < s.size := by omega
          have l1 : (i : Int) < (s.size : Int) := by omega
          obtain ⟨x, hx⟩ : ∃ x : UInt8, s[i]'hi = x := ⟨_, rfl⟩
          by_cases hB : 33 ≤ x.toNat ∧ x.toNat ≤ 126
          · have l2 : ¬ ((x.toNat : Int) < 33) := by omega
            have l3 : ¬ (126 < (x.toNat : Int)) := by omega
            have hw1 : wrap64 ((i : Int) + 1) = ((i + 1 : Nat) : Int) := by have := hz.out; unfold wrap64; omega
            have HB : Hid ((visB (x.toNat : Int) && decide (x.toNat < 128)) = true) := (vis_iff x).2 hB
            clear hB
            go_wp2_with fail
            go_roundg g
            case measure => omega
            case rel =>
              refine ⟨i + 1, by omega, rfl, rfl, fun j hj h => ?_⟩
              by_cases hji : j = i
              · subst hji
                rw [hx]
                exact HB.out
              · exact hfr.out j hj (by omega)
          · have hfa : Hid (allB visB s = false) := all_false hi (by rw [hx]; exact Bool.eq_false_iff.2 fun h => hB ((vis_iff x).1 h))
            by_cases hB1 : x.toNat < 33
            · have l2 : (x.toNat : Int) < 33 := by omega
              clear hB hB1
              go_wp2_with fail
              go_ret
              exact ⟨by rw [hfa.out]; rfl, rfl⟩
            · have l2 : ¬ ((x.toNat : Int) < 33) := by omega
              have l3 : 126 < (x.toNat : Int) := by omega
              clear hB hB1
              go_wp2_with fail
              go_ret
              exact ⟨by rw [hfa.out]; rfl, rfl⟩
    · have a1 : ¬ (s.size : Int) < 1 := by omega
      have a2 : (4096 : Int) < (s.size : Int) := by omega
      have hc : consB visB 4096 s = false := by unfold consB; simp [h2]
      rw [hc]
      clear hc h1 h2
      go_enter Tryd.func52, Tryd.ntmps52
      go_wp2_with fail
      go_ret
      exact ⟨rfl, rfl⟩
  · have a1 : (s.size : Int) < 1 := by omega
    have hc : consB visB 4096 s = false := by unfold consB; simp [h1]
    rw [hc]
    clear hc h1
    go_enter Tryd.func52, Tryd.ntmps52
    go_wp2_with fail
    go_ret
    exact ⟨rfl, rfl⟩

/-- a status that may have a body -/
def staB (n : Int) : Bool := decide (n ≠ 204) && decide (n ≠ 205) && decide (n ≠ 304) && decide (200 ≤ n) && decide (n ≤ 599)

set_option maxHeartbeats 4000000 in
theorem isStatus_any (n : Int) (w : World) : Calls Tryd.prog 53 #[.int .i64 n] w fun e w' => e = .returned (.bool (staB n)) ∧ w' = w := by
  by_cases h1 : n = 204
  · subst h1
    go_enter Tryd.func53, Tryd.ntmps53
    go_wp2_with fail
    go_ret
    exact ⟨rfl, rfl⟩
  by_cases h2 : n = 205
  · subst h2
    go_enter Tryd.func53, Tryd.ntmps53
    go_wp2_with fail
    go_ret
    exact ⟨rfl, rfl⟩
  by_cases h3 : n = 304
  · subst h3
    go_enter Tryd.func53, Tryd.ntmps53
    go_wp2_with fail
    go_ret
    exact ⟨rfl, rfl⟩
  have b1 : (n == 204) = false := beq_eq_false_iff_ne.2 h1
  have b2 : (n == 205) = false := beq_eq_false_iff_ne.2 h2
  have b3 : (n == 304) = false := beq_eq_false_iff_ne.2 h3
  have hc : staB n = (decide (200 ≤ n) && decide (n ≤ 599)) := by unfold staB; simp [h1, h2, h3]
  rw [hc]
  clear hc h1 h2 h3
  by_cases h4 : 200 ≤ n
  · by_cases h5 : n ≤ 599
    · have e : (decide (200 ≤ n) && decide (n ≤ 599)) = true := by simp [h4, h5]
      rw [e]; clear e
      go_enter Tryd.func53, Tryd.ntmps53
      go_wp2_with fail
      go_ret
      exact ⟨rfl, rfl⟩
    · have e : (decide (200 ≤ n) && decide (n ≤ 599)) = false := by simp [h5]
      rw [e]; clear e
      go_enter Tryd.func53, Tryd.ntmps53
      go_wp2_with fail
      go_ret
      exact ⟨rfl, rfl⟩
  · have e : (decide (200 ≤ n) && decide (n ≤ 599)) = false := by simp [h4]
    rw [e]; clear e
    go_enter Tryd.func53, Tryd.ntmps53
    go_wp2_with fail
    go_ret
    exact ⟨rfl, rfl⟩

end Go.Proofs.YtcadlpmopplkeaaDoor

/- site: choices; isBody, placeOf, firstValue. -/
namespace Go.Proofs.YtcadlpmopplkeaaDoor
open Go.RowKit
open Go.Shelf
set_option linter.unusedVariables false
set_option linter.unusedSimpArgs false

/-- a choice -/
structure Ch where
  v : ByteArray
  b : ByteArray
def chv (c : Ch) : Array Value := #[.string c.v, .string c.b]
def ECh : El Ch := ⟨24, 29, 2, 32, fun c => (chv c).toList⟩
theorem okCh : ECh.Ok := ⟨Tryd.underlying24, by kernel_rfl, by decide, by decide, fun _ => rfl, fun a u hu => by
  simp only [ECh, chv, List.mem_cons, List.not_mem_nil, or_false] at hu
  rcases hu with rfl | rfl <;> rfl⟩
theorem In.ch {w : World} {v : Value} {l : List Ch} (h : In ECh w v l) (k : Nat) (hk : k < l.length) : ∃ B off cap, v = .slice (some ⟨B, off, none⟩) l.length cap ∧ ∀ W, Below w.heap.size w W → W.cell? ⟨B, off + k * 2, none⟩ = some (.string l[k].v) ∧ W.cell? ⟨B, off + k * 2 + 1, none⟩ = some (.string l[k].b) := by
  obtain ⟨B, off, cap, e, hB, hc⟩ := h.get okCh k hk
  refine ⟨B, off, cap, e, fun W hW => ?_⟩
  have c0 := hc 0 (.string l[k].v) rfl
  have c1 := hc 1 (.string l[k].b) rfl
  exact ⟨(hW.cell hB).trans c0, (hW.cell hB).trans c1⟩

def bdB (s : ByteArray) : Bool := decide (s.size ≤ 65536)
set_option maxHeartbeats 1000000 in
theorem isBody_any (s : ByteArray) (w : World) : Calls Tryd.prog 70 #[.string s] w fun e w' => e = .returned (.bool (bdB s)) ∧ w' = w := by
  by_cases h : s.size ≤ 65536
  · have h1 : (s.size : Int) ≤ 65536 := by omega
    have e : bdB s = true := by simp [bdB, h]
    rw [e]; clear e h
    go_enter Tryd.func70, Tryd.ntmps70
    go_wp2_with fail
    go_ret
    exact ⟨rfl, rfl⟩
  · have h1 : ¬ (s.size : Int) ≤ 65536 := by omega
    have e : bdB s = false := by simp [bdB, h]
    rw [e]; clear e h
    go_enter Tryd.func70, Tryd.ntmps70
    go_wp2_with fail
    go_ret
    exact ⟨rfl, rfl⟩

set_option maxHeartbeats 1000000 in
theorem place1_any (c : Ch) (s : ByteArray) (g : Nat) (w : World) (hg : w.cell? ⟨g, 0, none⟩ = some (.string s)) :
    Calls Tryd.prog 92 #[.agg (chv c), .pointer (some ⟨g, 0, none⟩)] w fun e w' => e = .returned (.bool (c.v.toList == s.toList)) ∧ Below w.heap.size w w' := by
  have hlt : g < w.heap.size := World.block_lt_of_cell? _ _ hg
  have hg2 : (w.alloc (.cells #[.string c.v, .string c.b] 29)).cell? ⟨g, 0, none⟩ = some (.string s) := ((bel1 w _).cell hlt).trans hg
  obtain ⟨E, hE⟩ : ∃ E, (c.v.toList == s.toList) = E := ⟨_, rfl⟩
  rw [hE]
  unfold chv
  clear hlt hg
  go_enter Tryd.func92, Tryd.ntmps92
  go_wp2_with fail
  go_ret
  exact ⟨rfl, bel1 _ _⟩

/-- where the choice for a value stands -/
def plI (l : List Ch) (s : ByteArray) : Int := match l.findIdx? (fun c => c.v.toList == s.toList) with | some k => (k : Int) | none => -1
theorem plI_some {l : List Ch} {s : ByteArray} {k : Nat} (h : k < l.length) (h1 : (l[k].v.toList == s.toList) = true) (h2 : ∀ j (hj : j < l.length), j < k → (l[j].v.toList == s.toList) = false) : plI l s = (k : Int) := by
  have : l.findIdx? (fun c => c.v.toList == s.toList) = some k := List.findIdx?_eq_some_iff_getElem.2 ⟨h, h1, fun j hj => by rw [h2 j (by omega) hj]; simp⟩
  unfold plI
  rw [this]
theorem plI_none {l : List Ch} {s : ByteArray} (h2 : ∀ j (hj : j < l.length), (l[j].v.toList == s.toList) = false) : plI l s = -1 := by
  have : l.findIdx? (fun c => c.v.toList == s.toList) = none := List.findIdx?_eq_none_iff.2 fun x hx => by
    obtain ⟨j, hj, e⟩ := List.getElem_of_mem hx
    rw [← e]
    exact h2 j hj
  unfold plI
  rw [this]

theorem en92 : ∀ args W, (callFunc 92 args).run Tryd.prog W = .ok (.enter 92 args) W := enters_of Tryd.func92 (by kernel_rfl) rfl
set_option maxHeartbeats 4000000 in
set_option maxRecDepth 100000 in
theorem index91_any (x : SV) (l : List Ch) (s : ByteArray) (g : Nat) (w : World) (hI : In ECh w (sv x) l) (hg : w.cell? ⟨g, 0, none⟩ = some (.string s)) :
    Calls Tryd.prog 91 #[sv x, .func (.func 92) #[] #[.pointer (some ⟨g, 0, none⟩)]] w fun e w' => e = .returned (.int .i64 (plI l s)) ∧ Below w.heap.size w w' := by
  have hlt : g < w.heap.size := World.block_lt_of_cell? _ _ hg
  have HF : Hid (∀ c W, Below w.heap.size w W → Calls Tryd.prog 92 #[.agg (chv c), .pointer (some ⟨g, 0, none⟩)] W fun e w' => e = .returned (.bool (c.v.toList == s.toList)) ∧ Below W.heap.size W w') := fun c W hW => place1_any c s g W ((hW.cell hlt).trans hg)
  have HI : Hid (In ECh w (sv x) l) := hI
  have hen := en92
  obtain ⟨b, c, e, m1, m2⟩ := hI.slice
  obtain ⟨sb, sl, sc⟩ := x
  simp only [sv] at e HI ⊢
  injection e with e1 e2 e3
  subst e1 e2 e3
  clear hI hg hlt
  unfold chv at HF
  go_enter Tryd.func91, Tryd.ntmps91
  go_wp2_with fail
  go_loopw [5, 8] (fun _ kv wr => ∃ k : Nat, kv = .int .i64 (k : Int) ∧ k ≤ l.length ∧ Hid (∀ j (h : j < l.length), j < k → (l[j].v.toList == s.toList) = false) ∧ Hid (Below w.heap.size w wr)) (fun _ kv _ => l.length - (intOf kv).toNat)
  case atStart => exact ⟨0, rfl, by omega, fun j _ h => absurd h (by omega), Below.refl _ _⟩
  case round =>
    obtain ⟨k, rfl, hk, hno, hb⟩ := hrel
    by_cases hlt : k < l.length
    · obtain ⟨Bk, off, cap, e, hc⟩ := HI.out.ch k hlt
      injection e with e1 e2 e3
      clear e2 e3
      subst e1
      obtain ⟨c0, c1⟩ := hc wr hb.out
      obtain ⟨y, hy⟩ : ∃ y, l[k] = y := ⟨_, rfl⟩
      rw [hy] at c0 c1
      have Hy : Hid (l[k]'hlt = y) := hy
      have hC : Hid (Calls Tryd.prog 92 #[.agg #[.string y.v, .string y.b], .pointer (some ⟨g, 0, none⟩)] wr fun e w' => e = .returned (.bool (y.v.toList == s.toList)) ∧ Below wr.heap.size wr w') := HF.out y wr hb.out
      clear hc hy
      cases hB : (y.v.toList == s.toList)
      · rw [hB] at hC
        have HB : Hid ((y.v.toList == s.toList) = false) := hB
        clear hB
        go_wp2_with fail
        refine hC.out.mono ?_
        rintro e w1 ⟨rfl, hb1⟩
        have hb2 : Hid (Below w.heap.size w w1) := hb.out.trans (hb1.mono hb.out.size)
        clear hb1
        go_wp2_with fail
        go_roundw
        case rel =>
          refine ⟨k + 1, by simp, by omega, fun j hj h => ?_, hb2.out⟩
          by_cases hjk : j = k
          · subst hjk
            rw [Hy.out]
            exact HB.out
          · exact hno.out j hj (by omega)
        case measure => simp [intOf]; omega
      · rw [hB] at hC
        have HB : Hid ((y.v.toList == s.toList) = true) := hB
        clear hB
        go_wp2_with fail
        refine hC.out.mono ?_
        rintro e w1 ⟨rfl, hb1⟩
        have hb2 : Hid (Below w.heap.size w w1) := hb.out.trans (hb1.mono hb.out.size)
        clear hb1
        go_wp2_with fail
        go_ret
        exact ⟨by rw [plI_some hlt (by rw [Hy.out]; exact HB.out) hno.out]; rfl, hb2.out⟩
    · have hlt' : ¬ (k : Int) < (l.length : Int) := by omega
      go_wp2_with fail
      go_ret
      exact ⟨by rw [plI_none fun j hj => hno.out j hj (by omega)]; rfl, hb.out⟩

set_option maxHeartbeats 1000000 in
theorem placeOf_any (x : SV) (l : List Ch) (s : ByteArray) (w : World) (hI : In ECh w (sv x) l) :
    Calls Tryd.prog 73 #[sv x, .string s] w fun e w' => e = .returned (.int .i64 (plI l s)) ∧ Below w.heap.size w w' := by
  have hC : Hid (Calls Tryd.prog 91 #[sv x, .func (.func 92) #[] #[.pointer (some ⟨w.heap.size, 0, none⟩)]] (w.alloc (.cells #[.string s] 9)) fun e w' => e = .returned (.int .i64 (plI l s)) ∧ Below (w.alloc (.cells #[.string s] 9)).heap.size (w.alloc (.cells #[.string s] 9)) w') := index91_any x l s _ _ (hI.below (bel1 _ _)) (cell_blk (c := #[.string s]) (t := 9) (by rw [heap_al, if_pos rfl]) 0)
  have hB : Hid (Below w.heap.size w (w.alloc (.cells #[.string s] 9))) := bel1 _ _
  clear hI
  obtain ⟨xb, xl, xc⟩ := x
  simp only [sv] at hC ⊢
  go_enter Tryd.func73, Tryd.ntmps73
  go_wp2_with fail
  go_at_call 91
  refine hC.out.mono ?_
  rintro e w1 ⟨rfl, hb1⟩
  have hb2 : Hid (Below w.heap.size w w1) := hB.out.trans (hb1.mono hB.out.size)
  clear hb1 hC hB
  go_wp2_with fail
  go_ret
  exact ⟨rfl, hb2.out⟩

end Go.Proofs.YtcadlpmopplkeaaDoor

/- site: firstValue. -/
namespace Go.Proofs.YtcadlpmopplkeaaDoor
open Go.RowKit
open Go.Shelf
set_option linter.unusedVariables false
set_option linter.unusedSimpArgs false

def eS : ByteArray := ⟨#[]⟩
/-- the first field's of a name -/
def fvS (l : List Fd) (n : ByteArray) : ByteArray := match l.findIdx? (fun f => f.n.toList == n.toList) with | some k => (match l[k]? with | some f => f.v | none => eS) | none => eS
theorem fvS_some {l : List Fd} {s : ByteArray} {k : Nat} (h : k < l.length) (h1 : (l[k].n.toList == s.toList) = true) (h2 : ∀ j (hj : j < l.length), j < k → (l[j].n.toList == s.toList) = false) : fvS l s = l[k].v := by
  have : l.findIdx? (fun c => c.n.toList == s.toList) = some k := List.findIdx?_eq_some_iff_getElem.2 ⟨h, h1, fun j hj => by rw [h2 j (by omega) hj]; simp⟩
  unfold fvS
  rw [this]
  simp [List.getElem?_eq_getElem h]
theorem fvS_none {l : List Fd} {s : ByteArray} (h2 : ∀ j (hj : j < l.length), (l[j].n.toList == s.toList) = false) : fvS l s = eS := by
  have : l.findIdx? (fun c => c.n.toList == s.toList) = none := List.findIdx?_eq_none_iff.2 fun x hx => by
    obtain ⟨j, hj, e⟩ := List.getElem_of_mem hx
    rw [← e]
    exact h2 j hj
  unfold fvS
  rw [this]

set_option maxHeartbeats 4000000 in
set_option maxRecDepth 100000 in
theorem firstValue_any (x : SV) (l : List Fd) (s : ByteArray) (w : World) (hI : In EFd w (sv x) l) :
    Calls Tryd.prog 75 #[sv x, .string s] w fun e w' => e = .returned (.string (fvS l s)) ∧ Below w.heap.size w w' := by
  have HI : Hid (In EFd w (sv x) l) := hI
  obtain ⟨b, c, e, m1, m2⟩ := hI.slice
  obtain ⟨sb, sl, sc⟩ := x
  simp only [sv] at e HI ⊢
  injection e with e1 e2 e3
  subst e1 e2 e3
  clear hI
  go_enter Tryd.func75, Tryd.ntmps75
  go_wp2_with fail
  go_loopw [6, 9] (fun _ kv wr => ∃ k : Nat, kv = .int .i64 (k : Int) ∧ k ≤ l.length ∧ Hid (∀ j (h : j < l.length), j < k → (l[j].n.toList == s.toList) = false) ∧ Hid (Below w.heap.size w wr)) (fun _ kv _ => l.length - (intOf kv).toNat)
  case atStart => exact ⟨0, rfl, by omega, fun j _ h => absurd h (by omega), Below.refl _ _⟩
  case round =>
    obtain ⟨k, rfl, hk, hno, hb⟩ := hrel
    by_cases hlt : k < l.length
    · obtain ⟨Bk, off, cap, e, hc⟩ := HI.out.fd k hlt
      injection e with e1 e2 e3
      clear e2 e3
      subst e1
      obtain ⟨c0, c1, c2⟩ := hc wr hb.out
      obtain ⟨y, hy⟩ : ∃ y, l[k] = y := ⟨_, rfl⟩
      rw [hy] at c0 c1 c2
      have Hy : Hid (l[k]'hlt = y) := hy
      have hb2 : Hid (Below w.heap.size w (wr.alloc (.cells #[.string y.n, .string y.v, .bool y.nv] 44))) := hb.out.trans ((bel1 _ _).mono hb.out.size)
      have hlt' : (k : Int) < (l.length : Int) := by omega
      clear hc hy
      cases hB : (y.n.toList == s.toList)
      · have HB : Hid ((y.n.toList == s.toList) = false) := hB
        go_wp2_with fail
        go_roundw
        case rel =>
          refine ⟨k + 1, by simp, by omega, fun j hj h => ?_, hb2.out⟩
          by_cases hjk : j = k
          · subst hjk
            rw [Hy.out]
            exact HB.out
          · exact hno.out j hj (by omega)
        case measure => simp [intOf]; omega
      · have HB : Hid ((y.n.toList == s.toList) = true) := hB
        go_wp2_with fail
        go_ret
        exact ⟨by rw [fvS_some hlt (by rw [Hy.out]; exact HB.out) hno.out, Hy.out]; rfl, hb2.out⟩
    · have hlt' : ¬ (k : Int) < (l.length : Int) := by omega
      go_wp2_with fail
      go_ret
      exact ⟨by rw [fvS_none fun j hj => hno.out j hj (by omega)]; rfl, hb.out⟩

end Go.Proofs.YtcadlpmopplkeaaDoor

/- site: areChoices. -/
namespace Go.Proofs.YtcadlpmopplkeaaDoor
open Go.RowKit
open Go.Shelf
set_option linter.unusedVariables false
set_option linter.unusedSimpArgs false

/-- may the i-th choice stand there? -/
def goodAt (l : List Ch) (i : Nat) : Bool := match l[i]? with | some c => valB c.v && bdB c.b && decide (plI (l.take i) c.v < 0) | none => true
def loneB (l : List Ch) : Bool := match l with | [c] => c.v.toList.isEmpty && bdB c.b | _ => false
def noVary (s : ByteArray) : Bool := s.toList.isEmpty || (s.toList == [42])
def chB (l : List Ch) (vary : ByteArray) : Bool :=
  decide (1 ≤ l.length) && decide (l.length ≤ 8) && (if noVary vary = true then loneB l else nmB vary && (List.range l.length).all (goodAt l))

set_option maxHeartbeats 2000000 in
set_option maxRecDepth 100000 in
theorem areChoices_size (x : SV) (l : List Ch) (vary : ByteArray) (w : World) (hI : In ECh w (sv x) l) (h : ¬ (1 ≤ l.length ∧ l.length ≤ 8)) :
    Calls Tryd.prog 54 #[sv x, .string vary] w fun e w' => e = .returned (.bool (chB l vary)) ∧ Below w.heap.size w w' := by
  obtain ⟨b, c, e, m1, m2⟩ := hI.slice
  obtain ⟨sb, sl, sc⟩ := x
  simp only [sv] at e ⊢
  injection e with e1 e2 e3
  subst e1 e2 e3
  have hc : chB l vary = false := by
    unfold chB
    rw [show (decide (1 ≤ l.length) && decide (l.length ≤ 8)) = false by simpa using h]
    rfl
  rw [hc]
  clear hI hc
  by_cases h1 : 1 ≤ l.length
  · have a1 : ¬ (l.length : Int) < 1 := by omega
    have a2 : 8 < (l.length : Int) := by omega
    clear h h1
    go_enter Tryd.func54, Tryd.ntmps54
    go_wp2_with fail
    go_ret
    exact ⟨rfl, Below.refl _ _⟩
  · have a1 : (l.length : Int) < 1 := by omega
    clear h h1
    go_enter Tryd.func54, Tryd.ntmps54
    go_wp2_with fail
    go_ret
    exact ⟨rfl, Below.refl _ _⟩

set_option maxHeartbeats 4000000 in
set_option maxRecDepth 100000 in
theorem areChoices_lone (x : SV) (l : List Ch) (vary : ByteArray) (w : World) (hI : In ECh w (sv x) l) (h : 1 ≤ l.length ∧ l.length ≤ 8) (hv : noVary vary = true) :
    Calls Tryd.prog 54 #[sv x, .string vary] w fun e w' => e = .returned (.bool (chB l vary)) ∧ Below w.heap.size w w' := by
  have hI' := hI
  obtain ⟨b, c, e, m1, m2⟩ := hI.slice
  have hbd : Hid (∀ s W, Calls Tryd.prog 70 #[.string s] W fun e w' => e = .returned (.bool (bdB s)) ∧ w' = W) := isBody_any
  obtain ⟨sb, sl, sc⟩ := x
  simp only [sv] at e hI' ⊢
  injection e with e1 e2 e3
  subst e1 e2 e3
  have hc : chB l vary = loneB l := by
    unfold chB
    rw [if_pos hv]
    simp [h.1, h.2]
  rw [hc]
  have a1 : ¬ (l.length : Int) < 1 := by omega
  have a2 : ¬ 8 < (l.length : Int) := by omega
  obtain ⟨n, hn⟩ : ∃ n, l.length = n := ⟨_, rfl⟩
  have hvv : vary.toList.isEmpty = true ∨ (vary.toList.isEmpty = false ∧ (vary.toList == [42]) = true) := by
    unfold noVary at hv
    cases h1 : vary.toList.isEmpty
    · rw [h1] at hv
      exact .inr ⟨rfl, by simpa using hv⟩
    · exact .inl rfl
  by_cases h1 : l.length = 1
  · obtain ⟨c, rfl⟩ := List.length_eq_one_iff.1 h1
    obtain ⟨Bk, off, cap, e, hc0⟩ := In.ch hI' 0 (by simp)
    injection e with e1 e2 e3
    subst e1
    obtain ⟨c0, c1⟩ := hc0 w (Below.refl _ _)
    simp only [Nat.zero_mul, Nat.add_zero, List.getElem_cons_zero, List.length_singleton] at c0 c1 a1 a2 m1 ⊢
    have hl : loneB [c] = (c.v.toList.isEmpty && bdB c.b) := rfl
    rw [hl]
    clear hc0 e2 e3 hI hI' hl hc hv h h1 hn
    cases hE : c.v.toList.isEmpty
    · have hE2 : ¬ c.v.toList = [] := by simpa using hE
      rcases hvv with g | ⟨g, g2⟩
      all_goals
        go_enter Tryd.func54, Tryd.ntmps54
        go_wp2_with fail
        go_ret
        exact ⟨rfl, Below.refl _ _⟩
    · have hE2 : c.v.toList = [] := by simpa using hE
      rcases hvv with g | ⟨g, g2⟩
      all_goals
        go_enter Tryd.func54, Tryd.ntmps54
        go_wp2_with fail
        go_at_call 70
        refine (hbd.out _ _).mono ?_
        rintro e w' ⟨rfl, hw⟩
        rw [hw]
        clear hw
        go_wp2_with fail
        go_ret
        exact ⟨rfl, Below.refl _ _⟩
  · have hl : loneB l = false := by
      unfold loneB
      split
      · rename_i c; exact absurd (by simp) h1
      · rfl
    rw [hl]
    have a3 : ((l.length : Int) == 1) = false := beq_eq_false_iff_ne.2 (by omega)
    clear hI hI' hl hc hv h h1 hn
    rcases hvv with g | ⟨g, g2⟩
    all_goals
      go_enter Tryd.func54, Tryd.ntmps54
      go_wp2_with fail
      go_ret
      exact ⟨rfl, Below.refl _ _⟩

end Go.Proofs.YtcadlpmopplkeaaDoor

