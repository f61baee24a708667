/- Rules: isLong, isWrong, namesTwice, ContainsFunc(rules, ..). -/
import Derived.Test.YtldnibkgdpeocaaA2
import Derived.Deep.QuietTactic
import Derived.BigQuiet
import Derived.Deep.RegionWith
namespace Go.Proofs.Ytldnibkgdpeocaa
open Go.RowKit
open Go.Shelf
set_option linter.unusedVariables false
set_option linter.unusedSimpArgs false

/-- a rule: its target, what its list is in memory, the list -/
structure Ru where
  t : Tg
  y : SV
  l : List Tg
def ruv (r : Ru) : Array Value := #[.string r.t.1, .string r.t.2, sv r.y]
def ER : El Ru := ⟨23, 29, 3, 56, fun r => (ruv r).toList⟩
theorem okR : ER.Ok := ⟨Try.underlying23, by kernel_rfl, by decide, by decide, fun _ => rfl, fun a u hu => by
  simp only [ER, ruv, List.mem_cons, List.not_mem_nil, or_false] at hu
  rcases hu with rfl | rfl | rfl <;> rfl⟩
/-- the rules' lists can be read -/
def PsIn (w : World) (l : List Ru) : Prop := ∀ r ∈ l, In ET w (sv r.y) r.l
theorem PsIn.below {w w' : World} {l : List Ru} (h : PsIn w l) (hb : Below w.heap.size w w') : PsIn w' l := fun x hx => (h x hx).below hb
theorem In.ru {w : World} {v : Value} {l : List Ru} (h : In ER w v l) (k : Nat) (hk : k < l.length) : ∃ B off cap, v = .slice (some ⟨B, off, none⟩) l.length cap ∧ B < w.heap.size ∧ ∀ W, Below w.heap.size w W → W.cell? ⟨B, off + k * 3, none⟩ = some (.string l[k].t.1) ∧ W.cell? ⟨B, off + k * 3 + 1, none⟩ = some (.string l[k].t.2) ∧ W.cell? ⟨B, off + k * 3 + 2, none⟩ = some (sv l[k].y) := by
  obtain ⟨B, off, cap, e, hB, d⟩ := h.get okR k hk
  exact ⟨B, off, cap, e, hB, fun W hb => ⟨(hb.cell hB).trans (d 0 _ rfl), (hb.cell hB).trans (d 1 _ rfl), (hb.cell hB).trans (d 2 _ rfl)⟩⟩

def longB (r : Ru) : Bool := decide (8 < r.l.length)
def wrongB (r : Ru) : Bool := badT r.t || r.l.any badT
/-- is a target named twice? -/
def twB : List Tg → List Tg → Bool
  | _, [] => false
  | seen, t :: l => inB seen t || twB (seen ++ [t]) l
def twiceB (r : Ru) : Bool := twB [] r.l

set_option maxHeartbeats 1000000 in
theorem isLong_any (r : Ru) (w : World) (hI : In ET w (sv r.y) r.l) : Calls Try.prog 22 #[.agg (ruv r)] w fun e w' => e = .returned (.bool (longB r)) ∧ Below w.heap.size w w' := by
  obtain ⟨⟨ta, tp⟩, ⟨yb, yl, yc⟩, l⟩ := r
  obtain ⟨b, c, e, m1, m2⟩ := hI.slice
  clear hI
  simp only [sv] at e
  injection e with e1 e2 e3
  subst e1 e2 e3
  unfold ruv longB
  simp only [sv]
  by_cases h : 8 < l.length
  · have h1 : (8 : Int) < (l.length : Int) := by omega
    rw [decide_eq_true h]
    clear h
    go_enter Try.func22, Try.ntmps22
    go_wp2_with fail
    go_ret
    exact ⟨rfl, bel1 _ _⟩
  · have h1 : ¬ (8 : Int) < (l.length : Int) := by omega
    rw [decide_eq_false h]
    clear h
    go_enter Try.func22, Try.ntmps22
    go_wp2_with fail
    go_ret
    exact ⟨rfl, bel1 _ _⟩

set_option maxHeartbeats 2000000 in
theorem isWrong_any (r : Ru) (w : World) (hI : In ET w (sv r.y) r.l) : Calls Try.prog 23 #[.agg (ruv r)] w fun e w' => e = .returned (.bool (wrongB r)) ∧ Below w.heap.size w w' := by
  obtain ⟨⟨ta, tp⟩, ⟨yb, yl, yc⟩, l⟩ := r
  have h1 : Hid (∀ W, Calls Try.prog 32 #[.agg #[.string ta, .string tp]] W fun e w' => e = .returned (.bool (badT (ta, tp))) ∧ Below W.heap.size W w') := fun W => isWrongTarget_any (ta, tp) W
  have h2 : Hid (∀ W, Below w.heap.size w W → Calls Try.prog 33 #[sv (yb, yl, yc), .func (.func 32) #[] #[]] W fun e w' => e = .returned (.bool (l.any badT)) ∧ Below W.heap.size W w') := fun W hW => contains33_any _ _ W (hI.below hW)
  clear hI
  unfold ruv wrongB
  simp only [sv] at h2 ⊢
  have hb0 : Hid (Below w.heap.size w (w.alloc (.cells #[.string ta, .string tp, .slice yb yl yc] 29))) := bel1 _ _
  cases hA : badT (ta, tp)
  · rw [hA] at h1
    clear hA
    go_enter Try.func23, Try.ntmps23
    go_wp2_with fail
    go_at_call 32
    refine (h1.out _).mono ?_
    rintro e w1 ⟨rfl, hb1⟩
    have hb2 : Hid (Below w.heap.size w w1) := hb0.out.trans (hb1.mono hb0.out.size)
    have c1 : w1.cell? ⟨w.heap.size, 2, none⟩ = some (.slice yb yl yc) := (hb1.cell (by simp)).trans (cell_blk (c := #[.string ta, .string tp, .slice yb yl yc]) (t := 29) (by rw [heap_al, if_pos rfl]) 2)
    clear hb1 hb0 h1
    go_wp2_with fail
    go_at_call 33
    refine (h2.out _ hb2.out).mono ?_
    rintro e w2 ⟨rfl, hb1⟩
    have hb3 : Hid (Below w.heap.size w w2) := hb2.out.trans (hb1.mono hb2.out.size)
    clear hb1 hb2 h2
    go_wp2_with fail
    go_ret
    exact ⟨by simp, hb3.out⟩
  · rw [hA] at h1
    clear hA h2
    go_enter Try.func23, Try.ntmps23
    go_wp2_with fail
    go_at_call 32
    refine (h1.out _).mono ?_
    rintro e w1 ⟨rfl, hb1⟩
    have hb2 : Hid (Below w.heap.size w w1) := hb0.out.trans (hb1.mono hb0.out.size)
    clear hb1 hb0 h1
    go_wp2_with fail
    go_ret
    exact ⟨by simp, hb2.out⟩

/-- a part of what can be read -/
theorem In.take {α : Type} {E : El α} (ok : E.Ok) {w : World} {b : Option Addr} {n c : Nat} {l : List α} (h : In E w (.slice b n c) l) (k : Nat) (hk : k ≤ l.length) : In E w (.slice b k c) (l.take k) := by
  rcases h with ⟨e, rfl⟩ | ⟨a, cap, e, h1, h2, h3⟩
  · injection e with e1 e2 e3
    subst e1 e3
    obtain rfl : k = 0 := by simpa using hk
    exact .inl ⟨rfl, rfl⟩
  · injection e with e1 e2 e3
    subst e1 e3
    refine .inr ⟨a, c, by rw [List.length_take, Nat.min_eq_left hk], by rw [List.length_take]; omega, h2, fun j u hu => h3 j u ?_⟩
    have e4 : E.cs l = E.cs (l.take k) ++ E.cs (l.drop k) := by rw [← El.cs_append, List.take_append_drop]
    rw [e4, List.getElem?_append_left (List.getElem?_eq_some_iff.1 hu).1]
    exact hu
theorem twB_of (l : List Tg) : ∀ (seen : List Tg), twB seen l = true ↔ ∃ k, ∃ h : k < l.length, l[k] ∈ seen ++ l.take k := by
  induction l with
  | nil => intro seen; simp [twB]
  | cons t l ih =>
    intro seen
    unfold twB
    rw [Bool.or_eq_true, ih, inB_iff]
    constructor
    · rintro (h | ⟨k, hk, h⟩)
      · exact ⟨0, by simp, by simpa using h⟩
      · exact ⟨k + 1, by simpa using hk, by simpa using h⟩
    · rintro ⟨k, hk, h⟩
      cases k with
      | zero => exact .inl (by simpa using h)
      | succ k => exact .inr ⟨k, by simpa using hk, by simpa using h⟩

set_option maxHeartbeats 4000000 in
set_option maxRecDepth 100000 in
theorem namesTwice_any (r : Ru) (w : World) (hI : In ET w (sv r.y) r.l) : Calls Try.prog 24 #[.agg (ruv r)] w fun e w' => e = .returned (.bool (twiceB r)) ∧ Below w.heap.size w w' := by
  obtain ⟨⟨ta, tp⟩, ⟨yb, yl, yc⟩, l⟩ := r
  have HI : Hid (In ET w (sv (yb, yl, yc)) l) := hI
  obtain ⟨b, c, e, m1, m2⟩ := hI.slice
  clear hI
  simp only [sv] at e HI
  injection e with e1 e2 e3
  subst e1 e2 e3
  unfold ruv twiceB
  simp only [sv]
  obtain ⟨W, hW⟩ : ∃ W, W = w.alloc (.cells #[.string ta, .string tp, .slice yb l.length yc] 29) := ⟨_, rfl⟩
  have hb0 : Hid (Below w.heap.size w W) := by rw [hW]; exact bel1 _ _
  have d2 : W.cell? ⟨w.heap.size, 2, none⟩ = some (.slice yb l.length yc) := by rw [hW]; exact cell_blk (c := #[.string ta, .string tp, .slice yb l.length yc]) (t := 29) (by rw [heap_al, if_pos rfl]) 2
  go_enter Try.func24, Try.ntmps24
  go_wp2_with fail
  rw [← hW]
  clear hW
  go_loopw [3, 4, 8] (fun _ _ kv wr => ∃ k : Nat, kv = .int .i64 (k : Int) ∧ k ≤ l.length ∧ Hid (∀ j (h : j < l.length), j < k → l[j] ∉ l.take j) ∧ Hid (Below W.heap.size W wr)) (fun _ _ kv _ => l.length - (intOf kv).toNat)
  case atStart => exact ⟨0, rfl, by omega, fun j _ h => absurd h (by omega), Below.refl _ _⟩
  case round =>
    obtain ⟨k, rfl, hk, hno, hbr⟩ := hrel
    have hl0 : w.heap.size < W.heap.size := World.block_lt_of_cell? _ _ d2
    have hb2 : Hid (Below w.heap.size w wr) := hb0.out.trans (hbr.out.mono hb0.out.size)
    by_cases hlt : k < l.length
    · obtain ⟨Bk, off, cap, e, hBk, hc⟩ := HI.out.tg k hlt
      injection e with e1 e2 e3
      clear e2 e3
      subst e1
      obtain ⟨c0, c1⟩ := hc _ hb2.out
      obtain ⟨y, hy⟩ : ∃ y, l[k] = y := ⟨_, rfl⟩
      rw [hy] at c0 c1
      have Hy : Hid (l[k]'hlt = y) := hy
      clear hc hy
      obtain ⟨ya, yp⟩ := y
      simp only at c0 c1
      have HX : Hid (∀ W', Below w.heap.size w W' → Calls Try.prog 34 #[.slice (some ⟨Bk, off, none⟩) k yc, .agg #[.string ya, .string yp]] W' fun e w' => e = .returned (.bool (inB (l.take k) (ya, yp))) ∧ Below W'.heap.size W' w') := fun W' hW' => contains34_any (some ⟨Bk, off, none⟩, k, yc) (l.take k) (ya, yp) W' ((HI.out.take okT k (by omega)).below hW')
      have f2 : wr.cell? ⟨w.heap.size, 2, none⟩ = some (.slice (some ⟨Bk, off, none⟩) l.length yc) := (hbr.out.cell hl0).trans d2
      clear hl0
      obtain ⟨V, hV⟩ : ∃ V, V = wr.alloc (.cells #[.string ya, .string yp] 26) := ⟨_, rfl⟩
      have hbV : Hid (Below wr.heap.size wr V) := by rw [hV]; exact bel1 _ _
      have g0 : V.cell? ⟨wr.heap.size, 0, none⟩ = some (.string ya) := by rw [hV]; exact cell_blk (c := #[.string ya, .string yp]) (t := 26) (by rw [heap_al, if_pos rfl]) 0
      have g1 : V.cell? ⟨wr.heap.size, 1, none⟩ = some (.string yp) := by rw [hV]; exact cell_blk (c := #[.string ya, .string yp]) (t := 26) (by rw [heap_al, if_pos rfl]) 1
      have g2 : V.cell? ⟨w.heap.size, 2, none⟩ = some (.slice (some ⟨Bk, off, none⟩) l.length yc) := (hbV.out.cell (World.block_lt_of_cell? _ _ f2)).trans f2
      have hbW : Hid (Below w.heap.size w V) := hb2.out.trans (hbV.out.mono hb2.out.size)
      have hbX : Hid (Below W.heap.size W V) := hbr.out.trans (hbV.out.mono hbr.out.size)
      go_wp2_with fail
      rw [← hV]
      clear hV c0 c1 f2
      have hle : (k : Int) ≤ (yc : Int) := by omega
      cases hE : inB (l.take k) (ya, yp)
      · rw [hE] at HX
        have HE : Hid ((ya, yp) ∉ l.take k) := inB_not.1 hE
        clear hE
        go_region_with (go_at_call 34; refine (HX.out _ hbW.out.drew).mono ?_; rintro e w1 ⟨rfl, hb1⟩)
        all_goals
          have hb5 : Hid (Below W.heap.size W w1) := hbX.out.drew.trans (hb1.mono hbX.out.drew.size)
          clear hb1
          go_wp2_with fail
          go_roundw
          case rel =>
            refine ⟨k + 1, by simp, by omega, fun j hj h => ?_, hb5.out⟩
            by_cases hjk : j = k
            · subst hjk
              rw [Hy.out]
              exact HE.out
            · exact hno.out j hj (by omega)
          case measure => simp [intOf]; omega
      · rw [hE] at HX
        have HE : Hid ((ya, yp) ∈ l.take k) := inB_iff.1 hE
        clear hE
        go_region_with (go_at_call 34; refine (HX.out _ hbW.out.drew).mono ?_; rintro e w1 ⟨rfl, hb1⟩)
        all_goals
          have hb5 : Hid (Below w.heap.size w w1) := hbW.out.drew.trans (hb1.mono hbW.out.drew.size)
          clear hb1
          go_wp2_with fail
          go_ret
          have : twB [] l = true := (twB_of l []).2 ⟨k, hlt, by rw [Hy.out]; simpa using HE.out⟩
          exact ⟨by rw [this]; rfl, hb5.out⟩
    · have hlt' : ¬ (k : Int) < (l.length : Int) := by omega
      go_wp2_with fail
      go_ret
      have : twB [] l = false := Bool.eq_false_iff.2 fun h => by
        obtain ⟨j, hj, e⟩ := (twB_of l []).1 h
        exact hno.out j hj (by omega) (by simpa using e)
      exact ⟨by rw [this]; rfl, hb2.out⟩

set_option maxHeartbeats 4000000 in
set_option maxRecDepth 100000 in
theorem index31_any (f : Nat) (B : Ru → Bool) (hF : ∀ r W, In ET W (sv r.y) r.l → Calls Try.prog f #[.agg (ruv r)] W fun e w' => e = .returned (.bool (B r)) ∧ Below W.heap.size W w') (hen : ∀ args W, (callFunc f args).run Try.prog W = .ok (.enter f args) W) (x : SV) (l : List Ru) (w : World) (hI : In ER w (sv x) l) (hC : PsIn w l) :
    Calls Try.prog 31 #[sv x, .func (.func f) #[] #[]] w fun e w' => ∃ n : Int, e = .returned (.int .i64 n) ∧ decide (0 ≤ n) = l.any B ∧ Below w.heap.size w w' := by
  have HI : Hid (In ER w (sv x) l) := hI
  have HC : Hid (PsIn w l) := hC
  have HF : Hid (∀ r W, In ET W (sv r.y) r.l → Calls Try.prog f #[.agg (ruv r)] W fun e w' => e = .returned (.bool (B r)) ∧ Below W.heap.size W w') := hF
  obtain ⟨b, c, e, m1, m2⟩ := hI.slice
  obtain ⟨sb, sl, sc⟩ := x
  simp only [sv] at e HI ⊢
  injection e with e1 e2 e3
  subst e1 e2 e3
  clear hI hC hF
  go_enter Try.func31, Try.ntmps31
  go_wp2_with fail
  go_loopw [5, 8] (fun _ kv wr => ∃ k : Nat, kv = .int .i64 (k : Int) ∧ k ≤ l.length ∧ Hid (∀ j (h : j < l.length), j < k → B l[j] = false) ∧ Hid (Below w.heap.size w wr)) (fun _ kv _ => l.length - (intOf kv).toNat)
  case atStart => exact ⟨0, rfl, by omega, fun j _ h => absurd h (by omega), Below.refl _ _⟩
  case round =>
    obtain ⟨k, rfl, hk, hno, hb⟩ := hrel
    by_cases hlt : k < l.length
    · obtain ⟨Bk, off, cap, e, hBk, hc⟩ := HI.out.ru k hlt
      injection e with e1 e2 e3
      clear e2 e3
      subst e1
      obtain ⟨c0, c1, c2⟩ := hc wr hb.out
      obtain ⟨y, hy⟩ : ∃ y, l[k] = y := ⟨_, rfl⟩
      rw [hy] at c0 c1 c2
      have Hy : Hid (l[k]'hlt = y) := hy
      have hCl : Hid (Calls Try.prog f #[.agg (ruv y)] wr fun e w' => e = .returned (.bool (B y)) ∧ Below wr.heap.size wr w') := HF.out y wr ((HC.out y (by rw [← hy]; exact List.getElem_mem hlt)).below hb.out)
      clear hc hy
      obtain ⟨⟨ya, yp⟩, ⟨yb, yl, yc⟩, yps⟩ := y
      unfold ruv at hCl
      simp only [sv] at c0 c1 c2 hCl
      cases hB : B ⟨(ya, yp), (yb, yl, yc), yps⟩
      · rw [hB] at hCl
        have HB : Hid (B ⟨(ya, yp), (yb, yl, yc), yps⟩ = false) := hB
        clear hB
        go_wp2_with fail
        refine hCl.out.mono ?_
        rintro e w1 ⟨rfl, hb1⟩
        have hb2 : Hid (Below w.heap.size w w1) := hb.out.trans (hb1.mono hb.out.size)
        clear hb1
        go_wp2_with fail
        go_roundw
        case rel =>
          refine ⟨k + 1, by simp, by omega, fun j hj h => ?_, hb2.out⟩
          by_cases hjk : j = k
          · subst hjk
            rw [Hy.out]
            exact HB.out
          · exact hno.out j hj (by omega)
        case measure => simp [intOf]; omega
      · rw [hB] at hCl
        have HB : Hid (B ⟨(ya, yp), (yb, yl, yc), yps⟩ = true) := hB
        clear hB
        go_wp2_with fail
        refine hCl.out.mono ?_
        rintro e w1 ⟨rfl, hb1⟩
        have hb2 : Hid (Below w.heap.size w w1) := hb.out.trans (hb1.mono hb.out.size)
        clear hb1
        go_wp2_with fail
        go_ret
        refine ⟨(k : Int), rfl, ?_, hb2.out⟩
        have : l.any B = true := List.any_eq_true.2 ⟨_, by rw [← Hy.out]; exact List.getElem_mem hlt, HB.out⟩
        rw [this]
        simp
    · have hlt' : ¬ (k : Int) < (l.length : Int) := by omega
      go_wp2_with fail
      go_ret
      refine ⟨-1, rfl, ?_, hb.out⟩
      have : l.any B = false := List.any_eq_false.2 fun x hx => by
        obtain ⟨j, hj, e⟩ := List.getElem_of_mem hx
        rw [← e, hno.out j hj (by omega)]
        simp
      rw [this]
      rfl

set_option maxHeartbeats 1000000 in
theorem contains21_any (f : Nat) (B : Ru → Bool) (hF : ∀ r W, In ET W (sv r.y) r.l → Calls Try.prog f #[.agg (ruv r)] W fun e w' => e = .returned (.bool (B r)) ∧ Below W.heap.size W w') (hen : ∀ args W, (callFunc f args).run Try.prog W = .ok (.enter f args) W) (x : SV) (l : List Ru) (w : World) (hI : In ER w (sv x) l) (hC : PsIn w l) :
    Calls Try.prog 21 #[sv x, .func (.func f) #[] #[]] w fun e w' => e = .returned (.bool (l.any B)) ∧ Below w.heap.size w w' := by
  have hX : Hid (Calls Try.prog 31 #[sv x, .func (.func f) #[] #[]] w fun e w' => ∃ n : Int, e = .returned (.int .i64 n) ∧ decide (0 ≤ n) = l.any B ∧ Below w.heap.size w w') := index31_any f B hF hen x l w hI hC
  obtain ⟨sb, sl, sc⟩ := x
  simp only [sv] at hX ⊢
  clear hI hC hF hen
  go_enter Try.func21, Try.ntmps21
  go_wp2_with fail
  go_at_call 31
  refine hX.out.mono ?_
  rintro e w1 ⟨n, rfl, hn, hb1⟩
  have HN : Hid (decide (0 ≤ n) = l.any B) := hn
  clear hn hX
  go_wp2_with fail
  go_ret
  exact ⟨by rw [← HN.out]; rfl, hb1⟩
theorem en22 : ∀ args W, (callFunc 22 args).run Try.prog W = .ok (.enter 22 args) W := enters_of Try.func22 (by kernel_rfl) rfl
theorem en23 : ∀ args W, (callFunc 23 args).run Try.prog W = .ok (.enter 23 args) W := enters_of Try.func23 (by kernel_rfl) rfl
theorem en24 : ∀ args W, (callFunc 24 args).run Try.prog W = .ok (.enter 24 args) W := enters_of Try.func24 (by kernel_rfl) rfl
theorem anyLong (x : SV) (l : List Ru) (w : World) (hI : In ER w (sv x) l) (hC : PsIn w l) : Calls Try.prog 21 #[sv x, .func (.func 22) #[] #[]] w fun e w' => e = .returned (.bool (l.any longB)) ∧ Below w.heap.size w w' := contains21_any 22 longB isLong_any en22 x l w hI hC
theorem anyWrong (x : SV) (l : List Ru) (w : World) (hI : In ER w (sv x) l) (hC : PsIn w l) : Calls Try.prog 21 #[sv x, .func (.func 23) #[] #[]] w fun e w' => e = .returned (.bool (l.any wrongB)) ∧ Below w.heap.size w w' := contains21_any 23 wrongB isWrong_any en23 x l w hI hC
theorem anyTwice (x : SV) (l : List Ru) (w : World) (hI : In ER w (sv x) l) (hC : PsIn w l) : Calls Try.prog 21 #[sv x, .func (.func 24) #[] #[]] w fun e w' => e = .returned (.bool (l.any twiceB)) ∧ Below w.heap.size w w' := contains21_any 24 twiceB namesTwice_any en24 x l w hI hC
end Go.Proofs.Ytldnibkgdpeocaa
