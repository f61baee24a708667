/- Fields: what can stand in no list. -/
import Derived.Test.YtcadlpmopplkeaaDoorA7
namespace Go.Proofs.YtcadlpmopplkeaaDoor
open Go.RowKit
open Go.Shelf
set_option linter.unusedVariables false
set_option linter.unusedSimpArgs false

/-- a field -/
structure Fd where
  n : ByteArray
  v : ByteArray
  nv : Bool
def fdv (f : Fd) : Array Value := #[.string f.n, .string f.v, .bool f.nv]
def EFd : El Fd := ⟨35, 44, 3, 40, fun f => (fdv f).toList⟩
def ES : El ByteArray := ⟨22, 9, 1, 16, fun s => [.string s]⟩
theorem okFd : EFd.Ok := ⟨Tryd.underlying35, by kernel_rfl, by decide, by decide, fun _ => rfl, fun a u hu => by
  simp only [EFd, fdv, List.mem_cons, List.not_mem_nil, or_false] at hu
  rcases hu with rfl | rfl | rfl <;> rfl⟩
theorem okS : ES.Ok := ⟨Tryd.underlying22, by kernel_rfl, by decide, by decide, fun _ => rfl, fun a u hu => by
  simp only [ES, List.mem_cons, List.not_mem_nil, or_false] at hu
  rcases hu with rfl; rfl⟩
/-- Block g holds a field. -/
def FdB (w : World) (g : Nat) (f : Fd) : Prop := w.heap[g]? = some (.cells (fdv f) 44 (0, 0))
theorem FdB.below {w w' : World} {g : Nat} {f : Fd} (h : FdB w g f) (hb : Below w.heap.size w w') : FdB w' g f := (hb.block g (heap_lt h)).trans h
theorem FdB.cells {w : World} {g : Nat} {f : Fd} (h : FdB w g f) : w.cell? ⟨g, 0, none⟩ = some (.string f.n) ∧ w.cell? ⟨g, 1, none⟩ = some (.string f.v) ∧ w.cell? ⟨g, 2, none⟩ = some (.bool f.nv) := ⟨cell_blk h 0, cell_blk h 1, cell_blk h 2⟩
theorem fd_new (w : World) (f : Fd) : FdB (w.alloc (.cells (fdv f) 44)) w.heap.size f := by unfold FdB; rw [heap_al, if_pos rfl]

def colonS : ByteArray := ⟨#[58]⟩
def pseudoB (s : ByteArray) : Bool := Lib.hasPrefix s.data.toList colonS.data.toList && nmB ⟨(Lib.trimPrefix s.data.toList colonS.data.toList).toArray⟩
set_option maxHeartbeats 1000000 in
theorem pseudo_any (s : ByteArray) (w : World) : Calls Tryd.prog 94 #[.string s] w fun e w' => e = .returned (.bool (pseudoB s)) ∧ Below w.heap.size w w' := by
  have hC : Hid (Calls Tryd.prog 108 #[.string s, .string colonS] w fun e w' => e = .returned (.tuple #[.string ⟨(Lib.trimPrefix s.data.toList colonS.data.toList).toArray⟩, .bool (Lib.hasPrefix s.data.toList colonS.data.toList)]) ∧ w' = w) := Tryd.strings_CutPrefix s colonS w
  unfold pseudoB
  obtain ⟨T, hT⟩ : ∃ T : ByteArray, (⟨(Lib.trimPrefix s.data.toList colonS.data.toList).toArray⟩ : ByteArray) = T := ⟨_, rfl⟩
  obtain ⟨P, hP⟩ : ∃ P, Lib.hasPrefix s.data.toList colonS.data.toList = P := ⟨_, rfl⟩
  rw [hT, hP] at hC ⊢
  have hN : Hid (∀ W, Calls Tryd.prog 71 #[.string T] W fun e w' => e = .returned (.bool (nmB T)) ∧ Below W.heap.size W w') := fun W => name_any T W
  unfold colonS at hC
  clear hT hP
  cases P
  · go_enter Tryd.func94, Tryd.ntmps94
    go_wp2_with (go_at_call 108; refine hC.out.mono ?_; rintro e w' ⟨rfl, hw⟩; rw [hw])
    go_ret
    exact ⟨rfl, Below.refl _ _⟩
  · go_enter Tryd.func94, Tryd.ntmps94
    go_wp2_with (first | (go_at_call 108; refine hC.out.mono ?_; rintro e w' ⟨rfl, hw⟩; rw [hw]) | (go_at_call 71; refine (hN.out _).mono ?_; rintro e w2 ⟨rfl, hb⟩))
    go_ret
    exact ⟨rfl, hb⟩

def barredB (f : Fd) : Bool :=
  if (f.n.toList == [99, 111, 110, 110, 101, 99, 116, 105, 111, 110]) = true then true
  else if (f.n.toList == [107, 101, 101, 112, 45, 97, 108, 105, 118, 101]) = true then true
  else if (f.n.toList == [112, 114, 111, 120, 121, 45, 99, 111, 110, 110, 101, 99, 116, 105, 111, 110]) = true then true
  else if (f.n.toList == [116, 114, 97, 110, 115, 102, 101, 114, 45, 101, 110, 99, 111, 100, 105, 110, 103]) = true then true
  else if (f.n.toList == [117, 112, 103, 114, 97, 100, 101]) = true then true
  else if (f.n.toList == [116, 101]) = true then !(f.v.toList == [116, 114, 97, 105, 108, 101, 114, 115]) else false
set_option maxHeartbeats 2000000 in
set_option maxRecDepth 100000 in
theorem barred_any (f : Fd) (w : World) : Calls Tryd.prog 95 #[.agg (fdv f)] w fun e w' => e = .returned (.bool (barredB f)) ∧ Below w.heap.size w w' := by
  have hb : Hid (Below w.heap.size w (w.alloc (.cells (fdv f) 44))) := bel1 w _
  unfold barredB
  unfold fdv at hb ⊢
  cases h1 : f.n.toList == [99, 111, 110, 110, 101, 99, 116, 105, 111, 110]
  · cases h2 : f.n.toList == [107, 101, 101, 112, 45, 97, 108, 105, 118, 101]
    · cases h3 : f.n.toList == [112, 114, 111, 120, 121, 45, 99, 111, 110, 110, 101, 99, 116, 105, 111, 110]
      · cases h4 : f.n.toList == [116, 114, 97, 110, 115, 102, 101, 114, 45, 101, 110, 99, 111, 100, 105, 110, 103]
        · cases h5 : f.n.toList == [117, 112, 103, 114, 97, 100, 101]
          · cases h6 : f.n.toList == [116, 101]
            all_goals
              simp only [if_true, if_false, Bool.false_eq_true]
              go_enter Tryd.func95, Tryd.ntmps95
              go_wp2_with fail
              go_ret
              exact ⟨rfl, hb.out⟩
          · simp only [if_true, if_false, Bool.false_eq_true]
            go_enter Tryd.func95, Tryd.ntmps95
            go_wp2_with fail
            go_ret
            exact ⟨rfl, hb.out⟩
        · simp only [if_true, if_false, Bool.false_eq_true]
          go_enter Tryd.func95, Tryd.ntmps95
          go_wp2_with fail
          go_ret
          exact ⟨rfl, hb.out⟩
      · simp only [if_true, if_false, Bool.false_eq_true]
        go_enter Tryd.func95, Tryd.ntmps95
        go_wp2_with fail
        go_ret
        exact ⟨rfl, hb.out⟩
    · simp only [if_true, if_false, Bool.false_eq_true]
      go_enter Tryd.func95, Tryd.ntmps95
      go_wp2_with fail
      go_ret
      exact ⟨rfl, hb.out⟩
  · simp only [if_true]
    go_enter Tryd.func95, Tryd.ntmps95
    go_wp2_with fail
    go_ret
    exact ⟨rfl, hb.out⟩

def wrongB (f : Fd) : Bool := (!nmB f.n && !pseudoB f.n) || !valB f.v
set_option maxHeartbeats 2000000 in
theorem wrong_any (f : Fd) (w : World) : Calls Tryd.prog 79 #[.agg (fdv f)] w fun e w' => e = .returned (.bool (wrongB f)) ∧ Below w.heap.size w w' := by
  have hN : Hid (∀ W, Calls Tryd.prog 71 #[.string f.n] W fun e w' => e = .returned (.bool (nmB f.n)) ∧ Below W.heap.size W w') := fun W => name_any _ W
  have hP : Hid (∀ W, Calls Tryd.prog 94 #[.string f.n] W fun e w' => e = .returned (.bool (pseudoB f.n)) ∧ Below W.heap.size W w') := fun W => pseudo_any _ W
  have hV : Hid (∀ W, Calls Tryd.prog 72 #[.string f.v] W fun e w' => e = .returned (.bool (valB f.v)) ∧ Below W.heap.size W w') := fun W => value_any _ W
  have hF : Hid (FdB (w.alloc (.cells (fdv f) 44)) w.heap.size f ∧ Below w.heap.size w (w.alloc (.cells (fdv f) 44))) := ⟨fd_new w f, bel1 w _⟩
  unfold wrongB
  obtain ⟨N, hN'⟩ : ∃ N, nmB f.n = N := ⟨_, rfl⟩
  obtain ⟨P, hP'⟩ : ∃ N, pseudoB f.n = N := ⟨_, rfl⟩
  obtain ⟨V, hV'⟩ : ∃ N, valB f.v = N := ⟨_, rfl⟩
  rw [hN'] at hN ⊢
  rw [hP'] at hP ⊢
  rw [hV'] at hV ⊢
  unfold fdv at hF ⊢
  clear hN' hP' hV'
  cases N
  · cases P
    · go_enter Tryd.func79, Tryd.ntmps79
      go_wp2_with fail
      go_at_call 71
      refine (hN.out _).mono ?_
      rintro e w1 ⟨rfl, hb⟩
      have F1 : Hid (FdB w1 w.heap.size f ∧ Below w.heap.size w w1) := ⟨FdB.below hF.out.1 hb, hF.out.2.trans (hb.mono hF.out.2.size)⟩
      obtain ⟨c0, c1, c2⟩ := F1.out.1.cells
      clear hb
      go_wp2_with fail
      go_at_call 94
      refine (hP.out _).mono ?_
      rintro e w2 ⟨rfl, hb⟩
      have F2 : Hid (Below w.heap.size w w2) := F1.out.2.trans (hb.mono F1.out.2.size)
      clear hb
      go_wp2_with fail
      go_ret
      exact ⟨rfl, F2.out⟩
    · go_enter Tryd.func79, Tryd.ntmps79
      go_wp2_with fail
      go_at_call 71
      refine (hN.out _).mono ?_
      rintro e w1 ⟨rfl, hb⟩
      have F1 : Hid (FdB w1 w.heap.size f ∧ Below w.heap.size w w1) := ⟨FdB.below hF.out.1 hb, hF.out.2.trans (hb.mono hF.out.2.size)⟩
      obtain ⟨c0, c1, c2⟩ := F1.out.1.cells
      clear hb
      go_wp2_with fail
      go_at_call 94
      refine (hP.out _).mono ?_
      rintro e w2 ⟨rfl, hb⟩
      have F2 : Hid (FdB w2 w.heap.size f ∧ Below w.heap.size w w2) := ⟨FdB.below F1.out.1 hb, F1.out.2.trans (hb.mono F1.out.2.size)⟩
      clear c0 c1 c2
      obtain ⟨c0, c1, c2⟩ := F2.out.1.cells
      clear hb
      go_wp2_with fail
      go_at_call 72
      refine (hV.out _).mono ?_
      rintro e w3 ⟨rfl, hb⟩
      have F3 : Hid (Below w.heap.size w w3) := F2.out.2.trans (hb.mono F2.out.2.size)
      clear hb
      go_wp2_with fail
      go_ret
      exact ⟨rfl, F3.out⟩
  · go_enter Tryd.func79, Tryd.ntmps79
    go_wp2_with fail
    go_at_call 71
    refine (hN.out _).mono ?_
    rintro e w1 ⟨rfl, hb⟩
    have F1 : Hid (FdB w1 w.heap.size f ∧ Below w.heap.size w w1) := ⟨FdB.below hF.out.1 hb, hF.out.2.trans (hb.mono hF.out.2.size)⟩
    obtain ⟨c0, c1, c2⟩ := F1.out.1.cells
    clear hb
    go_wp2_with fail
    go_at_call 72
    refine (hV.out _).mono ?_
    rintro e w3 ⟨rfl, hb⟩
    have F3 : Hid (Below w.heap.size w w3) := F1.out.2.trans (hb.mono F1.out.2.size)
    clear hb
    go_wp2_with fail
    go_ret
    exact ⟨by first | rfl | simp, F3.out⟩

def nofB (f : Fd) : Bool := !nmB f.n || barredB f
set_option maxHeartbeats 2000000 in
theorem nof_any (f : Fd) (w : World) : Calls Tryd.prog 80 #[.agg (fdv f)] w fun e w' => e = .returned (.bool (nofB f)) ∧ Below w.heap.size w w' := by
  have hN : Hid (∀ W, Calls Tryd.prog 71 #[.string f.n] W fun e w' => e = .returned (.bool (nmB f.n)) ∧ Below W.heap.size W w') := fun W => name_any _ W
  have hP : Hid (∀ W, Calls Tryd.prog 95 #[.agg (fdv f)] W fun e w' => e = .returned (.bool (barredB f)) ∧ Below W.heap.size W w') := fun W => barred_any _ W
  have hF : Hid (FdB (w.alloc (.cells (fdv f) 44)) w.heap.size f ∧ Below w.heap.size w (w.alloc (.cells (fdv f) 44))) := ⟨fd_new w f, bel1 w _⟩
  unfold nofB
  obtain ⟨N, hN'⟩ : ∃ N, nmB f.n = N := ⟨_, rfl⟩
  obtain ⟨P, hP'⟩ : ∃ N, barredB f = N := ⟨_, rfl⟩
  rw [hN'] at hN ⊢
  rw [hP'] at hP ⊢
  unfold fdv at hF hP ⊢
  clear hN' hP'
  cases N
  · go_enter Tryd.func80, Tryd.ntmps80
    go_wp2_with fail
    go_at_call 71
    refine (hN.out _).mono ?_
    rintro e w1 ⟨rfl, hb⟩
    have F1 : Hid (Below w.heap.size w w1) := hF.out.2.trans (hb.mono hF.out.2.size)
    clear hb
    go_wp2_with fail
    go_ret
    exact ⟨rfl, F1.out⟩
  · go_enter Tryd.func80, Tryd.ntmps80
    go_wp2_with fail
    go_at_call 71
    refine (hN.out _).mono ?_
    rintro e w1 ⟨rfl, hb⟩
    have F1 : Hid (FdB w1 w.heap.size f ∧ Below w.heap.size w w1) := ⟨FdB.below hF.out.1 hb, hF.out.2.trans (hb.mono hF.out.2.size)⟩
    obtain ⟨c0, c1, c2⟩ := F1.out.1.cells
    clear hb
    go_wp2_with fail
    go_at_call 95
    refine (hP.out _).mono ?_
    rintro e w3 ⟨rfl, hb⟩
    have F3 : Hid (Below w.heap.size w w3) := F1.out.2.trans (hb.mono F1.out.2.size)
    clear hb
    go_wp2_with fail
    go_ret
    exact ⟨rfl, F3.out⟩

/-- a slice's three parts -/
abbrev SV := Option Addr × Nat × Nat
def sv (x : SV) : Value := .slice x.1 x.2.1 x.2.2
theorem In.fd {w : World} {v : Value} {l : List Fd} (h : In EFd w v l) (k : Nat) (hk : k < l.length) : ∃ B off cap, v = .slice (some ⟨B, off, none⟩) l.length cap ∧ ∀ W, Below w.heap.size w W → W.cell? ⟨B, off + k * 3, none⟩ = some (.string l[k].n) ∧ W.cell? ⟨B, off + k * 3 + 1, none⟩ = some (.string l[k].v) ∧ W.cell? ⟨B, off + k * 3 + 2, none⟩ = some (.bool l[k].nv) := by
  obtain ⟨B, off, cap, e, hB, d⟩ := h.get okFd k hk
  exact ⟨B, off, cap, e, fun W hb => ⟨(hb.cell hB).trans (d 0 _ rfl), (hb.cell hB).trans (d 1 _ rfl), (hb.cell hB).trans (d 2 _ rfl)⟩⟩

set_option maxHeartbeats 4000000 in
set_option maxRecDepth 100000 in
theorem indexFunc_any (f : Nat) (B : Fd → Bool) (hF : ∀ x W, Calls Tryd.prog f #[.agg (fdv x)] W fun e w' => e = .returned (.bool (B x)) ∧ Below W.heap.size W w') (hen : ∀ args W, (callFunc f args).run Tryd.prog W = .ok (.enter f args) W) (s : SV) (l : List Fd) (w : World) (hI : In EFd w (sv s) l) :
    Calls Tryd.prog 93 #[sv s, .func (.func f) #[] #[]] w fun e w' => ∃ n : Int, e = .returned (.int .i64 n) ∧ decide (0 ≤ n) = l.any B ∧ Below w.heap.size w w' := by
  have HF : Hid (∀ x W, Calls Tryd.prog f #[.agg (fdv x)] W fun e w' => e = .returned (.bool (B x)) ∧ Below W.heap.size W w') := hF
  have HI : Hid (In EFd w (sv s) l) := hI
  obtain ⟨b, c, e, m1, m2⟩ := hI.slice
  obtain ⟨sb, sl, sc⟩ := s
  simp only [sv] at e HI ⊢
  injection e with e1 e2 e3
  subst e1 e2 e3
  clear hF hI
  unfold fdv at HF
  go_enter Tryd.func93, Tryd.ntmps93
  go_wp2_with fail
  go_loopw [5, 8] (fun _ kv wr => ∃ k : Nat, kv = .int .i64 (k : Int) ∧ k ≤ l.length ∧ Hid (∀ j (h : j < l.length), j < k → B l[j] = false) ∧ Hid (Below w.heap.size w wr)) (fun _ kv _ => l.length - (intOf kv).toNat)
  case atStart => exact ⟨0, rfl, by omega, fun j _ h => absurd h (by omega), Below.refl _ _⟩
  case round =>
    obtain ⟨k, rfl, hk, hno, hb⟩ := hrel
    by_cases hlt : k < l.length
    · obtain ⟨Bk, off, cap, e, hc⟩ := HI.out.fd k hlt
      injection e with e1 e2 e3
      clear e2 e3
      subst e1
      obtain ⟨c0, c1, c2⟩ := hc wr hb.out
      obtain ⟨x, hx⟩ : ∃ x, l[k] = x := ⟨_, rfl⟩
      rw [hx] at c0 c1 c2
      have Hx : Hid (l[k]'hlt = x) := hx
      have hC : Hid (∀ W, Calls Tryd.prog f #[.agg #[.string x.n, .string x.v, .bool x.nv]] W fun e w' => e = .returned (.bool (B x)) ∧ Below W.heap.size W w') := fun W => HF.out x W
      clear hc hx
      cases hB : B x
      · rw [hB] at hC
        have HB : Hid (B x = false) := hB
        clear hB
        go_wp2_with fail
        refine (hC.out _).mono ?_
        rintro e w1 ⟨rfl, hb1⟩
        have hb2 : Hid (Below w.heap.size w w1) := hb.out.trans (hb1.mono hb.out.size)
        clear hb1
        go_wp2_with fail
        go_roundw
        case rel =>
          refine ⟨k + 1, by simp, by omega, fun j hj h => ?_, hb2.out⟩
          by_cases hjk : j = k
          · subst hjk
            rw [Hx.out]
            exact HB.out
          · exact hno.out j hj (by omega)
        case measure => simp [intOf]; omega
      · rw [hB] at hC
        have HB : Hid (B x = true) := hB
        clear hB
        go_wp2_with fail
        refine (hC.out _).mono ?_
        rintro e w1 ⟨rfl, hb1⟩
        have hb2 : Hid (Below w.heap.size w w1) := hb.out.trans (hb1.mono hb.out.size)
        clear hb1
        go_wp2_with fail
        go_ret
        refine ⟨(k : Int), rfl, ?_, hb2.out⟩
        have : l.any B = true := List.any_eq_true.2 ⟨x, by rw [← Hx.out]; exact List.getElem_mem hlt, HB.out⟩
        rw [this]
        simp
    · have hlt' : ¬ (k : Int) < (l.length : Int) := by omega
      go_wp2_with fail
      go_ret
      refine ⟨-1, rfl, ?_, hb.out⟩
      have : l.any B = false := List.any_eq_false.2 fun x hx => by
        obtain ⟨j, hj, e⟩ := List.getElem_of_mem hx
        rw [← e, hno.out j hj (by omega)]
        simp
      rw [this]
      decide
set_option maxHeartbeats 1000000 in
theorem containsFunc_any (f : Nat) (B : Fd → Bool) (hF : ∀ x W, Calls Tryd.prog f #[.agg (fdv x)] W fun e w' => e = .returned (.bool (B x)) ∧ Below W.heap.size W w') (hen : ∀ args W, (callFunc f args).run Tryd.prog W = .ok (.enter f args) W) (s : SV) (l : List Fd) (w : World) (hI : In EFd w (sv s) l) :
    Calls Tryd.prog 78 #[sv s, .func (.func f) #[] #[]] w fun e w' => e = .returned (.bool (l.any B)) ∧ Below w.heap.size w w' := by
  have hC : Hid (Calls Tryd.prog 93 #[sv s, .func (.func f) #[] #[]] w fun e w' => ∃ n : Int, e = .returned (.int .i64 n) ∧ decide (0 ≤ n) = l.any B ∧ Below w.heap.size w w') := indexFunc_any f B hF hen s l w hI
  clear hI hF
  obtain ⟨sb, sl, sc⟩ := s
  simp only [sv] at hC ⊢
  go_enter Tryd.func78, Tryd.ntmps78
  go_wp2_with fail
  go_at_call 93
  refine hC.out.mono ?_
  rintro e w' ⟨n, rfl, hn, hb⟩
  replace hn : Hid (decide (0 ≤ n) = l.any B) := hn
  go_wp2_with fail
  go_ret
  exact ⟨by rw [← hn.out]; rfl, hb⟩
theorem en74 : ∀ args W, (callFunc 79 args).run Tryd.prog W = .ok (.enter 79 args) W := enters_of Tryd.func79 (by kernel_rfl) rfl
theorem en75 : ∀ args W, (callFunc 80 args).run Tryd.prog W = .ok (.enter 80 args) W := enters_of Tryd.func80 (by kernel_rfl) rfl
end Go.Proofs.YtcadlpmopplkeaaDoor
