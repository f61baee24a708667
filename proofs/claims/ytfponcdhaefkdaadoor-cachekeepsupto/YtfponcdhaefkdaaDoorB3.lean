/- A range over the pieces of a text; a function that leaves with several marks. -/
import Derived.Test.YtfponcdhaefkdaaDoorB2
namespace Go.Proofs.YtfponcdhaefkdaaDoor
open Go.RowKit Go.Shelf
set_option linter.unusedVariables false
set_option linter.unusedSimpArgs false

/-- marks of loops that are over, the newest first -/
def Dl : List Deferred → World → Prop
  | [], _ => True
  | d :: r, W => (∃ D, d = { target := .collected D, args := #[] } ∧ W.heap[D]? = some (.deferred (some [])) ∧ ∀ d' ∈ r, ∀ D', d'.target = .collected D' → D' < D) ∧ Dl r W
theorem Dl.keep : ∀ {ds : List Deferred} {W W' : World}, Dl ds W → (∀ k : Nat, W.heap[k]? = some (.deferred (some [])) → W'.heap[k]? = W.heap[k]?) → Dl ds W'
  | [], _, _, _, _ => trivial
  | _ :: _, _, _, ⟨⟨D, h1, h2, h3⟩, h4⟩, hk => ⟨⟨D, h1, (hk D h2).trans h2, h3⟩, h4.keep hk⟩
theorem Dl.lt : ∀ {ds : List Deferred} {W : World}, Dl ds W → ∀ d ∈ ds, ∀ D, d.target = .collected D → D < W.heap.size ∧ W.heap[D]? = some (.deferred (some []))
  | _ :: _, W, ⟨⟨D, h1, h2, h3⟩, h4⟩, d, hd, D', hD => by
    rcases List.mem_cons.1 hd with rfl | hd
    · subst h1
      simp only [Target.collected.injEq] at hD
      subst hD
      exact ⟨heap_lt h2, h2⟩
    · exact h4.lt d hd D' hD
theorem leaves_marks {fn : Func} {tmps : Array Value} {R : Ending → World → Prop} {n : Nat} : ∀ (ds : List Deferred) (W : World), Dl ds W →
    (∀ W', Ks (fun k => ∃ d ∈ ds, d.target = .collected k) W W' → ∃ v, (results fn tmps).run Tryd.prog W' = .ok v W' ∧ R (.returned v) W') → LeavesInM Fence.wide n Tryd.prog fn tmps R ds .returning W
  | [], W, _, h => h W (Ks.refl _ _)
  | d :: ds, W, ⟨⟨D, hd, hD, hlt⟩, hr⟩, h => by
    refine ⟨by simp, .inl ⟨D, _, by rw [hd], run_takeDeferred hD, ?_⟩⟩
    have hput : ∀ k : Nat, k ≠ D → (W.putObj D (.deferred none)).heap[k]? = W.heap[k]? := fun k hk => World.putObj_heap_other hk
    refine leaves_marks ds _ ?_ fun W' hW' => h W' ?_
    · have : ∀ (ds : List Deferred), (∀ d' ∈ ds, ∀ D', d'.target = .collected D' → D' < D) → Dl ds W → Dl ds (W.putObj D (.deferred none)) := by
        intro ds
        induction ds with
        | nil => intros; trivial
        | cons d' r ih =>
          rintro hl ⟨⟨D', g1, g2, g3⟩, g4⟩
          have hlt' := hl d' (by simp) D' (by rw [g1])
          exact ⟨⟨D', g1, (hput D' (by omega)).trans g2, g3⟩, ih (fun x hx => hl x (by simp [hx])) g4⟩
      exact this ds hlt hr
    · have hk1 : Ks (fun k => ∃ d' ∈ d :: ds, d'.target = .collected k) W (W.putObj D (.deferred none)) := ⟨rfl, rfl, rfl, by simp, fun k _ hk => hput k (fun e => hk ⟨d, by simp, by rw [hd, e]⟩)⟩
      exact hk1.trans hW' (fun _ _ h => h) fun k hk ⟨d', h1, h2⟩ => ⟨d', by simp [h1], h2⟩

/-- How a round may end: it goes on, and has left the loop's blocks and the iterator's boxes alone. -/
def RoundGoes (bs bp bz L : Nat) (I : World → Prop) (W : World) : Exit → Act → World → Prop
  | .normal, _, W' => (Cm bs bp bz W W' ∧ W'.heap[L]? = W.heap[L]? ∧ W'.heap[L + 1]? = W.heap[L + 1]?) ∧ I W'
  | _, _, _ => False

theorem range_split {a : Act} {W0 : World} {g : Operand} {assign body : Code} {Q : Exit → Act → World → Prop} {bs bp bz : Nat} {s : ByteArray}
    (hg : a.eval g = .func (.func 75) #[] #[.pointer (some ⟨bp, 0, none⟩), .pointer (some ⟨bs, 0, none⟩), .pointer (some ⟨bz, 0, none⟩)])
    (hB : Bx bs bp bz s W0) (h1 : bp ≠ bs) (h2 : bz ≠ bs) (hsz : s.size ≤ 140737488355328)
    (I : List ByteArray → World → Prop) (A : ByteArray → Act → Prop)
    (hI : ∀ pre W W', I pre W → Ks (fun k => k = bs ∨ k = W0.heap.size ∨ k = W0.heap.size + 1) W W' → I pre W') (h0 : I [] W0)
    (hassign : ∀ (l : Nat) (x : ByteArray) (W : World) (K : Act → World → Prop), (∀ a₁, A x a₁ → K a₁ W) →
      assign.wpIn (Fence.wide.inRound l) 1 Tryd.prog (Exit.then K (fun _ _ _ => False)) { tmps := (#[21].zip #[.string x]).foldl (fun t (p, v) => t.setIfInBounds p v) a.tmps, defers := [] } W)
    (hbody : ∀ (l : Nat) (pre : List ByteArray) (x : ByteArray) (r : List ByteArray) (a₁ : Act) (W : World), pre ++ x :: r = cutS s → I pre W → A x a₁ → W0.heap.size + 1 < W.heap.size → body.wpIn (Fence.wide.inRound l) 1 Tryd.prog (RoundGoes bs bp bz W0.heap.size (I (pre ++ [x])) W) a₁ W)
    (hdone : ∀ W, I (cutS s) W → W.heap[W0.heap.size]? = some (.deferred (some [])) → Q .normal { a with defers := { target := .collected W0.heap.size, args := #[] } :: a.defers } W) :
    (Code.rangeFunc g #[21] assign body).wpIn Fence.wide 3 Tryd.prog Q a W0 := by
  refine wpIn_rangeFunc fun fn hfn => ?_
  obtain ⟨L, hL⟩ : ∃ L, L = W0.heap.size := ⟨_, rfl⟩
  have hsl := heap_lt hB.s
  have hpl := heap_lt hB.p
  have hzl := heap_lt hB.z
  obtain ⟨R, hR⟩ : ∃ R : LoopState → Option Code → Loop, R = fun st pe => { state := st, pending := pe, fn, tmps := a.tmps, params := #[21], assign, body, defers := L } := ⟨_, rfl⟩
  have hput : ∀ (W : World) (o : Obj), L + 1 < W.heap.size → (W.putObj (L + 1) o).heap[L + 1]? = some o ∧ ∀ k, k ≠ L + 1 → (W.putObj (L + 1) o).heap[k]? = W.heap[k]? := fun W o h => ⟨World.putObj_heap_same h, fun k hk => World.putObj_heap_other hk⟩
  obtain ⟨W1, hW1⟩ : ∃ W1, W1 = (W0.alloc (.deferred (some []))).alloc (.loop (R .ready none)) := ⟨_, rfl⟩
  have hrec : W1.heap[L + 1]? = some (.loop (R .ready none)) := by
    rw [hW1, hL]
    exact fresh2 _ _ _
  have hdef : W1.heap[L]? = some (.deferred (some [])) := by
    rw [hW1, hL, heap_al, if_neg (by simp), heap_al, if_pos rfl]
  have hnew : Below W0.heap.size W0 W1 := by rw [hW1]; exact bel2 _ _ _
  have hB1 : Bx bs bp bz s W1 := ⟨(hnew.block _ hsl).trans hB.s, (hnew.block _ hpl).trans hB.p, (hnew.block _ hzl).trans hB.z⟩
  refine ⟨L + 1, [{ target := .collected L, args := #[] }], W1, { target := .fn (.func 75) #[.pointer (some ⟨bp, 0, none⟩), .pointer (some ⟨bs, 0, none⟩), .pointer (some ⟨bz, 0, none⟩)], args := #[.func (.yield (L + 1)) #[] #[]] }, W1, 75,
    #[.func (.yield (L + 1)) #[] #[], .pointer (some ⟨bp, 0, none⟩), .pointer (some ⟨bs, 0, none⟩), .pointer (some ⟨bz, 0, none⟩)], W1, ?_, ?_, fun _ _ => trivial, ?_, fun _ => by omega, ?_⟩
  · rw [hW1, hR, hL]
    exact run_enterLoop_outer _ _ _ _ _
  · simp only [resolve, hg]
    simp [go_sem]
  · simp [invoke, go_sem, enters_of Tryd.func75 (by kernel_rfl) rfl]
  have hround : ∀ (pre : List ByteArray) (x : ByteArray) (r : List ByteArray) (W : World), pre ++ x :: r = cutS s → I pre W → W.heap[L + 1]? = some (.loop (R .ready none)) → W.heap[L]? = some (.deferred (some [])) →
      YieldAt Fence.wide 1 Tryd.prog (L + 1) #[.string x] W fun e W' =>
        e = .returned (.bool true) ∧ (I (pre ++ [x]) W' ∧ W'.heap[L + 1]? = some (.loop (R .ready none)) ∧ W'.heap[L]? = some (.deferred (some []))) ∧ Cm bs bp bz W W' := by
    intro pre x r W hpx hi hr hd
    have hy := run_yield (P := Tryd.prog) (args := #[.string x]) hr (by rw [hR]; rfl)
    rw [hR] at hy
    have hlt : L + 1 < W.heap.size := heap_lt hr
    refine ⟨fn, _, assign, body, hy, roundIn_of_wpIn hfn (hassign _ x W _ fun a₁ ha => ?_)⟩
    refine ⟨_, run_beginRound hr (by rw [hR]), ?_⟩
    obtain ⟨Wb, hWb⟩ : ∃ Wb, Wb = W.putObj (L + 1) (.loop { R .ready none with state := .busy }) := ⟨_, rfl⟩
    rw [← hWb]
    obtain ⟨hrb, hob⟩ := hput W (.loop { R .ready none with state := .busy }) hlt
    rw [← hWb] at hrb hob
    have hkb : Ks (fun k => k = bs ∨ k = W0.heap.size ∨ k = W0.heap.size + 1) W Wb := ⟨by rw [hWb]; rfl, by rw [hWb]; rfl, by rw [hWb]; rfl, by rw [hWb]; simp, fun k _ hk => hob k (fun e => hk (.inr (.inr (by rw [e, hL]))))⟩
    have hszb : W0.heap.size + 1 < Wb.heap.size := by rw [hWb]; simp; omega
    refine wpIn_mono (hbody _ pre x r a₁ Wb hpx (hI pre W Wb hi hkb) ha hszb) ?_
    rintro e a3 W3 hp
    cases e with
    | normal =>
      obtain ⟨⟨hc, hl0, hl1⟩, hi3⟩ := hp
      rw [← hL] at hl0 hl1
      have h3 := hl1.trans hrb
      have e1 : (Instr.endRound (L + 1) none).run Tryd.prog W3 = .ok (.bool true) (W3.putObj (L + 1) (.loop (R .ready none))) := by
        have hend := run_endRound (P := Tryd.prog) none h3
        rw [hR] at hend ⊢
        exact hend
      obtain ⟨hp1, hp2⟩ := hput W3 (.loop (R .ready none)) (heap_lt h3)
      obtain ⟨W4, hW4⟩ : ∃ x, W3.putObj (L + 1) (.loop (R .ready none)) = x := ⟨_, rfl⟩
      have hk4 : Ks (fun k => k = bs ∨ k = W0.heap.size ∨ k = W0.heap.size + 1) W3 W4 := by
        rw [← hW4]
        exact ⟨rfl, rfl, rfl, by simp, fun k _ hk => hp2 k (fun e => hk (.inr (.inr (by rw [e, hL]))))⟩
      rw [hW4] at e1 hp1 hp2
      refine ⟨_, _, e1, rfl, ⟨hI _ W3 _ hi3 hk4, hp1, (hp2 L (by omega)).trans (hl0.trans ((hob L (by omega)).trans hd))⟩, ?_⟩
      obtain ⟨c1, c2, c3, c4⟩ := hc
      have nb : bs ≠ L + 1 := by omega
      have np : bp ≠ L + 1 := by omega
      have nz : bz ≠ L + 1 := by omega
      refine ⟨?_, (hp2 bs nb).trans (c2.trans (hob bs nb)), (hp2 bp np).trans (c3.trans (hob bp np)), (hp2 bz nz).trans (c4.trans (hob bz nz))⟩
      have : W.heap.size = Wb.heap.size := by rw [hWb]; simp
      have := hk4.size
      omega
    | ret => exact hp.elim
    | exit id => exact hp.elim
    | goto t => exact hp.elim
    | panic ch => exact hp.elim
    | outgrown => exact hp.elim
  have hi1 : I [] W1 := hI [] W0 W1 h0 (Ks.of_below hnew)
  refine (split_in 2 (by omega) (L + 1) bs bp bz s (fun pre W => I pre W ∧ W.heap[L + 1]? = some (.loop (R .ready none)) ∧ W.heap[L]? = some (.deferred (some []))) W1 hB1 h1 h2 hsz
    (fun pre P P' h hb => ⟨hI pre P P' h.1 (hb.mono fun _ _ e => .inl e), (hb.block _ (heap_lt h.2.1) (by omega)).trans h.2.1, (hb.block _ (heap_lt h.2.2) (by omega)).trans h.2.2⟩)
    (fun pre x r W hpx h => hround pre x r W hpx h.1 h.2.1 h.2.2) ⟨hi1, hrec, hdef⟩).mono ?_
  rintro e W2 ⟨⟨rv, rfl⟩, hi, hr, hd⟩
  refine ⟨none, _, by have := run_endLoop (P := Tryd.prog) hr (by rw [hR]; simp); rw [hR] at this; exact this, ?_⟩
  rw [hL] at hd ⊢
  exact hdone _ (hI _ W2 _ hi ⟨rfl, rfl, rfl, by simp, fun k _ hk => World.putObj_heap_other fun e => hk (.inr (.inr e))⟩) ((World.putObj_heap_other (by omega)).trans hd)
end Go.Proofs.YtfponcdhaefkdaaDoor
