/- The statement 'range t.entries' in Find: what its rounds owe, and what stands behind them. -/
import Derived.RangeFuncNested
import Derived.RangeFuncBound
import Derived.RangeFuncCalls
import Derived.RangeFuncLeaves
import Derived.Shelf.Abstract
import Derived.Test.YtlfbnhdcgldopaaA4
namespace Go.Proofs.Ytlfbnhdcgldopaa
open Go.RowKit Go.Shelf

/-- An index and its entry. -/
abbrev Item := { p : Nat × E // 1 ≤ p.1 ∧ p.1 ≤ 10000 }

def encI (x : Item) : Array Value := #[.int .i64 (x.1.1 : Int), .agg #[.string x.1.2.1, .string x.1.2.2]]

/-- A round's body has left the loop's two blocks alone, and all that lay below B. -/
def Calm (B L : Nat) (W W' : World) : Prop := Below B W W' ∧ W'.heap[L]? = W.heap[L]? ∧ W'.heap[L + 1]? = W.heap[L + 1]?

/-- How a round of Find may end. -/
def RoundEnds (B L : Nat) (I X : World → Prop) (W : World) : Exit → Act → World → Prop
  | .normal, _, W' => Calm B L W W' ∧ I W'
  | .ret, _, W' => Calm B L W W' ∧ X W'
  | _, _, _ => False

/-- What abides whatever is done to the loop's two blocks, and new blocks. -/
def Abiding (L : Nat) (I : World → Prop) : Prop := ∀ W W', I W → Kept (fun k => k = L ∨ k = L + 1) W W' → I W'

theorem kept_put (W : World) (L k : Nat) (o : Obj) (hk : k = L ∨ k = L + 1) : Kept (fun k => k = L ∨ k = L + 1) W (W.putObj k o) :=
  ⟨rfl, rfl, rfl, by simp, fun j _ hj => World.putObj_heap_other fun e => hj (by rw [e]; exact hk)⟩

/-- The iterator, for whatever body: J holds between two rounds, Jx where one has said 'no more'. -/
def Gives (n b N : Nat) (all : List Item) (B : Nat) (w : World) : Prop :=
  ∀ (W : World), Below B w W → ∀ (l : Nat) (J Jx : List Item → World → Prop),
    (∀ pre A A', J pre A → Below A.heap.size A A' → J pre A') →
    (∀ pre x W1, J pre W1 → pre.length < N → YieldAt Fence.wide (n - 1) Try.prog l (encI x) W1 fun e W' =>
      (e = .returned (.bool true) ∧ J (pre ++ [x]) W' ∧ Below B W1 W') ∨ (e = .returned (.bool false) ∧ Jx (pre ++ [x]) W')) → J [] W →
    CallsIn Fence.wide n Try.prog 31 #[.pointer (some ⟨b, 0, none⟩), .func (.yield l) #[] #[]] W fun e W' => (∃ v, e = .returned v) ∧ (J all W' ∨ ∃ k, k ≤ N ∧ Jx (all.take k) W')

theorem range_entries {a : Act} {W0 : World} {g : Operand} {assign body : Code} {Q : Exit → Act → World → Prop} {b N B : Nat} {all : List Item}
    (hg : a.eval g = .func (.func 31) #[.pointer (some ⟨b, 0, none⟩)] #[]) {w : World} (hB : B ≤ W0.heap.size) (hw : Below B w W0) (hgives : Gives 2 b N all B w)
    (I X : List Item → World → Prop) (A : Item → Act → World → Prop) (hI : ∀ pre, Abiding W0.heap.size (I pre)) (hX : ∀ pre, Abiding W0.heap.size (X pre)) (hA : ∀ x a', Abiding W0.heap.size (A x a')) (h0 : I [] W0)
    (hassign : ∀ (l : Nat) (pre : List Item) (x : Item) (W : World) (K : Act → World → Prop), I pre W → W0.heap.size + 1 < W.heap.size → (∀ a₁ W₁, Below W.heap.size W W₁ → A x a₁ W₁ → K a₁ W₁) →
      assign.wpIn (Fence.wide.inRound l) 1 Try.prog (Exit.then K (fun _ _ _ => False)) { tmps := (#[13, 14].zip (encI x)).foldl (fun t (p, v) => t.setIfInBounds p v) a.tmps, defers := [] } W)
    (hbody : ∀ (l : Nat) (pre : List Item) (x : Item) (a₁ : Act) (W : World), I pre W → A x a₁ W → body.wpIn (Fence.wide.inRound l) 1 Try.prog (RoundEnds B W0.heap.size (I (pre ++ [x])) (X (pre ++ [x])) W) a₁ W)
    (hdone : ∀ W, I all W → W.heap[W0.heap.size]? = some (.deferred (some [])) → Q .normal { a with defers := { target := .collected W0.heap.size, args := #[] } :: a.defers } W)
    (hstop : ∀ k W, k ≤ N → X (all.take k) W → W.heap[W0.heap.size]? = some (.deferred (some [])) → Code.ret.wpIn Fence.wide 3 Try.prog Q { a with defers := { target := .collected W0.heap.size, args := #[] } :: a.defers } W) :
    (Code.rangeFunc g #[13, 14] assign body).wpIn Fence.wide 3 Try.prog Q a W0 := by
  refine wpIn_rangeFunc fun fn hfn => ?_
  obtain ⟨L, hL⟩ : ∃ L, L = W0.heap.size := ⟨_, rfl⟩
  obtain ⟨R, hR⟩ : ∃ R : LoopState → Option Code → Loop, R = fun st pe => { state := st, pending := pe, fn, tmps := a.tmps, params := #[13, 14], assign, body, defers := L } := ⟨_, rfl⟩
  -- the record stands in block L + 1, the rounds' deferred calls in block L
  have hput : ∀ (W : World) (o : Obj), L + 1 < W.heap.size → (W.putObj (L + 1) o).heap[L + 1]? = some o ∧ (W.putObj (L + 1) o).heap[L]? = W.heap[L]? := fun W o h => ⟨World.putObj_heap_same h, World.putObj_heap_other (by omega)⟩
  obtain ⟨W1, hW1⟩ : ∃ W1, W1 = (W0.alloc (.deferred (some []))).alloc (.loop (R .ready none)) := ⟨_, rfl⟩
  have hrec : W1.heap[L + 1]? = some (.loop (R .ready none)) := by
    have := heap_alloc_new (W0.alloc (.deferred (some []))) (.loop (R .ready none))
    rw [hW1, hL]
    simpa using this
  have hdef : W1.heap[L]? = some (.deferred (some [])) := by
    rw [hW1, hL]
    exact (heap_alloc_old _ _ _ (by simp)).trans (heap_alloc_new W0 _)
  have hnew : Below W0.heap.size W0 W1 := by rw [hW1]; exact ((Below.refl _ W0).alloc (Nat.le_refl _) _).alloc (by simp) _
  refine ⟨L + 1, [{ target := .collected L, args := #[] }], W1, { target := .fn (.func 31) #[], args := #[.pointer (some ⟨b, 0, none⟩), .func (.yield (L + 1)) #[] #[]] }, W1, 31,
    #[.pointer (some ⟨b, 0, none⟩), .func (.yield (L + 1)) #[] #[]], W1, ?_, ?_, fun _ _ => trivial, ?_, fun _ => by omega, ?_⟩
  · rw [hW1, hR, hL]
    exact run_enterLoop_outer _ _ _ _ _
  · simp only [resolve, hg]
    simp [go_sem]
  · simp [invoke, go_sem]
  have hround : ∀ (pre : List Item) (x : Item) (W : World), I pre W → W.heap[L + 1]? = some (.loop (R .ready none)) → W.heap[L]? = some (.deferred (some [])) →
      YieldAt Fence.wide 1 Try.prog (L + 1) (encI x) W fun e W' =>
        (e = .returned (.bool true) ∧ (I (pre ++ [x]) W' ∧ W'.heap[L + 1]? = some (.loop (R .ready none)) ∧ W'.heap[L]? = some (.deferred (some []))) ∧ Below B W W') ∨
        (e = .returned (.bool false) ∧ X (pre ++ [x]) W' ∧ W'.heap[L + 1]? = some (.loop (R .done (some .ret))) ∧ W'.heap[L]? = some (.deferred (some []))) := by
    intro pre x W hi hr hd
    have hy := run_yield (P := Try.prog) (args := encI x) hr (by rw [hR]; rfl)
    rw [hR] at hy
    refine ⟨fn, _, assign, body, hy, roundIn_of_wpIn hfn (hassign _ pre x W _ hi (by rw [← hL]; exact (Array.getElem?_eq_some_iff.1 hr).1) fun a₁ Wa hba ha => ?_)⟩
    -- the assignment has laid blocks at the most
    have hra : Wa.heap[L + 1]? = some (.loop (R .ready none)) := (hba.block _ (Array.getElem?_eq_some_iff.1 hr).1).trans hr
    have hda : Wa.heap[L]? = some (.deferred (some [])) := (hba.block _ (Array.getElem?_eq_some_iff.1 hd).1).trans hd
    have hlt : L + 1 < Wa.heap.size := (Array.getElem?_eq_some_iff.1 hra).1
    have hia : I pre Wa := hI pre W Wa hi (Kept.of_below hba)
    refine ⟨_, run_beginRound hra (by rw [hR]), ?_⟩
    obtain ⟨Wb, hWb⟩ : ∃ Wb, Wb = Wa.putObj (L + 1) (.loop { R .ready none with state := .busy }) := ⟨_, rfl⟩
    rw [← hWb]
    have hkb : Kept (fun k => k = W0.heap.size ∨ k = W0.heap.size + 1) Wa Wb := by rw [hWb, ← hL]; exact kept_put _ _ _ _ (.inr rfl)
    obtain ⟨hrb, hdb⟩ := hput Wa (.loop { R .ready none with state := .busy }) hlt
    rw [← hWb] at hrb hdb
    refine wpIn_mono (hbody _ pre x a₁ Wb (hI pre Wa Wb hia hkb) (hA x a₁ Wa Wb ha hkb)) ?_
    have hfin : ∀ (jump : Option Code) (W3 : World), Calm B W0.heap.size Wb W3 → (Instr.endRound (L + 1) jump).run Try.prog W3 = .ok (.bool jump.isNone) (W3.putObj (L + 1) (.loop (R (if jump.isNone then .ready else .done) jump))) ∧
        Kept (fun k => k = W0.heap.size ∨ k = W0.heap.size + 1) W3 (W3.putObj (L + 1) (.loop (R (if jump.isNone then .ready else .done) jump))) ∧
        (W3.putObj (L + 1) (.loop (R (if jump.isNone then .ready else .done) jump))).heap[L + 1]? = some (.loop (R (if jump.isNone then .ready else .done) jump)) ∧
        (W3.putObj (L + 1) (.loop (R (if jump.isNone then .ready else .done) jump))).heap[L]? = some (.deferred (some [])) := by
      intro jump W3 hc
      obtain ⟨_, h1, h2⟩ := hc
      rw [← hL] at h1 h2 ⊢
      have h3 := h2.trans hrb
      have hend := run_endRound (P := Try.prog) jump h3
      have hp := hput W3 (.loop (R (if jump.isNone then .ready else .done) jump)) (Array.getElem?_eq_some_iff.1 h3).1
      refine ⟨?_, kept_put _ _ _ _ (.inr rfl), hp.1, hp.2.trans (h1.trans (hdb.trans hda))⟩
      rw [hR] at hend ⊢
      exact hend
    rintro e a3 W3 hp
    cases e with
    | normal =>
      obtain ⟨e1, e2, e3, e4⟩ := hfin none W3 hp.1
      refine ⟨_, _, e1, .inl ⟨rfl, ⟨hI _ W3 _ hp.2 e2, e3, e4⟩, ?_⟩⟩
      have hlow : ∀ k, k < B → ¬ (k = W0.heap.size ∨ k = W0.heap.size + 1) := fun k hk h => by omega
      have s1 : Below B W Wa := hba.mono (by have := (Array.getElem?_eq_some_iff.1 hr).1; omega)
      exact ((s1.trans (hkb.below (by omega) hlow)).trans hp.1.1).trans (e2.below (Nat.le_trans (by have := hkb.size; omega) hp.1.1.size) hlow)
    | ret =>
      obtain ⟨e1, e2, e3, e4⟩ := hfin (some .ret) W3 hp.1
      exact ⟨_, _, e1, .inr ⟨rfl, hX _ W3 _ hp.2 e2, e3, e4⟩⟩
    | exit id => exact hp.elim
    | goto t => exact hp.elim
    | panic ch => exact hp.elim
    | outgrown => exact hp.elim
  have hi1 : I [] W1 := hI [] W0 W1 h0 (Kept.of_below hnew)
  refine (hgives W1 (hw.trans (hnew.mono hB)) (L + 1) (fun pre W => I pre W ∧ W.heap[L + 1]? = some (.loop (R .ready none)) ∧ W.heap[L]? = some (.deferred (some []))) (fun pre W => X pre W ∧ W.heap[L + 1]? = some (.loop (R .done (some .ret))) ∧ W.heap[L]? = some (.deferred (some [])))
    (fun pre P P' h hb => ⟨hI pre P P' h.1 (Kept.of_below hb), (hb.block _ (Array.getElem?_eq_some_iff.1 h.2.1).1).trans h.2.1, (hb.block _ (Array.getElem?_eq_some_iff.1 h.2.2).1).trans h.2.2⟩)
    (fun pre x W h _ => hround pre x W h.1 h.2.1 h.2.2) ⟨hi1, hrec, hdef⟩).mono ?_
  rintro e W2 ⟨⟨rv, rfl⟩, ⟨hi, hr, hd⟩ | ⟨k, hk, hx, hr, hd⟩⟩
  · refine ⟨none, _, by have := run_endLoop (P := Try.prog) hr (by rw [hR]; simp); rw [hR] at this; exact this, ?_⟩
    rw [hL] at hd ⊢
    exact hdone _ (hI _ W2 _ hi (kept_put _ _ _ _ (.inr rfl))) ((World.putObj_heap_other (by omega)).trans hd)
  · refine ⟨some .ret, _, by have := run_endLoop (P := Try.prog) hr (by rw [hR]; simp); rw [hR] at this; exact this, ?_⟩
    rw [hL] at hd ⊢
    exact hstop k _ hk (hX _ W2 _ hx (kept_put _ _ _ _ (.inr rfl))) ((World.putObj_heap_other (by omega)).trans hd)

end Go.Proofs.Ytlfbnhdcgldopaa
