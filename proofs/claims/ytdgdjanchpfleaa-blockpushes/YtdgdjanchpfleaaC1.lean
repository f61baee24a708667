/- first. -/
import Derived.Test.YtdgdjanchpfleaaA9
import Derived.Test.YtdgdjanchpfleaaA7
namespace Go.Proofs.Ytdgdjanchpfleaa
open Go.RowKit
set_option linter.unusedVariables false
set_option linter.unusedSimpArgs false

theorem PuR.keep {w : World} {s0 : Value} {w' : World} {b : Nat} {st st0 : Js} {y : SV} {qs : List (Int × Int)} (h : PuR w s0 w' b st y qs) (hj : Jn w b s0 st0) {k : Nat} {c : Array Value} {t : TypeId} (hk : w.heap[k]? = some (.cells c t (0, 0))) (h1 : t ≠ 51) (h2 : t ≠ 5) : w'.heap[k]? = some (.cells c t (0, 0)) := by
  rw [h.ks.block k (heap_lt hk) fun e => ?_]
  · exact hk
  · rcases e with rfl | e
    · obtain ⟨c', hc'⟩ := hj.bty
      rw [hk] at hc'
      injection hc' with hc'
      injection hc' with _ e2
      exact h1 e2
    · obtain ⟨c', hc'⟩ := hj.sty k e
      rw [hk] at hc'
      injection hc' with hc'
      injection hc' with _ e2
      exact h2 e2
theorem PuR.bel {w : World} {s0 : Value} {w' : World} {b : Nat} {st : Js} {y : SV} {qs : List (Int × Int)} (h : PuR w s0 w' b st y qs) (B : Nat) (hB : B ≤ w.heap.size) (hb : B ≤ b) (hs : ∀ k, s0.ownBlock = some k → B ≤ k) : Below B w w' :=
  h.ks.below hB fun i hi e => by
    rcases e with rfl | e
    · omega
    · have := hs i e; omega

def fA : Fr := ⟨1, 0, 1, ⟨#[97, 98]⟩, 0, 0, false, 0, 0, 0⟩
def fB : Fr := ⟨9, 4, 1, ⟨#[99, 100]⟩, 0, 0, false, 0, 0, 0⟩
def fC : Fr := ⟨1, 4, 1, ⟨#[]⟩, 0, 0, false, 0, 0, 0⟩
def fD : Fr := ⟨1, 1, 3, ⟨#[]⟩, 0, 0, false, 0, 0, 0⟩
def fE : Fr := ⟨1, 5, 3, ⟨#[120, 121, 122]⟩, 0, 0, false, 0, 0, 0⟩
def fG : Fr := ⟨9, 4, 1, ⟨#[]⟩, 0, 0, false, 0, 0, 0⟩
def NS : SV := (none, 0, 0)
theorem inNil (w : World) : In EP w (sv NS) [] := .inl ⟨rfl, rfl⟩

/-- the first frame's push -/
theorem first_push1 (w : World) (b : Nat) (hj : Jn w b (.slice none 0 0) .idle) :
    Calls Try.prog 12 #[.pointer (some ⟨b, 0, none⟩), .agg (fv fA (.slice none 0 0))] w fun e w' => PPost w (.slice none 0 0) b (.busy fC [] [97, 98]) false Fr.zero [] ⟨#[]⟩ e w' :=
  (push_igo w b fA NS [] hj (inNil w) (by decide) (by decide) (by decide) (by decide) true (by decide)).mono fun e w' h => by
    have h' : PPost w (.slice none 0 0) b (.busy (headOf fA) [] ([] ++ fA.data.data.toList)) false Fr.zero [] ⟨#[]⟩ e w' := h
    have e1 : headOf fA = fC := by unfold headOf fA fC; congr 1
    rw [e1] at h'
    exact h'
theorem first_push2 (w : World) (b : Nat) (s : Value) (hj : Jn w b s (.busy fC [] [97, 98])) :
    Calls Try.prog 12 #[.pointer (some ⟨b, 0, none⟩), .agg (fv fB (.slice none 0 0))] w fun e w' => PPost w s b .idle true fC [] ⟨#[97, 98, 99, 100]⟩ e w' :=
  (push_bgo w b s fC [] [97, 98] fB NS [] hj (inNil w) (by decide) (by decide) (by decide) false (by decide)).mono fun e w' h => h
theorem first_push3 (w : World) (b : Nat) (hj : Jn w b (.slice none 0 0) .idle) :
    Calls Try.prog 12 #[.pointer (some ⟨b, 0, none⟩), .agg (fv fG (.slice none 0 0))] w fun e w' => PPost w (.slice none 0 0) b (.broken 1) false Fr.zero [] ⟨#[]⟩ e w' :=
  push_idle9 w b fG NS [] hj (inNil w) (by decide) (by decide)
theorem first_split (w : World) :
    Calls Try.prog 15 #[.agg (fv fD (.slice none 0 0)), .string ⟨#[120, 121, 122]⟩, .int .i64 16384] w fun e w' => ∃ (v : Value) (y : SV), e = .returned (.tuple #[v, .int .i64 0]) ∧ R EF w' v [(fE, y)] ∧ R EP w' (sv y) [] ∧ Below w.heap.size w w' := by
  have := split_ok fD NS [] ⟨#[120, 121, 122]⟩ 16384 w (inNil w) (by decide) (show MS fD from ⟨.inl rfl, rfl, by decide, by decide, by decide +kernel⟩) (by decide) (by decide) (by decide) 0 3 (by decide) (by decide) (by decide)
  refine this.mono ?_
  rintro e w' ⟨v, y, k, rfl, hn, hS⟩
  obtain rfl : k = 0 := by
    rcases hn.1 with h | h
    · exact h
    · have : ByteArray.size ⟨#[120, 121, 122]⟩ = 3 := rfl
      omega
  refine ⟨v, y, rfl, ?_, hS.rp, hS.bel⟩
  have hr := hS.rf
  have e1 : splL fD y ⟨#[120, 121, 122]⟩ 3 16384 0 = [(fE, y)] := by
    simp only [splL, cutL, List.range_zero, List.map_nil, List.set_cons_zero, List.getD_cons_zero, endF, f0F]
    have e2 : ByteArray.extract ⟨#[120, 121, 122]⟩ 0 3 = ⟨#[120, 121, 122]⟩ := by decide +kernel
    have e3 : bits .or .i64 (bits .andNot .i64 1 4) 4 = 5 := by decide
    simp only [fD, fE, e2, e3]
  rw [e1] at hr
  exact hr
end Go.Proofs.Ytdgdjanchpfleaa
