/- The document's window in memory; its New, Left, within. -/
import Derived.Test.YtoanmjnjpkbmiaaC1
namespace Go.Proofs.Ytoanmjnjpkbmiaa
open Go.RowKit
set_option linter.unusedVariables false
set_option linter.unusedSimpArgs false

def EI : El Int := ⟨43, 2, 1, 8, fun x => [.int .i64 x]⟩
theorem okI : EI.Ok := ⟨Try.underlying43, by kernel_rfl, by decide, by decide, fun _ => rfl, fun a u hu => by
  simp only [EI, List.mem_cons, List.not_mem_nil, or_false] at hu
  subst hu
  rfl⟩
theorem In.num {w : World} {v : Value} {l : List Int} (h : In EI w v l) (k : Nat) (hk : k < l.length) : ∃ B off cap, v = .slice (some ⟨B, off, none⟩) l.length cap ∧ B < w.heap.size ∧ w.cell? ⟨B, off + k, none⟩ = some (.int .i64 l[k]) := by
  obtain ⟨B, off, cap, h1, h2, h3⟩ := h.get okI k hk
  refine ⟨B, off, cap, h1, h2, ?_⟩
  have := h3 0 _ rfl
  simpa [EI] using this

/-- the sum of the first k -/
def pre (f : Int) (ms : List Int) (k : Nat) : Int := (ms.take k).foldl (· + ·) f
theorem pre_zero (f : Int) (ms : List Int) : pre f ms 0 = f := rfl
theorem pre_succ (f : Int) (ms : List Int) (k : Nat) (hk : k < ms.length) : pre f ms (k + 1) = pre f ms k + ms[k] := by
  unfold pre
  rw [List.take_succ_eq_append_getElem hk, List.foldl_append]
  rfl
theorem pre_left (f : Int) (ms : List Int) (d : Int) (k : Nat) (hk : k ≤ ms.length) : pre f (ms ++ [d]) k = pre f ms k := by
  unfold pre
  rw [List.take_append_of_le_length hk]
theorem pre_all (f : Int) (ms : List Int) (d : Int) : pre f (ms ++ [d]) (ms.length + 1) = pre f ms ms.length + d := by
  rw [pre_succ _ _ _ (by simp), pre_left _ _ _ _ (Nat.le_refl _)]
  simp

/-- Block r is the document's window: what it began with, the moves since, what is left. -/
structure Rw (w : World) (r : Nat) (f : Int) (v : Value) (ms : List Int) (n : Int) : Prop where
  blk : w.heap[r]? = some (.cells #[.int .i64 f, v] 45 (0, 0))
  row : R EI w v ms
  sum : pre f ms ms.length = n
  inb : ∀ k, k ≤ ms.length → InB (pre f ms k)
section
variable {w w' : World} {r : Nat} {f : Int} {v : Value} {ms : List Int} {n : Int}
theorem Rw.lt (h : Rw w r f v ms n) : r < w.heap.size := heap_lt h.blk
theorem Rw.below (h : Rw w r f v ms n) (hb : Below w.heap.size w w') : Rw w' r f v ms n :=
  ⟨(hb.block _ h.lt).trans h.blk, h.row.below hb, h.sum, h.inb⟩
def OwnR (r : Nat) (v : Value) (k : Nat) : Prop := k = r ∨ v.ownBlock = some k
theorem Rw.keep {A : Nat → Prop} (h : Rw w r f v ms n) (hk : Ks A w w') (ho : ∀ k, OwnR r v k → ¬ A k) : Rw w' r f v ms n :=
  ⟨(hk.block r h.lt (ho r (.inl rfl))).trans h.blk, h.row.stays fun k e hl => hk.block k hl (ho k (.inr e)), h.sum, h.inb⟩
theorem Rw.in' (h : Rw w r f v ms n) : InB n := by
  have := h.inb ms.length (Nat.le_refl _)
  rw [h.sum] at this
  exact this
end

set_option maxRecDepth 100000 in
set_option maxHeartbeats 1000000 in
theorem rnew_any (n : Int) (w : World) :
    Calls Try.prog 16 #[.int .i64 n] w fun e w' => ∃ r, e = .returned (.pointer (some ⟨r, 0, none⟩)) ∧ Rw w' r (cl n) (.slice none 0 0) [] (cl n) ∧ w.heap.size ≤ r ∧ Below w.heap.size w w' := by
  have fin : ∀ x, x = cl n → Rw (w.alloc (.cells #[.int .i64 x, .slice none 0 0] 45)) w.heap.size (cl n) (.slice none 0 0) [] (cl n) := by
    rintro x rfl
    exact ⟨heap_alloc_new _ _, R.nil _ _, rfl, fun k hk => by
      rw [show k = 0 by simpa using hk]
      exact cl_in n⟩
  go_enter Try.func16, Try.ntmps16
  go_wp2
  all_goals
    go_ret
    refine ⟨_, rfl, fin _ ?_, Nat.le_refl _, bel1 _ _⟩
    unfold cl
    omega

set_option maxRecDepth 100000 in
set_option maxHeartbeats 2000000 in
theorem rleft_any (w : World) (r : Nat) (f : Int) (v : Value) (ms : List Int) (n : Int) (h : Rw w r f v ms n) :
    Calls Try.prog 18 #[.pointer (some ⟨r, 0, none⟩)] w fun e w' => e = .returned (.int .i64 n) ∧ w' = w := by
  have c0 : w.cell? ⟨r, 0, none⟩ = some (.int .i64 f) := cell_blk h.blk 0
  have c1 : w.cell? ⟨r, 1, none⟩ = some v := cell_blk h.blk 1
  have HR : Hid (In EI w v ms) := h.row.isIn
  have HI : Hid (∀ k, k ≤ ms.length → InB (pre f ms k)) := h.inb
  have hs := h.sum
  obtain ⟨vb, vc, rfl, h1, h2⟩ := h.row.slice
  have hl := h.lt
  clear h
  obtain ⟨m, hm⟩ : ∃ m, ms.length = m := ⟨_, rfl⟩
  rw [hm] at c1 h1 HR hs
  have HN : Hid (ms.length = m) := hm
  clear hm
  go_enter Try.func18, Try.ntmps18
  go_wp2_with fail
  go_loopw [3, 4] (fun nv i wr => ∃ k : Nat, k ≤ m ∧ i = .int .i64 (k : Int) ∧ nv = .int .i64 (pre f ms k) ∧ wr = w) (fun _ i _ => m - (intOf i).toNat)
  case atStart => exact ⟨0, Nat.zero_le _, rfl, rfl, rfl⟩
  case round =>
    obtain ⟨k, hk, rfl, rfl, rfl⟩ := hrel
    by_cases hlt : k < m
    · have hlen := HN.out
      obtain ⟨B, off, cap, hvb, hBl, d0⟩ := HR.out.num k (by omega)
      injection hvb with e1 e2 e3
      subst e1
      clear e2 e3
      have hp := pre_succ f ms k (by omega)
      have hq := HI.out (k + 1) (by omega)
      have hq0 := HI.out k (by omega)
      obtain ⟨x, hx⟩ : ∃ x, ms[k]'(by omega) = x := ⟨_, rfl⟩
      rw [hx] at d0 hp
      obtain ⟨s, hs'⟩ : ∃ s, pre f ms k = s := ⟨_, rfl⟩
      rw [hs'] at hp hq0 ⊢
      rw [hp] at hq
      obtain ⟨hq1, hq2⟩ := hq
      have hlti : (k : Int) < (m : Int) := by omega
      clear hlen hs hx hs' HI HN
      go_wp2_with fail
      go_roundw
      case rel => exact ⟨k + 1, by omega, by simp, by rw [hp], trivial⟩
      case measure => simp [intOf]; omega
    · have hkm : k = m := by omega
      have hlti : ¬ (k : Int) < (m : Int) := by omega
      subst hkm
      rw [hs]
      go_wp2
      go_ret
      exact ⟨rfl, rfl⟩
end Go.Proofs.Ytoanmjnjpkbmiaa
