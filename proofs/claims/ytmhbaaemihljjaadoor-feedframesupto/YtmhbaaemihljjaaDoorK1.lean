/- A feed in memory; New, isBroken, Push, Waiting, SetMost. -/
import Derived.Test.YtmhbaaemihljjaaDoorK0
import Derived.Test.YtmhbaaemihljjaaDoorA5
namespace Go.Proofs.YtmhbaaemihljjaaDoor
open Go.RowKit
set_option linter.unusedVariables false
set_option linter.unusedSimpArgs false

/-- a feed: what is to be read of the preface, the bytes that wait, the most, the code that it is broken with -/
structure St where
  pre : ByteArray
  wait : List UInt8
  most : Int
  code : Int

def prefaceB : ByteArray := { data := #[80, 82, 73, 32, 42, 32, 72, 84, 84, 80, 47, 50, 46, 48, 13, 10, 13, 10, 83, 77, 13, 10, 13, 10] }

def fdv (S : St) (v : Value) : Array Value := #[.string S.pre, v, .int .i64 S.most, .int .i64 S.code, .int .i64 0]
/-- Block g is a feed, v its slice. -/
structure Fd (w : World) (g : Nat) (v : Value) (S : St) : Prop where
  blk : w.heap[g]? = some (.cells (fdv S v) 69 (0, 0))
  row : WRow w v S.wait
  ne : v.ownBlock ≠ some g

theorem Fd.lt {w : World} {g : Nat} {v : Value} {S : St} (h : Fd w g v S) : g < w.heap.size := (Array.getElem?_eq_some_iff.1 h.blk).1
theorem Fd.same {w w' : World} {g : Nat} {v : Value} {S : St} (h : Fd w g v S) (h1 : w'.heap[g]? = w.heap[g]?) (h2 : ∀ k, v.ownBlock = some k → w'.heap[k]? = w.heap[k]?) : Fd w' g v S :=
  ⟨h1.trans h.blk, h.row.same h2, h.ne⟩
theorem Fd.below {w w' : World} {g : Nat} {v : Value} {S : St} (h : Fd w g v S) (hb : Below w.heap.size w w') : Fd w' g v S :=
  h.same (hb.block g h.lt) (fun k hk => hb.block k (h.row.lt k hk))
theorem Fd.cells {w : World} {g : Nat} {v : Value} {S : St} (h : Fd w g v S) : w.cell? ⟨g, 0, none⟩ = some (.string S.pre) ∧ w.cell? ⟨g, 1, none⟩ = some v ∧ w.cell? ⟨g, 2, none⟩ = some (.int .i64 S.most) ∧ w.cell? ⟨g, 3, none⟩ = some (.int .i64 S.code) ∧ w.cell? ⟨g, 4, none⟩ = some (.int .i64 0) := by
  refine ⟨?_, ?_, ?_, ?_, ?_⟩ <;> (rw [cell_of_row _ _ _ _ _ _ h.blk]; rfl)
theorem Fd.frozen {w : World} {g : Nat} {v : Value} {S : St} (h : Fd w g v S) (i : Nat) : w.frozen? ⟨g, i, none⟩ = false := by
  simp [World.frozen?, h.blk]

set_option maxRecDepth 100000 in
set_option maxHeartbeats 1000000 in
theorem new_any (server : Bool) (most : Int) (w : World) :
    Calls Tryd.prog 10 #[.bool server, .int .i64 most] w fun e w' => e = .returned (.pointer (some ⟨w.heap.size, 0, none⟩)) ∧ Fd w' w.heap.size (.slice none 0 0) ⟨if server then prefaceB else ⟨#[]⟩, [], most, 0⟩ ∧ Below w.heap.size w w' ∧ w'.heap.size = w.heap.size + 1 := by
  cases server
  · go_enter Tryd.func10, Tryd.ntmps10
    go_wp2
    go_ret
    refine ⟨rfl, ⟨?_, .inl ⟨rfl, rfl⟩, by simp [Value.ownBlock]⟩, (Below.refl _ w).alloc (Nat.le_refl _) _, by simp⟩
    exact heap_alloc_new w _
  · go_enter Tryd.func10, Tryd.ntmps10
    go_wp2
    go_ret
    refine ⟨rfl, ⟨?_, .inl ⟨rfl, rfl⟩, by simp [Value.ownBlock]⟩, (Below.refl _ w).alloc (Nat.le_refl _) _, by simp⟩
    exact heap_alloc_new w _

set_option maxRecDepth 100000 in
set_option maxHeartbeats 1000000 in
theorem isBroken_any (w : World) (g : Nat) (c : Int) (hc : w.cell? ⟨g, 3, none⟩ = some (.int .i64 c)) (hd : w.cell? ⟨g, 4, none⟩ = some (.int .i64 0)) :
    Calls Tryd.prog 26 #[.pointer (some ⟨g, 0, none⟩)] w fun e w' => e = .returned (.bool (c != 0)) ∧ w' = w := by
  by_cases h : c = 0
  · subst h
    go_enter Tryd.func26, Tryd.ntmps26
    go_wp2
    go_ret
    exact ⟨rfl, rfl⟩
  · have hb : (c != 0) = true := by simpa using h
    have HB : Hid _ := hb
    clear hb
    go_enter Tryd.func26, Tryd.ntmps26
    go_wp2
    go_ret
    exact ⟨by rw [HB.out]; rfl, rfl⟩

/-- All blocks but those of A are as they were. -/
structure Ks (A : Nat → Prop) (w w' : World) : Prop where
  os : w'.os = w.os
  tape : w'.tape = w.tape
  output : w'.output = w.output
  size : w.heap.size ≤ w'.heap.size
  block : ∀ k, k < w.heap.size → ¬ A k → w'.heap[k]? = w.heap[k]?

theorem Ks.refl (A : Nat → Prop) (w : World) : Ks A w w := ⟨rfl, rfl, rfl, Nat.le_refl _, fun _ _ _ => rfl⟩
theorem Ks.trans {A B C : Nat → Prop} {a b c : World} (h : Ks A a b) (k : Ks B b c) (h1 : ∀ i, i < a.heap.size → A i → C i) (h2 : ∀ i, i < a.heap.size → B i → C i) : Ks C a c :=
  ⟨k.os.trans h.os, k.tape.trans h.tape, k.output.trans h.output, Nat.le_trans h.size k.size,
    fun i hi hu => (k.block i (Nat.lt_of_lt_of_le hi h.size) (fun e => hu (h2 i hi e))).trans (h.block i hi (fun e => hu (h1 i hi e)))⟩
theorem Ks.of_kp {g : Nat} {a b : World} (h : Kp g a b) : Ks (fun k => k = g) a b := ⟨h.os, h.tape, h.output, h.size, fun k hk hn => h.block k hk hn⟩
theorem Ks.of_below {A : Nat → Prop} {a b : World} (h : Below a.heap.size a b) : Ks A a b := ⟨h.os, h.tape, h.output, h.size, fun k hk _ => h.block k hk⟩
theorem Ks.below {A : Nat → Prop} {a b : World} {B : Nat} (h : Ks A a b) (hB : B ≤ a.heap.size) (hg : ∀ i, i < B → ¬ A i) : Below B a b :=
  ⟨h.os, h.tape, h.output, h.size, fun k hk => h.block k (Nat.lt_of_lt_of_le hk hB) (hg k hk)⟩

/-- what Push leaves -/
def pushS (S : St) (s : ByteArray) : St := if S.code = 0 then { S with wait := S.wait ++ s.data.toList } else S

/-- what a feed's own memory is -/
def Own (g : Nat) (v : Value) (k : Nat) : Prop := k = g ∨ v.ownBlock = some k

set_option maxRecDepth 100000 in
set_option maxHeartbeats 1000000 in
theorem push_any (w : World) (g : Nat) (v : Value) (S : St) (h : Fd w g v S) (s : ByteArray) (hlen : S.wait.length + s.size ≤ 140737488355328) :
    Calls Tryd.prog 11 #[.pointer (some ⟨g, 0, none⟩), .string s] w fun e w' => e = .returned (.tuple #[]) ∧ ∃ v', Fd w' g v' (pushS S s) ∧ Ks (Own g v) w w' ∧ (∀ k, v'.ownBlock = some k → v.ownBlock = some k ∨ w.heap.size ≤ k) := by
  obtain ⟨c0, c1, c2, c3, c4⟩ := h.cells
  have hib := isBroken_any w g S.code c3 c4
  unfold pushS
  by_cases hc : S.code = 0
  · rw [if_pos hc]
    have hb0 : (S.code != 0) = false := by simpa using hc
    rw [hb0] at hib
    obtain ⟨b, c, w1, hrun, hW, hG⟩ := wrow_append w v S.wait h.row s hlen
    have hg1 : w1.heap[g]? = some (.cells (fdv S v) 69 (0, 0)) := (hG.block g h.lt h.ne).trans h.blk
    have d1 : w1.cell? ⟨g, 1, none⟩ = some v := by rw [cell_of_row _ _ _ _ _ _ hg1]; rfl
    have f1 : w1.frozen? ⟨g, 1, none⟩ = false := by simp [World.frozen?, hg1]
    have hne : (Value.slice b (S.wait.length + s.size) c).ownBlock ≠ some g := fun e => by
      rcases hG.own g e with h1 | h1
      · exact h.ne h1
      · have := h.lt; omega
    have hfin : Hid (Fd (w1.setCell ⟨g, 1, none⟩ (.slice b (S.wait.length + s.size) c)) g (.slice b (S.wait.length + s.size) c) { S with wait := S.wait ++ s.data.toList } ∧ Ks (Own g v) w (w1.setCell ⟨g, 1, none⟩ (.slice b (S.wait.length + s.size) c)) ∧ (∀ k, (Value.slice b (S.wait.length + s.size) c).ownBlock = some k → v.ownBlock = some k ∨ w.heap.size ≤ k)) := by
      refine ⟨⟨by rw [setCell_block _ _ _ _ _ _ _ hg1]; rfl, hW.same fun k hk => setCell_other _ _ _ _ _ (fun e => hne (e ▸ hk)), hne⟩, ⟨hG.os, hG.tape, hG.output, by simpa using hG.size, fun k hk hn => ?_⟩, hG.own⟩
      rw [setCell_other _ _ _ _ _ (fun e => hn (.inl e))]
      exact hG.block k hk (fun e => hn (.inr e))
    have HR : Hid _ := hrun
    obtain ⟨b0, cp, rfl⟩ := h.row.slice
    clear h hrun hW hG hg1 hne
    go_enter Tryd.func11, Tryd.ntmps11
    go_wp2_with (first | (go_at_call 26; refine hib.mono ?_; rintro e w' ⟨rfl, rfl⟩) | (at_builtin; refine Lib.wpList_append_run _ rfl (.tmp 11) (.tmp 12) 34 9 rfl _ _ rfl rfl _ _ HR.out ?_))
    go_end0
    exact ⟨rfl, _, hfin.out⟩
  · rw [if_neg hc]
    have hb0 : (S.code != 0) = true := by simpa using hc
    rw [hb0] at hib
    go_enter Tryd.func11, Tryd.ntmps11
    go_wp2_with (first | (go_at_call 26; refine hib.mono ?_; rintro e w' ⟨rfl, rfl⟩))
    go_end0
    exact ⟨rfl, v, h, Ks.refl _ _, fun k hk => .inl hk⟩

set_option maxRecDepth 100000 in
set_option maxHeartbeats 1000000 in
theorem setMost_any (w : World) (g : Nat) (v : Value) (S : St) (h : Fd w g v S) (n : Int) :
    Calls Tryd.prog 14 #[.pointer (some ⟨g, 0, none⟩), .int .i64 n] w fun e w' => e = .returned (.tuple #[]) ∧ Fd w' g v { S with most := n } ∧ Kp g w w' := by
  obtain ⟨c0, c1, c2, c3, c4⟩ := h.cells
  have f2 := h.frozen 2
  have hfin : Hid (Fd (w.setCell ⟨g, 2, none⟩ (.int .i64 n)) g v { S with most := n } ∧ Kp g w (w.setCell ⟨g, 2, none⟩ (.int .i64 n))) :=
    ⟨⟨by rw [setCell_block _ _ _ _ _ _ _ h.blk]; rfl, h.row.same fun k hk => setCell_other _ _ _ _ _ (fun e => h.ne (e ▸ hk)), h.ne⟩, Kp.setCell _ _ _ _⟩
  clear h
  go_enter Tryd.func14, Tryd.ntmps14
  go_wp2
  go_end0
  exact ⟨rfl, hfin.out⟩

set_option maxRecDepth 100000 in
set_option maxHeartbeats 1000000 in
theorem waiting_any (w : World) (g : Nat) (v : Value) (S : St) (h : Fd w g v S) :
    Calls Tryd.prog 13 #[.pointer (some ⟨g, 0, none⟩)] w fun e w' => e = .returned (.int .i64 (S.wait.length : Int)) ∧ w' = w := by
  obtain ⟨c0, c1, c2, c3, c4⟩ := h.cells
  obtain ⟨b, c, rfl⟩ := h.row.slice
  clear h
  go_enter Tryd.func13, Tryd.ntmps13
  go_wp2
  go_ret
  exact ⟨rfl, rfl⟩
end Go.Proofs.YtmhbaaemihljjaaDoor
