/- Frames, params, bytes in memory; a joiner's states. -/
import Derived.Test.YtdgdjanchpfleaaM
import Derived.Lib.Strings
import Derived.Lib.BufferWrite
import Derived.Lib.UnsafeStr
import Derived.Laws.ResultCell
namespace Go.Proofs.Ytdgdjanchpfleaa
open Go.RowKit
set_option linter.unusedVariables false
set_option linter.unusedSimpArgs false

/-- A frame without its params. -/
structure Fr where
  ty : Int
  fl : Int
  st : Int
  data : ByteArray
  pad : Int
  dep : Int
  excl : Bool
  wt : Int
  code : Int
  last : Int

def Fr.zero : Fr := ⟨0, 0, 0, ⟨#[]⟩, 0, 0, false, 0, 0, 0⟩
/-- its cells, with the slice of its params -/
def fv (f : Fr) (p : Value) : Array Value :=
  #[.int .i64 f.ty, .int .i64 f.fl, .int .i64 f.st, .string f.data, .int .i64 f.pad, .int .i64 f.dep, .bool f.excl, .int .i64 f.wt, .int .i64 f.code, .int .i64 f.last, p]
/-- Block g holds a frame. -/
def FB (w : World) (g : Nat) (f : Fr) (p : Value) : Prop := w.heap[g]? = some (.cells (fv f p) 24 (0, 0))
theorem FB.lt {w : World} {g : Nat} {f : Fr} {p : Value} (h : FB w g f p) : g < w.heap.size := (Array.getElem?_eq_some_iff.1 h).1
theorem FB.below {w w' : World} {g : Nat} {f : Fr} {p : Value} (h : FB w g f p) (hb : Below w.heap.size w w') : FB w' g f p := (hb.block g h.lt).trans h
theorem FB.cell {w : World} {g : Nat} {f : Fr} {p : Value} (h : FB w g f p) (i : Nat) : w.cell? ⟨g, i, none⟩ = (fv f p)[i]? := cell_blk h i
theorem FB.frozen {w : World} {g : Nat} {f : Fr} {p : Value} (h : FB w g f p) (i : Nat) : w.frozen? ⟨g, i, none⟩ = false := frozen_blk h i

/-- a slice's three parts -/
abbrev SV := Option Addr × Nat × Nat
def sv (x : SV) : Value := .slice x.1 x.2.1 x.2.2

def EP : El (Int × Int) := ⟨22, 45, 2, 16, fun p => [.int .i64 p.1, .int .i64 p.2]⟩
def EB : El UInt8 := ⟨30, 5, 1, 1, fun b => [.int .u8 (b.toNat : Int)]⟩
def EF : El (Fr × SV) := ⟨37, 24, 11, 112, fun x => (fv x.1 (sv x.2)).toList⟩
def ES : El ByteArray := ⟨25, 9, 1, 16, fun s => [.string s]⟩
theorem okP : EP.Ok := ⟨Try.underlying22, by kernel_rfl, by decide, by decide, fun _ => rfl, fun a u hu => by
  simp only [EP, List.mem_cons, List.not_mem_nil, or_false] at hu
  rcases hu with rfl | rfl <;> rfl⟩
theorem okB : EB.Ok := ⟨Try.underlying30, by kernel_rfl, by decide, by decide, fun _ => rfl, fun a u hu => by
  simp only [EB, List.mem_cons, List.not_mem_nil, or_false] at hu
  rcases hu with rfl; rfl⟩
theorem okF : EF.Ok := ⟨Try.underlying37, by kernel_rfl, by decide, by decide, fun _ => rfl, fun a u hu => by
  simp only [EF, fv, List.mem_cons, List.not_mem_nil, or_false] at hu
  rcases hu with rfl | rfl | rfl | rfl | rfl | rfl | rfl | rfl | rfl | rfl | rfl <;> rfl⟩
theorem okS : ES.Ok := ⟨Try.underlying25, by kernel_rfl, by decide, by decide, fun _ => rfl, fun a u hu => by
  simp only [ES, List.mem_cons, List.not_mem_nil, or_false] at hu
  rcases hu with rfl; rfl⟩

theorem info5 : (Try.prog.info? 5).map (fun i => (i.zero, i.size, i.bytes)) = some (some (.int .u8 0), 1, 1) := by kernel_rfl
theorem csB (l : List UInt8) : EB.cs l = l.map fun b => Value.int .u8 (b.toNat : Int) := by
  induction l with
  | nil => rfl
  | cons a r ih => simp only [El.cs, List.flatMap_cons, EB, List.cons_append, List.nil_append, List.map_cons] at ih ⊢; rw [ih]
theorem csB_str (s : ByteArray) : Lib.strCells s = EB.cs s.data.toList := by rw [csB]; simp [Lib.strCells]

/-- append of a string's bytes -/
theorem app_str (w : World) (o : Value) (l : List UInt8) (hR : R EB w o l) (s : ByteArray) (hlen : l.length + s.size ≤ 140737488355328) :
    ∃ base cap w', (Builtin.append_ #[30, 9] 30 #[o, .string s]).run Try.prog w = .ok (.slice base (l.length + s.size) cap) w' ∧ R EB w' (.slice base (l.length + s.size) cap) (l ++ s.data.toList) ∧ Gr w w' o (.slice base (l.length + s.size) cap) := by
  obtain ⟨i0, hi0, hz0, hz1, hz2⟩ := info_parts info5
  have hss : s.data.toList.length = s.size := by simp
  have hR0 : w.ownsRow 0 5 1 o l.length (EB.cs l) := hR
  have hbl : (EB.cs l).length = l.length := by rw [csB]; simp
  obtain ⟨v', w', hrun, ho, hg, hnil⟩ := Lib.run_append_own_string (P := Try.prog) w 0 30 9 30 5 i0 Try.underlying30 Try.underlying9 hi0 hz0 hz1 hz2 o l.length (EB.cs l) hR0 s (by unfold maxLen; omega) (by omega) (Nat.zero_le _)
  have hP : R EB w' v' (l ++ s.data.toList) := by unfold R; rw [El.cs_append, List.length_append, ← csB_str, hss]; exact ho
  have hG : Gr w w' o v' := by
    refine ⟨hg.os, hg.tape, hg.output, hg.size, fun k hk hne => hg.block k hk (fun e => hne e.symm), fun k hk => ?_⟩
    rcases hR0.2 with ⟨rfl, h0⟩ | ⟨g, cap, cur, rfl, _, hgg, hnc, _, hcs, _⟩
    · by_cases hm : s.size = 0
      · rw [hnil.2 ⟨rfl, hm⟩] at hk
        simp [Value.ownBlock] at hk
      · have hr := run_append_nil_string (P := Try.prog) w 30 9 30 5 i0 _ Try.underlying30 Try.underlying9 hi0 hz0 s (by omega) (by omega) (by rw [hz2]; omega)
        rw [hrun] at hr
        injection hr with hr _
        subst hr
        simp [Value.ownBlock] at hk
        exact .inr (by omega)
    · by_cases hroom : l.length + s.size ≤ cap
      · have hr := Lib.run_append_room_string (P := Try.prog) w 30 9 30 5 i0 Try.underlying30 Try.underlying9 hi0 hz1 g l.length cap cur hgg s hroom (by rw [hcs]; omega)
        rw [hrun] at hr
        injection hr with hr _
        subst hr
        exact .inl hk
      · have hr := Lib.run_append_grow_string (P := Try.prog) w 30 9 30 5 i0 _ Try.underlying30 Try.underlying9 hi0 hz0 ⟨g, 0, none⟩ l.length cap (EB.cs l) (by rw [hbl, hz1, Nat.mul_one]) (World.ownsRow.cells hR0 (g := g) rfl) s (by omega) (by omega) (growslice_fits (by omega) (by rw [hz2]; omega))
        rw [hrun] at hr
        injection hr with hr _
        subst hr
        simp [Value.ownBlock] at hk
        exact .inr (by omega)
  obtain ⟨base, cap, e, _⟩ := hP.slice
  rw [List.length_append, hss] at e
  subst e
  exact ⟨base, cap, w', hrun, hP, hG⟩

/-- bytes as a text -/
def bt (l : List UInt8) : ByteArray := ⟨l.toArray⟩
theorem bt_size (l : List UInt8) : (bt l).size = l.length := by simp [bt, ByteArray.size]
theorem bt_list (s : ByteArray) : bt s.data.toList = s := by cases s; simp [bt]

/-- string(b), of a row of bytes -/
theorem conv_row {w : World} {o : Value} {l : List UInt8} (h : R EB w o l) (hl : l.length ≤ 131072) : Sem.run Try.prog (convert 30 9 o) w = .ok (.string (bt l)) w := by
  rcases h.isIn with ⟨rfl, rfl⟩ | ⟨a, cap, rfl, h1, h2, hc⟩
  · exact (show Sem.run Try.prog (convert 30 9 (.slice none 0 0)) w = .ok (.string ⟨#[]⟩) w from by
      simp [convert, run_underlying Try.underlying30, run_underlying Try.underlying9, run_underlying Try.underlying5, go_sem, Conv.bytesToString]; rfl)
  · exact run_convert_bytes_back (P := Try.prog) w 30 9 5 a cap l Try.underlying30 Try.underlying5 Try.underlying9 (fun j hj => by
      have := hc j (.int .u8 (l[j].toNat : Int)) (by rw [csB, List.getElem?_map, List.getElem?_eq_getElem hj]; rfl)
      exact this)

/-- stores into one block, one behind the other -/
def sets (w : World) (g : Nat) (l : List (Nat × Value)) : World := l.foldl (fun w x => w.setCell ⟨g, x.1, none⟩ x.2) w
theorem sets_other (g k : Nat) (h : k ≠ g) : ∀ (l : List (Nat × Value)) (w : World), (sets w g l).heap[k]? = w.heap[k]?
  | [], _ => rfl
  | x :: r, w => (sets_other g k h r _).trans (setCell_other _ _ _ _ _ h)
theorem sets_block (g : Nat) (t : TypeId) (fz : Nat × Nat) : ∀ (l : List (Nat × Value)) (w : World) (c : Array Value), w.heap[g]? = some (.cells c t fz) → (sets w g l).heap[g]? = some (.cells (l.foldl (fun c x => c.setIfInBounds x.1 x.2) c) t fz)
  | [], _, _, h => h
  | x :: r, w, c, h => sets_block g t fz r _ _ (setCell_block _ _ _ _ _ _ _ h)
theorem sets_below (g B : Nat) (h : B ≤ g) : ∀ (l : List (Nat × Value)) (w : World), Below B w (sets w g l)
  | [], w => Below.refl _ _
  | x :: r, w => ((Below.refl _ w).setCell (p := ⟨g, x.1, none⟩) h x.2).trans (sets_below g B h r _)
theorem sets_size (g : Nat) : ∀ (l : List (Nat × Value)) (w : World), (sets w g l).heap.size = w.heap.size
  | [], _ => rfl
  | y :: r, w => (sets_size g r _).trans (by simp [World.setCell])
theorem sets_ks (A : Nat → Prop) (g : Nat) (h : A g) (l : List (Nat × Value)) (w : World) : Ks A w (sets w g l) := by
  have hb := sets_below g 0 (Nat.zero_le _) l w
  exact ⟨hb.os, hb.tape, hb.output, hb.size, fun k _ hk => sets_other g k (fun e => hk (e ▸ h)) l w⟩
def fsets (f : Fr) (p : Value) : List (Nat × Value) := [(0, .int .i64 f.ty), (1, .int .i64 f.fl), (2, .int .i64 f.st), (3, .string f.data), (4, .int .i64 f.pad), (5, .int .i64 f.dep), (6, .bool f.excl), (7, .int .i64 f.wt), (8, .int .i64 f.code), (9, .int .i64 f.last), (10, p)]

/-- a joiner's cells -/
def jv (f : Fr) (p s : Value) (c : Int) : Array Value :=
  #[.int .i64 f.ty, .int .i64 f.fl, .int .i64 f.st, .string f.data, .int .i64 f.pad, .int .i64 f.dep, .bool f.excl, .int .i64 f.wt, .int .i64 f.code, .int .i64 f.last, p, s, .int .i64 c, .int .i64 0]
def JB (w : World) (b : Nat) (f : Fr) (p s : Value) (c : Int) : Prop := w.heap[b]? = some (.cells (jv f p s c) 51 (0, 0))
theorem JB.lt {w : World} {g : Nat} {f : Fr} {p s : Value} {c : Int} (h : JB w g f p s c) : g < w.heap.size := (Array.getElem?_eq_some_iff.1 h).1
theorem JB.cell {w : World} {g : Nat} {f : Fr} {p s : Value} {c : Int} (h : JB w g f p s c) (i : Nat) : w.cell? ⟨g, i, none⟩ = (jv f p s c)[i]? := cell_blk h i
theorem JB.frozen {w : World} {g : Nat} {f : Fr} {p s : Value} {c : Int} (h : JB w g f p s c) (i : Nat) : w.frozen? ⟨g, i, none⟩ = false := frozen_blk h i
theorem JB.below {w w' : World} {g : Nat} {f : Fr} {p s : Value} {c : Int} (h : JB w g f p s c) (hb : Below w.heap.size w w') : JB w' g f p s c := (hb.block g h.lt).trans h

/-- a head frame's type -/
def isH (n : Int) : Prop := n = 1 ∨ n = 5
def dH (n : Int) : Bool := n == 1 || n == 5
theorem dH_iff {n : Int} : dH n = true ↔ isH n := by simp [dH, isH]
theorem dH_of {n : Int} (h : isH n) : dH n = true := dH_iff.2 h

/-- what a joiner is in the middle of -/
structure Js where
  v : Unit ⊕ (Fr × List (Int × Int) × List UInt8) ⊕ Int
abbrev Js.idle : Js := ⟨.inl ()⟩
abbrev Js.busy (h : Fr) (ps : List (Int × Int)) (l : List UInt8) : Js := ⟨.inr (.inl (h, ps, l))⟩
abbrev Js.broken (c : Int) : Js := ⟨.inr (.inr c)⟩

/-- A joiner in memory, its bytes' slice told. -/
def Jn (w : World) (b : Nat) (s : Value) (st : Js) : Prop :=
  match st.v with
  | .inl _ => JB w b Fr.zero (.slice none 0 0) (.slice none 0 0) 0 ∧ s = .slice none 0 0
  | .inr (.inr c) => JB w b Fr.zero (.slice none 0 0) (.slice none 0 0) c ∧ s = .slice none 0 0 ∧ c ≠ 0
  | .inr (.inl (h, ps, l)) => ∃ x : SV, JB w b h (sv x) s 0 ∧ isH h.ty ∧ h.data = ⟨#[]⟩ ∧ R EP w (sv x) ps ∧ R EB w s l ∧ l.length ≤ 131072

theorem Jn.lt {w : World} {b : Nat} {s : Value} {st : Js} (h : Jn w b s st) : b < w.heap.size := by
  obtain ⟨_ | ⟨f, ps, l⟩ | c⟩ := st
  · exact h.1.lt
  · obtain ⟨x, hx, _⟩ := h; exact hx.lt
  · exact h.1.lt
/-- It stays where its own blocks stay. -/
theorem Jn.stays {w w' : World} {b : Nat} {s : Value} {st : Js} (h : Jn w b s st) (hb : ∀ k, k < w.heap.size → (k = b ∨ s.ownBlock = some k ∨ ∃ c, w.heap[k]? = some (.cells c 45 (0, 0))) → w'.heap[k]? = w.heap[k]?) : Jn w' b s st := by
  obtain ⟨_ | ⟨f, ps, l⟩ | c⟩ := st
  · exact ⟨(hb b h.1.lt (.inl rfl)).trans h.1, h.2⟩
  · obtain ⟨x, h1, h2, h3, h4, h5, h6⟩ := h
    exact ⟨x, (hb b h1.lt (.inl rfl)).trans h1, h2, h3, h4.stays (fun k hk hlt => hb k hlt (.inr (.inr (h4.ty k hk)))), h5.stays (fun k hk hlt => hb k hlt (.inr (.inl hk))), h6⟩
  · exact ⟨(hb b h.1.lt (.inl rfl)).trans h.1, h.2⟩
theorem Jn.below {w w' : World} {b : Nat} {s : Value} {st : Js} (h : Jn w b s st) (hb : Below w.heap.size w w') : Jn w' b s st := h.stays fun k hk _ => hb.block k hk
theorem Jn.sty {w : World} {b : Nat} {s : Value} {st : Js} (h : Jn w b s st) (k : Nat) (hk : s.ownBlock = some k) : ∃ c, w.heap[k]? = some (.cells c 5 (0, 0)) := by
  obtain ⟨_ | ⟨f, ps, l⟩ | c⟩ := st
  · rw [h.2] at hk; simp [Value.ownBlock] at hk
  · obtain ⟨x, h1, h2, h3, h4, h5, h6⟩ := h
    exact h5.ty k hk
  · rw [h.2.1] at hk; simp [Value.ownBlock] at hk
theorem Jn.bty {w : World} {b : Nat} {s : Value} {st : Js} (h : Jn w b s st) : ∃ c, w.heap[b]? = some (.cells c 51 (0, 0)) := by
  obtain ⟨_ | ⟨f, ps, l⟩ | c⟩ := st
  · exact ⟨_, h.1⟩
  · obtain ⟨x, hx, _⟩ := h; exact ⟨_, hx⟩
  · exact ⟨_, h.1⟩
end Go.Proofs.Ytdgdjanchpfleaa
