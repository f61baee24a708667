/- A message in memory. -/
import Derived.Test.YtnbaojdildelmaaDoorAe
import Derived.Test.YtnbaojdildelmaaDoorAc
import Derived.Lib.ConvBytes
import Derived.Lib.Strings
import Derived.Lib.AppendZerosOnto
import Derived.Lib.BufferWrite
namespace Go.Proofs.YtnbaojdildelmaaDoor
open Go.RowKit
set_option linter.unusedVariables false
set_option linter.unusedSimpArgs false
def EB : El UInt8 := ⟨51, 5, 1, 1, fun x => [.int .u8 (x.toNat : Int)]⟩
theorem okB : EB.Ok := ⟨Tryd.underlying51, by kernel_rfl, by decide, by decide, fun _ => rfl, fun a u hu => by
  simp only [EB, List.mem_cons, List.not_mem_nil, or_false] at hu
  rcases hu with rfl; rfl⟩
def bt (l : List UInt8) : ByteArray := ⟨l.toArray⟩
theorem bt_list (l : List UInt8) : (bt l).data.toList = l := by simp [bt]
theorem bt_size (l : List UInt8) : (bt l).size = l.length := by rw [Lib.size_eq, bt_list]
theorem bt_self (s : ByteArray) : bt s.data.toList = s := by cases s; simp [bt]
theorem csB (l : List UInt8) : EB.cs l = l.map fun x => Value.int .u8 (x.toNat : Int) := by
  induction l with
  | nil => rfl
  | cons a r ih => simp only [El.cs, List.flatMap_cons, EB, List.cons_append, List.nil_append, List.map_cons] at ih ⊢; rw [ih]
theorem info5 : (Tryd.prog.info? 5).map (fun i => (i.zero, i.size, i.bytes)) = some (some (.int .u8 0), 1, 1) := by kernel_rfl
theorem csB_str (s : ByteArray) : Lib.strCells s = EB.cs s.data.toList := by rw [csB]; simp [Lib.strCells]

/-- append of a string's bytes -/
theorem app_str (w : World) (o : Value) (l : List UInt8) (hR : R EB w o l) (s : ByteArray) (hlen : l.length + s.size ≤ 140737488355328) :
    ∃ base cap w', (Builtin.append_ #[51, 9] 51 #[o, .string s]).run Tryd.prog w = .ok (.slice base (l.length + s.size) cap) w' ∧ R EB w' (.slice base (l.length + s.size) cap) (l ++ s.data.toList) ∧ Gr w w' o (.slice base (l.length + s.size) cap) := by
  obtain ⟨i0, hi0, hz0, hz1, hz2⟩ := info_parts info5
  have hss : s.data.toList.length = s.size := by simp
  have hR0 : w.ownsRow 0 5 1 o l.length (EB.cs l) := hR
  have hbl : (EB.cs l).length = l.length := by rw [csB]; simp
  obtain ⟨v', w', hrun, ho, hg, hnil⟩ := Lib.run_append_own_string (P := Tryd.prog) w 0 51 9 51 5 i0 Tryd.underlying51 Tryd.underlying9 hi0 hz0 hz1 hz2 o l.length (EB.cs l) hR0 s (by unfold maxLen; omega) (by omega) (Nat.zero_le _)
  have hP : R EB w' v' (l ++ s.data.toList) := by unfold R; rw [El.cs_append, List.length_append, ← csB_str, hss]; exact ho
  have hG : Gr w w' o v' := by
    refine ⟨hg.os, hg.tape, hg.output, hg.size, fun k hk hne => hg.block k hk (fun e => hne e.symm), fun k hk => ?_⟩
    rcases hR0.2 with ⟨rfl, h0⟩ | ⟨g, cap, cur, rfl, _, hgg, hnc, _, hcs, _⟩
    · by_cases hm : s.size = 0
      · rw [hnil.2 ⟨rfl, hm⟩] at hk
        simp [Value.ownBlock] at hk
      · have hr := run_append_nil_string (P := Tryd.prog) w 51 9 51 5 i0 _ Tryd.underlying51 Tryd.underlying9 hi0 hz0 s (by omega) (by omega) (by rw [hz2]; omega)
        rw [hrun] at hr
        injection hr with hr _
        subst hr
        simp [Value.ownBlock] at hk
        exact .inr (by omega)
    · by_cases hroom : l.length + s.size ≤ cap
      · have hr := Lib.run_append_room_string (P := Tryd.prog) w 51 9 51 5 i0 Tryd.underlying51 Tryd.underlying9 hi0 hz1 g l.length cap cur hgg s hroom (by rw [hcs]; omega)
        rw [hrun] at hr
        injection hr with hr _
        subst hr
        exact .inl hk
      · have hr := Lib.run_append_grow_string (P := Tryd.prog) w 51 9 51 5 i0 _ Tryd.underlying51 Tryd.underlying9 hi0 hz0 ⟨g, 0, none⟩ l.length cap (EB.cs l) (by rw [hbl, hz1, Nat.mul_one]) (World.ownsRow.cells hR0 (g := g) rfl) s (by omega) (by omega) (growslice_fits (by omega) (by rw [hz2]; omega))
        rw [hrun] at hr
        injection hr with hr _
        subst hr
        simp [Value.ownBlock] at hk
        exact .inr (by omega)
  obtain ⟨base, cap, e, _⟩ := hP.slice
  rw [List.length_append, hss] at e
  subst e
  exact ⟨base, cap, w', hrun, hP, hG⟩

set_option maxRecDepth 100000 in
theorem conv_none (w : World) : Sem.run Tryd.prog (convert 51 9 (.slice none 0 0)) w = .ok (.string ⟨#[]⟩) w := by
  simp [convert, Conv.bytesToString, go_sem, Tryd.underlying51, Tryd.underlying5, Tryd.underlying9]
  rfl
set_option maxRecDepth 100000 in
theorem conv_row' {w : World} {b : Option Addr} {n c : Nat} {l : List UInt8} (h : In EB w (.slice b n c) l) : Sem.run Tryd.prog (convert 51 9 (.slice b n c)) w = .ok (.string (bt l)) w := by
  have h' := h
  rcases h with ⟨e, rfl⟩ | ⟨a, cap, e, h1, h2, hc⟩
  · injection e with e1 e2 e3
    subst e1 e2 e3
    exact conv_none w
  · injection e with e1 e2 e3
    subst e1 e2 e3
    exact run_convert_bytes_back (P := Tryd.prog) w 51 9 5 a c l Tryd.underlying51 Tryd.underlying5 Tryd.underlying9 (fun j hj => by
      have := hc j (.int .u8 (l[j].toNat : Int)) (by rw [csB, List.getElem?_map, List.getElem?_eq_getElem hj]; rfl)
      exact this)

/-- a message's values -/
structure Mg where
  rq : Bool
  m : ByteArray
  s : ByteArray
  a : ByteArray
  p : ByteArray
  qy : SV
  n : Int
  ry : SV
  st : Int
  bs : SV
  fx : Bool
  ln : Int
def mgv (x : Mg) : Array Value := #[.bool x.rq, .string x.m, .string x.s, .string x.a, .string x.p, sv x.qy, .string ⟨#[]⟩, .int .i64 x.n, sv x.ry, .string ⟨#[]⟩, .int .i64 x.st, sv x.bs, .bool x.fx, .int .i64 x.ln]
def MgB (w : World) (g : Nat) (x : Mg) : Prop := w.heap[g]? = some (.cells (mgv x) 53 (0, 0))
theorem MgB.below {w w' : World} {g : Nat} {x : Mg} (h : MgB w g x) (hb : Below w.heap.size w w') : MgB w' g x := (hb.block g (heap_lt h)).trans h
structure Mc (w : World) (g : Nat) (x : Mg) : Prop where
  c0 : w.cell? ⟨g, 0, none⟩ = some (.bool x.rq)
  c7 : w.cell? ⟨g, 7, none⟩ = some (.int .i64 x.n)
  c8 : w.cell? ⟨g, 8, none⟩ = some (.slice x.ry.1 x.ry.2.1 x.ry.2.2)
  c9 : w.cell? ⟨g, 9, none⟩ = some (.string ⟨#[]⟩)
  c10 : w.cell? ⟨g, 10, none⟩ = some (.int .i64 x.st)
  c11 : w.cell? ⟨g, 11, none⟩ = some (.slice x.bs.1 x.bs.2.1 x.bs.2.2)
  c12 : w.cell? ⟨g, 12, none⟩ = some (.bool x.fx)
  c13 : w.cell? ⟨g, 13, none⟩ = some (.int .i64 x.ln)
  fz : ∀ i, w.frozen? ⟨g, i, none⟩ = false
  lt : g < w.heap.size
theorem MgB.cells {w : World} {g : Nat} {x : Mg} (h : MgB w g x) : Mc w g x :=
  ⟨cell_blk h 0, cell_blk h 7, cell_blk h 8, cell_blk h 9, cell_blk h 10, cell_blk h 11, cell_blk h 12, cell_blk h 13, fun i => frozen_blk h i, heap_lt h⟩
theorem MgB.st {w : World} {g : Nat} {x : Mg} (h : MgB w g x) (z : Int) : MgB (w.setCell ⟨g, 10, none⟩ (.int .i64 z)) g { x with st := z } := by
  unfold MgB at *
  rw [setCell_block _ _ _ _ _ _ _ h]
  rfl
theorem MgB.bs {w : World} {g : Nat} {x : Mg} (h : MgB w g x) (b : Option Addr) (n c : Nat) : MgB (w.setCell ⟨g, 11, none⟩ (.slice b n c)) g { x with bs := (b, n, c) } := by
  unfold MgB at *
  rw [setCell_block _ _ _ _ _ _ _ h]
  rfl
theorem MgB.fix {w : World} {g : Nat} {x : Mg} (h : MgB w g x) (z : Int) : MgB ((w.setCell ⟨g, 12, none⟩ (.bool true)).setCell ⟨g, 13, none⟩ (.int .i64 z)) g { x with fx := true, ln := z } := by
  unfold MgB at *
  rw [setCell_block _ _ _ _ _ _ _ (setCell_block _ _ _ _ _ _ _ h)]
  rfl
/-- a message with its body and its fields -/
structure Msg (W : World) (g : Nat) (x : Mg) (body : List UInt8) (fl ql : List Fd) : Prop where
  bx : MgB W g x
  rb : R EB W (sv x.bs) body
  rf : R EFd W (sv x.ry) fl
  qf : R EFd W (sv x.qy) ql
theorem Msg.below {W W' : World} {g : Nat} {x : Mg} {body : List UInt8} {fl ql : List Fd} (h : Msg W g x body fl ql) (hb : Below W.heap.size W W') : Msg W' g x body fl ql :=
  ⟨h.bx.below hb, R.below h.rb hb, R.below h.rf hb, R.below h.qf hb⟩
theorem row_ne_mg {α : Type} {E : El α} {W : World} {v : Value} {l : List α} {g k : Nat} {x : Mg} (h : R E W v l) (hb : MgB W g x) (he : E.e ≠ 53) (hk : v.ownBlock = some k) : k ≠ g := fun e => by
  obtain ⟨u, hu⟩ := R.ty h k hk
  unfold MgB at hb
  rw [e, hb] at hu
  simp at hu
  exact he hu.2.symm
theorem fd_ne_b {W : World} {v v' : Value} {l : List Fd} {l' : List UInt8} {k : Nat} (h : R EFd W v l) (hb : R EB W v' l') (hk : v.ownBlock = some k) : v'.ownBlock ≠ some k := fun e => by
  obtain ⟨u, hu⟩ := R.ty h k hk
  obtain ⟨u', hu'⟩ := R.ty hb k e
  rw [hu] at hu'
  simp [EFd, EB] at hu'
/-- what a message may change -/
def Ow (g : Nat) (x : Mg) (k : Nat) : Prop := k = g ∨ (sv x.bs).ownBlock = some k
theorem Msg.other {W W' : World} {g g1 : Nat} {x x1 : Mg} {body b1 : List UInt8} {fl ql fl1 ql1 : List Fd} (h : Msg W g x body fl ql) (h1 : Msg W g1 x1 b1 fl1 ql1) (k : Ks (Ow g1 x1) W W') (hg : g ≠ g1) (hb : ∀ k, (sv x.bs).ownBlock = some k → (sv x1.bs).ownBlock ≠ some k) : Msg W' g x body fl ql := by
  have e1 : EFd.e ≠ 53 := by decide
  have e2 : EB.e ≠ 53 := by decide
  refine ⟨(k.block g (heap_lt h.bx) ?_).trans h.bx, R.stays h.rb fun j hj hl => k.block j hl ?_, R.stays h.rf fun j hj hl => k.block j hl ?_, R.stays h.qf fun j hj hl => k.block j hl ?_⟩
  · rintro (e | e)
    · exact hg e
    · exact row_ne_mg h1.rb h.bx e2 e rfl
  · rintro (e | e)
    · exact row_ne_mg h.rb h1.bx e2 hj e
    · exact hb j hj e
  · rintro (e | e)
    · exact row_ne_mg h.rf h1.bx e1 hj e
    · exact fd_ne_b h.rf h1.rb hj e
  · rintro (e | e)
    · exact row_ne_mg h.qf h1.bx e1 hj e
    · exact fd_ne_b h.qf h1.rb hj e
end Go.Proofs.YtnbaojdildelmaaDoor
