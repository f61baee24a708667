import Derived.Test.YtfmljlflnpmceaaGreatDoorVe
import Derived.Test.YtfmljlflnpmceaaGreatDoorVg3
import Derived.Test.YtfmljlflnpmceaaGreatDoorFA3
import Derived.ArgAppend
/- What trace keeps, as plain data; Check as a function of it. -/
namespace Go.Proofs.YtfmljlflnpmceaaGreatDoor
open Go.RowKit
set_option linter.unusedVariables false
set_option linter.unusedSimpArgs false
/-- one direction -/
structure Wy where
  bg : Bool
  ga : Bool
  bk : Int
  ln : Int
  pg : List ByteArray
  rs : List Int
  cl : Bool
  ac : St
  wt : List St
  rm : Int
  rw : Mp
/-- what the entries so far have made of the connection; 'wy true' is the way of what is sent -/
structure Lk where
  T : Tb
  wy : Bool → Wy
def Wy.new (c : Bool) : Wy := ⟨false, false, 0, 0, [], [], c, St.dfl, [], 65535, []⟩
def Lk.new (c : Bool) : Lk := ⟨Tb.new c, fun s => Wy.new (s != c)⟩
def Lk.upd (k : Lk) (s : Bool) (f : Wy → Wy) : Lk := ⟨k.T, fun t => if t = s then f (k.wy t) else k.wy t⟩
/-- an entry: whether it was sent, its frame and params, how long what is written of it is (none: it may not be written) -/
structure Et where
  s : Bool
  f : Fm.Fr
  ps : List (Int × Int)
  n : Option Nat
def Et.has (e : Et) (m : Int) : Bool := Fm.hasF e.f.fl m
/-- the code of a frame that may not be written, or not so long -/
def Lk.form (k : Lk) (e : Et) : Int :=
  e.n.elim 1 fun n => if 65545 < n then 6 else if (k.wy e.s).ac.frm < (n : Int) - 9 then 6 else 0
def Lk.early (k : Lk) (e : Et) : Bool := !(k.wy e.s).bg && (!(e.f.ty == 4) || e.has 1)
def Lk.astray (k : Lk) (e : Et) : Bool := if e.f.ty = 9 then !((k.wy e.s).bk == e.f.st) else !((k.wy e.s).bk == 0)
def isLateT (t : Int) : Bool := t == 1 || (t == 5 || (t == 0 || (t == 3 || t == 8)))
def Lk.late (k : Lk) (e : Et) : Bool := isLateT e.f.ty && (k.wy e.s).rs.contains e.f.st
/-- a stream's windows -/
def Lk.bear (k : Lk) (id : Int) : Lk := ⟨k.T, fun t => { k.wy t with rw := putm (k.wy t).rw id (cl (k.wy t).ac.win) }⟩
/-- an event happens on a stream: its code, whether it is passed over -/
def Lk.happen (k : Lk) (s : Bool) (id kd : Int) : Lk × Int × Bool :=
  let r := k.T.doo id (!s) kd
  let k1 : Lk := ⟨r.1, k.wy⟩
  let k2 := if (k.T.st id == 0 && !(r.1.st id == 0)) = true then k1.bear id else k1
  if r.2.1 = 4 then (k2, 1, false) else (k2, r.2.2, r.2.1 == 1)
def Et.kind (e : Et) (p q : Int) : Int := if e.has 1 = true then q else p
def Lk.crowded (k : Lk) (s : Bool) : Bool := decide ((k.wy s).ac.str < (k.T.last s + 1).tdiv 2) && decide ((k.wy s).ac.str < (k.T.count s : Int))
def Lk.block (k : Lk) (e : Et) : Lk := if e.has 4 = true then k else k.upd e.s fun w => { w with bk := e.f.st, ln := (e.f.data.size : Int) }
def Lk.headers (k : Lk) (e : Et) : Lk × Int :=
  let b := k.T.st e.f.st
  let r := k.happen e.s e.f.st (e.kind 1 2)
  if r.2.1 ≠ 0 then (r.1, r.2.1)
  else if (e.s && (r.1.wy false).ga && b == 0) = true then (r.1, 1)
  else if (!ct b && ct (r.1.T.st e.f.st) && r.1.crowded e.s) = true then (r.1, 7)
  else (r.1.block e, 0)
def Lk.carries (k : Lk) (e : Et) : Bool :=
  if e.f.st.tmod 2 = 0 then false
  else if e.s = true then k.T.st e.f.st == 3 || k.T.st e.f.st == 5
  else k.T.st e.f.st == 3 || (k.T.st e.f.st == 4 || (k.wy (!e.s)).rs.contains e.f.st)
def Lk.promise (k : Lk) (e : Et) : Lk × Int :=
  if (!((k.wy e.s).ac.psh == 1) || !k.carries e) = true then (k, 1)
  else
    let r := k.happen e.s e.f.last 5
    if r.2.1 ≠ 0 then (r.1, r.2.1)
    else if (e.s && (r.1.wy false).ga) = true then (r.1, 1)
    else (r.1.block e, 0)
def Lk.continuation (k : Lk) (e : Et) : Lk × Int :=
  let m := (k.wy e.s).ln + (e.f.data.size : Int)
  let k1 := k.upd e.s fun w => { w with ln := m }
  if 131072 < m then (k1, 11) else (if e.has 4 = true then k1.upd e.s fun w => { w with bk := 0 } else k1, 0)
def Et.size (e : Et) : Int := if e.has 8 = true then (e.f.data.size : Int) + (1 + e.f.pad) else (e.f.data.size : Int)
/-- the stream's window takes: the code -/
def Lk.takeS (k : Lk) (s : Bool) (id n : Int) : Lk × Int :=
  let x := (look (k.wy s).rw id).getD 0
  (k.upd s fun w => { w with rw := putm w.rw id (tkN x n) }, if tk x n = true then 0 else 3)
def Lk.takeC (k : Lk) (s : Bool) (n : Int) : Lk × Bool := (k.upd s fun w => { w with rm := tkN w.rm n }, tk (k.wy s).rm n)
def Lk.sendData (k : Lk) (e : Et) : Lk × Int :=
  let r := k.happen e.s e.f.st (e.kind 3 4)
  if r.2.1 ≠ 0 then (r.1, r.2.1)
  else
    let c := r.1.takeC e.s e.size
    if c.2 = false then (c.1, 3) else c.1.takeS e.s e.f.st e.size
def Lk.getData (k : Lk) (e : Et) : Lk × Int :=
  let c := k.takeC e.s e.size
  if c.2 = false then (c.1, 3)
  else
    let r := c.1.happen e.s e.f.st (e.kind 3 4)
    if r.2.1 ≠ 0 then (r.1, r.2.1)
    else if r.2.2 = true then (r.1, 0) else r.1.takeS e.s e.f.st e.size
def Lk.resets (k : Lk) (e : Et) : Lk × Int :=
  let r := k.happen e.s e.f.st 6
  if (!(r.2.1 == 0) && !(e.s && r.1.T.st e.f.st == 6)) = true then (r.1, r.2.1)
  else (r.1.upd e.s fun w => { w with rs := e.f.st :: w.rs }, 0)
/-- the windows of the streams move: the first code -/
def shiftL (L : Mp) (by_ : Int) : List Int → Mp × Int
  | [] => (L, 0)
  | id :: r => let x := (look L id).getD 0; if sfC x by_ = 0 then shiftL (putm L id (sfN x by_)) by_ r else (putm L id (sfN x by_), sfC x by_)
def Lk.settings (k : Lk) (e : Et) : Lk × Int :=
  if e.has 1 = true then
    match (k.wy e.s).wt with
    | [] => (k, 1)
    | x :: T =>
      let b := (k.wy e.s).ac
      let k1 := k.upd e.s fun w => { w with ac := x, wt := T }
      if x.win - b.win = 0 then (k1, 0)
      else
        let r := shiftL (k.wy e.s).rw (x.win - b.win) k.T.live
        (k1.upd e.s fun w => { w with rw := r.1 }, r.2)
  else if (applyS St.dfl e.ps (k.wy (!e.s)).cl).2 ≠ 0 then (k, (applyS St.dfl e.ps (k.wy (!e.s)).cl).2)
  else
    let w := k.wy (!e.s)
    (k.upd (!e.s) fun v => { v with wt := sendL w.cl w.ac w.wt e.ps }, if sendC w.cl w.ac w.wt e.ps = 0 then 0 else 11)
def Lk.ping (k : Lk) (e : Et) : Lk × Int :=
  if e.has 1 = false then (k.upd e.s fun w => { w with pg := w.pg ++ [e.f.data] }, 0)
  else match (k.wy (!e.s)).pg with
    | [] => (k, 1)
    | p :: r => if p = e.f.data then (k.upd (!e.s) fun w => { w with pg := r }, 0) else (k, 1)
def Lk.update (k : Lk) (e : Et) : Lk × Int :=
  if e.f.last = 0 then (k, 1)
  else if e.f.st = 0 then (k.upd (!e.s) fun w => { w with rm := gvN w.rm e.f.last }, gvC (k.wy (!e.s)).rm e.f.last)
  else if (e.s && k.T.st e.f.st == 6) = true then (k, 0)
  else
    let r := k.happen e.s e.f.st 7
    if r.2.1 ≠ 0 then (r.1, r.2.1)
    else if r.2.2 = true then (r.1, 0)
    else
      let x := (look (r.1.wy (!e.s)).rw e.f.st).getD 0
      (r.1.upd (!e.s) fun w => { w with rw := putm w.rw e.f.st (gvN x e.f.last) }, gvC x e.f.last)
def Lk.byType (k : Lk) (e : Et) : Lk × Int :=
  if e.f.ty = 1 then k.headers e
  else if e.f.ty = 5 then k.promise e
  else if e.f.ty = 9 then k.continuation e
  else if e.f.ty = 0 then (if e.s = true then k.sendData e else k.getData e)
  else if e.f.ty = 3 then k.resets e
  else if e.f.ty = 4 then k.settings e
  else if e.f.ty = 6 then k.ping e
  else if e.f.ty = 7 then (k.upd e.s fun w => { w with ga := true }, 0)
  else if e.f.ty = 8 then k.update e
  else if e.f.ty = 2 then ((k.happen e.s e.f.st 8).1, (k.happen e.s e.f.st 8).2.1)
  else (k, 0)
/-- an entry stands behind the others: its code -/
def Lk.take (k : Lk) (e : Et) : Lk × Int :=
  if (k.wy true).ga = true then (k, 1)
  else if k.form e ≠ 0 then (k, k.form e)
  else if (k.early e || k.astray e) = true then (k, 1)
  else if k.late e = true then (k, 5)
  else (k.upd e.s fun w => { w with bg := true }).byType e
def chk (k : Lk) : List Et → Nat → Int × Int
  | [], _ => (-1, 0)
  | e :: r, i => if (k.take e).2 = 0 then chk (k.take e).1 r (i + 1) else ((i : Int), (k.take e).2)
/-- what Check tells -/
def checkS (l : List Et) (c : Bool) : Int × Int := chk (Lk.new c) l 0
end Go.Proofs.YtfmljlflnpmceaaGreatDoor
/- A map by what it holds. -/
namespace Go.Proofs.YtfmljlflnpmceaaGreatDoor
open Go.RowKit Go.Maps
set_option linter.unusedVariables false
set_option linter.unusedSimpArgs false
def hd (v : Value) : Option (DataW Value × List MemPlace) := some (.held v, [])
/-- a map with int64 keys: at most m elements, what lies at a key -/
def MV (w : World) (b m : Nat) (g : Int → Option Value) : Prop :=
  ∃ n D, n ≤ m ∧ w.ownsMap Tryz.prog 2 hd b n D ∧ Tidy D ∧ (∀ (id : Int) (z : DataW Value), D.atKey (.int .i64 id) z = ((g id).map DataW.held).getD z) ∧ ∀ id : Int, has D (.int .i64 id) = (g id).isSome
theorem MV.lt {w : World} {b m : Nat} {g : Int → Option Value} (h : MV w b m g) : b < w.heap.size := by
  obtain ⟨n, D, _, ⟨es, clock, h1, _⟩, _⟩ := h
  exact heap_lt h1
theorem MV.stays {w w' : World} {b m : Nat} {g : Int → Option Value} (h : MV w b m g) (hb : w'.heap[b]? = w.heap[b]?) : MV w' b m g := by
  obtain ⟨n, D, h0, ⟨es, clock, h1, h2⟩, h3⟩ := h
  exact ⟨n, D, h0, ⟨es, clock, hb.trans h1, h2⟩, h3⟩
theorem MV.below {w w' : World} {b m : Nat} {g : Int → Option Value} (h : MV w b m g) (hb : Below w.heap.size w w') : MV w' b m g := h.stays (hb.block _ h.lt)
theorem MV.more {w : World} {b m m' : Nat} {g : Int → Option Value} (h : MV w b m g) (hm : m ≤ m') : MV w b m' g := by
  obtain ⟨n, D, h0, h1⟩ := h
  exact ⟨n, D, Nat.le_trans h0 hm, h1⟩
/-- it is no block of cells -/
theorem MV.ne {w : World} {b m k : Nat} {g : Int → Option Value} {c : Array Value} {t : TypeId} {fz : Nat × Nat} (h : MV w b m g) (hk : w.heap[k]? = some (.cells c t fz)) : k ≠ b := by
  rintro rfl
  obtain ⟨n, D, _, ⟨es, clock, h1, _⟩, _⟩ := h
  rw [h1] at hk
  cases hk
theorem zero73 : ∀ w, (zeroValue 73).run Tryz.prog w = .ok (.pointer none) w := fun w => by kernel_rfl
theorem zero95 : ∀ w, (zeroValue 95).run Tryz.prog w = .ok (.agg #[]) w := fun w => by kernel_rfl
theorem keyLitI (id : Int) : WideAt.IsKeyLit (.int .i64 id) := trivial
/-- an element by its key -/
theorem MV.look {w : World} {b m : Nat} {g : Int → Option Value} (h : MV w b m g) {id : Int} (hid : I64 id) : (Instr.lookup 74 (.map (some b)) (.int .i64 id) false).run Tryz.prog w = .ok ((g id).getD (.pointer none)) w := by
  obtain ⟨n, D, h0, h1, h2, h3, h4⟩ := h
  obtain ⟨v, ps, hrun, hv⟩ := h1.lookup law2 (t := 74) (e := 73) Tryz.underlying74 (zero73 w) (zd := .held (.pointer none)) (zp := []) rfl (keyOf_int_mk Tryz.underlying2 (WalkArith.wf_i64 hid))
  rw [h3] at hv
  cases hg : g id with
  | none =>
    rw [hg] at hv
    simp [hd] at hv
    rw [hrun, hv.1]
    rfl
  | some x =>
    rw [hg] at hv
    simp [hd] at hv
    rw [hrun, hv.1]
    rfl
/-- whether there is one -/
theorem MV.look2 {w : World} {b m : Nat} {g : Int → Option Value} (h : MV w b m g) (hg : ∀ id x, g id = some x → x = .agg #[]) {id : Int} (hid : I64 id) : (Instr.lookup 71 (.map (some b)) (.int .i64 id) true).run Tryz.prog w = .ok (.tuple #[.agg #[], .bool (g id).isSome]) w := by
  obtain ⟨n, D, h0, h1, h2, h3, h4⟩ := h
  obtain ⟨v, ps, hrun, hv⟩ := h1.look_ok law2 (t := 71) (e := 95) Tryz.underlying71 (zero95 w) (zd := .held (.agg #[])) (zp := []) rfl (keyOf_int_mk Tryz.underlying2 (WalkArith.wf_i64 hid))
  rw [h3] at hv
  rw [h4] at hrun
  cases hx : g id with
  | none =>
    rw [hx] at hv hrun
    simp [hd] at hv
    rw [hrun, hv.1]
  | some x =>
    rw [hx] at hv hrun
    simp [hd] at hv
    rw [hrun, hv.1, hg id x hx]
/-- one more -/
theorem MV.put {w : World} {b m : Nat} {g : Int → Option Value} (h : MV w b m g) (hm : m < maxLen) {t e : TypeId} (ht : Tryz.prog.underlying t = some (.map 2 e)) {id : Int} (hid : I64 id) (v : Value) :
    ∃ w', (Instr.mapUpdate t (.map (some b)) (.int .i64 id) v).run Tryz.prog w = .ok () w' ∧ MV w' b (m + 1) (fun j => if j = id then some v else g j) ∧ Ks (fun k => k = b) w w' := by
  obtain ⟨n, D, h0, h1, h2, h3, h4⟩ := h
  obtain ⟨w', hrun, ho, hg⟩ := h1.update law2 (t := t) (e := e) ht (by omega) (keyOf_int_mk Tryz.underlying2 (WalkArith.wf_i64 hid)) (val := v) (d := .held v) (ps := []) rfl
  refine ⟨w', hrun, ⟨n + 1, _, by omega, ho, h2.put (keyLitI id) _, fun j z => ?_, fun j => ?_⟩, ⟨hg.os, hg.tape, hg.output, hg.size, fun k hk hne => hg.block k hk (fun e => hne (Option.some.inj e))⟩⟩
  · by_cases e : j = id
    · subst e
      rw [atKey_put_same h2.isMap (keyLitI _)]
      simp
    · rw [atKey_put_other (fun h => e (by injection h)), h3]
      simp [e]
  · by_cases e : j = id
    · subst e
      rw [has_put_same h2.isMap (keyLitI _)]
      simp
    · rw [has_put_other (fun h => e (by injection h)), h4]
      simp [e]
theorem MV.new (w : World) : MV (w.alloc (.map #[] 0)) w.heap.size 0 (fun _ => none) :=
  ⟨0, .map [], Nat.le_refl _, World.ownsMap_made w Tryz.prog 2 hd, ⟨[], rfl, by simp⟩, fun id z => by simp [DataW.atKey], fun id => by simp [has]⟩
end Go.Proofs.YtfmljlflnpmceaaGreatDoor
/- The PINGs that wait: a slice of texts, appended to and cut ahead. -/
namespace Go.Proofs.YtfmljlflnpmceaaGreatDoor
open Go.RowKit
set_option linter.unusedVariables false
set_option linter.unusedSimpArgs false
abbrev ss (x : ByteArray) : Value := .string x
def ESt : El ByteArray := ⟨70, 9, 1, 16, fun x => [ss x]⟩
theorem okSt : ESt.Ok := ⟨Tryz.underlying70, by kernel_rfl, by decide, by decide, fun _ => rfl, fun a u hu => by
  simp only [ESt, List.mem_cons, List.not_mem_nil, or_false] at hu
  subst hu; rfl⟩
/-- The slice holds these slices; behind them, up to its capacity, there is room. -/
def WSr (w : World) (v : Value) (l : List ByteArray) : Prop :=
  (v = .slice none 0 0 ∧ l = []) ∨ ∃ g off cap cur, v = .slice (some ⟨g, off, none⟩) l.length cap ∧ w.heap[g]? = some (.cells cur 9 (0, 0)) ∧ l.length ≤ cap ∧ cap ≤ 9223372036854775807 ∧ off + cap ≤ cur.size ∧ (cur.toList.drop off).take l.length = ESt.cs l
theorem WSr.slice {w : World} {v : Value} {l : List ByteArray} (h : WSr w v l) : ∃ base cap, v = .slice base l.length cap ∧ l.length ≤ cap ∧ cap ≤ 9223372036854775807 := by
  rcases h with ⟨rfl, rfl⟩ | ⟨g, off, cap, cur, rfl, _, h1, h2, _⟩
  · exact ⟨none, 0, rfl, Nat.le_refl _, by omega⟩
  · exact ⟨_, cap, rfl, h1, h2⟩
theorem WSr.lt {w : World} {v : Value} {l : List ByteArray} (h : WSr w v l) : ∀ k, v.ownBlock = some k → k < w.heap.size ∧ ∃ c, w.heap[k]? = some (.cells c 9 (0, 0)) := by
  rcases h with ⟨rfl, rfl⟩ | ⟨g, off, cap, cur, rfl, hg, _⟩
  · intro k hk; simp [Value.ownBlock] at hk
  · intro k hk
    simp [Value.ownBlock] at hk
    subst hk
    exact ⟨heap_lt hg, _, hg⟩
theorem WSr.same {w w' : World} {v : Value} {l : List ByteArray} (h : WSr w v l) (hb : ∀ k, v.ownBlock = some k → w'.heap[k]? = w.heap[k]?) : WSr w' v l := by
  rcases h with h | ⟨g, off, cap, cur, rfl, hg, rest⟩
  · exact .inl h
  · exact .inr ⟨g, off, cap, cur, rfl, (hb g rfl).trans hg, rest⟩
theorem WSr.below {w w' : World} {v : Value} {l : List ByteArray} (h : WSr w v l) (hb : Below w.heap.size w w') : WSr w' v l := h.same fun k hk => hb.block k (h.lt k hk).1
theorem ss_cell {cur : Array Value} {off : Nat} {l : List ByteArray} (h : (cur.toList.drop off).take l.length = ESt.cs l) (j : Nat) (hj : j < l.length) : cur[off + j]? = some (ss l[j]) := by
  have h1 : ((cur.toList.drop off).take l.length)[j]? = (ESt.cs l)[j]? := by rw [h]
  rw [List.getElem?_take, if_pos hj, List.getElem?_drop] at h1
  have h2 := okSt.get l j 0 hj (by decide)
  simp only [ESt, Nat.mul_one, Nat.add_zero] at h2
  rw [← Array.getElem?_toList, h1]
  exact h2

/-- the first of them, and the others -/
theorem WSr.first {w : World} {v : Value} {x : ByteArray} {l : List ByteArray} (h : WSr w v (x :: l)) : ∃ g off cap, v = .slice (some ⟨g, off, none⟩) (l.length + 1) cap ∧ l.length + 1 ≤ cap ∧ cap ≤ 9223372036854775807 ∧ w.cell? ⟨g, off, none⟩ = some (ss x) ∧ g < w.heap.size ∧
    (cap = 1 → WSr w (.slice (some ⟨g, off, none⟩) l.length (cap - 1)) l) ∧ (cap ≠ 1 → WSr w (.slice (some ⟨g, off + 1, none⟩) l.length (cap - 1)) l) := by
  rcases h with ⟨_, h0⟩ | ⟨g, off, cap, cur, rfl, hg, h1, h2, h3, h4⟩
  · cases h0
  · have hc := ss_cell h4 0 (by simp)
    simp only [List.length_cons] at h1 h4
    refine ⟨g, off, cap, rfl, h1, h2, (cell_blk hg off).trans hc, heap_lt hg, fun e => ?_, fun e => ?_⟩
    · have hl : l = [] := List.eq_nil_of_length_eq_zero (by omega)
      subst hl
      exact .inr ⟨g, off, cap - 1, cur, rfl, hg, by simp, by omega, by omega, rfl⟩
    · refine .inr ⟨g, off + 1, cap - 1, cur, rfl, hg, by omega, by omega, by omega, ?_⟩
      have e1 : ESt.cs (x :: l) = ss x :: ESt.cs l := rfl
      rw [e1] at h4
      have h5 := congrArg (List.drop 1) h4
      rw [List.drop_take, List.drop_drop] at h5
      simpa using h5

/-- append of one -/
theorem wsr_push (w : World) (v : Value) (l : List ByteArray) (hR : WSr w v l) (x : ByteArray) (B : Nat) (hB : w.heap[B]? = some (.cells #[ss x] 9 (0, 0))) (hlen : l.length ≤ 1099511627776) :
    ∃ b c w', (Builtin.append_ #[70, 70] 70 #[v, .slice (some ⟨B, 0, none⟩) 1 1]).run Tryz.prog w = .ok (.slice b (l.length + 1) c) w' ∧ WSr w' (.slice b (l.length + 1) c) (l ++ [x]) ∧ Gr w w' v (.slice b (l.length + 1) c) := by
  obtain ⟨i0, z, hi0, hz0, hz1, hz2, hz3⟩ := info_z okSt
  have hz1' : i0.size = 1 := hz1
  have hz2' : i0.bytes = 16 := hz2
  have hz3' : z.cells.size = 1 := hz3
  have hone : ∀ u ∈ ([ss x] : List Value), u.oneCell' = true := by intro u hu; simp at hu; subst hu; rfl
  have hcell : ∀ j u, ([ss x] : List Value)[j]? = some u → w.cell? ((⟨B, 0, none⟩ : Addr).add j) = some u := by
    intro j u hj
    rw [Addr.add_lit, cell_blk hB, Nat.zero_add]
    simpa using hj
  have hcsx : ESt.cs [x] = [ss x] := rfl
  have hll : (l ++ [x]).length = l.length + 1 := by simp
  have hclen : (ESt.cs l).length = l.length := by rw [okSt.length]; exact Nat.mul_one _
  have fin : ∀ (c0 : Nat) (D : Array Value) (hD : D.toList.take (l.length + 1) = ESt.cs l ++ [ss x]) (hDs : D.size = c0) (hc : l.length + 1 ≤ c0) (hm : c0 ≤ maxLen),
      WSr (w.drew.alloc (.cells D 9)) (.slice (some ⟨w.heap.size, 0, none⟩) (l.length + 1) c0) (l ++ [x]) ∧ Gr w (w.drew.alloc (.cells D 9)) v (.slice (some ⟨w.heap.size, 0, none⟩) (l.length + 1) c0) := by
    intro c0 D hD hDs hc hm
    refine ⟨.inr ⟨w.heap.size, 0, c0, D, by rw [hll], heap_alloc_new w.drew _, by rw [hll]; exact hc, by unfold maxLen at hm; omega, by omega, ?_⟩, rfl, rfl, rfl, by simp, fun k hk _ => heap_alloc_old w.drew _ hk, fun k hk => by simp [Value.ownBlock] at hk; exact .inr (by omega)⟩
    rw [hll, List.drop_zero, El.cs_append, hcsx]
    exact hD
  rcases hR with ⟨rfl, rfl⟩ | ⟨g, off, cap, cur, rfl, hg, h1, h2, h3, h4⟩
  · have hr := run_append_nil (P := Tryz.prog) w 70 70 9 i0 z Tryz.underlying70 hi0 hz0 ⟨B, 0, none⟩ 1 1 [ss x] (by rw [hz1']; rfl) hcell (by omega) (by omega) (by rw [hz2']; omega)
    have hge := grownCap_ge w 1 0 9
    have hF := fin (grownCap w 1 0 9) ([ss x].toArray ++ Builtin.zeroCells z.cells (grownCap w 1 0 9 - 1)) (by simp [El.cs]) (by simp [size_zeroCells, hz3']; omega) (by simpa using hge) (grownCap_le_maxLen w 1 0 9 (by unfold maxLen; omega))
    exact ⟨_, _, _, hr, hF.1, hF.2⟩
  · by_cases hroom : l.length + 1 ≤ cap
    · have hr := run_append_room_cells (P := Tryz.prog) w 70 70 9 i0 Tryz.underlying70 hi0 g off l.length cap ⟨B, 0, none⟩ 1 1 [ss x] (by rw [hz1']; rfl) hcell hone hroom (by
        intro j hj
        simp at hj
        subst hj
        rw [cell_blk hg, hz1']
        simp
        omega) (fun j _ => frozen_blk hg _)
      rw [hz1', Nat.mul_one] at hr
      have hsc : w.setCells g (off + l.length) [ss x] = w.setCell ⟨g, off + l.length, none⟩ (ss x) := by simp [World.setCells]
      rw [hsc] at hr
      refine ⟨_, _, _, hr, .inr ⟨g, off, cap, _, by rw [hll], setCell_block _ _ _ _ _ _ _ hg, by rw [hll]; exact hroom, h2, by simpa using h3, ?_⟩, rfl, rfl, rfl, by simp [World.setCell], fun k _ hk => setCell_other _ _ _ _ _ (fun e => hk (by rw [e]; rfl)), fun k hk => .inl hk⟩
      rw [hll, El.cs_append, hcsx, ← h4, Array.toList_setIfInBounds]
      apply List.ext_getElem?
      intro j
      rw [List.getElem?_take, List.getElem?_drop, List.getElem?_set]
      by_cases hj : j < l.length
      · rw [if_pos (by omega), if_neg (by omega), List.getElem?_append_left (by simp; omega), List.getElem?_take, if_pos hj, List.getElem?_drop]
      · by_cases hj2 : j = l.length
        · subst hj2
          rw [if_pos (by omega), if_pos rfl, if_pos (by have hh : cur.toList.length = cur.size := Array.length_toList; omega), List.getElem?_append_right (by simp; omega)]
          have e : ((cur.toList.drop off).take l.length).length = l.length := by simp; omega
          rw [e, Nat.sub_self]
          rfl
        · rw [if_neg (by omega), List.getElem?_eq_none (by simp; omega)]
    · have hr := run_append_grow (P := Tryz.prog) w 70 70 9 i0 z Tryz.underlying70 hi0 hz0 ⟨g, off, none⟩ l.length cap (ESt.cs l) (by rw [hz1', hclen, Nat.mul_one]) (by
        intro j u hu
        have hj : j < l.length := by
          have := (List.getElem?_eq_some_iff.1 hu).1
          omega
        rw [Addr.add_lit, cell_blk hg, ss_cell h4 j hj]
        have h5 := okSt.get l j 0 hj (by decide)
        simp only [ESt, Nat.mul_one, Nat.add_zero] at h5
        exact h5.symm.trans hu) ⟨B, 0, none⟩ 1 1 [ss x] (by rw [hz1']; rfl) hcell (by omega) (by omega) (growslice_fits (by omega) (by rw [hz2']; omega))
      have hge := grownCap_ge w (l.length + 1) cap 9
      have hF := fin (grownCap w (l.length + 1) cap 9) ((ESt.cs l).toArray ++ [ss x].toArray ++ Builtin.zeroCells z.cells (grownCap w (l.length + 1) cap 9 - (l.length + 1))) (by
        simp only [Array.toList_append, List.toList_toArray]
        exact List.take_left' (by simp [hclen])) (by simp [size_zeroCells, hz3', hclen]; omega) hge (grownCap_le_maxLen w _ cap 9 (by unfold maxLen; omega))
      exact ⟨_, _, _, hr, hF.1, hF.2⟩

end Go.Proofs.YtfmljlflnpmceaaGreatDoor
/- A direction, and the whole of what Check keeps, in memory. -/
namespace Go.Proofs.YtfmljlflnpmceaaGreatDoor
open Go.RowKit
set_option linter.unusedVariables false
set_option linter.unusedSimpArgs false
/-- where a direction lies -/
structure WA where
  g : Nat
  rb : Nat
  wb : Nat
  b : Nat
  bv : Value
  rm : Nat
  pv : Value
  q : Int → Option Nat
def WB (a : WA) (k : Nat) : Prop := k = a.g ∨ k = a.rb ∨ k = a.wb ∨ k = a.b ∨ a.bv.ownBlock = some k ∨ k = a.rm ∨ a.pv.ownBlock = some k ∨ ∃ id, a.q id = some k
def wayc (a : WA) (x : Wy) : Array Value := #[.bool x.bg, .bool x.ga, .int .i64 x.bk, .int .i64 x.ln, a.pv, .map (some a.rb), .bool x.cl, .pointer (some ⟨a.b, 0, none⟩), .pointer (some ⟨a.rm, 0, none⟩), .map (some a.wb)]
def rsG (l : List Int) (id : Int) : Option Value := if l.contains id = true then some (.agg #[]) else none
def qG (q : Int → Option Nat) (id : Int) : Option Value := (q id).map fun k => .pointer (some ⟨k, 0, none⟩)
/-- a direction in memory; its maps have at most m elements -/
structure WI (w : World) (a : WA) (x : Wy) (m : Nat) : Prop where
  blk : w.heap[a.g]? = some (.cells (wayc a x) 76 (0, 0))
  pg : WSr w a.pv x.pg
  rs : MV w a.rb m (rsG x.rs)
  bk : Bk w a.b x.cl x.ac a.bv x.wt
  rm : Wd w a.rm x.rm
  rmB : InB x.rm
  rw : MV w a.wb m (qG a.q)
  rq : ∀ id, (look x.rw id).isSome = (a.q id).isSome
  rd : ∀ id k, a.q id = some k → ∃ n, look x.rw id = some n ∧ Wd w k n ∧ InB n
  inj : ∀ i j k, a.q i = some k → a.q j = some k → i = j
  nr : ∀ i k, a.q i = some k → k ≠ a.rm
  srt : Srt x.rw
  ne : a.rb ≠ a.wb
theorem bk_row_ty {w : World} {b : Nat} {c : Bool} {s : St} {v : Value} {L : List St} (h : Bk w b c s v L) {k : Nat} (hk : v.ownBlock = some k) : ∃ cc, w.heap[k]? = some (.cells cc 92 (0, 0)) := h.row.ty k hk
theorem WI.lt {w : World} {a : WA} {x : Wy} {m k : Nat} (h : WI w a x m) (hk : WB a k) : k < w.heap.size := by
  rcases hk with rfl | rfl | rfl | rfl | hk | rfl | hk | ⟨id, hk⟩
  · exact heap_lt h.blk
  · exact h.rs.lt
  · exact h.rw.lt
  · exact h.bk.lt
  · exact h.bk.row.lt k hk
  · exact h.rm.lt
  · exact (h.pg.lt k hk).1
  · obtain ⟨n, _, hw, _⟩ := h.rd id k hk
    exact hw.lt
theorem WI.keep {w w' : World} {a : WA} {x : Wy} {m : Nat} (h : WI w a x m) (hk : ∀ k, WB a k → w'.heap[k]? = w.heap[k]?) : WI w' a x m where
  blk := (hk _ (.inl rfl)).trans h.blk
  pg := h.pg.same fun k hp => hk k (.inr (.inr (.inr (.inr (.inr (.inr (.inl hp)))))))
  rs := h.rs.stays (hk _ (.inr (.inl rfl)))
  bk := ⟨(hk _ (.inr (.inr (.inr (.inl rfl))))).trans h.bk.blk, h.bk.row.stays fun k hp _ => hk k (.inr (.inr (.inr (.inr (.inl hp))))), h.bk.len⟩
  rm := (hk _ (.inr (.inr (.inr (.inr (.inr (.inl rfl))))))).trans h.rm
  rmB := h.rmB
  rw := h.rw.stays (hk _ (.inr (.inr (.inl rfl))))
  rq := h.rq
  rd := fun id k hq => by
    obtain ⟨n, h1, h2, h3⟩ := h.rd id k hq
    exact ⟨n, h1, (hk k (.inr (.inr (.inr (.inr (.inr (.inr (.inr ⟨id, hq⟩)))))))).trans h2, h3⟩
  inj := h.inj
  nr := h.nr
  srt := h.srt
  ne := h.ne
theorem WI.below {w w' : World} {a : WA} {x : Wy} {m : Nat} (h : WI w a x m) (hb : Below w.heap.size w w') : WI w' a x m := h.keep fun k hk => hb.block k (h.lt hk)
theorem WI.more {w : World} {a : WA} {x : Wy} {m m' : Nat} (h : WI w a x m) (hm : m ≤ m') : WI w a x m' := ⟨h.blk, h.pg, h.rs.more hm, h.bk, h.rm, h.rmB, h.rw.more hm, h.rq, h.rd, h.inj, h.nr, h.srt, h.ne⟩
theorem ty_ne {w : World} {i j : Nat} {c c' : Array Value} {t t' : TypeId} {f f' : Nat × Nat} (hi : w.heap[i]? = some (.cells c t f)) (hj : w.heap[j]? = some (.cells c' t' f')) (h : t ≠ t') : i ≠ j := by
  rintro rfl
  rw [hi] at hj
  injection hj with e
  injection e with _ e _
  exact h e
/-- its own block is none of the others -/
theorem WI.off {w : World} {a : WA} {x : Wy} {m : Nat} (h : WI w a x m) : ∀ k, (k = a.rb ∨ k = a.wb ∨ k = a.b ∨ a.bv.ownBlock = some k ∨ k = a.rm ∨ a.pv.ownBlock = some k ∨ ∃ id, a.q id = some k) → k ≠ a.g := by
  intro k hk
  rcases hk with rfl | rfl | rfl | hk | rfl | hk | ⟨id, hk⟩
  · exact (h.rs.ne h.blk).symm
  · exact (h.rw.ne h.blk).symm
  · exact ty_ne h.bk.blk h.blk (by decide)
  · obtain ⟨cc, hc⟩ := bk_row_ty h.bk hk
    exact ty_ne hc h.blk (by decide)
  · exact ty_ne h.rm h.blk (by decide)
  · obtain ⟨_, cc, hc⟩ := h.pg.lt _ hk
    exact ty_ne hc h.blk (by decide)
  · obtain ⟨n, _, hw, _⟩ := h.rd id _ hk
    exact ty_ne hw h.blk (by decide)
/-- a field of it is written -/
theorem WI.set {w : World} {a : WA} {x x' : Wy} {m : Nat} (h : WI w a x m) (i : Nat) (v : Value) (hc : (wayc a x).setIfInBounds i v = wayc a x') (h1 : x'.pg = x.pg) (h2 : x'.rs = x.rs) (h3 : x'.cl = x.cl) (h4 : x'.ac = x.ac) (h5 : x'.wt = x.wt) (h6 : x'.rm = x.rm) (h7 : x'.rw = x.rw) : WI (w.setCell ⟨a.g, i, none⟩ v) a x' m := by
  have ho : ∀ k, k ≠ a.g → (w.setCell ⟨a.g, i, none⟩ v).heap[k]? = w.heap[k]? := fun k hk => setCell_other _ _ _ _ _ hk
  have hof := h.off
  exact {
    blk := by rw [setCell_block _ _ _ _ _ _ _ h.blk, hc]
    pg := by rw [h1]; exact h.pg.same fun k hk => ho k (hof k (.inr (.inr (.inr (.inr (.inr (.inl hk)))))))
    rs := by rw [h2]; exact h.rs.stays (ho _ (hof _ (.inl rfl)))
    bk := by rw [h3, h4, h5]; exact ⟨(ho _ (hof _ (.inr (.inr (.inl rfl))))).trans h.bk.blk, h.bk.row.stays fun k hk _ => ho k (hof k (.inr (.inr (.inr (.inl hk))))), h.bk.len⟩
    rm := by rw [h6]; exact (ho _ (hof _ (.inr (.inr (.inr (.inr (.inl rfl))))))).trans h.rm
    rmB := by rw [h6]; exact h.rmB
    rw := h.rw.stays (ho _ (hof _ (.inr (.inl rfl))))
    rq := by rw [h7]; exact h.rq
    rd := fun id k hq => by
      obtain ⟨n, e1, e2, e3⟩ := h.rd id k hq
      exact ⟨n, by rw [h7]; exact e1, (ho k (hof k (.inr (.inr (.inr (.inr (.inr (.inr ⟨id, hq⟩)))))))).trans e2, e3⟩
    inj := h.inj
    nr := h.nr
    srt := by rw [h7]; exact h.srt
    ne := h.ne }
end Go.Proofs.YtfmljlflnpmceaaGreatDoor
/- An entry's turn; what it is asked. -/
namespace Go.Proofs.YtfmljlflnpmceaaGreatDoor
open Go.RowKit
set_option linter.unusedVariables false
set_option linter.unusedSimpArgs false
/-- an entry's turn: the look's block, its frame, its params' slice, whether it was sent, the blocks of its way and of the way back -/
structure Tn where
  lk : Nat
  f : Fm.Fr
  p : Value
  s : Bool
  wa : Nat
  bk : Nat
def tnv (t : Tn) : Array Value := #[.pointer (some ⟨t.lk, 0, none⟩), .int .i64 t.f.ty, .int .i64 t.f.fl, .int .i64 t.f.st, .string t.f.data, .int .i64 t.f.pad, .int .i64 t.f.dep, .bool t.f.excl, .int .i64 t.f.wt, .int .i64 t.f.code, .int .i64 t.f.last, t.p, .bool t.s, .pointer (some ⟨t.wa, 0, none⟩), .pointer (some ⟨t.bk, 0, none⟩)]
set_option maxRecDepth 100000 in
set_option maxHeartbeats 2000000 in
theorem has_any (t : Tn) (m : Int) (w : World) : Calls Tryz.prog 38 #[.agg (tnv t), .int .i64 m] w fun e w' => e = .returned (.bool (Fm.hasF t.f.fl m)) ∧ Below w.heap.size w w' := by
  obtain ⟨lk, ⟨ty, fl, st, da, pa, de, ex, wt, co, la⟩, p, s, wa, bk⟩ := t
  simp only [tnv]
  go_enter Tryz.func38, Tryz.ntmps38
  go_wp2_with fail
  go_ret
  exact ⟨rfl, bel1 _ _⟩
set_option maxRecDepth 100000 in
set_option maxHeartbeats 2000000 in
theorem kind_any (t : Tn) (a b : Int) (w : World) : Calls Tryz.prog 53 #[.agg (tnv t), .int .i64 a, .int .i64 b] w fun e w' => e = .returned (.int .i64 (if Fm.hasF t.f.fl 1 = true then b else a)) ∧ Below w.heap.size w w' := by
  have HH : Hid (∀ V, Calls Tryz.prog 38 #[.agg (tnv t), .int .i64 1] V fun e w' => e = .returned (.bool (Fm.hasF t.f.fl 1)) ∧ Below V.heap.size V w') := fun V => has_any t 1 V
  obtain ⟨lk, ⟨ty, fl, st, da, pa, de, ex, wt, co, la⟩, p, s, wa, bk⟩ := t
  simp only [tnv] at HH ⊢
  obtain ⟨h, hh⟩ : ∃ h, Fm.hasF fl 1 = h := ⟨_, rfl⟩
  rw [hh] at HH ⊢
  clear hh
  go_enter Tryz.func53, Tryz.ntmps53
  go_wp2_with fail
  go_at_call 38
  refine (HH.out _).mono ?_
  rintro e w1 ⟨rfl, b1⟩
  have HB : Hid (Below w.heap.size w w1) := (bel1 _ _).trans (b1.mono (by simp))
  clear b1 HH
  cases h
  all_goals
    go_wp2_with fail
    go_ret
    exact ⟨rfl, HB.out⟩
/-- its way's cells -/
def Wc (w : World) (g : Nat) (a : WA) (x : Wy) : Prop := w.cell? ⟨g, 0, none⟩ = some (.bool x.bg) ∧ w.cell? ⟨g, 1, none⟩ = some (.bool x.ga) ∧ w.cell? ⟨g, 2, none⟩ = some (.int .i64 x.bk) ∧ w.cell? ⟨g, 3, none⟩ = some (.int .i64 x.ln) ∧ w.cell? ⟨g, 4, none⟩ = some a.pv ∧ w.cell? ⟨g, 5, none⟩ = some (.map (some a.rb)) ∧ w.cell? ⟨g, 6, none⟩ = some (.bool x.cl) ∧ w.cell? ⟨g, 7, none⟩ = some (.pointer (some ⟨a.b, 0, none⟩)) ∧ w.cell? ⟨g, 8, none⟩ = some (.pointer (some ⟨a.rm, 0, none⟩)) ∧ w.cell? ⟨g, 9, none⟩ = some (.map (some a.wb)) ∧ g < w.heap.size
theorem WI.cells {w : World} {a : WA} {x : Wy} {m : Nat} (h : WI w a x m) : Wc w a.g a x := ⟨cell_blk h.blk 0, cell_blk h.blk 1, cell_blk h.blk 2, cell_blk h.blk 3, cell_blk h.blk 4, cell_blk h.blk 5, cell_blk h.blk 6, cell_blk h.blk 7, cell_blk h.blk 8, cell_blk h.blk 9, heap_lt h.blk⟩
set_option maxRecDepth 100000 in
set_option maxHeartbeats 2000000 in
theorem isEarly_any (t : Tn) (a : WA) (x : Wy) (m : Nat) (w : World) (h : WI w a x m) (hg : t.wa = a.g) : Calls Tryz.prog 29 #[.agg (tnv t)] w fun e w' => e = .returned (.bool (!x.bg && (!(t.f.ty == 4) || Fm.hasF t.f.fl 1))) ∧ Below w.heap.size w w' := by
  have HH : Hid (∀ V, Calls Tryz.prog 38 #[.agg (tnv t), .int .i64 1] V fun e w' => e = .returned (.bool (Fm.hasF t.f.fl 1)) ∧ Below V.heap.size V w') := fun V => has_any t 1 V
  obtain ⟨c0, c1, c2, c3, c4, c5, c6, c7, c8, c9, lt⟩ := h.cells
  clear c1 c2 c3 c4 c5 c6 c7 c8 c9 h
  obtain ⟨lk, ⟨ty, fl, st, da, pa, de, ex, wt, co, la⟩, p, s, wa, bk⟩ := t
  simp only at hg
  subst hg
  simp only [tnv] at HH ⊢
  obtain ⟨q, hq⟩ : ∃ h, Fm.hasF fl 1 = h := ⟨_, rfl⟩
  rw [hq] at HH ⊢
  clear hq
  obtain ⟨bg, hbg⟩ : ∃ b, x.bg = b := ⟨_, rfl⟩
  rw [hbg] at c0 ⊢
  clear hbg
  cases bg
  · by_cases h4 : ty = 4
    · subst h4
      go_enter Tryz.func29, Tryz.ntmps29
      go_wp2_with fail
      go_at_call 38
      refine (HH.out _).mono ?_
      rintro e w1 ⟨rfl, b1⟩
      have HB : Hid (Below w.heap.size w w1) := (bel1 _ _).trans (b1.mono (by simp))
      clear b1 HH
      go_wp2_with fail
      go_ret
      exact ⟨by first | rfl | simp, HB.out⟩
    · have h4b : (ty == 4) = false := beq_eq_false_iff_ne.2 h4
      go_enter Tryz.func29, Tryz.ntmps29
      go_wp2_with fail
      go_ret
      exact ⟨by first | rfl | simp [h4b], bel1 _ _⟩
  · go_enter Tryz.func29, Tryz.ntmps29
    go_wp2_with fail
    go_ret
    exact ⟨by first | rfl | simp, bel1 _ _⟩
end Go.Proofs.YtfmljlflnpmceaaGreatDoor
/- Whether it stands in another's block; whether its stream was reset. -/
namespace Go.Proofs.YtfmljlflnpmceaaGreatDoor
open Go.RowKit
set_option linter.unusedVariables false
set_option linter.unusedSimpArgs false
set_option maxRecDepth 100000 in
set_option maxHeartbeats 4000000 in
theorem isAstray_any (t : Tn) (a : WA) (x : Wy) (m : Nat) (w : World) (h : WI w a x m) (hg : t.wa = a.g) : Calls Tryz.prog 30 #[.agg (tnv t)] w fun e w' => e = .returned (.bool (if t.f.ty = 9 then !(x.bk == t.f.st) else !(x.bk == 0))) ∧ Below w.heap.size w w' := by
  obtain ⟨c0, c1, c2, c3, c4, c5, c6, c7, c8, c9, lt⟩ := h.cells
  clear c0 c1 c3 c4 c5 c6 c7 c8 c9 h
  obtain ⟨lk, ⟨ty, fl, st, da, pa, de, ex, wt, co, la⟩, p, s, wa, bk⟩ := t
  simp only at hg
  subst hg
  simp only [tnv]
  by_cases h9 : ty = 9
  · subst h9
    go_enter Tryz.func30, Tryz.ntmps30
    go_wp2_with fail
    go_region
    all_goals
      go_wp2_with fail
      go_ret
      exact ⟨by first | rfl | (simp; rfl) | simp [bne], by first | exact bel1 _ _ | exact (bel1 _ _).drew⟩
  · have h9b : (ty == 9) = false := beq_eq_false_iff_ne.2 h9
    go_enter Tryz.func30, Tryz.ntmps30
    go_wp2_with fail
    go_ret
    exact ⟨by first | rfl | (rw [if_neg h9]; rfl) | simp [h9, bne], bel1 _ _⟩
set_option maxRecDepth 100000 in
set_option maxHeartbeats 8000000 in
theorem isLate_any (t : Tn) (a : WA) (x : Wy) (m : Nat) (w : World) (h : WI w a x m) (hg : t.wa = a.g) (hs : I64 t.f.st) : Calls Tryz.prog 31 #[.agg (tnv t)] w fun e w' => e = .returned (.bool (isLateT t.f.ty && x.rs.contains t.f.st)) ∧ Below w.heap.size w w' := by
  have HR : Hid (∀ V, Below w.heap.size w V → (Instr.lookup 71 (.map (some a.rb)) (.int .i64 t.f.st) true).run Tryz.prog V = .ok (.tuple #[.agg #[], .bool (x.rs.contains t.f.st)]) V) := fun V hV => by
    have := (h.rs.below hV).look2 (fun id y hy => by unfold rsG at hy; split at hy; injection hy with e; exact e.symm; cases hy) hs
    rw [this]
    unfold rsG
    cases x.rs.contains t.f.st <;> rfl
  obtain ⟨c0, c1, c2, c3, c4, c5, c6, c7, c8, c9, lt⟩ := h.cells
  clear c0 c1 c2 c3 c4 c6 c7 c8 c9 h
  obtain ⟨lk, ⟨ty, fl, st, da, pa, de, ex, wt, co, la⟩, p, s, wa, bk⟩ := t
  simp only at hg
  subst hg
  simp only [tnv] at HR ⊢
  obtain ⟨q, hq⟩ : ∃ q, x.rs.contains st = q := ⟨_, rfl⟩
  rw [hq] at HR ⊢
  clear hq hs
  by_cases hl : ty = 1 ∨ ty = 5 ∨ ty = 0 ∨ ty = 3 ∨ ty = 8
  · have e : isLateT ty = true := by unfold isLateT; rcases hl with rfl | rfl | rfl | rfl | rfl <;> rfl
    rw [e]
    clear e
    obtain ⟨W, hW⟩ : ∃ V, w.alloc (.cells #[.pointer (some ⟨lk, 0, none⟩), .int .i64 ty, .int .i64 fl, .int .i64 st, .string da, .int .i64 pa, .int .i64 de, .bool ex, .int .i64 wt, .int .i64 co, .int .i64 la, p, .bool s, .pointer (some ⟨a.g, 0, none⟩), .pointer (some ⟨bk, 0, none⟩)] 78) = V := ⟨_, rfl⟩
    have r1 := HR.out W.drew (by rw [← hW]; exact (bel1 _ _).drew)
    have r2 := HR.out (W.alloc (.cells #[] 95)).drew (by rw [← hW]; exact ((bel1 _ _).alloc (by simp) _).drew)
    rw [← hW] at r1 r2
    clear hW HR
    rcases hl with rfl | rfl | rfl | rfl | rfl
    all_goals
      go_enter Tryz.func31, Tryz.ntmps31
      go_wp2_with fail
      go_region
      all_goals
        go_wp2_with fail
        go_ret
        exact ⟨by first | rfl | simp, by first | exact ((bel1 _ _).alloc (by simp) _).drew | exact ((bel1 _ _).drew).alloc (by simp) _ | exact (((bel1 _ _).drew).alloc (by simp) _).drew⟩
  · have e : isLateT ty = false := by unfold isLateT; simp; omega
    rw [e]
    have e1 : (ty == 1) = false := beq_eq_false_iff_ne.2 (by omega)
    have e5 : (ty == 5) = false := beq_eq_false_iff_ne.2 (by omega)
    have e0 : (ty == 0) = false := beq_eq_false_iff_ne.2 (by omega)
    have e3 : (ty == 3) = false := beq_eq_false_iff_ne.2 (by omega)
    have e8 : (ty == 8) = false := beq_eq_false_iff_ne.2 (by omega)
    clear HR e hl
    go_enter Tryz.func31, Tryz.ntmps31
    go_wp2_with fail
    go_ret
    exact ⟨by first | rfl | simp, bel1 _ _⟩
end Go.Proofs.YtfmljlflnpmceaaGreatDoor
