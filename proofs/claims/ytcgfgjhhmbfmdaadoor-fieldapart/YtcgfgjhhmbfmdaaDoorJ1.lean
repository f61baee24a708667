/- FieldApart: the rows as they come; plain facts. -/
import Derived.Test.YtcgfgjhhmbfmdaaDoorJ0
import Derived.Test.YtcgfgjhhmbfmdaaDoorI1
namespace Go.Proofs.YtcgfgjhhmbfmdaaDoor
open Go.RowKit Go.Maps
set_option linter.unusedVariables false
set_option linter.unusedSimpArgs false

/-- rows that came one behind the other, from lo on, below hi -/
def Spr (hi : Nat) : Nat → List SV → Prop
  | lo, [] => lo ≤ hi
  | lo, v :: r => ∃ m, lo ≤ m ∧ (∀ k, (sv v).ownBlock = some k → lo ≤ k ∧ k < m) ∧ Spr hi m r
theorem Spr.le {hi : Nat} : ∀ {vs : List SV} {lo : Nat}, Spr hi lo vs → lo ≤ hi
  | [], _, h => h
  | _ :: _, _, ⟨m, h1, _, h3⟩ => Nat.le_trans h1 (Spr.le h3)
theorem Spr.at {hi : Nat} : ∀ {vs : List SV} {lo : Nat}, Spr hi lo vs → ∀ i (h : i < vs.length) k, (sv vs[i]).ownBlock = some k → lo ≤ k ∧ k < hi
  | [], _, _, i, h, _, _ => absurd h (by simp)
  | v :: r, lo, ⟨m, h1, h2, h3⟩, 0, _, k, hk => by have q := h2 k hk; have := Spr.le h3; exact ⟨q.1, by omega⟩
  | v :: r, lo, ⟨m, h1, h2, h3⟩, i + 1, h, k, hk => by
    have q := Spr.at h3 i (by simpa using h) k (by simpa using hk)
    exact ⟨by omega, q.2⟩
theorem Spr.apart {hi : Nat} : ∀ {vs : List SV} {lo : Nat}, Spr hi lo vs → ∀ i j (h : i < vs.length) (h' : j < vs.length), i < j → ∀ k, (sv vs[i]).ownBlock = some k → (sv vs[j]).ownBlock ≠ some k
  | [], _, _, i, _, h, _, _, _, _ => absurd h (by simp)
  | v :: r, lo, ⟨m, h1, h2, h3⟩, 0, j + 1, _, h', _, k, hk => fun e => by
    have q := h2 k hk
    have q' := Spr.at h3 j (by simpa using h') k (by simpa using e)
    omega
  | v :: r, lo, ⟨m, h1, h2, h3⟩, i + 1, j + 1, h, h', hij, k, hk => by
    have := Spr.apart h3 i j (by simpa using h) (by simpa using h') (by omega) k (by simpa using hk)
    simpa using this
theorem Spr.snoc {m hi : Nat} {v : SV} : ∀ {vs : List SV} {lo : Nat}, Spr m lo vs → m ≤ hi → (∀ k, (sv v).ownBlock = some k → m ≤ k ∧ k < hi) → Spr hi lo (vs ++ [v])
  | [], lo, h, h1, h2 => ⟨hi, Nat.le_trans h h1, fun k hk => ⟨Nat.le_trans h (h2 k hk).1, (h2 k hk).2⟩, Nat.le_refl _⟩
  | _ :: _, lo, ⟨x, q1, q2, q3⟩, h1, h2 => ⟨x, q1, q2, Spr.snoc q3 h1 h2⟩
theorem Spr.mono {m hi : Nat} (hm : m ≤ hi) : ∀ {vs : List SV} {lo : Nat}, Spr m lo vs → Spr hi lo vs
  | [], _, h => Nat.le_trans h hm
  | _ :: _, _, ⟨x, q1, q2, q3⟩ => ⟨x, q1, q2, Spr.mono hm q3⟩

structure Mk (B : Nat) (vs : List SV) (ls : List (List Fd)) (W : World) : Prop where
  sp : Spr W.heap.size B vs
  len : vs.length = ls.length
  row : ∀ i (h1 : i < vs.length) (h2 : i < ls.length), R EFd W (sv vs[i]) ls[i]
theorem Mk.none {B : Nat} {W : World} (h : B ≤ W.heap.size) : Mk B [] [] W := ⟨h, rfl, fun i h _ => absurd h (by simp)⟩
theorem Mk.below {B : Nat} {vs : List SV} {ls : List (List Fd)} {W W' : World} (h : Mk B vs ls W) (hb : Below W.heap.size W W') : Mk B vs ls W' :=
  ⟨h.sp.mono hb.size, h.len, fun i h1 h2 => (h.row i h1 h2).below hb⟩
theorem Mk.snoc {B : Nat} {vs : List SV} {ls : List (List Fd)} {W W' : World} {v : SV} {l : List Fd} (h : Mk B vs ls W) (hb : Below W.heap.size W W') (hr : R EFd W' (sv v) l) (ho : ∀ k, (sv v).ownBlock = some k → W.heap.size ≤ k) : Mk B (vs ++ [v]) (ls ++ [l]) W' := by
  refine ⟨h.sp.snoc hb.size fun k hk => ⟨ho k hk, hr.lt k hk⟩, by simp [h.len], fun i h1 h2 => ?_⟩
  by_cases hi : i < vs.length
  · rw [List.getElem_append_left hi, List.getElem_append_left (by rw [← h.len]; exact hi)]
    exact (h.row i hi _).below hb
  · have hi' : i = vs.length := by simp at h1; omega
    subst hi'
    rw [List.getElem_append_right (by omega), List.getElem_append_right (by rw [← h.len]; omega)]
    simpa using hr

def pk (i : Nat) : Nat := if i = 0 then 0 else i + 1
theorem pk_ne {i j : Nat} (h : i ≠ j) : pk i < pk j ∨ pk j < pk i := by unfold pk; split <;> split <;> omega
theorem pk_ten {α : Type} (l kp r q a b rs s t c d ow : α) : ∀ i (h : i < [l, r, q, a, b, rs, s, t, c, d].length), ∃ h' : pk i < [l, kp, r, q, a, b, rs, s, t, c, d, ow].length, [l, r, q, a, b, rs, s, t, c, d][i] = [l, kp, r, q, a, b, rs, s, t, c, d, ow][pk i] := by
  intro i h
  simp only [List.length_cons, List.length_nil] at h
  obtain rfl | rfl | rfl | rfl | rfl | rfl | rfl | rfl | rfl | rfl : i = 0 ∨ i = 1 ∨ i = 2 ∨ i = 3 ∨ i = 4 ∨ i = 5 ∨ i = 6 ∨ i = 7 ∨ i = 8 ∨ i = 9 := by omega
  all_goals exact ⟨by simp [pk], rfl⟩
theorem Ls.make {B : Nat} {W W0 : World} {l kp r q a b rs s t c d ow v u : SV} {l' kp' r' q' a' b' rs' s' t' c' d' ow' : List Fd}
    (h : Mk B [l, kp, r, q, a, b, rs, s, t, c, d, ow] [l', kp', r', q', a', b', rs', s', t', c', d', ow'] W) (g : Nat) (hg : W.heap.size ≤ g) (hblk : W0.heap[g]? = some (.cells #[sv l, sv r, sv q, sv a, sv b, sv rs, sv s, sv t, sv c, sv d] 24 (0, 0)))
    (hW : Below W.heap.size W W0) (hv : ∀ k, (sv v).ownBlock = some k → g < k ∧ k < W0.heap.size) (hu : ∀ k, (sv u).ownBlock = some k → g < k ∧ k < W0.heap.size) :
    Ls B (fun k => (sv kp).ownBlock = some k ∨ (sv ow).ownBlock = some k ∨ (sv v).ownBlock = some k ∨ (sv u).ownBlock = some k) W0 g [l, r, q, a, b, rs, s, t, c, d] [l', r', q', a', b', rs', s', t', c', d'] (none, 0, 0) [] W0 := by
  have hle := h.sp.le
  have hat : ∀ i (hi : i < [l, r, q, a, b, rs, s, t, c, d].length) k, (sv [l, r, q, a, b, rs, s, t, c, d][i]).ownBlock = some k → B ≤ k ∧ k < W.heap.size ∧ (sv kp).ownBlock ≠ some k ∧ (sv ow).ownBlock ≠ some k := by
    intro i hi k hk
    obtain ⟨h', e⟩ := pk_ten l kp r q a b rs s t c d ow i hi
    rw [e] at hk
    have q := h.sp.at (pk i) h' k hk
    have hp1 : pk i ≠ 1 := by unfold pk; split <;> omega
    have hp2 : pk i < 11 := by simp only [List.length_cons, List.length_nil] at hi; unfold pk; split <;> omega
    refine ⟨q.1, q.2, fun e1 => ?_, fun e1 => h.sp.apart (pk i) 11 h' (by simp) hp2 k hk e1⟩
    rcases Nat.lt_or_gt_of_ne hp1 with hh | hh
    · exact h.sp.apart (pk i) 1 h' (by simp) hh k hk e1
    · exact h.sp.apart 1 (pk i) (by simp) h' hh k e1 hk
  have hkp : ∀ k, (sv kp).ownBlock = some k → k < W.heap.size := fun k hk => (h.sp.at 1 (by simp) k hk).2
  have how : ∀ k, (sv ow).ownBlock = some k → k < W.heap.size := fun k hk => (h.sp.at 11 (by simp) k hk).2
  refine ⟨by rw [hblk]; rfl, rfl, rfl, fun i h1 h2 => ?_, fun i j h1 h2 hij k hk => ?_, fun i h1 k hk => ?_, ?_, R.nil _ _, fun k hk => by simp [sv, Value.ownBlock] at hk, fun k hk => ?_, fun _ _ => rfl, Nat.le_trans hle hW.size, Below.refl _ _⟩
  · obtain ⟨q1, e1⟩ := pk_ten l kp r q a b rs s t c d ow i h1
    obtain ⟨q2, e2⟩ := pk_ten l' kp' r' q' a' b' rs' s' t' c' d' ow' i h2
    rw [e1, e2]
    exact (h.row (pk i) q1 q2).below hW
  · obtain ⟨q1, e1⟩ := pk_ten l kp r q a b rs s t c d ow i h1
    obtain ⟨q2, e2⟩ := pk_ten l kp r q a b rs s t c d ow j h2
    rw [e1] at hk
    rw [e2]
    rcases pk_ne hij with hh | hh
    · exact h.sp.apart _ _ q1 q2 hh k hk
    · exact fun e => h.sp.apart _ _ q2 q1 hh k e hk
  · have q := hat i h1 k hk
    refine ⟨by omega, fun ho => ?_, q.1, by simp [sv, Value.ownBlock]⟩
    rcases ho with e | e | e | e
    · exact q.2.2.1 e
    · exact q.2.2.2 e
    · have := (hv k e).1; omega
    · have := (hu k e).1; omega
  · refine ⟨fun ho => ?_, by omega⟩
    rcases ho with e | e | e | e
    · have := hkp g e; omega
    · have := how g e; omega
    · have := (hv g e).1; omega
    · have := (hu g e).1; omega
  · have := hW.size
    rcases hk with e | e | e | e
    · have := hkp k e; omega
    · have := how k e; omega
    · exact (hv k e).2
    · exact (hu k e).2

def stF : Fd := ⟨statusName, ⟨#[50, 48, 48]⟩, false⟩
theorem st_ok : wrongB stF = false ∧ stB stF.v = true ∧ numL stF.v.data.toList = 200 := by decide +kernel
theorem with_st (T : List Fd) : withL T 0 stF = stF :: T := rfl
theorem vals_st (T : List Fd) : vals (stF :: T) 1 resNames = some [stF.v] := by
  rw [vals1]
  exact ⟨0, by simp, plc_at (by decide) (by simp) rfl fun j hj h4 e => by omega, rfl⟩
theorem rs_st {T : List Fd} (h64 : T.length ≤ 60) (hw : T.any wrongB = false) (hn : T.any nofB = false) : rsE (stF :: T) = 0 :=
  rs_of (by simp; omega) (by rw [List.any_cons, st_ok.1, hw]; rfl) (by simp) (by simpa using hn) (vals_st T) st_ok.2.1
theorem wr_st {T : List Fd} (h64 : T.length ≤ 60) (hw : T.any wrongB = false) (hn : T.any nofB = false) : rsE (wrL 200 T) = 0 := by
  have := (rs_back (rs_st h64 hw hn) (vals_st T)).1
  rw [st_ok.2.2] at this
  exact this
theorem vs_rot : ∀ k : Fin 4, vsL (rotL k.val) ⟨#[58, 112, 97, 116, 104]⟩ = [slashX] := by decide +kernel
theorem vs_made (l : List Fd) : vsL (l.map madeF) ⟨#[58, 112, 97, 116, 104]⟩ = [] := by
  unfold vsL
  rw [List.filterMap_eq_nil_iff]
  intro f hf
  obtain ⟨g, _, rfl⟩ := List.mem_map.1 hf
  have : (madeF g).n ≠ ⟨#[58, 112, 97, 116, 104]⟩ := fun e => by
    have := congrArg (fun x => x.data.toList[0]?) e
    simp [madeF, wordS, wordL, bt] at this
  simp [this]
theorem vs_path (l : List Fd) {k : Nat} (hk : k ≤ 3) : vsL (madeL l k) ⟨#[58, 112, 97, 116, 104]⟩ = [slashX] := by
  have h1 := vs_rot ⟨k, by omega⟩
  have h2 := vs_made (l.take 50)
  unfold vsL at h1 h2 ⊢
  unfold madeL
  rw [List.filterMap_append, h1, h2]
  rfl

def oneS (i : Nat) : ByteArray := bt [UInt8.ofNat (97 + i)]
def markF (i : Nat) : Fd := ⟨⟨#[109, 97, 114, 107]⟩, oneS i, false⟩
def behF (i : Nat) : Fd := ⟨⟨#[98, 101, 104, 105, 110, 100]⟩, oneS i, false⟩
/-- the bytes of one sign, made to a text -/
theorem one_conv (W : World) (b i : Nat) (hi : i < 10) (h : W.heap[b]? = some (.cells #[.int .u8 (97 + (i : Int))] 5 (0, 0))) : Sem.run Tryd.prog (convert 51 9 (.slice (some ⟨b, 0, none⟩) 1 1)) W = .ok (.string (oneS i)) W := by
  refine conv_row (l := [UInt8.ofNat (97 + i)]) ?_ (by simp)
  refine in_one W b (UInt8.ofNat (97 + i)) _ _ _ h ?_
  have : (UInt8.ofNat (97 + i)).toNat = 97 + i := by simp; omega
  simp only [EB, this]
  simp
end Go.Proofs.YtcgfgjhhmbfmdaaDoor
