/-
  Helper: the walks of number.compare, Cmp, and of Neg and Text where the text is none.
-/
import Derived.Test.YtmnopohjnbpinabIApi
import Derived.Test.YtmnopohjnbpinabIMisc
namespace Go.Proofs.Ytmnopohjnbpinab
open Go.RowKit
set_option linter.unusedVariables false

def cmpZ (x y : Int) : Int := if x < y then -1 else if x = y then 0 else 1
theorem cmpZ_nn (x y : Int) (hx : neg x = true) (hy : neg y = true) : cmpZ x y = cmpN y.natAbs x.natAbs := by
  unfold neg at hx hy
  have hx := of_decide_eq_true hx
  have hy := of_decide_eq_true hy
  unfold cmpZ cmpN
  split <;> split <;> first | omega | (split <;> first | omega | rfl) | rfl
theorem cmpZ_np (x y : Int) (hx : neg x = true) (hy : neg y = false) : cmpZ x y = -1 := by
  unfold neg at hx hy
  have hx := of_decide_eq_true hx
  have hy := of_decide_eq_false hy
  unfold cmpZ; rw [if_pos (by omega)]
theorem cmpZ_pn (x y : Int) (hx : neg x = false) (hy : neg y = true) : cmpZ x y = 1 := by
  unfold neg at hx hy
  have hx := of_decide_eq_false hx
  have hy := of_decide_eq_true hy
  unfold cmpZ; rw [if_neg (by omega), if_neg (by omega)]
theorem cmpZ_pp (x y : Int) (hx : neg x = false) (hy : neg y = false) : cmpZ x y = cmpN x.natAbs y.natAbs := by
  unfold neg at hx hy
  have hx := of_decide_eq_false hx
  have hy := of_decide_eq_false hy
  unfold cmpZ cmpN
  split <;> split <;> first | omega | (split <;> first | omega | rfl) | rfl
/-- a whole number comes back, and what was there stays -/
def IntP (k : Int) (w : World) (e : Ending) (w' : World) : Prop := e = .returned (.int .i64 k) ∧ Below w.heap.size w w'

set_option maxRecDepth 100000 in
set_option maxHeartbeats 4000000 in
theorem ncompare_any (x y : Int) (ax ay : Option Addr) (cx cy : Nat) (w : World) (hsx : (E 10 x.natAbs).length ≤ 100000) (hsy : (E 10 y.natAbs).length ≤ 100000) (hrx : Rb w ax (E 10 x.natAbs)) (hry : Rb w ay (E 10 y.natAbs)) :
    Calls Try.prog 53 #[.agg #[.bool (neg x), .slice ax (E 10 x.natAbs).length cx], .agg #[.bool (neg y), .slice ay (E 10 y.natAbs).length cy]] w (IntP (cmpZ x y) w) := by
  have HXY : Hid (∀ W, Below w.heap.size w W → Calls Try.prog 70 #[.slice ax (E 10 x.natAbs).length cx, .slice ay (E 10 y.natAbs).length cy] W (IntP (cmpN x.natAbs y.natAbs) W)) := fun W hb => compare_any _ _ ax ay cx cy W (hrx.go hb) (hry.go hb) (by omega) (by omega)
  have HYX : Hid (∀ W, Below w.heap.size w W → Calls Try.prog 70 #[.slice ay (E 10 y.natAbs).length cy, .slice ax (E 10 x.natAbs).length cx] W (IntP (cmpN y.natAbs x.natAbs) W)) := fun W hb => compare_any _ _ ay ax cy cx W (hry.go hb) (hrx.go hb) (by omega) (by omega)
  have HF : Hid (∀ w', Below w.heap.size w w' → IntP (cmpZ x y) w (.returned (.int .i64 (cmpZ x y))) w') := fun w' h => ⟨rfl, h⟩
  have HB : Hid (∀ v v' t, Below w.heap.size w ((w.alloc (.cells v t)).alloc (.cells v' t))) := fun v v' t => ((Below.refl _ w).alloc (Nat.le_refl _) _).alloc (by simp) _
  clear hrx hry hsx hsy
  generalize hPo : IntP (cmpZ x y) w = Po at *
  clear hPo
  generalize hlx : (E 10 x.natAbs).length = lx at *
  generalize hly : (E 10 y.natAbs).length = ly at *
  clear hlx hly
  cases hx : neg x <;> cases hy : neg y
  · rw [cmpZ_pp x y hx hy] at HF
    clear hx hy
    generalize cmpN x.natAbs y.natAbs = k at *
    generalize cmpN y.natAbs x.natAbs = k' at *
    go_enter Try.func53, Try.ntmps53
    have hb2 := HB.out
    go_wp2_with fail
    refine (HXY.out _ (HB.out _ _ _)).mono ?_
    rintro e w3 ⟨rfl, h3⟩
    have hfin := Lib.hid (HF.out w3 ((HB.out _ _ _).trans (h3.mono (HB.out _ _ _).size)))
    clear h3
    go_wp2
    exact hfin.out
  · rw [cmpZ_pn x y hx hy] at HF
    clear hx hy HXY HYX
    go_enter Try.func53, Try.ntmps53
    go_wp2
    exact HF.out _ (HB.out _ _ _)
  · rw [cmpZ_np x y hx hy] at HF
    clear hx hy HXY HYX
    go_enter Try.func53, Try.ntmps53
    go_wp2
    exact HF.out _ (HB.out _ _ _)
  · rw [cmpZ_nn x y hx hy] at HF
    clear hx hy
    generalize cmpN x.natAbs y.natAbs = k at *
    generalize cmpN y.natAbs x.natAbs = k' at *
    go_enter Try.func53, Try.ntmps53
    go_wp2_with fail
    refine (HYX.out _ (HB.out _ _ _)).mono ?_
    rintro e w3 ⟨rfl, h3⟩
    have hfin := Lib.hid (HF.out w3 ((HB.out _ _ _).trans (h3.mono (HB.out _ _ _).size)))
    clear h3
    go_wp2
    exact hfin.out

set_option maxRecDepth 100000 in
set_option maxHeartbeats 2000000 in
theorem Cmp_no (a b : ByteArray) (w : World) (ha : a.size ≤ maxLen) (hb : b.size ≤ maxLen) (h : ¬ Vld a.data.toList ∨ ¬ Vld b.data.toList) :
    Calls Try.prog 20 #[.string a, .string b] w (IntP 0 w) := by
  have HA := Lib.hid (fun W => read_any a W ha)
  have HB := Lib.hid (fun W => read_any b W hb)
  have hv : vldB a.data.toList = false ∨ (vldB a.data.toList = true ∧ vldB b.data.toList = false) := by
    by_cases g : Vld a.data.toList
    · rcases h with h | h
      · exact absurd g h
      · exact .inr ⟨vldB_yes _ g, vldB_no _ h⟩
    · exact .inl (vldB_no _ g)
  have HF : Hid (∀ w', Below w.heap.size w w' → IntP 0 w (.returned (.int .i64 0)) w') := fun w' h => ⟨rfl, h⟩
  clear ha hb h
  generalize IntP 0 w = Po at *
  rcases hv with hv | ⟨hv, hv2⟩
  · have hvh := Lib.hid hv
    clear hv
    go_enter Try.func20, Try.ntmps20
    go_wp2_with fail
    refine (HA.out _).mono ?_
    rintro e w1 ⟨b0, a0, n0, c0, rfl, h1⟩
    rw [hvh.out]
    go_wp2_with fail
    refine (HB.out _).mono ?_
    rintro e w2 ⟨b1, a1, n1, c1, rfl, h2⟩
    have hfin := Lib.hid (fun o => HF.out (w2.alloc o) (((h1.alloc h1.size _).trans (h2.mono (by have := h1.size; simp; omega))).alloc (by have := h1.size; have := h2.size; simp at this; omega) _))
    generalize vldB b.data.toList = vb2 at *
    go_wp2
    exact hfin.out _
  · have hvh := Lib.hid hv
    have hvh2 := Lib.hid hv2
    clear hv hv2
    go_enter Try.func20, Try.ntmps20
    go_wp2_with fail
    refine (HA.out _).mono ?_
    rintro e w1 ⟨b0, a0, n0, c0, rfl, h1⟩
    rw [hvh.out]
    go_wp2_with fail
    refine (HB.out _).mono ?_
    rintro e w2 ⟨b1, a1, n1, c1, rfl, h2⟩
    rw [hvh2.out]
    have hfin := Lib.hid (fun o => HF.out (w2.alloc o) (((h1.alloc h1.size _).trans (h2.mono (by have := h1.size; simp; omega))).alloc (by have := h1.size; have := h2.size; simp at this; omega) _))
    go_wp2
    exact hfin.out _

set_option maxRecDepth 100000 in
set_option maxHeartbeats 4000000 in
theorem Cmp_yes (x y : Int) (hx : Sh x) (hy : Sh y) (a b : ByteArray) (ha : a.data.toList = T x) (hb : b.data.toList = T y) (w : World) :
    Calls Try.prog 20 #[.string a, .string b] w (IntP (cmpZ x y) w) := by
  have HA := Lib.hid (fun W => read_yes x hx a ha W)
  have HB := Lib.hid (fun W => read_yes y hy b hb W)
  have HD := Lib.hid (fun ax ay cx cy W h1 h2 => ncompare_any x y ax ay cx cy W (sh100 hx) (sh100 hy) h1 h2)
  have HF : Hid (∀ w', Below w.heap.size w w' → IntP (cmpZ x y) w (.returned (.int .i64 (cmpZ x y))) w') := fun w' h => ⟨rfl, h⟩
  clear ha hb hx hy
  generalize hPo : IntP (cmpZ x y) w = Po at *
  clear hPo
  generalize cmpZ x y = k at *
  go_enter Try.func20, Try.ntmps20
  go_wp2_with fail
  refine (HA.out _).mono ?_
  rintro e w1 ⟨ax, cx, rfl, hrx, hcx, h1⟩
  generalize neg x = bx at *
  generalize hlx0 : (E 10 x.natAbs).length = lx at *
  clear hlx0
  have hrxh := Lib.hid hrx
  clear hrx hcx
  go_wp2_with fail
  refine (HB.out _).mono ?_
  rintro e w2 ⟨ay, cy, rfl, hry, hcy, h2⟩
  have hba : Below w1.heap.size w1 (w1.alloc (.cells #[.bool bx, .slice ax lx cx] 70)) := (Below.refl _ _).alloc (Nat.le_refl _) _
  have hb12 : Below w1.heap.size w1 w2 := hba.trans (h2.mono hba.size)
  have hd := Lib.hid (fun W (hb3 : Below w2.heap.size w2 W) => HD.out ax ay cx cy W ((hrxh.out.go hb12).go hb3) (hry.go hb3))
  clear hry hcy HB HA HD
  generalize neg y = by' at *
  generalize hly0 : (E 10 y.natAbs).length = ly at *
  clear hly0
  have hb3 : Below w2.heap.size w2 (w2.alloc (.cells #[.bool by', .slice ay ly cy] 70)) := (Below.refl _ _).alloc (Nat.le_refl _) _
  obtain ⟨x0, x1, xl⟩ := box_past (.cells #[.bool by', .slice ay ly cy] 70) h2
  have hw3 : Hid (Below w.heap.size w (w2.alloc (.cells #[.bool by', .slice ay ly cy] 70))) := (h1.trans (hb12.mono h1.size)).trans (hb3.mono (h1.trans (hb12.mono h1.size)).size)
  have hb3h := Lib.hid hb3
  clear h1 h2 hba hb12 hb3
  go_wp2_with fail
  refine (hd.out _ hb3h.out).mono ?_
  rintro e w3 ⟨rfl, h3⟩
  have hfin := Lib.hid (HF.out w3 (hw3.out.trans (h3.mono hw3.out.size)))
  clear h3
  go_wp2
  exact hfin.out

/- where the text is none, Neg has the empty text -/
set_option maxRecDepth 100000 in
set_option maxHeartbeats 1000000 in
theorem Neg_no (s : ByteArray) (hs : s.size ≤ maxLen) (h : ¬ Vld s.data.toList) (w : World) : Calls Try.prog 22 #[.string s] w (TxtP [] w) := by
  have HA := Lib.hid (fun W => read_no s W hs h)
  have HF : Hid (∀ w', Below w.heap.size w w' → TxtP [] w (.returned (.string ⟨#[]⟩)) w') := fun w' h => ⟨rfl, h⟩
  clear h hs
  generalize TxtP [] w = Po at *
  go_enter Try.func22, Try.ntmps22
  go_wp2_with fail
  refine (HA.out _).mono ?_
  rintro e w1 ⟨rfl, h1⟩
  have hfin := Lib.hid (fun o => HF.out (w1.alloc o) (h1.alloc h1.size _))
  go_wp2
  exact hfin.out _

def ErrP (k : Int) (w : World) (e : Ending) (w' : World) : Prop := e = .returned (.tuple #[.string ⟨#[]⟩, .int .i64 k]) ∧ Below w.heap.size w w'
set_option maxRecDepth 100000 in
set_option maxHeartbeats 1000000 in
theorem Text_no10 (s : ByteArray) (hs : s.size ≤ maxLen) (h : ¬ Vld s.data.toList) (w : World) : Calls Try.prog 15 #[.string s, .int .i64 10] w (ErrP 3 w) := by
  have HA := Lib.hid (fun W => read_no s W hs h)
  have HI := Lib.hid (fun W => isBase_any 10 W)
  have HF : Hid (∀ w', Below w.heap.size w w' → ErrP 3 w (.returned (.tuple #[.string ⟨#[]⟩, .int .i64 3])) w') := fun w' h => ⟨rfl, h⟩
  have hi : Hid (isB 10 = true) := by show _ = _; decide
  clear h hs
  generalize ErrP 3 w = Po at *
  go_enter Try.func15, Try.ntmps15
  go_wp2_with fail
  refine (HI.out _).mono ?_
  rintro e w0 ⟨rfl, hw⟩
  obtain rfl := hw.symm
  rw [hi.out]
  go_wp2_with fail
  refine (HA.out _).mono ?_
  rintro e w1 ⟨rfl, h1⟩
  have hfin := Lib.hid (fun o => HF.out (w1.alloc o) (h1.alloc h1.size _))
  go_wp2
  exact hfin.out _
set_option maxRecDepth 100000 in
set_option maxHeartbeats 1000000 in
theorem Text_no3 (s : ByteArray) (w : World) : Calls Try.prog 15 #[.string s, .int .i64 3] w (ErrP 1 w) := by
  have HI := Lib.hid (fun W => isBase_any 3 W)
  have HF : Hid (∀ w', Below w.heap.size w w' → ErrP 1 w (.returned (.tuple #[.string ⟨#[]⟩, .int .i64 1])) w') := fun w' h => ⟨rfl, h⟩
  have hi : Hid (isB 3 = false) := by show _ = _; decide
  generalize ErrP 1 w = Po at *
  go_enter Try.func15, Try.ntmps15
  go_wp2_with fail
  refine (HI.out _).mono ?_
  rintro e w0 ⟨rfl, hw⟩
  obtain rfl := hw.symm
  rw [hi.out]
  go_wp2
  exact HF.out _ (Below.refl _ _)
end Go.Proofs.Ytmnopohjnbpinab
