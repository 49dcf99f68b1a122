/-
  Helper: the walks of Add, Sub, Mul, DivMod.
-/
import Derived.Test.YtmnopohjnbpinabICalc
import Derived.Test.YtmnopohjnbpinabINumD
namespace Go.Proofs.Ytmnopohjnbpinab
open Go.RowKit
set_option linter.unusedVariables false

theorem len_mul (m n j k : Nat) (h1 : (E 10 m).length ≤ j) (h2 : (E 10 n).length ≤ k) : (E 10 (m * n)).length ≤ j + k := by
  have h1 := (E_len_le 10 m j (by omega)).1 h1
  have h2 := (E_len_le 10 n k (by omega)).1 h2
  refine (E_len_le 10 _ _ (by omega)).2 ?_
  rw [Nat.pow_add]; exact Nat.mul_lt_mul'' h1 h2
theorem len_sum {x y : Int} (hx : Sh x) (hy : Sh y) : (E 10 (x + y).natAbs).length ≤ 401 := by
  unfold Sh at hx hy
  exact Nat.le_trans (E_len_mono 10 _ _ (by omega) (show (x + y).natAbs ≤ x.natAbs + y.natAbs by omega)) (len_add _ _ _ hx hy)
theorem sh_neg {x : Int} (hx : Sh x) : Sh (-x) := by unfold Sh at *; rw [Int.natAbs_neg]; exact hx
theorem len_prod {x y : Int} (hx : Sh x) (hy : Sh y) : (E 10 (x * y).natAbs).length ≤ 800 := by
  unfold Sh at hx hy
  rw [Int.natAbs_mul]; exact len_mul _ _ _ _ hx hy

set_option maxHeartbeats 1000000 in
theorem Add_yes (x y : Int) (hx : Sh x) (hy : Sh y) (a b : ByteArray) (ha : a.data.toList = T x) (hb : b.data.toList = T y) (w : World) : Calls Try.prog 18 #[.string a, .string b] w (OutP (x + y) w) := by
  have HC := Lib.hid (calc_plus x y hx hy (Nat.le_trans (len_sum hx hy) (by omega)) a b ha hb w)
  have HK : Hid (∀ w', Below w.heap.size w w' → (Sh (x + y) → OutP (x + y) w (.returned (.tuple #[.string (TB (x + y)), .int .i64 0])) w') ∧ (¬ Sh (x + y) → OutP (x + y) w (.returned (.tuple #[.string ⟨#[]⟩, .int .i64 6])) w')) := fun w' h => ⟨fun g => ⟨fun _ => rfl, fun k => absurd g k, h⟩, fun g => ⟨fun k => absurd k g, fun _ => rfl, h⟩⟩
  have hsh := Classical.em (Sh (x + y))
  clear hx hy ha hb
  generalize hPo : OutP (x + y) w = Po at HK ⊢
  rw [show OutP (x + y) w = OutP (x + y) w from rfl] at HC
  clear hPo
  generalize x + y = r at *
  go_enter Try.func18, Try.ntmps18
  go_wp2_with fail
  refine HC.out.mono ?_
  rintro e w' ⟨h1, h2, h3⟩
  rcases hsh with g | g
  · have hfin := Lib.hid ((HK.out w' h3).1 g)
    obtain rfl := h1 g
    clear h1 h2 h3 g
    generalize TB r = t at *
    go_wp2
    exact hfin.out
  · have hfin := Lib.hid ((HK.out w' h3).2 g)
    obtain rfl := h2 g
    clear h1 h2 h3 g
    go_wp2
    exact hfin.out
set_option maxHeartbeats 1000000 in
theorem Add_no (a b : ByteArray) (ha : a.size ≤ maxLen) (hb : b.size ≤ maxLen) (h : ¬ Vld a.data.toList ∨ ¬ Vld b.data.toList) (w : World) : Calls Try.prog 18 #[.string a, .string b] w (OutNo w) := by
  have HC := Lib.hid (calc_no a b (.func (.func 51) #[] #[]) w ha hb h)
  have HK : Hid (∀ w', Below w.heap.size w w' → OutNo w (.returned (.tuple #[.string ⟨#[]⟩, .int .i64 3])) w') := fun w' h => ⟨rfl, h⟩
  clear h
  generalize hPo : OutNo w = Po at HK ⊢
  clear hPo
  go_enter Try.func18, Try.ntmps18
  go_wp2_with fail
  refine HC.out.mono ?_
  rintro e w' ⟨rfl, h3⟩
  have hfin := Lib.hid (HK.out w' h3)
  clear h3
  go_wp2
  exact hfin.out

set_option maxHeartbeats 1000000 in
theorem Sub_yes (x y : Int) (hx : Sh x) (hy : Sh y) (a b : ByteArray) (ha : a.data.toList = T x) (hb : b.data.toList = T y) (w : World) : Calls Try.prog 19 #[.string a, .string b] w (OutP (x + -y) w) := by
  have HC := Lib.hid (calc_minus x y hx hy (Nat.le_trans (len_sum hx (sh_neg hy)) (by omega)) a b ha hb w)
  have HK : Hid (∀ w', Below w.heap.size w w' → (Sh (x + -y) → OutP (x + -y) w (.returned (.tuple #[.string (TB (x + -y)), .int .i64 0])) w') ∧ (¬ Sh (x + -y) → OutP (x + -y) w (.returned (.tuple #[.string ⟨#[]⟩, .int .i64 6])) w')) := fun w' h => ⟨fun g => ⟨fun _ => rfl, fun k => absurd g k, h⟩, fun g => ⟨fun k => absurd k g, fun _ => rfl, h⟩⟩
  have hsh := Classical.em (Sh (x + -y))
  clear hx hy ha hb
  generalize hPo : OutP (x + -y) w = Po at HK ⊢
  rw [show OutP (x + -y) w = OutP (x + -y) w from rfl] at HC
  clear hPo
  generalize x + -y = r at *
  go_enter Try.func19, Try.ntmps19
  go_wp2_with fail
  refine HC.out.mono ?_
  rintro e w' ⟨h1, h2, h3⟩
  rcases hsh with g | g
  · have hfin := Lib.hid ((HK.out w' h3).1 g)
    obtain rfl := h1 g
    clear h1 h2 h3 g
    generalize TB r = t at *
    go_wp2
    exact hfin.out
  · have hfin := Lib.hid ((HK.out w' h3).2 g)
    obtain rfl := h2 g
    clear h1 h2 h3 g
    go_wp2
    exact hfin.out
set_option maxHeartbeats 1000000 in
theorem Sub_no (a b : ByteArray) (ha : a.size ≤ maxLen) (hb : b.size ≤ maxLen) (h : ¬ Vld a.data.toList ∨ ¬ Vld b.data.toList) (w : World) : Calls Try.prog 19 #[.string a, .string b] w (OutNo w) := by
  have HC := Lib.hid (calc_no a b (.func (.func 52) #[] #[]) w ha hb h)
  have HK : Hid (∀ w', Below w.heap.size w w' → OutNo w (.returned (.tuple #[.string ⟨#[]⟩, .int .i64 3])) w') := fun w' h => ⟨rfl, h⟩
  clear h
  generalize hPo : OutNo w = Po at HK ⊢
  clear hPo
  go_enter Try.func19, Try.ntmps19
  go_wp2_with fail
  refine HC.out.mono ?_
  rintro e w' ⟨rfl, h3⟩
  have hfin := Lib.hid (HK.out w' h3)
  clear h3
  go_wp2
  exact hfin.out

set_option maxHeartbeats 1000000 in
theorem Mul_yes (x y : Int) (hx : Sh x) (hy : Sh y) (a b : ByteArray) (ha : a.data.toList = T x) (hb : b.data.toList = T y) (w : World) : Calls Try.prog 26 #[.string a, .string b] w (OutP (x * y) w) := by
  have HC := Lib.hid (calc_times x y hx hy (Nat.le_trans (len_prod hx hy) (by omega)) a b ha hb w)
  have HK : Hid (∀ w', Below w.heap.size w w' → (Sh (x * y) → OutP (x * y) w (.returned (.tuple #[.string (TB (x * y)), .int .i64 0])) w') ∧ (¬ Sh (x * y) → OutP (x * y) w (.returned (.tuple #[.string ⟨#[]⟩, .int .i64 6])) w')) := fun w' h => ⟨fun g => ⟨fun _ => rfl, fun k => absurd g k, h⟩, fun g => ⟨fun k => absurd k g, fun _ => rfl, h⟩⟩
  have hsh := Classical.em (Sh (x * y))
  clear hx hy ha hb
  generalize hPo : OutP (x * y) w = Po at HK ⊢
  rw [show OutP (x * y) w = OutP (x * y) w from rfl] at HC
  clear hPo
  generalize x * y = r at *
  go_enter Try.func26, Try.ntmps26
  go_wp2_with fail
  refine HC.out.mono ?_
  rintro e w' ⟨h1, h2, h3⟩
  rcases hsh with g | g
  · have hfin := Lib.hid ((HK.out w' h3).1 g)
    obtain rfl := h1 g
    clear h1 h2 h3 g
    generalize TB r = t at *
    go_wp2
    exact hfin.out
  · have hfin := Lib.hid ((HK.out w' h3).2 g)
    obtain rfl := h2 g
    clear h1 h2 h3 g
    go_wp2
    exact hfin.out
set_option maxHeartbeats 1000000 in
theorem Mul_no (a b : ByteArray) (ha : a.size ≤ maxLen) (hb : b.size ≤ maxLen) (h : ¬ Vld a.data.toList ∨ ¬ Vld b.data.toList) (w : World) : Calls Try.prog 26 #[.string a, .string b] w (OutNo w) := by
  have HC := Lib.hid (calc_no a b (.func (.func 58) #[] #[]) w ha hb h)
  have HK : Hid (∀ w', Below w.heap.size w w' → OutNo w (.returned (.tuple #[.string ⟨#[]⟩, .int .i64 3])) w') := fun w' h => ⟨rfl, h⟩
  clear h
  generalize hPo : OutNo w = Po at HK ⊢
  clear hPo
  go_enter Try.func26, Try.ntmps26
  go_wp2_with fail
  refine HC.out.mono ?_
  rintro e w' ⟨rfl, h3⟩
  have hfin := Lib.hid (HK.out w' h3)
  clear h3
  go_wp2
  exact hfin.out

def DmP (q r : Int) (w : World) (e : Ending) (w' : World) : Prop := e = .returned (.tuple #[.string (TB q), .string (TB r), .int .i64 0]) ∧ Below w.heap.size w w'
def DmZ (k : Int) (w : World) (e : Ending) (w' : World) : Prop := e = .returned (.tuple #[.string ⟨#[]⟩, .string ⟨#[]⟩, .int .i64 k]) ∧ Below w.heap.size w w'
set_option maxRecDepth 100000 in
set_option maxHeartbeats 2000000 in
theorem DivMod_no (a b : ByteArray) (w : World) (ha : a.size ≤ maxLen) (hb : b.size ≤ maxLen) (h : ¬ Vld a.data.toList ∨ ¬ Vld b.data.toList) :
    Calls Try.prog 27 #[.string a, .string b] w (DmZ 3 w) := by
  have HA := Lib.hid (fun W => read_any a W ha)
  have HB := Lib.hid (fun W => read_any b W hb)
  have hv : vldB a.data.toList = false ∨ (vldB a.data.toList = true ∧ vldB b.data.toList = false) := by
    by_cases g : Vld a.data.toList
    · rcases h with h | h
      · exact absurd g h
      · exact .inr ⟨vldB_yes _ g, vldB_no _ h⟩
    · exact .inl (vldB_no _ g)
  have HF : Hid (∀ w', Below w.heap.size w w' → DmZ 3 w (.returned (.tuple #[.string ⟨#[]⟩, .string ⟨#[]⟩, .int .i64 3])) w') := fun w' h => ⟨rfl, h⟩
  clear ha hb h
  generalize DmZ 3 w = Po at *
  rcases hv with hv | ⟨hv, hv2⟩
  · have hvh := Lib.hid hv
    clear hv
    go_enter Try.func27, Try.ntmps27
    go_wp2_with fail
    refine (HA.out _).mono ?_
    rintro e w1 ⟨b0, a0, n0, c0, rfl, h1⟩
    rw [hvh.out]
    go_wp2_with fail
    refine (HB.out _).mono ?_
    rintro e w2 ⟨b1, a1, n1, c1, rfl, h2⟩
    have hfin := Lib.hid (fun o => HF.out (w2.alloc o) (((h1.alloc h1.size _).trans (h2.mono (by have := h1.size; simp; omega))).alloc (by have := h1.size; have := h2.size; simp at this; omega) _))
    generalize vldB b.data.toList = vb2 at *
    go_wp2
    go_ret3
    exact hfin.out _
  · have hvh := Lib.hid hv
    have hvh2 := Lib.hid hv2
    clear hv hv2
    go_enter Try.func27, Try.ntmps27
    go_wp2_with fail
    refine (HA.out _).mono ?_
    rintro e w1 ⟨b0, a0, n0, c0, rfl, h1⟩
    rw [hvh.out]
    go_wp2_with fail
    refine (HB.out _).mono ?_
    rintro e w2 ⟨b1, a1, n1, c1, rfl, h2⟩
    rw [hvh2.out]
    have hfin := Lib.hid (fun o => HF.out (w2.alloc o) (((h1.alloc h1.size _).trans (h2.mono (by have := h1.size; simp; omega))).alloc (by have := h1.size; have := h2.size; simp at this; omega) _))
    go_wp2
    go_ret3
    exact hfin.out _

theorem len_q {x y : Int} (hx : Sh x) : (E 10 (qI x y).natAbs).length ≤ 401 := by
  unfold Sh at hx
  unfold qI; rw [zi_abs]
  have h0 : (E 10 (x.natAbs / y.natAbs)).length ≤ 400 := Nat.le_trans (E_len_mono 10 _ _ (by omega) (Nat.div_le_self _ _)) hx
  unfold QN
  split
  · omega
  · exact len_add _ 1 400 h0 (by decide)
theorem len_r {x y : Int} (hy : Sh y) (h0 : 0 < y.natAbs) : (E 10 (rI x y).natAbs).length ≤ 400 := by
  unfold Sh at hy
  unfold rI; rw [zi_abs]
  refine Nat.le_trans (E_len_mono 10 _ y.natAbs (by omega) ?_) hy
  have := Nat.mod_lt x.natAbs h0
  unfold RN
  split <;> omega
set_option maxRecDepth 100000 in
set_option maxHeartbeats 3000000 in
theorem DivMod_zero (x y : Int) (hx : Sh x) (hy : Sh y) (h0 : y = 0) (a b : ByteArray) (ha : a.data.toList = T x) (hb : b.data.toList = T y) (w : World) :
    Calls Try.prog 27 #[.string a, .string b] w (DmZ 27 w) := by
  have HA := Lib.hid (fun W => read_yes x hx a ha W)
  have HB := Lib.hid (fun W => read_yes y hy b hb W)
  have HZ : Hid (∀ W ay cy, Calls Try.prog 59 #[.agg #[.bool (neg y), .slice ay (E 10 y.natAbs).length cy]] W fun e w' => e = .returned (.bool true) ∧ Below W.heap.size W w') := fun W ay cy => by
    have := isZero_any y ay cy W (neg y) (by have := sh100 hy; omega)
    rw [decide_eq_true h0] at this; exact this
  have HF : Hid (∀ w', Below w.heap.size w w' → DmZ 27 w (.returned (.tuple #[.string ⟨#[]⟩, .string ⟨#[]⟩, .int .i64 27])) w') := fun w' h => ⟨rfl, h⟩
  clear ha hb hx hy h0
  generalize DmZ 27 w = Po at *
  go_enter Try.func27, Try.ntmps27
  go_wp2_with fail
  refine (HA.out _).mono ?_
  rintro e w1 ⟨ax, cx, rfl, hrx, hcx, h1⟩
  generalize neg x = bx at *
  generalize (E 10 x.natAbs).length = lx at *
  clear hrx hcx
  go_wp2_with fail
  refine (HB.out _).mono ?_
  rintro e w2 ⟨ay, cy, rfl, hry, hcy, h2⟩
  have hz := Lib.hid (fun W => HZ.out W ay cy)
  clear hry hcy HZ HB HA
  generalize neg y = by' at *
  generalize (E 10 y.natAbs).length = ly at *
  have hw3 : Hid (Below w.heap.size w (w2.alloc (.cells #[.bool by', .slice ay ly cy] 70))) := ((h1.alloc h1.size _).trans (h2.mono (by have := h1.size; simp; omega))).alloc (by have := h1.size; have := h2.size; simp at this; omega) _
  clear h1 h2
  go_wp2_with fail
  refine (hz.out _).mono ?_
  rintro e w3 ⟨rfl, h3⟩
  have hfin := Lib.hid (HF.out w3 (hw3.out.trans (h3.mono hw3.out.size)))
  clear h3
  go_wp2
  go_ret3
  exact hfin.out

theorem S2.keepD {W0 w w' : World} {n : Nat} {b0 b1 : Bool} {v0 v1 : Value} (hb : Below w.heap.size w w') (hn : n + 1 + 1 ≤ W0.heap.size) (h : w.cell? ⟨n, 0, none⟩ = some (.bool b0) ∧ w.cell? ⟨n, 1, none⟩ = some v0 ∧ w.cell? ⟨n + 1, 0, none⟩ = some (.bool b1) ∧ w.cell? ⟨n + 1, 1, none⟩ = some v1 ∧ Below (n + 1 + 1) W0 w) : w'.cell? ⟨n, 0, none⟩ = some (.bool b0) ∧ w'.cell? ⟨n, 1, none⟩ = some v0 ∧ w'.cell? ⟨n + 1, 0, none⟩ = some (.bool b1) ∧ w'.cell? ⟨n + 1, 1, none⟩ = some v1 ∧ Below (n + 1 + 1) W0 w' := by
  obtain ⟨h1, h2, h3, h4, h9⟩ := h
  have hs := h9.size
  have hc : ∀ b o, b < n + 1 + 1 → w'.cell? ⟨b, o, none⟩ = w.cell? ⟨b, o, none⟩ := fun b o h => hb.cell (p := ⟨b, o, none⟩) (by show b < _; omega)
  exact ⟨by rw [hc _ _ (by omega)]; exact h1, by rw [hc _ _ (by omega)]; exact h2, by rw [hc _ _ (by omega)]; exact h3, by rw [hc _ _ (by omega)]; exact h4, h9.trans (hb.mono (by omega))⟩
theorem two_start (w : World) (b0 b1 : Bool) (v0 v1 : Value) (t : Nat) (n : Nat) (hn : w.heap.size = n) (W : World) (hW : W = (w.alloc (.cells #[.bool b0, v0] t)).alloc (.cells #[.bool b1, v1] t)) : W.cell? ⟨n, 0, none⟩ = some (.bool b0) ∧ W.cell? ⟨n, 1, none⟩ = some v0 ∧ W.cell? ⟨n + 1, 0, none⟩ = some (.bool b1) ∧ W.cell? ⟨n + 1, 1, none⟩ = some v1 ∧ Below (n + 1 + 1) W W := by
  subst hW; subst hn
  have e1 := heap_alloc_new (w.alloc (.cells #[.bool b0, v0] t)) (.cells #[.bool b1, v1] t)
  have e0 := heap_alloc_new w (.cells #[.bool b0, v0] t)
  have g1 : ((w.alloc (.cells #[.bool b0, v0] t)).alloc (.cells #[.bool b1, v1] t)).heap[w.heap.size + 1]? = some (.cells #[.bool b1, v1] t) := by simpa using e1
  have g0 : ((w.alloc (.cells #[.bool b0, v0] t)).alloc (.cells #[.bool b1, v1] t)).heap[w.heap.size]? = some (.cells #[.bool b0, v0] t) := by
    rw [Below.heap_alloc _ _ _ (by simp)]; exact e0
  refine ⟨?_, ?_, ?_, ?_, Below.refl _ _⟩
  · unfold World.cell?; rw [g0]; rfl
  · unfold World.cell?; rw [g0]; rfl
  · unfold World.cell?; rw [g1]; rfl
  · unfold World.cell?; rw [g1]; rfl
set_option maxRecDepth 100000 in
set_option maxHeartbeats 4000000 in
theorem DivMod_yes (x y : Int) (hx : Sh x) (hy : Sh y) (h0 : 0 < y.natAbs) (a b : ByteArray) (ha : a.data.toList = T x) (hb : b.data.toList = T y) (w : World) :
    Calls Try.prog 27 #[.string a, .string b] w (DmP (qI x y) (rI x y) w) := by
  have HA := Lib.hid (fun W => read_yes x hx a ha W)
  have HB := Lib.hid (fun W => read_yes y hy b hb W)
  have HZ : Hid (∀ W ay cy, Calls Try.prog 59 #[.agg #[.bool (neg y), .slice ay (E 10 y.natAbs).length cy]] W fun e w' => e = .returned (.bool false) ∧ Below W.heap.size W w') := fun W ay cy => by
    have := isZero_any y ay cy W (neg y) (by have := sh100 hy; omega)
    rw [decide_eq_false (by omega)] at this; exact this
  have HD := Lib.hid (fun ax ay cx cy W h1 h2 => ndivided_any x y ax ay cx cy W (by unfold Sh at hx; omega) (by unfold Sh at hy; omega) h1 h2 h0)
  have hlq := len_q (y := y) hx
  have hlr := len_r (x := x) hy h0
  have HTq := Lib.hid (fun ra rc W hr => numtext_any (qI x y) 10 (by omega) (by omega) ra rc W hr (by omega) (by show (E 10 _).length ≤ _; omega))
  have HTr := Lib.hid (fun ra rc W hr => numtext_any (rI x y) 10 (by omega) (by omega) ra rc W hr (by omega) (by show (E 10 _).length ≤ _; omega))
  have HF : Hid (∀ w', Below w.heap.size w w' → DmP (qI x y) (rI x y) w (.returned (.tuple #[.string ⟨(Tb 10 (qI x y)).toArray⟩, .string ⟨(Tb 10 (rI x y)).toArray⟩, .int .i64 0])) w') := fun w' h => ⟨rfl, h⟩
  clear ha hb hx hy h0
  generalize hPo : DmP (qI x y) (rI x y) w = Po at *
  clear hPo
  generalize qI x y = q at *
  generalize rI x y = r at *
  go_enter Try.func27, Try.ntmps27
  go_wp2_with fail
  refine (HA.out _).mono ?_
  rintro e w1 ⟨ax, cx, rfl, hrx, hcx, h1⟩
  generalize neg x = bx at *
  generalize (E 10 x.natAbs).length = lx at *
  have hrxh := Lib.hid hrx
  clear hrx hcx
  go_wp2_with fail
  refine (HB.out _).mono ?_
  rintro e w2 ⟨ay, cy, rfl, hry, hcy, h2⟩
  have hz := Lib.hid (fun W => HZ.out W ay cy)
  have hba : Below w1.heap.size w1 (w1.alloc (.cells #[.bool bx, .slice ax lx cx] 70)) := (Below.refl _ _).alloc (Nat.le_refl _) _
  have hb12 : Below w1.heap.size w1 w2 := hba.trans (h2.mono hba.size)
  have hd := Lib.hid (fun W (hb3 : Below w2.heap.size w2 W) => HD.out ax ay cx cy W ((hrxh.out.go hb12).go hb3) (hry.go hb3))
  clear hry hcy HZ HB HA HD
  generalize neg y = by' at *
  generalize (E 10 y.natAbs).length = ly at *
  have hb3 : Below w2.heap.size w2 (w2.alloc (.cells #[.bool by', .slice ay ly cy] 70)) := (Below.refl _ _).alloc (Nat.le_refl _) _
  obtain ⟨x0, x1, xl⟩ := box_past (.cells #[.bool by', .slice ay ly cy] 70) h2
  have y0 : (w2.alloc (.cells #[.bool by', .slice ay ly cy] 70)).heap[w2.heap.size]? = _ := heap_alloc_new w2 (.cells #[.bool by', .slice ay ly cy] 70)
  have y0h := Lib.hid y0
  have hw3 : Hid (Below w.heap.size w (w2.alloc (.cells #[.bool by', .slice ay ly cy] 70))) := (h1.trans (hb12.mono h1.size)).trans (hb3.mono (h1.trans (hb12.mono h1.size)).size)
  have hb3h := Lib.hid hb3
  have hs3 : (w2.alloc (.cells #[.bool by', .slice ay ly cy] 70)).heap.size = w2.heap.size + 1 := by simp
  have hs3h := Lib.hid hs3
  clear h1 h2 hba hb12 hb3 y0 hs3
  go_wp2_with fail
  generalize w2.alloc (.cells #[.bool by', .slice ay ly cy] 70) = W3 at *
  refine (hz.out _).mono ?_
  rintro e w3 ⟨rfl, h3⟩
  have z0 : w3.cell? ⟨w1.heap.size, 0, none⟩ = some (.bool bx) := (h3.cell (p := ⟨w1.heap.size, 0, none⟩) (by show w1.heap.size < _; have := hs3h.out; omega)).trans x0
  have z1 : w3.cell? ⟨w1.heap.size, 1, none⟩ = some (.slice ax lx cx) := (h3.cell (p := ⟨w1.heap.size, 1, none⟩) (by show w1.heap.size < _; have := hs3h.out; omega)).trans x1
  have hyb := (h3.block w2.heap.size (by have := hs3h.out; omega)).trans y0h.out
  have z2 : w3.cell? ⟨w2.heap.size, 0, none⟩ = some (.bool by') := by simp [World.cell?, hyb]
  have z3 : w3.cell? ⟨w2.heap.size, 1, none⟩ = some (.slice ay ly cy) := by simp [World.cell?, hyb]
  have hd2 := Lib.hid (hd.out w3 (hb3h.out.trans (h3.mono (by have := hs3h.out; omega))))
  have hw33 := Lib.hid (hw3.out.trans (h3.mono hw3.out.size))
  clear x0 x1 h3 hyb hd
  go_wp2_with fail
  refine hd2.out.mono ?_
  rintro e w4 ⟨qa, qc, ra, rc, rfl, hq1, hq2, hr1, hr2, h4⟩
  have hw4 := Lib.hid (hw33.out.trans (h4.mono hw33.out.size))
  have hq3 := Lib.hid hq1
  have hr3 := Lib.hid hr1
  clear z0 z1 z2 z3 h4 hd2 hq1 hr1 hq2 hr2
  generalize hbq : neg q = bq at *
  generalize hbr : neg r = br at *
  generalize hlq0 : (E 10 q.natAbs).length = lq at *
  generalize hlr0 : (E 10 r.natAbs).length = lr at *
  clear hbq hbr hlq0 hlr0
  go_wp2_with fail
  have hst := two_start w4 bq br (.slice qa lq qc) (.slice ra lr rc) 70 w4.heap.size rfl _ rfl
  have hb5 : Below w4.heap.size w4 ((w4.alloc (.cells #[.bool bq, .slice qa lq qc] 70)).alloc (.cells #[.bool br, .slice ra lr rc] 70)) := ((Below.refl _ _).alloc (Nat.le_refl _) _).alloc (by simp) _
  have hs5 : ((w4.alloc (.cells #[.bool bq, .slice qa lq qc] 70)).alloc (.cells #[.bool br, .slice ra lr rc] 70)).heap.size = w4.heap.size + 1 + 1 := by simp
  generalize (w4.alloc (.cells #[.bool bq, .slice qa lq qc] 70)).alloc (.cells #[.bool br, .slice ra lr rc] 70) = W5 at *
  have HXq : Hid (∀ W, Below (w4.heap.size + 1 + 1) W5 W → Rb W qa (E 10 q.natAbs) ∧ Rb W ra (E 10 r.natAbs) ∧ Below w.heap.size w W) := fun W h => by
    have h6 : Below w4.heap.size w4 W := hb5.trans (h.mono (by omega))
    exact ⟨hq3.out.go h6, hr3.out.go h6, hw4.out.trans (h6.mono hw4.out.size)⟩
  have hN : Hid (w4.heap.size + 1 + 1 ≤ W5.heap.size) := by show _ ≤ _; omega
  have HQ : Hid (∀ W, Below (w4.heap.size + 1 + 1) W5 W → Calls Try.prog 47 #[.agg #[.bool bq, .slice qa lq qc], .int .i64 (10 : Int)] W (TxtP (Tb 10 q) W)) := fun W h => HTq.out qa qc W (HXq.out W h).1
  have HR : Hid (∀ W, Below (w4.heap.size + 1 + 1) W5 W → Calls Try.prog 47 #[.agg #[.bool br, .slice ra lr rc], .int .i64 (10 : Int)] W (TxtP (Tb 10 r) W)) := fun W h => HTr.out ra rc W (HXq.out W h).2.1
  clear hb5 hs5 HTq HTr hq3 hr3 xl
  generalize w4.heap.size = n at *
  have hS1 : W5.cell? ⟨n, 0, none⟩ = some (.bool bq) ∧ W5.cell? ⟨n, 1, none⟩ = some (.slice qa lq qc) ∧ W5.cell? ⟨n + 1, 0, none⟩ = some (.bool br) ∧ W5.cell? ⟨n + 1, 1, none⟩ = some (.slice ra lr rc) ∧ Below (n + 1 + 1) W5 W5 := hst
  clear hst
  generalize Tb 10 q = tq at *
  generalize Tb 10 r = tr at *
  go_region_held3 (fun w' => w'.cell? ⟨n, 0, none⟩ = some (.bool bq) ∧ w'.cell? ⟨n, 1, none⟩ = some (.slice qa lq qc) ∧ w'.cell? ⟨n + 1, 0, none⟩ = some (.bool br) ∧ w'.cell? ⟨n + 1, 1, none⟩ = some (.slice ra lr rc) ∧ Below (n + 1 + 1) W5 w')
    (first | (with_reducible assumption) | (with_reducible exact S2.drewC (by assumption)) | (with_reducible exact S2.keepD (by assumption) hN.out (by assumption)))
    (first | (go_at_call 47; (with_reducible refine (HQ.out _ ?_).mono ?_); exact (by assumption : S2 _ _ _ _ _ _ _).2.2.2.2; rintro e w6 ⟨rfl, hbb⟩) | (go_at_call 47; (with_reducible refine (HR.out _ ?_).mono ?_); exact (by assumption : S2 _ _ _ _ _ _ _).2.2.2.2; rintro e w7 ⟨rfl, hbb7⟩))
  obtain ⟨_, _, _, _, hB7⟩ : S2 W5 n bq br (.slice qa lq qc) (.slice ra lr rc) w7 := by assumption
  have hfin := Lib.hid (HF.out w7 (HXq.out w7 hB7).2.2)
  clear hB7 hS1
  go_wp2
  go_ret3
  exact hfin.out
end Go.Proofs.Ytmnopohjnbpinab
