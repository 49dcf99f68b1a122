/-
  Helper: the walks of sumOf and differenceOf.
-/
import Derived.Test.YtpankmaljafnnaaGreatDoorDcSpr
namespace Go.Proofs.YtpankmaljafnnaaGreatDoor
open Go.RowKit
set_option linter.unusedVariables false
set_option linter.unusedSimpArgs false

theorem drop_at (l : List UInt8) (p : Nat) (h : p < l.length) : l.drop p = l.getD p 0 :: l.drop (p + 1) := by
  rw [List.drop_eq_getElem_cons h, List.getD_eq_getElem?_getD, List.getElem?_eq_getElem h]; rfl
theorem AD.drop {l : List UInt8} (h : AD l) (k : Nat) : AD (l.drop k) := fun c hc => h c (List.mem_of_mem_drop hc)
theorem AD.at {l : List UInt8} (h : AD l) (p : Nat) (hp : p < l.length) : 48 ≤ (l.getD p 0).toNat ∧ (l.getD p 0).toNat ≤ 57 := by
  rw [List.getD_eq_getElem?_getD, List.getElem?_eq_getElem hp]; exact h _ (List.getElem_mem hp)
theorem numv_drop (l : List UInt8) (at_ k : Nat) (h : at_ + k + 1 = l.length) : numv (l.drop at_) = ((l.getD at_ 0).toNat - 48) * 10 ^ k + numv (l.drop (at_ + 1)) := by
  rw [drop_at l at_ (by omega), numv_cons, List.length_drop]
  congr 3; omega
theorem set_drop (R : List UInt8) (at_ : Nat) (c : UInt8) (h : at_ < R.length) : (R.set at_ c).drop at_ = c :: R.drop (at_ + 1) := by
  rw [List.drop_set, if_neg (by omega), Nat.sub_self]
  rw [drop_at R at_ h]; rfl
/-- how far an addition (a subtraction) of digits from the right has come -/
def SumI (p q R : List UInt8) (k cy : Nat) : Prop := R.length = p.length ∧ AD (R.drop (p.length - k)) ∧ cy ≤ 1 ∧ numv (R.drop (p.length - k)) + cy * 10 ^ k = numv (p.drop (p.length - k)) + numv (q.drop (p.length - k))
def DifI (p q R : List UInt8) (k cy : Nat) : Prop := R.length = p.length ∧ AD (R.drop (p.length - k)) ∧ cy ≤ 1 ∧ numv (R.drop (p.length - k)) + numv (q.drop (p.length - k)) = numv (p.drop (p.length - k)) + cy * 10 ^ k
theorem sum_start (p q R : List UInt8) (h : R.length = p.length) (hq : q.length = p.length) : SumI p q R 0 0 := by
  refine ⟨h, ?_, by omega, ?_⟩
  · rw [Nat.sub_zero, List.drop_of_length_le (by omega)]; intro c hc; simp at hc
  · rw [Nat.sub_zero, List.drop_of_length_le (by omega), List.drop_of_length_le (Nat.le_refl _), List.drop_of_length_le (by omega)]; rfl
theorem dif_start (p q R : List UInt8) (h : R.length = p.length) (hq : q.length = p.length) : DifI p q R 0 0 := by
  refine ⟨h, ?_, by omega, ?_⟩
  · rw [Nat.sub_zero, List.drop_of_length_le (by omega)]; intro c hc; simp at hc
  · rw [Nat.sub_zero, List.drop_of_length_le (by omega), List.drop_of_length_le (Nat.le_refl _), List.drop_of_length_le (by omega)]; rfl
theorem AD.cons {c : UInt8} {l : List UInt8} (h : AD l) (h1 : 48 ≤ c.toNat) (h2 : c.toNat ≤ 57) : AD (c :: l) := fun d hd => by
  rcases List.mem_cons.1 hd with rfl | hd
  · exact ⟨h1, h2⟩
  · exact h d hd
theorem sum_step (p q R : List UInt8) (k cy j col : Nat) (h : SumI p q R k cy) (hq : q.length = p.length) (hp : AD p) (hq2 : AD q) (hj : j + k + 1 = p.length) (hcol : col = ((p.getD j 0).toNat - 48) + ((q.getD j 0).toNat - 48) + cy) :
    SumI p q (R.set j (UInt8.ofNat (48 + col % 10))) (k + 1) (col / 10) := by
  obtain ⟨h1, h2, h3, h4⟩ := h
  have a1 := hp.at j (by omega)
  have a2 := hq2.at j (by omega)
  have e1 : p.length - (k + 1) = j := by omega
  have e2 : p.length - k = j + 1 := by omega
  rw [e2] at h2 h4
  have hd := dig_nat (col % 10) (by omega)
  refine ⟨by rw [List.length_set]; exact h1, ?_, by omega, ?_⟩
  · rw [e1, set_drop R j _ (by omega)]
    exact h2.cons (by omega) (by omega)
  · rw [e1, set_drop R j _ (by omega), numv_cons, numv_drop p j k hj, numv_drop q j k (by omega), hd, List.length_drop, show R.length - (j + 1) = k by omega, Nat.pow_succ]
    have e5 : 48 + col % 10 - 48 = col % 10 := by omega
    rw [e5]
    have e6 : col % 10 * 10 ^ k + numv (R.drop (j + 1)) + col / 10 * (10 ^ k * 10) = col * 10 ^ k + numv (R.drop (j + 1)) := by
      have : col = col % 10 + col / 10 * 10 := by omega
      conv => rhs; rw [this, Nat.add_mul]
      rw [Nat.mul_assoc (col / 10), Nat.mul_comm 10]; omega
    rw [e6]
    have e7 : col * 10 ^ k = ((p.getD j 0).toNat - 48) * 10 ^ k + ((q.getD j 0).toNat - 48) * 10 ^ k + cy * 10 ^ k := by rw [hcol, Nat.add_mul, Nat.add_mul]
    omega
theorem dif_step (p q R : List UInt8) (k cy j col : Nat) (h : DifI p q R k cy) (hq : q.length = p.length) (hp : AD p) (hq2 : AD q) (hj : j + k + 1 = p.length) (hcol : col + (q.getD j 0).toNat + cy = 10 + (p.getD j 0).toNat) :
    DifI p q (R.set j (UInt8.ofNat (48 + col % 10))) (k + 1) (1 - col / 10) := by
  obtain ⟨h1, h2, h3, h4⟩ := h
  have a1 := hp.at j (by omega)
  have a2 := hq2.at j (by omega)
  have e1 : p.length - (k + 1) = j := by omega
  have e2 : p.length - k = j + 1 := by omega
  rw [e2] at h2 h4
  have hd := dig_nat (col % 10) (by omega)
  refine ⟨by rw [List.length_set]; exact h1, ?_, by omega, ?_⟩
  · rw [e1, set_drop R j _ (by omega)]
    exact h2.cons (by omega) (by omega)
  · rw [e1, set_drop R j _ (by omega), numv_cons, numv_drop p j k hj, numv_drop q j k (by omega), hd, List.length_drop, show R.length - (j + 1) = k by omega, Nat.pow_succ]
    have e5 : 48 + col % 10 - 48 = col % 10 := by omega
    rw [e5]
    obtain ⟨x, hx⟩ : ∃ x, (p.getD j 0).toNat = x + 48 := ⟨(p.getD j 0).toNat - 48, by omega⟩
    obtain ⟨y, hy⟩ : ∃ y, (q.getD j 0).toNat = y + 48 := ⟨(q.getD j 0).toNat - 48, by omega⟩
    rw [hx, hy, Nat.add_sub_cancel, Nat.add_sub_cancel]
    have e6 : col % 10 * 10 ^ k + y * 10 ^ k + cy * 10 ^ k = x * 10 ^ k + (1 - col / 10) * (10 ^ k * 10) := by
      have h5 : col % 10 + y + cy = x + (1 - col / 10) * 10 := by omega
      rw [← Nat.add_mul, ← Nat.add_mul, h5, Nat.add_mul, Nat.mul_assoc, Nat.mul_comm 10]
    omega
def SumP (p q : List UInt8) (w : World) (en : Ending) (w' : World) : Prop := ∃ S a c cy, en = .returned (.slice a S.length c) ∧ S.length ≤ c ∧ S.length = p.length ∧ AD S ∧ cy ≤ 1 ∧ numv S + cy * 10 ^ p.length = numv p + numv q ∧ Rb w' a S ∧ Below w.heap.size w w'
def DifP (p q : List UInt8) (w : World) (en : Ending) (w' : World) : Prop := ∃ S a c cy, en = .returned (.slice a S.length c) ∧ S.length ≤ c ∧ S.length = p.length ∧ AD S ∧ cy ≤ 1 ∧ numv S + numv q = numv p + cy * 10 ^ p.length ∧ Rb w' a S ∧ Below w.heap.size w w'
set_option maxRecDepth 100000 in
set_option maxHeartbeats 8000000 in
theorem sumOf_any (p q : List UInt8) (ap aq : Option Addr) (cp cq : Nat) (hl : p.length ≤ 100000) (hq : q.length = p.length) (hcp : p.length ≤ cp) (hcq : q.length ≤ cq) (hA : AD p) (hA2 : AD q) (w : World) (hrp : Rb w ap p) (hrq : Rb w aq q) :
    Calls Tryz.prog 73 #[.slice ap p.length cp, .slice aq p.length cq] w (SumP p q w) := by
  have HF : Hid (∀ g c cy R w', R.length = p.length → R.length ≤ c → SumI p q R p.length cy → Row w' g 5 R → Below w.heap.size w w' → SumP p q w (.returned (.slice (some ⟨g, 0, none⟩) p.length c)) w') := fun g c cy R w' h1 h2 h3 h4 h5 => by
    obtain ⟨i1, i2, i3, i4⟩ := h3
    rw [Nat.sub_self] at i2 i4
    rw [← h1]
    exact ⟨R, some ⟨g, 0, none⟩, c, cy, rfl, h2, h1, i2, i3, i4, h4.rb, h5⟩
  have HS := Lib.hid (fun R k cy j col h1 h2 h3 => sum_step p q R k cy j col h1 hq hA hA2 h2 h3)
  have H0 := Lib.hid (fun R h => sum_start p q R h hq)
  have HA := Lib.hid (fun j hj => hA.at j hj)
  have HA2 := Lib.hid (fun j (hj : j < p.length) => hA2.at j (by omega))
  have HP : Hid (∀ wr, Below w.heap.size w wr → ∀ i, i < p.length → ∃ b off, ap = some ⟨b, off, none⟩ ∧ b < wr.heap.size ∧ wr.cell? ⟨b, off + i, none⟩ = some (.int .u8 ((p.getD i 0).toNat : Int))) := fun wr hw i hi => (hrp.go hw).at i hi
  have HQ : Hid (∀ wr, Below w.heap.size w wr → ∀ i, i < p.length → ∃ b off, aq = some ⟨b, off, none⟩ ∧ b < wr.heap.size ∧ wr.cell? ⟨b, off + i, none⟩ = some (.int .u8 ((q.getD i 0).toNat : Int))) := fun wr hw i hi => (hrq.go hw).at i (by omega)
  generalize SumP p q w = Po at *
  clear hrp hrq hA hA2
  rw [hq] at hcq
  clear hq
  generalize hn : p.length = n at *
  have hIl : Hid (∀ R k cy, SumI p q R k cy → R.length = n ∧ cy ≤ 1) := fun R k cy h => ⟨h.1.trans hn, h.2.2.1⟩
  clear hn
  go_enter Tryz.func73, Tryz.ntmps73
  go_wp2_with (at_make; refine make_bytes _ rfl _ _ 59 rfl Tryz.underlying59 _ _ n rfl rfl ?c1 ?c2 ?c3 ?_)
  case c1 => rfl
  case c2 => rfl
  case c3 => omega
  intro w1 hrow hb1
  obtain ⟨N, hN⟩ : ∃ N, w.heap.size = N := ⟨_, rfl⟩
  rw [hN] at HF HP HQ hrow hb1 ⊢
  go_wp2
  go_loopw [15, 6] (fun i cv wr => ∃ (k cy : Nat) (R : List UInt8), k ≤ n ∧ i = .int .i64 k ∧ cv = .int .u8 cy ∧ Hid (SumI p q R k cy) ∧ Hid (Row wr N 5 R) ∧ Hid (Below N w wr)) (fun i _ _ => n - (intOf i).toNat)
  case atStart => exact ⟨0, 0, _, Nat.zero_le _, rfl, rfl, H0.out (List.replicate n 0) (by simp), hrow, hb1⟩
  case round =>
    clear hrow hb1
    obtain ⟨k, cy, R, hk, rfl, rfl, hI, hrow, hbel⟩ := hrel
    obtain ⟨hRl, hcy⟩ := hIl.out R k cy hI.out
    by_cases hlt : k < n
    · obtain ⟨j, hj⟩ : ∃ j, j + k + 1 = n := ⟨n - k - 1, by omega⟩
      have hat : (n : Int) - 1 - (k : Int) = (j : Int) := by omega
      have j0 : (0 : Int) ≤ (j : Int) := by omega
      have j1 : (j : Int) < (n : Int) := by omega
      obtain ⟨b1, o1, rfl, hb1, x1⟩ := HP.out wr hbel.out j (by omega)
      obtain ⟨b2, o2, rfl, hb2, x2⟩ := HQ.out wr hbel.out j (by omega)
      obtain ⟨a1, a2⟩ := HA.out j (by omega)
      obtain ⟨a3, a4⟩ := HA2.out j (by omega)
      have y1 : wr.drew.cell? ⟨b1, o1 + j, none⟩ = some (.int .u8 ((p.getD j 0).toNat : Int)) := x1
      have y2 : wr.drew.cell? ⟨b2, o2 + j, none⟩ = some (.int .u8 ((q.getD j 0).toNat : Int)) := x2
      have hst := fun col hc => HS.out R k cy j col hI.out hj hc
      have hrc := hrow.out.cell j (by omega)
      have hrf := hrow.out.free j
      have z1 : wr.drew.cell? ⟨N, j, none⟩ = some (.int .u8 ((R.getD j 0).toNat : Int)) := hrc
      have z2 : wr.drew.frozen? ⟨N, j, none⟩ = false := hrf
      generalize (p.getD j 0).toNat = pa at *
      generalize (q.getD j 0).toNat = qa at *
      obtain ⟨col, hcol⟩ : ∃ col, col = (pa - 48) + (qa - 48) + cy := ⟨_, rfl⟩
      have c1 : (pa : Int) - 48 + (qa : Int) - 48 + (cy : Int) = (col : Int) := by omega
      have c2 : (0 : Int) ≤ (pa : Int) - 48 := by omega
      have c3 : (pa : Int) - 48 ≤ 9 := by omega
      have c4 : (pa : Int) - 48 + (qa : Int) ≤ 66 := by omega
      have c5 : (0 : Int) ≤ (pa : Int) - 48 + (qa : Int) - 48 := by omega
      have c6 : col ≤ 19 := by omega
      have HST := Lib.hid (hst col hcol)
      have hput := fun (W : World) (h : Row W N 5 R) (z : Int) hz => h.put j (48 + col % 10) z (by omega) (by omega) hz
      have HROW : Hid (∀ z : Int, z = ((48 + col % 10 : Nat) : Int) → Row ((wr.setCell ⟨N, j, none⟩ (.int .u8 z)).drew) N 5 (R.set j (UInt8.ofNat (48 + col % 10)))) := fun z hz => hput wr hrow.out z hz
      have HBW : Hid (∀ z, Below N w ((wr.setCell ⟨N, j, none⟩ (.int .u8 z)).drew)) := fun z => (hbel.out.setCell (p := ⟨N, j, none⟩) (Nat.le_refl _) _).drew
      have hcolh := Lib.hid hcol
      clear hcol
      have k1 : ((n : Int) - 1) - (k : Int) = (j : Int) := hat
      clear hst hput hI hrow hbel HS H0 HA HA2 HP HQ HF hIl x1 x2 hrc hrf
      go_wp2
      go_region
      go_wp2
      refine ⟨⟨k + 1, _, _, by omega, by go_num, ?_, HST.out, HROW.out _ (by omega), HBW.out _⟩, ?_⟩
      · first | rfl | (congr 1; omega)
      · simp [intOf]; omega
    · obtain rfl : k = n := by omega
      have hfin := Lib.hid (HF.out N k cy R wr hRl (Nat.le_of_eq hRl) hI.out hrow.out hbel.out)
      have k1 : ¬ (k : Int) < (k : Int) := by omega
      clear hI hrow hbel HS H0 HA HA2 HP HQ HF hIl
      go_wp2
      exact hfin.out
set_option maxRecDepth 100000 in
set_option maxHeartbeats 8000000 in
theorem differenceOf_any (p q : List UInt8) (ap aq : Option Addr) (cp cq : Nat) (hl : p.length ≤ 100000) (hq : q.length = p.length) (hcp : p.length ≤ cp) (hcq : q.length ≤ cq) (hA : AD p) (hA2 : AD q) (w : World) (hrp : Rb w ap p) (hrq : Rb w aq q) :
    Calls Tryz.prog 75 #[.slice ap p.length cp, .slice aq p.length cq] w (DifP p q w) := by
  have HF : Hid (∀ g c cy R w', R.length = p.length → R.length ≤ c → DifI p q R p.length cy → Row w' g 5 R → Below w.heap.size w w' → DifP p q w (.returned (.slice (some ⟨g, 0, none⟩) p.length c)) w') := fun g c cy R w' h1 h2 h3 h4 h5 => by
    obtain ⟨i1, i2, i3, i4⟩ := h3
    rw [Nat.sub_self] at i2 i4
    rw [← h1]
    exact ⟨R, some ⟨g, 0, none⟩, c, cy, rfl, h2, h1, i2, i3, i4, h4.rb, h5⟩
  have HS := Lib.hid (fun R k cy j col h1 h2 h3 => dif_step p q R k cy j col h1 hq hA hA2 h2 h3)
  have H0 := Lib.hid (fun R h => dif_start p q R h hq)
  have HA := Lib.hid (fun j hj => hA.at j hj)
  have HA2 := Lib.hid (fun j (hj : j < p.length) => hA2.at j (by omega))
  have HP : Hid (∀ wr, Below w.heap.size w wr → ∀ i, i < p.length → ∃ b off, ap = some ⟨b, off, none⟩ ∧ b < wr.heap.size ∧ wr.cell? ⟨b, off + i, none⟩ = some (.int .u8 ((p.getD i 0).toNat : Int))) := fun wr hw i hi => (hrp.go hw).at i hi
  have HQ : Hid (∀ wr, Below w.heap.size w wr → ∀ i, i < p.length → ∃ b off, aq = some ⟨b, off, none⟩ ∧ b < wr.heap.size ∧ wr.cell? ⟨b, off + i, none⟩ = some (.int .u8 ((q.getD i 0).toNat : Int))) := fun wr hw i hi => (hrq.go hw).at i (by omega)
  generalize DifP p q w = Po at *
  clear hrp hrq hA hA2
  rw [hq] at hcq
  clear hq
  generalize hn : p.length = n at *
  have hIl : Hid (∀ R k cy, DifI p q R k cy → R.length = n ∧ cy ≤ 1) := fun R k cy h => ⟨h.1.trans hn, h.2.2.1⟩
  clear hn
  go_enter Tryz.func75, Tryz.ntmps75
  go_wp2_with (at_make; refine make_bytes _ rfl _ _ 59 rfl Tryz.underlying59 _ _ n rfl rfl ?c1 ?c2 ?c3 ?_)
  case c1 => rfl
  case c2 => rfl
  case c3 => omega
  intro w1 hrow hb1
  obtain ⟨N, hN⟩ : ∃ N, w.heap.size = N := ⟨_, rfl⟩
  rw [hN] at HF HP HQ hrow hb1 ⊢
  go_wp2
  go_loopw [15, 6] (fun i cv wr => ∃ (k cy : Nat) (R : List UInt8), k ≤ n ∧ i = .int .i64 k ∧ cv = .int .u8 cy ∧ Hid (DifI p q R k cy) ∧ Hid (Row wr N 5 R) ∧ Hid (Below N w wr)) (fun i _ _ => n - (intOf i).toNat)
  case atStart => exact ⟨0, 0, _, Nat.zero_le _, rfl, rfl, H0.out (List.replicate n 0) (by simp), hrow, hb1⟩
  case round =>
    clear hrow hb1
    obtain ⟨k, cy, R, hk, rfl, rfl, hI, hrow, hbel⟩ := hrel
    obtain ⟨hRl, hcy⟩ := hIl.out R k cy hI.out
    by_cases hlt : k < n
    · obtain ⟨j, hj⟩ : ∃ j, j + k + 1 = n := ⟨n - k - 1, by omega⟩
      have hat : (n : Int) - 1 - (k : Int) = (j : Int) := by omega
      have j0 : (0 : Int) ≤ (j : Int) := by omega
      have j1 : (j : Int) < (n : Int) := by omega
      obtain ⟨b1, o1, rfl, hb1, x1⟩ := HP.out wr hbel.out j (by omega)
      obtain ⟨b2, o2, rfl, hb2, x2⟩ := HQ.out wr hbel.out j (by omega)
      obtain ⟨a1, a2⟩ := HA.out j (by omega)
      obtain ⟨a3, a4⟩ := HA2.out j (by omega)
      have y1 : wr.drew.cell? ⟨b1, o1 + j, none⟩ = some (.int .u8 ((p.getD j 0).toNat : Int)) := x1
      have y2 : wr.drew.cell? ⟨b2, o2 + j, none⟩ = some (.int .u8 ((q.getD j 0).toNat : Int)) := x2
      have hst := fun col hc => HS.out R k cy j col hI.out hj hc
      have hrc := hrow.out.cell j (by omega)
      have hrf := hrow.out.free j
      have z1 : wr.drew.cell? ⟨N, j, none⟩ = some (.int .u8 ((R.getD j 0).toNat : Int)) := hrc
      have z2 : wr.drew.frozen? ⟨N, j, none⟩ = false := hrf
      generalize (p.getD j 0).toNat = pa at *
      generalize (q.getD j 0).toNat = qa at *
      obtain ⟨col, hcol⟩ : ∃ col, col + qa + cy = 10 + pa := ⟨10 + pa - qa - cy, by omega⟩
      have c1 : 10 + (pa : Int) - (qa : Int) - (cy : Int) = (col : Int) := by omega
      have c5 : (0 : Int) ≤ 10 + (pa : Int) - (qa : Int) := by omega
      have c6 : col ≤ 19 := by omega
      have HST := Lib.hid (hst col hcol)
      have hput := fun (W : World) (h : Row W N 5 R) (z : Int) hz => h.put j (48 + col % 10) z (by omega) (by omega) hz
      have HROW : Hid (∀ z : Int, z = ((48 + col % 10 : Nat) : Int) → Row ((wr.setCell ⟨N, j, none⟩ (.int .u8 z)).drew) N 5 (R.set j (UInt8.ofNat (48 + col % 10)))) := fun z hz => hput wr hrow.out z hz
      have HBW : Hid (∀ z, Below N w ((wr.setCell ⟨N, j, none⟩ (.int .u8 z)).drew)) := fun z => (hbel.out.setCell (p := ⟨N, j, none⟩) (Nat.le_refl _) _).drew
      have hcolh := Lib.hid hcol
      clear hcol
      have k1 : ((n : Int) - 1) - (k : Int) = (j : Int) := hat
      clear hst hput hI hrow hbel HS H0 HA HA2 HP HQ HF hIl x1 x2 hrc hrf
      go_wp2
      go_region
      go_wp2
      refine ⟨⟨k + 1, _, _, by omega, by go_num, ?_, HST.out, HROW.out _ (by omega), HBW.out _⟩, ?_⟩
      · first | rfl | (congr 1; omega)
      · simp [intOf]; omega
    · obtain rfl : k = n := by omega
      have hfin := Lib.hid (HF.out N k cy R wr hRl (Nat.le_of_eq hRl) hI.out hrow.out hbel.out)
      have k1 : ¬ (k : Int) < (k : Int) := by omega
      clear hI hrow hbel HS H0 HA HA2 HP HQ HF hIl
      go_wp2
      exact hfin.out
end Go.Proofs.YtpankmaljafnnaaGreatDoor
