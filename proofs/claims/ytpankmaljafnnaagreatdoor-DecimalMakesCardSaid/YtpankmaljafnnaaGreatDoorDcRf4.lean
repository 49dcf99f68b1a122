/-
  Helper: the walk of the reference's Norm.
-/
import Derived.Test.YtpankmaljafnnaaGreatDoorDcRf2
namespace Go.Proofs.YtpankmaljafnnaaGreatDoor
open Go.RowKit
set_option linter.unusedVariables false
set_option linter.unusedSimpArgs false

theorem dropW_head : ∀ (l : List UInt8), ∀ c, (l.dropWhile isD).head? = some c → isD c = false
  | [], c, h => by simp at h
  | d :: l, c, h => by
    rw [List.dropWhile_cons] at h
    split at h
    · exact dropW_head l c h
    · rename_i hd
      have : d = c := by simpa using h
      rw [← this]; simpa using hd
set_option maxRecDepth 100000 in
set_option maxHeartbeats 2000000 in
/-- the digits of a string from an offset on -/
theorem digs_any (s : ByteArray) (at_ : Nat) (hat : at_ ≤ s.size) (hs : s.size ≤ 100000) (w : World) :
    Calls Tryz.prog 40 #[.string s, .int .i64 (at_ : Int)] w (fun en w' => ∃ a c, en = .returned (.tuple #[.slice a (cutD (s.data.toList.drop at_)) c, .int .i64 ((at_ + cutD (s.data.toList.drop at_) : Nat) : Int)]) ∧ cutD (s.data.toList.drop at_) ≤ c ∧ Ib w' a (((s.data.toList.drop at_).take (cutD (s.data.toList.drop at_))).map fun x => x.toNat - 48) ∧ Below w.heap.size w w') := by
  have hlen : s.data.toList.length = s.size := by simp
  have hk := cutD_le (s.data.toList.drop at_)
  rw [List.length_drop, hlen] at hk
  have hin : ∀ j, j < cutD (s.data.toList.drop at_) → 48 ≤ (s.data.toList.getD (at_ + j) 0).toNat ∧ (s.data.toList.getD (at_ + j) 0).toNat ≤ 57 := fun j hj => by
    have hm : (s.data.toList.drop at_)[j]'(by rw [List.length_drop]; omega) ∈ (s.data.toList.drop at_).takeWhile isD := by
      rw [tw_take, List.mem_take_iff_getElem]
      exact ⟨j, by rw [List.length_drop]; omega, rfl⟩
    have h2 := (isD_iff _).1 (tw_all _ _ hm)
    rw [List.getElem_drop] at h2
    rw [List.getD_eq_getElem?_getD, List.getElem?_eq_getElem (by omega)]
    exact h2
  have hout : at_ + cutD (s.data.toList.drop at_) < s.size → ¬ (48 ≤ (s.data.toList.getD (at_ + cutD (s.data.toList.drop at_)) 0).toNat ∧ (s.data.toList.getD (at_ + cutD (s.data.toList.drop at_)) 0).toNat ≤ 57) := fun h g => by
    have h1 := dropW_head (s.data.toList.drop at_)
    rw [drop_cutD, List.drop_drop, List.head?_drop, List.getElem?_eq_getElem (by omega)] at h1
    rw [List.getD_eq_getElem?_getD, List.getElem?_eq_getElem (by omega), Option.getD_some] at g
    have := h1 _ rfl
    rw [(isD_iff _).2 g] at this
    exact absurd this (by decide)
  have hsn : ∀ j, j < cutD (s.data.toList.drop at_) → ((s.data.toList.drop at_).take (j + 1)).map (fun x => x.toNat - 48) = ((s.data.toList.drop at_).take j).map (fun x => x.toNat - 48) ++ [(s.data.toList.getD (at_ + j) 0).toNat - 48] := fun j hj => by
    rw [List.take_add_one, List.getElem?_drop, List.getD_eq_getElem?_getD, List.getElem?_eq_getElem (by omega), List.map_append]; rfl
  have hml : ∀ j, j ≤ cutD (s.data.toList.drop at_) → (((s.data.toList.drop at_).take j).map (fun x : UInt8 => x.toNat - 48)).length = j := fun j hj => by
    rw [List.length_map, List.length_take, List.length_drop]; omega
  have HF : Hid (∀ a c w', cutD (s.data.toList.drop at_) ≤ c → Ib w' a (((s.data.toList.drop at_).take (cutD (s.data.toList.drop at_))).map fun x => x.toNat - 48) → Below w.heap.size w w' → (fun (en : Ending) (w' : World) => ∃ a c, en = .returned (.tuple #[.slice a (cutD (s.data.toList.drop at_)) c, .int .i64 ((at_ + cutD (s.data.toList.drop at_) : Nat) : Int)]) ∧ cutD (s.data.toList.drop at_) ≤ c ∧ Ib w' a (((s.data.toList.drop at_).take (cutD (s.data.toList.drop at_))).map fun x => x.toNat - 48) ∧ Below w.heap.size w w') (Ending.returned (.tuple #[.slice a (cutD (s.data.toList.drop at_)) c, .int .i64 ((at_ + cutD (s.data.toList.drop at_) : Nat) : Int)])) w') := fun a c w' h1 h2 h3 => ⟨a, c, rfl, h1, h2, h3⟩
  generalize (fun (en : Ending) (w' : World) => ∃ a c, en = .returned (.tuple #[.slice a (cutD (s.data.toList.drop at_)) c, .int .i64 ((at_ + cutD (s.data.toList.drop at_) : Nat) : Int)]) ∧ cutD (s.data.toList.drop at_) ≤ c ∧ Ib w' a (((s.data.toList.drop at_).take (cutD (s.data.toList.drop at_))).map fun x => x.toNat - 48) ∧ Below w.heap.size w w') = Po at *
  obtain ⟨X, hX⟩ : ∃ X : Nat → List Nat, X = fun j => ((s.data.toList.drop at_).take j).map (fun x : UInt8 => x.toNat - 48) := ⟨_, rfl⟩
  have hXa : ∀ j, ((s.data.toList.drop at_).take j).map (fun x : UInt8 => x.toNat - 48) = X j := fun j => by rw [hX]
  have hX0 : X 0 = [] := by rw [hX]; rfl
  simp only [hXa] at hsn hml HF
  generalize cutD (s.data.toList.drop at_) = K at *
  have HIN := Lib.hid hin
  have HOUT := Lib.hid hout
  have HSN := Lib.hid hsn
  have HML := Lib.hid hml
  clear hin hout hsn hml hX hXa hlen
  go_enter Tryz.func40, Tryz.ntmps40
  go_wp2_with fail
  go_loopw [1, 6] (fun iv va wr => ∃ (j p : Nat), Hid (at_ + j = p) ∧ p ≤ s.size ∧ j ≤ K ∧ iv = .int .i64 (p : Int) ∧ Hid (wr.ownsRow w.heap.size 3 1 va j (ints (X j))) ∧ Hid (Below w.heap.size w wr)) (fun iv _ _ => s.size - (intOf iv).toNat)
  case atStart => exact ⟨0, at_, rfl, hat, Nat.zero_le _, rfl, by rw [hX0]; exact World.ownsRow_nil _ _ _ _, Below.refl _ _⟩
  case round =>
    obtain ⟨j, p, hp, hps, hj, rfl, hown, hbel⟩ := hrel
    by_cases hlt : j < K
    · have hls : p < s.size := by have := hp.out; omega
      have hi1 : (p : Int) < (s.size : Int) := by omega
      obtain ⟨d1, d2⟩ := HIN.out j hlt
      have hsn2 := HSN.out j hlt
      rw [hp.out] at d1 d2 hsn2
      have hgd := getD_byte s p hls
      rw [hgd] at d1 d2 hsn2
      obtain ⟨x, hx⟩ : ∃ x, s[p].toNat = x + 48 := ⟨s[p].toNat - 48, by omega⟩
      rw [hx, Nat.add_sub_cancel] at hsn2
      have hx9 : x ≤ 9 := by omega
      have hxm : (x : Int) % 256 = (x : Int) := by omega
      have HS2 := Lib.hid hsn2
      have hp2 : Hid (at_ + (j + 1) = p + 1) := by show _ = _; have := hp.out; omega
      have hj2 : j ≤ 100000 := by omega
      clear hsn2 hgd d1 d2 HIN HOUT HSN HF HML hp
      go_wp2_with (at_builtin; refine append_int rfl (.tmp 23) (.tmp 29) 26 rfl Tryz.underlying26 _ w.heap.size _ j (X j) x rfl rfl hown.out w hbel.out ?c4 ?c5 ?c6 ?_)
      case c4 => exact hbel.out.size
      case c5 => omega
      case c6 => (first | rfl | omega)
      intro v' w2 hown2 hb2 hsp2
      have HO2 := Lib.hid hown2
      rw [← HS2.out] at HO2
      have HB2 := Lib.hid hb2
      clear hsp2 hown2 hb2 hown hbel HS2
      go_wp2
      go_roundw
      case rel => exact ⟨j + 1, p + 1, hp2, by omega, by omega, by go_num, HO2, HB2⟩
      case measure => simp [intOf]; omega
    · obtain rfl : j = K := by omega
      obtain ⟨va, vc, rfl, hsl, hvc, hib⟩ := ib_of_row hown.out
      have hfin := Lib.hid (HF.out va vc wr hvc hib hbel.out)
      rw [hp.out] at hfin
      by_cases hls : p < s.size
      · have hi1 : (p : Int) < (s.size : Int) := by omega
        have ho := HOUT.out (by have := hp.out; omega)
        have hgd := getD_byte s p hls
        rw [hp.out, hgd] at ho
        clear HIN HOUT HSN HML HF hown hbel hgd hsl hvc hib hp
        rcases (show s[p].toNat < 48 ∨ 57 < s[p].toNat by omega) with g | g
        · have q1 : ¬ (48 : Int) ≤ (s[p].toNat : Int) := by omega
          have q2 : (s[p].toNat : Int) < 48 := by omega
          go_wp2
          exact hfin.out
        · have q1 : (48 : Int) ≤ (s[p].toNat : Int) := by omega
          have q2 : ¬ (s[p].toNat : Int) ≤ 57 := by omega
          have q3 : (57 : Int) < (s[p].toNat : Int) := by omega
          go_wp2
          exact hfin.out
      · have hi1 : ¬ (p : Int) < (s.size : Int) := by omega
        clear HIN HOUT HSN HML HF hown hbel hsl hvc hib hp
        go_wp2
        exact hfin.out

theorem cv_all0 (l : List Nat) (h : ∀ j, j < l.length → l.getD j 0 = 0) : cv l = 0 := by
  induction l with
  | nil => rfl
  | cons c l ih =>
    have h0 := h 0 (by simp)
    rw [cv_cons, ih (fun j hj => by have := h (j + 1) (by simpa using hj); simpa using this)]
    have : c = 0 := by simpa using h0
    rw [this]; simp
theorem numv_word (l : List Nat) (hd : ∀ d ∈ l, d ≤ 9) : numv (wordL l) = cv l := by
  induction l with
  | nil => rfl
  | cons d l ih =>
    have h1 : wordL (d :: l) = UInt8.ofNat (48 + d) :: wordL l := rfl
    rw [h1, numv_cons, cv_cons, ih (fun x hx => hd x (by simp [hx])), dig_nat d (by have := hd d (by simp); omega)]
    unfold wordL
    rw [List.length_map]
    congr 2; omega
theorem word_AD (l : List Nat) (hd : ∀ d ∈ l, d ≤ 9) : AD (wordL l) := fun c hc => by
  obtain ⟨d, h1, rfl⟩ := List.mem_map.1 hc
  have := hd d h1
  rw [dig_nat d (by omega)]; omega
theorem dgs_cv (m : List Nat) (hd : ∀ d ∈ m, d ≤ 9) (h0 : ∃ c r, m = c :: r ∧ c ≠ 0) : dgs (cv m) = m ∧ 0 < cv m := by
  obtain ⟨c, r, rfl, hc⟩ := h0
  have hc9 := hd c (by simp)
  have hA := word_AD (c :: r) hd
  have hp : 0 < cv (c :: r) := by
    rw [cv_cons]
    have := p10 r.length
    have : 1 * 10 ^ r.length ≤ c * 10 ^ r.length := Nat.mul_le_mul_right _ (by omega)
    omega
  refine ⟨?_, hp⟩
  have hb := body_numv (wordL (c :: r)) hA (by simp [wordL]) (by
    intro g
    have g2 : UInt8.ofNat (48 + c) = 48 := by simpa [wordL] using g
    have := congrArg UInt8.toNat g2
    rw [dig_nat c (by omega)] at this
    have e : (48 : UInt8).toNat = 48 := rfl
    omega)
  rw [numv_word _ hd] at hb
  unfold dgs
  rw [if_neg (by omega), ← hb]
  unfold wordL
  rw [List.map_map]
  conv => rhs; rw [← List.map_id (c :: r)]
  apply List.map_congr_left
  intro d hdm
  have := hd d hdm
  show (UInt8.ofNat (48 + d)).toNat - 48 = d
  rw [dig_nat d (by omega)]; omega
/-- a number in its normal form -/
def nZ (z : Int) : Int := if z = 0 then 0 else zi (neg z) (mant z.natAbs)
def nEx (z e : Int) : Int := if z = 0 then 0 else e + (tz z.natAbs : Int)
theorem norm_plain (c : List Nat) (hd : ∀ d ∈ c, d ≤ 9) (i t : Nat) (hit : i < t) (ht : t ≤ c.length) (h1 : ∀ j, j < i → c.getD j 0 = 0) (h2 : ∀ j, t ≤ j → j < c.length → c.getD j 0 = 0) (h3 : c.getD i 0 ≠ 0) (h4 : c.getD (t - 1) 0 ≠ 0) (b : Bool) (e : Int) :
    nZ (zi b (cv c)) = zi b (cv ((c.drop i).take (t - i))) ∧ neg (nZ (zi b (cv c))) = b ∧ dgs (nZ (zi b (cv c))).natAbs = (c.drop i).take (t - i) ∧ nEx (zi b (cv c)) e = e + ((c.length - t : Nat) : Int) := by
  have hm : ∀ d ∈ (c.drop i).take (t - i), d ≤ 9 := fun d h => hd d (List.mem_of_mem_drop (List.mem_of_mem_take h))
  have hcons : (c.drop i).take (t - i) = c.getD i 0 :: (c.drop (i + 1)).take (t - i - 1) := by
    rw [cdrop_at c i (by omega)]
    obtain ⟨q, hq⟩ : ∃ q, t - i = q + 1 := ⟨t - i - 1, by omega⟩
    rw [hq, List.take_succ_cons]; rfl
  obtain ⟨g1, g2⟩ := dgs_cv _ hm ⟨_, _, hcons, h3⟩
  have e1 : c.take t = c.take i ++ (c.drop i).take (t - i) := by
    have : t = i + (t - i) := by omega
    conv => lhs; rw [this, List.take_add]
  have e2 : cv (c.take t) = cv ((c.drop i).take (t - i)) := by
    rw [e1, cv_append, cv_all0 (c.take i) (fun j hj => by
      rw [List.length_take] at hj
      have := h1 j (by omega)
      rw [List.getD_eq_getElem?_getD, List.getElem?_take_of_lt (by omega), ← List.getD_eq_getElem?_getD]; exact this)]
    simp
  have e3 : cv c = cv (c.take t) * 10 ^ (c.length - t) := by
    conv => lhs; rw [← List.take_append_drop t c, cv_append, List.length_drop]
    rw [cv_all0 (c.drop t) (fun j hj => by
      rw [List.length_drop] at hj
      have := h2 (t + j) (by omega) (by omega)
      rw [List.getD_eq_getElem?_getD, List.getElem?_drop, ← List.getD_eq_getElem?_getD]; exact this), Nat.add_zero]
  have e4 : cv (c.take t) % 10 ≠ 0 := by
    obtain ⟨q, hq⟩ : ∃ q, t = q + 1 := ⟨t - 1, by omega⟩
    subst hq
    have hg : c.getD q 0 = c[q]'(by omega) := by rw [List.getD_eq_getElem?_getD, List.getElem?_eq_getElem (by omega)]; rfl
    have h9 := hd (c[q]'(by omega)) (List.getElem_mem (by omega))
    rw [List.take_add_one, List.getElem?_eq_getElem (by omega)]
    show cv (c.take q ++ [c[q]'(by omega)]) % 10 ≠ 0
    rw [cv_snoc]
    rw [Nat.add_sub_cancel, hg] at h4
    omega
  obtain ⟨u1, u2⟩ := mant_uni (cv (c.take t)) (c.length - t) e4
  rw [← e3] at u1 u2
  have hpos : 0 < cv c := by
    rw [e3]; exact Nat.mul_pos (by omega) (p10 _)
  have hz : zi b (cv c) ≠ 0 := by unfold zi; cases b <;> simp <;> omega
  have hn : nZ (zi b (cv c)) = zi b (cv ((c.drop i).take (t - i))) := by
    unfold nZ
    rw [if_neg hz, zi_abs, neg_zi b _ (by omega), u1, e2]
  refine ⟨hn, ?_, ?_, ?_⟩
  · rw [hn, neg_zi b _ (by omega)]
  · rw [hn, zi_abs, g1]
  · unfold nEx; rw [if_neg hz, zi_abs, u2]
theorem norm_zero (c : List Nat) (h : ∀ j, j < c.length → c.getD j 0 = 0) (b : Bool) (e : Int) : nZ (zi b (cv c)) = 0 ∧ nEx (zi b (cv c)) e = 0 := by
  have : zi b (cv c) = 0 := by rw [cv_all0 c h]; cases b <;> rfl
  rw [this]; exact ⟨rfl, rfl⟩
/-- the same append as a step of a region that draws its order -/
theorem step_append_int {w : World} {ops : Array Oper} {o : Oper} {a : Act} {K : Act → World → Prop} {Q : Exit → Act → World → Prop} {E : Prop} (hgd : o.guard = none) (s x : Operand) (t : TypeId)
    (ho : o.op = Op.call { callee := Callee.builtin Builtin.append, args := #[s, x], argTypes := #[t, t] }) (hu : Tryz.prog.underlying t = some (.slice 3))
    (z : Int) (B : Nat) (v : Value) (n : Nat) (l : List Nat) (c : Nat) (hs : a.eval s = v) (hx : a.eval x = .slice (some ⟨w.heap.size, 0, none⟩) 1 1)
    (hown : w.ownsRow B 3 1 v n (ints l)) (w0 : World) (hb : Below B w0 w) (hB : B ≤ w.heap.size) (hn : n ≤ 100000000) (hz : z = (c : Int))
    (h : ∀ v' w1, w1.ownsRow B 3 1 v' (n + 1) (ints (l ++ [c])) → Below B w0 w1 → Spared w v w1 → K (a.put o.dst v') w1) :
    if Region.wanted o (yielded ops a.tmps) = true then Oper.wp Tryz.prog o a (w.alloc (.cells #[.int .i64 z] 3)) K Q else E := by
  have hw : Region.wanted o (yielded ops a.tmps) = true := by simp [Region.wanted, hgd]
  rw [if_pos hw]
  obtain ⟨i0, hi, hz0, hz1, hz2⟩ := info_parts info_int
  have hlt := hown.lt
  obtain ⟨v', w1, hrun, ho', hgr, _⟩ := run_append_own (P := Tryz.prog) (w.alloc (.cells #[.int .i64 z] 3)) B t o.type 3 i0 (.int .i64 0) 1 8 hu hi hz0 hz1 hz2 rfl (by decide) v n (ints l) (hown.alloc _) ⟨w.heap.size, 0, none⟩ 1 1 [.int .i64 (c : Int)] rfl
    (by
      intro j u hj
      match j, hj with
      | 0, hj => simp at hj; subst hj; rw [hz]; simp [Addr.add])
    (by intro u hu'; simp at hu'; subst hu'; rfl) (by unfold maxLen; omega) (by omega) (by simp; omega)
  unfold Oper.wp
  simp [execOp, ho, resolve, invoke, builtin, hs, hx, hrun, Result.andThen]
  rw [ints_snoc] at ho'
  refine h v' w1 ho' ((hb.alloc hB _).grown hgr (by simp; omega) (fun k hk => (hlt k hk).1)) ⟨?_, fun k h1 h2 => ?_⟩
  · have := hgr.size
    simp at this; omega
  · rw [hgr.block k (by simp; omega) h2]
    exact Below.heap_alloc _ _ _ h1
theorem Blk.spared {w w' : World} {n t B m : Nat} {e : TypeId} {v : Value} {cs xs : List Value} (h : Blk w n t cs) (hs : Spared w v w') (ho : w.ownsRow B e 1 v m xs) (hn : n < B) : Blk w' n t cs := by
  refine (hs.2 n h.lt (fun g => ?_)).trans h
  have := ho.lt n g.symm
  omega
theorem size_D : (Tryz.prog.info? 28).map (·.size) = some 3 := by kernel_rfl
theorem load_D {w : World} {g : Nat} {b : Bool} {a : Option Addr} {n c : Nat} {e : Int} (h : Blk w g 28 (nvl b a n c e)) : (loadVar 28 ⟨g, 0, none⟩).run Tryz.prog w = .ok (.agg (nvl b a n c e).toArray) w :=
  run_loadVar_row w g 28 28 (nvl b a n c e).toArray (0, 0) _ h Tryz.underlying28 rfl (by rw [size_D]; rfl)
theorem fin_norm (tmps : Array Value) (W : World) (N : Nat) (b : Bool) (a : Option Addr) (n c : Nat) (e : Int) (hp : tmps.getD 6 undef = .pointer (some ⟨N, 0, none⟩)) (h : Blk W N 28 (nvl b a n c e)) :
    (results Tryz.f41 tmps).run Tryz.prog W = .ok (.agg (nvl b a n c e).toArray) W :=
  results_row (p := 6) (ty := 28) rfl tmps W N _ hp (load_D h)
/-- a reference's number in its normal form -/
def RD (z e : Int) (w : World) (en : Ending) (w' : World) : Prop := ∃ a c, en = .returned (.agg (nvl (neg z) a (dgs z.natAbs).length c e).toArray) ∧ (dgs z.natAbs).length ≤ c ∧ Ib w' a (dgs z.natAbs) ∧ Below w.heap.size w w' ∧ ∀ ad, a = some ad → w.heap.size ≤ ad.block
set_option maxRecDepth 100000 in
set_option maxHeartbeats 4000000 in
theorem norm_any (b : Bool) (c : List Nat) (hd : ∀ d ∈ c, d ≤ 9) (hl : c.length ≤ 100000) (a : Option Addr) (cap : Nat) (e : Int) (he1 : -100000000 ≤ e) (he2 : e ≤ 100000000) (w : World) (hr : Ib w a c) :
    Calls Tryz.prog 41 #[.bool b, .slice a c.length cap, .int .i64 e] w (RD (nZ (zi b (cv c))) (nEx (zi b (cv c)) e) w) := by
  have HNZ := Lib.hid (fun h => norm_zero c h b e)
  have HNP := Lib.hid (fun i t h0 h1 h2 h3 h4 h5 => norm_plain c hd i t h0 h1 h2 h3 h4 h5 b e)
  have HFz : Hid (nZ (zi b (cv c)) = 0 → nEx (zi b (cv c)) e = 0 → ∀ w', Below w.heap.size w w' → RD (nZ (zi b (cv c))) (nEx (zi b (cv c)) e) w (.returned (.agg (nvl false none 0 0 0).toArray)) w') := fun h1 h2 w' hb => by
    rw [h1, h2]; exact ⟨none, 0, rfl, Nat.le_refl _, .inl rfl, hb, fun ad h => by cases h⟩
  have HFy : Hid (∀ bb m ee, neg (nZ (zi b (cv c))) = bb → dgs (nZ (zi b (cv c))).natAbs = m → nEx (zi b (cv c)) e = ee → ∀ a' c' w', m.length ≤ c' → Ib w' a' m → Below w.heap.size w w' → (∀ ad, a' = some ad → w.heap.size ≤ ad.block) → RD (nZ (zi b (cv c))) (nEx (zi b (cv c)) e) w (.returned (.agg (nvl bb a' m.length c' ee).toArray)) w') := fun bb m ee h1 h2 h3 a' c' w' h4 h5 hb hfr => by
    subst h1 h2 h3; exact ⟨a', c', rfl, h4, h5, hb, hfr⟩
  generalize RD (nZ (zi b (cv c))) (nEx (zi b (cv c)) e) w = Po at *
  have HX : Hid (∀ V, Below w.heap.size w V → ∀ i, i < c.length → ∃ b off, a = some ⟨b, off, none⟩ ∧ b < w.heap.size ∧ V.cell? ⟨b, off + i, none⟩ = some (.int .i64 ((c.getD i 0 : Nat) : Int))) := fun V h i hi => by
    obtain ⟨b, off, h1, h2, h3⟩ := hr.at i hi
    refine ⟨b, off, h1, h2, ?_⟩
    rw [h.cell (show b < w.heap.size from h2)]; exact h3
  obtain ⟨N, hN⟩ : ∃ N, w.heap.size = N := ⟨_, rfl⟩
  obtain ⟨W0, hW0⟩ : ∃ W0, w.alloc (.cells #[.bool false, .slice none 0 0, .int .i64 0] 28) = W0 := ⟨_, rfl⟩
  have B0 : Hid (Blk W0 N 28 (nvl false none 0 0 0)) := by rw [← hW0, ← hN]; exact Blk.new w _ _
  have b0 : Hid (Below w.heap.size w W0) := by rw [← hW0]; exact (Below.refl _ w).alloc (Nat.le_refl _) _
  have hD := Lib.hid hd
  obtain ⟨n, hn⟩ : ∃ n, c.length = n := ⟨_, rfl⟩
  have hnh := Lib.hid hn
  clear hd hr
  rw [hn] at HX hl
  simp only [hn] at HNZ HNP
  rw [hn]
  clear hn
  go_enter Tryz.func41, Tryz.ntmps41
  go_wp2_with fail
  go_loop [7] (fun iv => ∃ i : Nat, i ≤ n ∧ iv = .int .i64 (i : Int) ∧ Hid (∀ j, j < i → c.getD j 0 = 0)) (fun iv => n - (intOf iv).toNat)
  case atStart => exact ⟨0, Nat.zero_le _, rfl, fun j hj => absurd hj (Nat.not_lt_zero _)⟩
  case round =>
    obtain ⟨i, hi, rfl, hz⟩ := hrel
    by_cases hlt : i < n
    · have hii : (i : Int) < (n : Int) := by omega
      obtain ⟨gb, go, rfl, hgb, x1⟩ := HX.out W0 b0.out i hlt
      by_cases h0 : c.getD i 0 = 0
      · have hq : (((c.getD i 0 : Nat) : Int) == 0) = true := by rw [h0]; rfl
        have hz2 : Hid (∀ j, j < i + 1 → c.getD j 0 = 0) := fun j hj => by
          by_cases e : j = i
          · rw [e]; exact h0
          · exact hz.out j (by omega)
        clear h0 hz HFz HFy HNZ HNP
        generalize c.getD i 0 = ci at *
        go_wp2_with fail
        go_round
        case rel => exact ⟨i + 1, by omega, by go_num, hz2⟩
        case measure => simp [intOf]; omega
      · have hq : (((c.getD i 0 : Nat) : Int) == 0) = false := by rw [beq_eq_false_iff_ne]; omega
        have h0h := Lib.hid h0
        obtain ⟨ci, hci⟩ : ∃ ci, c.getD i 0 = ci := ⟨_, rfl⟩
        rw [hci] at hq x1
        clear h0 hci
        obtain ⟨r0, hr0⟩ : ∃ r0, n - 1 + 1 + r0 = n := ⟨0, by omega⟩
        go_wp2_with fail
        go_loop [8, 2] (fun tv ev => ∃ q r : Nat, q + 1 + r = n ∧ i ≤ q ∧ tv = .int .i64 (q + 1 : Int) ∧ ev = .int .i64 (e + (r : Int)) ∧ Hid (∀ j, q + 1 ≤ j → j < n → c.getD j 0 = 0)) (fun tv _ => (intOf tv).toNat)
        case atStart => exact ⟨n - 1, 0, by omega, by omega, by first | rfl | (congr 1; omega), by first | rfl | (congr 1; omega), fun j h1 h2 => by omega⟩
        case round =>
          obtain ⟨q, r, hqr, hiq, rfl, rfl, hz2⟩ := hrel
          obtain ⟨_, _, hx2, _, x2⟩ := HX.out W0 b0.out q (by omega)
          cases hx2
          have k1 : (i : Int) < (q : Int) + 1 := by omega
          have k2 : (q : Int) + 1 - 1 = (q : Int) := by omega
          have k3 : (q : Int) < (n : Int) := by omega
          by_cases hq0 : c.getD q 0 = 0
          · have hqi : q ≠ i := fun g => h0h.out (by rw [← g]; exact hq0)
            have hq2 : (((c.getD q 0 : Nat) : Int) == 0) = true := by rw [hq0]; rfl
            obtain ⟨p, rfl⟩ : ∃ p, q = p + 1 := ⟨q - 1, by omega⟩
            have hz3 : Hid (∀ j, p + 1 ≤ j → j < n → c.getD j 0 = 0) := fun j h1 h2 => by
              by_cases e : j = p + 1
              · rw [e]; exact hq0
              · exact hz2.out j (by omega) h2
            have hw1 : IntKind.i64.wrap (e + (r : Int) + 1) = e + (r : Int) + 1 := wrapI _ (by omega) (by omega)
            clear hq0 hz2 hz HFz HFy HNZ HNP
            generalize c.getD (p + 1) 0 = cq at *
            go_wp2_with fail
            go_round
            case rel => exact ⟨p, r + 1, by omega, by omega, by first | rfl | (congr 1; omega), by first | rfl | (congr 1; omega), hz3⟩
            case measure => simp [intOf]; omega
          · have hq2 : (((c.getD q 0 : Nat) : Int) == 0) = false := by rw [beq_eq_false_iff_ne]; omega
            have hfy := HNP.out i (q + 1) (by omega) (by omega) hz.out hz2.out h0h.out (by rw [Nat.add_sub_cancel]; exact hq0)
            rw [show n - (q + 1) = r by omega] at hfy
            obtain ⟨y1, y2, y3, y4⟩ := hfy
            have HFm := Lib.hid (HFy.out _ _ _ y2 y3 y4)
            obtain ⟨m, hm⟩ : ∃ m, (c.drop i).take (q + 1 - i) = m := ⟨_, rfl⟩
            rw [hm] at HFm
            obtain ⟨cq, hcq⟩ : ∃ cq, c.getD q 0 = cq := ⟨_, rfl⟩
            rw [hcq] at hq2 x2
            have hiq2 : ((i : Int) == (q : Int) + 1) = false := by rw [beq_eq_false_iff_ne]; omega
            have hmh := Lib.hid hm
            have hcqh := Lib.hid hcq
            clear y1 y2 y3 y4 hcq hq0 hm HFz HFy HNZ HNP hz hz2
            obtain ⟨M, hM⟩ : ∃ M, W0.heap.size = M := ⟨_, rfl⟩
            have hNM : N < M := by rw [← hM]; exact B0.out.lt
            obtain ⟨W1, hW1⟩ : ∃ W1, W0.alloc (.cells #[.bool b, .slice none 0 0, .int .i64 (e + (r : Int))] 28) = W1 := ⟨_, rfl⟩
            have B1 : Hid (Blk W1 M 28 [.bool b, .slice none 0 0, .int .i64 (e + (r : Int))]) := by rw [← hW1, ← hM]; exact Blk.new W0 _ _
            have B2 : Hid (Blk W1 N 28 (nvl false none 0 0 0)) := by rw [← hW1]; exact B0.out.old _
            have b1 : Hid (Below w.heap.size w W1) := by rw [← hW1]; exact b0.out.alloc b0.out.size _
            have hW1s : Hid (M + 1 ≤ W1.heap.size) := by show _ ≤ _; rw [← hW1, ← hM]; simp
            have hml : Hid (m.length = q + 1 - i) := by show _ = _; rw [← hmh.out, List.length_take, List.length_drop]; have := hnh.out; omega
            have hms : Hid (∀ j, i + j < q + 1 → m.take (j + 1) = m.take j ++ [c.getD (i + j) 0]) := fun j hj => by
              rw [← hmh.out, List.take_take, List.take_take, Nat.min_eq_left (by omega), Nat.min_eq_left (by omega), List.take_add_one, List.getElem?_drop, List.getD_eq_getElem?_getD, List.getElem?_eq_getElem (by have := hnh.out; omega)]; rfl
            have hmt : Hid (m.take (q + 1 - i) = m) := by show _ = _; rw [List.take_of_length_le (by rw [hml.out]; exact Nat.le_refl _)]
            clear hmh hcqh x1 B0 b0 h0h hD
            go_wp2_with fail
            clear x2
            go_loopw [10] (fun jv wr => ∃ (p j : Nat) (va : Value), Hid (i + j = p) ∧ p ≤ q + 1 ∧ jv = .int .i64 (p : Int) ∧ Hid (Blk wr M 28 [.bool b, va, .int .i64 (e + (r : Int))]) ∧ Hid (wr.ownsRow (M + 1) 3 1 va j (ints (m.take j))) ∧ Hid (Below w.heap.size w wr) ∧ Hid (Blk wr N 28 (nvl false none 0 0 0)) ∧ M + 1 ≤ wr.heap.size) (fun jv _ => q + 1 - (intOf jv).toNat)
            case atStart => exact ⟨i, 0, .slice none 0 0, rfl, by omega, rfl, B1, World.ownsRow_nil _ _ _ _, b1, B2, hW1s.out⟩
            case round =>
              clear B1 B2 b1 hW1s hW1
              obtain ⟨p, j, va, hp, hpq, rfl, hBM, hown, hbel, hBN, hsw⟩ := hrel
              have x0 := hBM.out.cell 0 _ rfl
              have x1 := hBM.out.cell 1 _ rfl
              have x2 := hBM.out.cell 2 _ rfl
              have f1 := hBM.out.free 1
              by_cases hlp : p < q + 1
              · have hpi : (p : Int) < (q : Int) + 1 := by omega
                have hpn : (p : Int) < (n : Int) := by omega
                have hp0 : (0 : Int) ≤ (p : Int) := by omega
                obtain ⟨_, _, hx3, _, x3⟩ := HX.out wr hbel.out p (by omega)
                cases hx3
                have hms2 := hms.out j (by have := hp.out; omega)
                rw [hp.out] at hms2
                obtain ⟨cp, hcp⟩ : ∃ cp, c.getD p 0 = cp := ⟨_, rfl⟩
                rw [hcp] at hms2 x3
                have HMS := Lib.hid hms2
                have hp2 : Hid (i + (j + 1) = p + 1) := by show _ = _; have := hp.out; omega
                have hj : j ≤ 100000 := by have := hp.out; omega
                have x1a : (wr.alloc (.cells #[.int .i64 (cp : Int)] 3)).cell? ⟨M, 1, none⟩ = some va := by
                  rw [World.cell?_alloc_past _ _ _ (show M < wr.heap.size by omega)]; exact x1
                clear hms2 hcp hms hmt hml HFm
                go_wp2_with fail
                go_region_law ((first | refine step_append_int rfl (.tmp 54) (.tmp 59) 26 rfl Tryz.underlying26 _ (M + 1) _ j (m.take j) cp rfl rfl hown.out wr (Below.drew (Below.refl _ _)) hsw (by omega) rfl ?_ | refine step_append_int (w := wr.drew) rfl (.tmp 54) (.tmp 59) 26 rfl Tryz.underlying26 _ (M + 1) _ j (m.take j) cp rfl rfl hown.out wr (Below.drew (Below.refl _ _)) hsw (by omega) rfl ?_); intro v' w3 hown3 hb3 hsp; obtain ⟨a3, c3, rfl⟩ := World.ownsRow.isSlice hown3; have hbx3 := hBM.out.spared hsp hown.out (Nat.lt_succ_self M); have y0 := hbx3.cell 0 _ rfl; have y1 := hbx3.cell 1 _ rfl; have y2 := hbx3.cell 2 _ rfl; have g1 := hbx3.free 1)
                all_goals
                  have hr3 := Lib.hid (hBN.out.spared hsp hown.out (by omega))
                  have hw3 : Hid (Below w.heap.size w w3) := hbel.out.trans (hb3.mono (by rw [hN]; omega))
                  have hsw3 := hb3.size
                  rw [← HMS.out] at hown3
                  have hown3h := Lib.hid hown3
                  have hbx3h := Lib.hid hbx3
                  clear hsp hown3 hbx3 hb3 x0 x1 x2 x1a x3 f1 hbel hown hBM hBN HX
                  go_wp2
                  go_roundw
                  case rel =>
                    exact ⟨p + 1, j + 1, .slice a3 (j + 1) c3, hp2, by omega, by go_num, Lib.hid (hbx3h.out.set 1 _), Lib.hid (ownsRow_setCell_below hown3h.out (Nat.lt_succ_self M) _), Lib.hid (hw3.out.setCell (p := ⟨M, 1, none⟩) (by rw [hN]; show N ≤ M; omega) _), Lib.hid (hr3.out.far (by omega) _ _), by simp [World.setCell]; omega⟩
                  case measure => simp [intOf]; omega
              · obtain rfl : p = q + 1 := by omega
                have hpi : ¬ ((q + 1 : Nat) : Int) < (q : Int) + 1 := by omega
                have hjm : j = q + 1 - i := by have := hp.out; omega
                have ho2 := hown.out
                rw [hjm, hmt.out] at ho2
                obtain ⟨a3, c3, rfl⟩ := World.ownsRow.isSlice ho2
                have hmj : m.length = j := by rw [hml.out]; exact hjm.symm
                have hoV := ownsRow_setCell_below (ownsRow_setCell_below (ownsRow_setCell_below ho2 (a := ⟨N, 0, none⟩) (show N < M + 1 by omega) (.bool b)) (a := ⟨N, 1, none⟩) (show N < M + 1 by omega) (.slice a3 (q + 1 - i) c3)) (a := ⟨N, 2, none⟩) (show N < M + 1 by omega) (.int .i64 (e + (r : Int)))
                obtain ⟨a4, c4, h4, h5, h6, h7⟩ := ib_of_row hoV
                cases h4
                have hbV : Below w.heap.size w (((wr.setCell ⟨N, 0, none⟩ (.bool b)).setCell ⟨N, 1, none⟩ (.slice a3 (q + 1 - i) c3)).setCell ⟨N, 2, none⟩ (.int .i64 (e + (r : Int)))) := ((hbel.out.setCell (p := ⟨N, 0, none⟩) (by rw [hN]; exact Nat.le_refl _) _).setCell (p := ⟨N, 1, none⟩) (by rw [hN]; exact Nat.le_refl _) _).setCell (p := ⟨N, 2, none⟩) (by rw [hN]; exact Nat.le_refl _) _
                have hf0 := HFm.out a3 c3 _ (by rw [hmj, hjm]; exact h6) h7 hbV (fun ad had => by have := (ho2.lt ad.block (by rw [had]; rfl)).1; rw [hN]; omega)
                rw [hmj, hjm] at hf0
                have hfin := Lib.hid hf0
                have f1h : Hid (Blk (((wr.setCell ⟨N, 0, none⟩ (.bool b)).setCell ⟨N, 1, none⟩ (.slice a3 (q + 1 - i) c3)).setCell ⟨N, 2, none⟩ (.int .i64 (e + (r : Int)))) N 28 (nvl b a3 (q + 1 - i) c3 (e + (r : Int)))) := ((hBN.out.set 0 _).set 1 _).set 2 _
                have r0 := hBN.out.cell 0 _ rfl
                have r1 := hBN.out.cell 1 _ rfl
                have r2 := hBN.out.cell 2 _ rfl
                have r3 := hBN.out.free 0
                have r4 := hBN.out.free 1
                have r5 := hBN.out.free 2
                clear hf0 hbV hoV h5 h6 h7 ho2 hown hbel hBM hBN HX HFm hms hmt hml hmj
                obtain ⟨L, hL⟩ : ∃ L, q + 1 - i = L := ⟨_, rfl⟩
                rw [hL] at hfin f1h x1 hjm
                clear hL
                subst hjm
                go_wp2
                exact bodyPost_ret (v := .agg (nvl b a3 j c3 (e + (r : Int))).toArray) (fin_norm _ _ N b a3 j c3 (e + (r : Int)) rfl f1h.out) rfl hfin.out
    · obtain rfl : i = n := by omega
      have hii : ¬ (i : Int) < (i : Int) := by omega
      have hall := HNZ.out hz.out
      obtain ⟨hb5, hB5⟩ : Below w.heap.size w (W0.setRow N (nvl false none 0 0 0).toArray) ∧ Blk (W0.setRow N (nvl false none 0 0 0).toArray) N 28 (nvl false none 0 0 0) := ⟨below_row b0.out (Nat.le_of_eq hN) _, B0.out.row _⟩
      have hfin := Lib.hid (HFz.out hall.1 hall.2 _ hb5)
      have B5 := Lib.hid hB5
      have hzD : ∀ W, (zeroValue 28).run Tryz.prog W = .ok (.agg (nvl false none 0 0 0).toArray) W := fun W => by kernel_rfl
      clear hall HFz HFy HNZ HNP hz HX hb5 hB5
      go_wp2_with fail
      go_loop [8, 2] (fun tv ev => tv = .int .i64 (i : Int) ∧ ev = .int .i64 e) (fun _ _ => 0)
      case atStart => exact ⟨rfl, rfl⟩
      case round =>
        obtain ⟨rfl, rfl⟩ := hrel
        go_wp2_with (refine wpList_store_row rfl 28 (.tmp 6) (.tmp 43) rfl N _ rfl rfl 28 _ B0.out (by rw [size_D]; rfl) (nvl_z _ false _ none _ 0 _ 0 _ 0) (nvl_one false none 0 0 0) ?_)
        exact bodyPost_ret (v := .agg (nvl false none 0 0 0).toArray) (fin_norm _ _ N false none 0 0 0 rfl B5.out) rfl hfin.out
end Go.Proofs.YtpankmaljafnnaaGreatDoor
