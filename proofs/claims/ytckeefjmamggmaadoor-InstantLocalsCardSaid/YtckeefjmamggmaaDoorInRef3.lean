/-
  Helper: the reference's two and is.
-/
import Derived.Test.YtckeefjmamggmaaDoorInOfR
namespace Go.Proofs.YtckeefjmamggmaaDoor
open Go.RowKit
set_option linter.unusedVariables false

set_option maxHeartbeats 1000000 in
theorem ris_any (s : ByteArray) (p : Nat) (c : UInt8) (hs : s.size ≤ 1000000) (hp : p ≤ 2000000) (w : World) : Calls Tryd.prog 25 #[.string s, .int .i64 p, .int .u8 c.toNat] w fun e w' => e = .returned (.bool (decide (p < s.size ∧ s.data.toList.getD p 0 = c))) ∧ ∃ q, w' = w.drewN q := by
  by_cases h : p < s.size
  · have hpi : (p : Int) < (s.size : Int) := by omega
    have e : decide (p < s.size ∧ s.data.toList.getD p 0 = c) = ((s[p].toNat : Int) == (c.toNat : Int)) := by
      rw [ba_getD s p h]
      by_cases g : s[p] = c
      · rw [decide_eq_true ⟨h, g⟩, g]; simp
      · rw [decide_eq_false (fun x => g x.2)]
        symm
        rw [beq_eq_false_iff_ne]
        intro x
        exact g (UInt8.toNat_inj.1 (by omega))
    rw [e]
    clear e
    go_enter Tryd.func25, Tryd.ntmps25
    go_wp2
    go_ret
    exact ⟨rfl, 0, rfl⟩
  · have hpi : ¬ (p : Int) < (s.size : Int) := by omega
    rw [decide_eq_false (fun x => h x.1)]
    clear h
    go_enter Tryd.func25, Tryd.ntmps25
    go_wp2
    go_ret
    exact ⟨rfl, 0, rfl⟩
/-- what two answers -/
def twoF (l : List UInt8) (p n : Nat) : Int := if rn l p n = n then (numv ((l.drop p).take n) : Nat) else -1
theorem rn_full_iff (l : List UInt8) (p n : Nat) : rn l p n = n ↔ ((l.drop p).take n).length = n ∧ ∀ c ∈ (l.drop p).take n, isD c = true := by
  constructor
  · intro h
    obtain ⟨a, b, _⟩ := rn_inv l p n (by omega)
    exact ⟨a, b⟩
  · rintro ⟨a, b⟩
    unfold rn
    rw [tw_all _ b, a]
set_option maxHeartbeats 2000000 in
theorem rtwo_any (s : ByteArray) (p n : Nat) (hs : s.size ≤ 1000000) (hp : p ≤ 2000000) (hn0 : 0 < n) (hn : n ≤ 9) (w : World) : Calls Tryd.prog 36 #[.string s, .int .i64 p, .int .i64 n] w fun e w' => e = .returned (.int .i64 (twoF s.data.toList p n)) ∧ ∃ q, w' = w.drewN q := by
  have hlen : s.data.toList.length = s.size := by simp
  by_cases hle : p + n ≤ s.size
  · have hli : ¬ (s.size : Int) < (p : Int) + (n : Int) := by omega
    have HT : Hid (∀ k, p + k ≤ s.size → ((s.data.toList.drop p).take k).length = k) := fun k hk => by rw [List.length_take, List.length_drop]; omega
    have HX : Hid (∀ k (h : p + k < s.size), (s.data.toList.drop p).take (k + 1) = (s.data.toList.drop p).take k ++ [s[p + k]]) := fun k h => by
      rw [List.take_succ_eq_append_getElem (by rw [List.length_drop]; omega), List.getElem_drop]; rfl
    have HB : Hid (∀ k, k ≤ 9 → numv ((s.data.toList.drop p).take k) ≤ 300000000000) := fun k hk => by
      have h1 := numv_weak ((s.data.toList.drop p).take k)
      have h2 : ((s.data.toList.drop p).take k).length ≤ 9 := by rw [List.length_take]; omega
      have h3 := Nat.pow_le_pow_right (n := 10) (by omega) h2
      omega
    have HR := Lib.hid (rn_full_iff s.data.toList p n)
    have HFy : Hid ((∀ c ∈ (s.data.toList.drop p).take n, isD c = true) → twoF s.data.toList p n = (numv ((s.data.toList.drop p).take n) : Nat)) := fun h => by
      unfold twoF; rw [if_pos (HR.out.2 ⟨HT.out n hle, h⟩)]
    have HFn : Hid ((¬ ∀ c ∈ (s.data.toList.drop p).take n, isD c = true) → twoF s.data.toList p n = -1) := fun h => by
      unfold twoF; rw [if_neg (fun g => h (HR.out.1 g).2)]
    clear HR hlen HT
    generalize twoF s.data.toList p n = R at *
    generalize s.data.toList.drop p = l at *
    go_enter Tryd.func36, Tryd.ntmps36
    go_wp2
    go_loopw [7, 8] (fun ov iv wr => ∃ (k q : Nat), k ≤ n ∧ iv = .int .i64 ((p + k : Nat) : Int) ∧ ov = .int .i64 (numv (l.take k) : Nat) ∧ Hid (∀ c ∈ l.take k, isD c = true) ∧ wr = w.drewN q) (fun _ iv _ => p + n - (intOf iv).toNat)
    case atStart => exact ⟨0, 0, by omega, rfl, rfl, Lib.hid (fun c hc => by rw [List.take_zero] at hc; cases hc), rfl⟩
    case round =>
      obtain ⟨k, q, hk, rfl, rfl, hd, rfl⟩ := hrel
      by_cases hlt : k < n
      · have hlI : ((p + k : Nat) : Int) < (p : Int) + (n : Int) := by omega
        have hpk : p + k < s.size := by omega
        have hx := HX.out k hpk
        have hb := HB.out k (by omega)
        by_cases hc : isD s[p + k] = true
        · have hd2 : Hid (∀ c ∈ l.take (k + 1), isD c = true) := Lib.hid (fun c hc2 => by
            rw [hx] at hc2
            rcases List.mem_append.1 hc2 with h | h
            · exact hd.out c h
            · rw [List.mem_singleton.1 h]; exact hc)
          have hv : Hid (10 * numv (l.take k) + ((s[p + k]).toNat - 48) = numv (l.take (k + 1))) := by show _ = _; rw [hx, numv_snoc]
          obtain ⟨c1, c2⟩ := (isD_iff _).1 hc
          have h1 : (48 : Int) ≤ ((s[p + k]).toNat : Int) := by omega
          have h2 : ((s[p + k]).toNat : Int) ≤ 57 := by omega
          have e1 : Hid (∀ x : Nat, 10 * (x : Int) + (((s[p + k]).toNat : Int) - 48) = ((10 * x + ((s[p + k]).toNat - 48) : Nat) : Int)) := fun x => by omega
          clear HX HB HFy HFn hx hd hc c1 c2
          generalize numv (l.take k) = x at *
          go_wp2
          go_roundw
          case rel => exact ⟨k + 1, q, by omega, by go_num, by rw [← hv.out, ← e1.out], hd2, rfl⟩
          case measure => simp [intOf]; omega
        · have hRe := Lib.hid (HFn.out (fun g => hc (g _ (by
            have h9 : (l.take n).take (k + 1) = l.take (k + 1) := by rw [List.take_take]; congr 1; omega
            refine List.mem_of_mem_take (i := k + 1) ?_
            rw [h9, hx]; exact List.mem_append.2 (.inr (List.mem_singleton.2 rfl))))))
          have hcn : ¬ (48 ≤ (s[p + k]).toNat ∧ (s[p + k]).toNat ≤ 57) := fun g => hc ((isD_iff _).2 g)
          clear HX HB HFy HFn hx hd hc
          generalize numv (l.take k) = x at *
          by_cases g48 : (s[p + k]).toNat < 48
          · have g1 : ((s[p + k]).toNat : Int) < 48 := by omega
            clear hcn
            go_wp2
            go_ret
            exact ⟨by rw [hRe.out]; rfl, q, rfl⟩
          · have g1 : ¬ ((s[p + k]).toNat : Int) < 48 := by omega
            have g2 : (57 : Int) < ((s[p + k]).toNat : Int) := by omega
            clear hcn
            go_wp2
            go_ret
            exact ⟨by rw [hRe.out]; rfl, q, rfl⟩
      · obtain rfl : k = n := by omega
        have hRe := Lib.hid (HFy.out hd.out)
        clear HX HB HFy HFn hd
        generalize numv (l.take k) = x at *
        go_wp2
        go_ret
        exact ⟨by rw [hRe.out]; rfl, q, rfl⟩
  · have hli : (s.size : Int) < (p : Int) + (n : Int) := by omega
    have he : twoF s.data.toList p n = -1 := by
      unfold twoF
      rw [if_neg]
      intro g
      have h1 := ((rn_full_iff _ _ _).1 g).1
      rw [List.length_take, List.length_drop] at h1
      omega
    rw [he]
    clear he hlen hle
    go_enter Tryd.func36, Tryd.ntmps36
    go_wp2
    go_ret
    exact ⟨rfl, 0, rfl⟩
end Go.Proofs.YtckeefjmamggmaaDoor
