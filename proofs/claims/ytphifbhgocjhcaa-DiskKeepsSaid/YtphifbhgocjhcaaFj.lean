/- Those numbers whose keep is true. -/
import Derived.Test.YtphifbhgocjhcaaCh
import Derived.Test.YtphifbhgocjhcaaFd
namespace Go.Proofs.Ytphifbhgocjhcaa
set_option linter.unusedSimpArgs false
set_option linter.unusedVariables false
open Go.RowKit Go.Maps

/-- The slice (A, n, c) reads, in w, as bools, and lies below block top. -/
def Bi (w : World) (top : Nat) (A : Option Addr) (n c : Nat) (l : List Bool) : Prop :=
  l.length = n ∧ n ≤ c ∧ (0 < n → ∃ ad, A = some ad ∧ ad.block < top ∧ ∀ j u, l[j]? = some u → w.cell? (ad.add j) = some (.bool u))
section
variable {w w' : World} {top base n c : Nat} {A : Option Addr} {l : List Bool}
theorem Bi.nil (w : World) (top c : Nat) (A : Option Addr) : Bi w top A 0 c [] := ⟨rfl, Nat.zero_le _, fun h => absurd h (by omega)⟩
theorem Bi.keep (h : Bi w top A n c l) (hk : ∀ p : Addr, p.block < top → w'.cell? p = w.cell? p) : Bi w' top A n c l :=
  ⟨h.1, h.2.1, fun hn => by
    obtain ⟨ad, e, hb, hc⟩ := h.2.2 hn
    exact ⟨ad, e, hb, fun j u hu => (hk _ (by rw [add_block]; exact hb)).trans (hc j u hu)⟩⟩
theorem Bi.below (h : Bi w top A n c l) (hb : Below top w w') : Bi w' top A n c l := h.keep fun _ hp => hb.cell hp
theorem Bi.at_ (h : Bi w top A n c l) {k : Nat} (hk : k < n) : ∃ ad u, A = some ad ∧ l[k]? = some u ∧ w.cell? (ad.add k) = some (.bool u) := by
  obtain ⟨ad, e, hb, hc⟩ := h.2.2 (by omega)
  have hl : k < l.length := by have := h.1; omega
  exact ⟨ad, l[k], e, List.getElem?_eq_getElem hl, hc k _ (List.getElem?_eq_getElem hl)⟩
end

/-- A row of numbers of the call's own. -/
def Oi (w : World) (base : Nat) (v : Value) (l : List Nat) : Prop := w.ownsRow base 3 1 v l.length (l.map fun j : Nat => encZ (j : Int))
theorem info_i64 : (Try.prog.info? 3).map (fun i => (i.zero, i.size, i.bytes)) = some (some (.int .i64 0), 1, 8) := by kernel_rfl
/-- append of one number. -/
theorem wpList_appn {w : World} {ops : Array Oper} {rest : List Oper} {o : Oper} {a : Act} {Q : Exit → Act → World → Prop} (hgd : o.guard = none) (s x : Operand)
    (ho : o.op = .call { callee := .builtin .append, args := #[s, x], argTypes := #[32, 32] })
    {base : Nat} {v : Value} {xs : List Nat} (hs : a.eval s = v) (hown : Oi w base v xs) {ad : Addr} {u : Nat} (hx : a.eval x = .slice (some ad) 1 1) (hr : w.cell? ad = some (.int .i64 (u : Int)))
    (hb : xs.length ≤ 4294967296) (hbase : base ≤ w.heap.size)
    (h : ∀ v' w', Oi w' base v' (xs ++ [u]) → w.grownBy w' v.ownBlock → wpList Try.prog ops Q rest (a.put o.dst v') w') : wpList Try.prog ops Q (o :: rest) a w := by
  obtain ⟨i, hi, hz0, hz1, hz2⟩ := info_parts info_i64
  refine wpList_plain hgd fun K hK => ?_
  obtain ⟨v', w', hrun, h2, h3, _, h5⟩ := run_append_own_at (P := Try.prog) w base 32 o.type 3 i (.int .i64 0) 1 8 Try.underlying32 hi hz0 hz1 hz2 rfl (by decide) v xs.length (xs.map fun j : Nat => encZ (j : Int)) hown ad 1 1 [encZ (u : Int)]
      rfl (fun j x hj => by
        cases j with
        | zero => simp at hj; subst hj; rw [show ad.add 0 = ad by unfold Addr.add; simp]; exact hr
        | succ j => simp at hj) (fun x hx => by simp at hx; subst hx; rfl) (by simp only [maxLen]; omega) (by omega) hbase
  unfold Oper.wp execOp
  simp only [ho, resolve, invoke, builtin, Sem.run_bind, Sem.run_pure, Result.andThen_ok, List.map_toArray, List.map_cons, List.map_nil, hs, hx, hrun]
  refine hK _ _ (h v' w' ?_ h3)
  unfold Oi
  rw [List.length_append, List.map_append]
  exact h2
theorem Oi.base {w : World} {v : Value} {base : Nat} {l : List Nat} (h : Oi w base v l) : ∀ r, v.ownBlock = some r → base ≤ r := by
  intro r hr
  rcases h.2 with ⟨rfl, _⟩ | ⟨g, cap, cur, rfl, hb, _⟩
  · cases hr
  · simp only [Value.ownBlock, Option.some.injEq] at hr
    omega
theorem Oi.nil (w : World) (base : Nat) : Oi w base (.slice none 0 0) [] := ⟨rfl, .inl ⟨rfl, rfl⟩⟩
theorem Oi.ni {w : World} {base : Nat} {v : Value} {l : List Nat} (h : Oi w base v l) : ∃ A c, v = .slice A l.length c ∧ Ni w base A l.length c l := ni_of_row h

theorem chosen_step : ∀ (l : List Nat) (k : List Bool) (i u : Nat) (b : Bool), l[i]? = some u → k[i]? = some b → chosen (l.take (i + 1)) (k.take (i + 1)) = chosen (l.take i) (k.take i) ++ (if b then [u] else [])
  | [], _, i, u, b, h, _ => by simp at h
  | _ :: _, [], i, u, b, _, h => by simp at h
  | x :: l, y :: k, 0, u, b, h1, h2 => by
    simp at h1 h2
    subst h1 h2
    cases y <;> simp [chosen]
  | x :: l, y :: k, i + 1, u, b, h1, h2 => by
    have := chosen_step l k i u b (by simpa using h1) (by simpa using h2)
    simp only [List.take_succ_cons]
    cases y
    · simpa [chosen] using this
    · simpa [chosen] using this
theorem chosen_take : ∀ (l : List Nat) (k : List Bool) (n : Nat), n = min l.length k.length → chosen (l.take n) (k.take n) = chosen l k
  | [], k, n, h => by cases k <;> simp [chosen]
  | x :: l, [], n, h => by simp [chosen]
  | x :: l, y :: k, n, h => by
    obtain ⟨n, rfl⟩ : ∃ q, n = q + 1 := ⟨n - 1, by simp only [List.length_cons] at h; omega⟩
    have := chosen_take l k n (by simp only [List.length_cons] at h; omega)
    simp only [List.take_succ_cons, chosen, this]

theorem chosen_len : ∀ (l : List Nat) (k : List Bool), (chosen l k).length ≤ l.length
  | [], k => by cases k <;> simp [chosen]
  | x :: l, [] => by simp [chosen]
  | x :: l, y :: k => by
    have := chosen_len l k
    cases y <;> simp [chosen] <;> omega
section
variable {w : World}
set_option maxRecDepth 100000 in
theorem chosen_any {base : Nat} {A : Option Addr} {n c : Nat} {l : List Nat} (hr : Ni w base A n c l) {top : Nat} {A2 : Option Addr} {n2 c2 : Nat} {k : List Bool} (hk : Bi w top A2 n2 c2 k) (ht : top ≤ w.heap.size) (hn : n ≤ 16384) (hn2 : n2 ≤ 4294967296) :
    Calls Try.prog 40 #[.slice A n c, .slice A2 n2 c2] w fun e w' => ∃ v, e = .returned v ∧ Oi w' w.heap.size v (chosen l k) ∧ Below w.heap.size w w' := by
  have HR := Lib.hid hr
  have HK := Lib.hid hk
  have hlen := hr.1
  have hlen2 := hk.1
  have hcap := hr.2.1
  have hcap2 := hk.2.1
  clear hr hk
  go_enter Try.func40, Try.ntmps40
  obtain ⟨q, hq⟩ : ∃ q, q = min n n2 := ⟨_, rfl⟩
  have e1 : min (n : Int) (n2 : Int) = (q : Int) := by omega
  have e3 : max (q : Int) 0 = (q : Int) := by omega
  have HQ := Lib.hid hq
  have hq1 : q ≤ n := by omega
  have hq2 : q ≤ n2 := by omega
  clear hq
  go_wp2
  have HN := Lib.hid hlen
  clear hlen hlen2
  clear e1 e3
  go_loopw [5, 16] (fun v i' wr => ∃ i : Nat, i ≤ q ∧ i' = .int .i64 (i : Int) ∧ Hid (Oi wr w.heap.size v (chosen (l.take i) (k.take i))) ∧ Hid (Below w.heap.size w wr)) (fun _ i' _ => q - (RowKit.intOf i').toNat)
  case atStart => exact ⟨0, by omega, rfl, Lib.hid (by simpa [chosen] using Oi.nil w w.heap.size), Lib.hid (bl0 w)⟩
  case round =>
    obtain ⟨i, hi, rfl, HO, HB⟩ := hrel
    by_cases hlt : i < q
    · obtain ⟨ad, u, rfl, hu, hcu⟩ := (HR.out.kp (Kp.of_old (may := fun _ => False) HB.out) (fun _ h => h.elim)).at_ (show i < n by omega)
      obtain ⟨ad2, b, rfl, hb, hcb⟩ := (HK.out.below ((HB.out).mono ht)).at_ (show i < n2 by omega)
      have HS := Lib.hid (chosen_step l k i u b hu hb)
      have HU := Lib.hid (show (l.take i).length ≤ 16384 by rw [List.length_take]; omega)
      have HCL : Hid ((chosen (l.take i) (k.take i)).length ≤ 4294967296) := Lib.hid (Nat.le_trans (chosen_len _ _) (by have := HU.out; omega))
      clear hu hb
      cases b with
      | false =>
        go_wp2
        go_roundw
        case rel => exact ⟨i + 1, by omega, by go_num, Lib.hid (by rw [HS.out]; simpa using HO.out), HB⟩
        case measure => simp [RowKit.intOf]; omega
      | true =>
        go_wp2_with (at_builtin; refine wpList_appn (base := w.heap.size) (u := u) (xs := chosen (l.take i) (k.take i)) rfl _ _ rfl rfl ?qo rfl ?qr ?qb ?qh ?_)
        case qo => exact World.ownsRow.alloc HO.out _
        case qb => exact HCL.out
        case qh =>
          have := HB.out.size
          simp
          omega
        intro v3 w3 ho3 hg3
        have HO3 := Lib.hid ho3
        have HB3 := Lib.hid ((bl_alloc HB.out (.cells #[.int .i64 (u : Int)] 3)).grown hg3 (by have := HB.out.size; simp; omega) HO.out.base)
        clear ho3 hg3
        go_wp2
        go_roundw
        case rel => exact ⟨i + 1, by omega, by go_num, Lib.hid (by rw [HS.out]; simpa using HO3.out), HB3⟩
        case measure => simp [RowKit.intOf]; omega
    · obtain rfl : i = q := by omega
      go_wp2
      go_ret
      refine ⟨_, rfl, ?_, HB.out⟩
      have := HO.out
      rw [chosen_take l k i (by have := HQ.out; have := HN.out; have := HK.out.1; omega)] at this
      exact this
end
end Go.Proofs.Ytphifbhgocjhcaa
