package field

import (
	"crypto/sha512"
	"math/big"
	"testing"

	"headwater/api"
)

var (
	one  = big.NewInt(1)
	p    = new(big.Int).Sub(new(big.Int).Lsh(one, 255), big.NewInt(19))
	full = new(big.Int).Sub(new(big.Int).Lsh(one, 256), one)
)

func num(n *big.Int) api.Num {
	var out api.Num
	b := n.FillBytes(make([]byte, 32))
	for i := range out {
		out[i] = b[31-i]
	}
	return out
}

func whole(a api.Num) *big.Int {
	var b [32]byte
	for i := range b {
		b[i] = a[31-i]
	}
	return new(big.Int).SetBytes(b[:])
}

func rest(n *big.Int) api.Num { return num(new(big.Int).Mod(n, p)) }

func more(n *big.Int, by int64) *big.Int { return new(big.Int).Add(n, big.NewInt(by)) }

// named are the edges that the chapter names, and those of the words of 51 and of 64 bits.
func named() []api.Num {
	list := []*big.Int{full, more(full, -1), more(full, -36)}
	for i := range int64(41) {
		list = append(list, big.NewInt(i), more(p, i-20), more(new(big.Int).Lsh(p, 1), i-20), more(new(big.Int).Lsh(one, 255), i-20))
	}
	for _, at := range []uint{51, 64, 102, 128, 153, 192, 204, 252, 253, 254} {
		n := new(big.Int).Lsh(one, at)
		list = append(list, n, more(n, -1), new(big.Int).Xor(full, n), new(big.Int).Sub(full, more(n, -1)))
	}
	var out []api.Num
	for _, n := range list {
		if n.Sign() >= 0 && n.BitLen() <= 256 {
			out = append(out, num(n))
		}
	}
	return out
}

// few are the edges that the chapter names, alone.
func few() []api.Num {
	return []api.Num{num(big.NewInt(0)), num(one), num(big.NewInt(2)), num(more(p, -1)), num(p), num(more(p, 1)),
		num(new(big.Int).Lsh(p, 1)), num(more(new(big.Int).Lsh(p, 1), -1)), num(full)}
}

// mixed are numbers of which all bits are thrown about, canonical or not.
func mixed(n int) []api.Num {
	var out []api.Num
	for i := range n {
		sum := sha512.Sum512_256([]byte{byte(i), byte(i >> 8), 77})
		out = append(out, api.Num(sum))
	}
	return out
}

func all() []api.Num { return append(named(), mixed(60)...) }

func TestP31CanonAndRest(t *testing.T) {
	for _, a := range all() {
		n := whole(a)
		if got := Canon(a); got != (n.Cmp(p) < 0) {
			t.Errorf("Canon of %x: %v", n, got)
		}
		got := Rest(a)
		if got != rest(n) || !Canon(got) || Rest(got) != got {
			t.Errorf("Rest of %x: %x", n, whole(got))
		}
	}
	if !Canon(num(more(p, -1))) || Canon(num(p)) || Canon(num(more(p, 1))) || !Canon(api.Num{}) || Canon(num(full)) {
		t.Error("Canon at its edge")
	}
	if Rest(num(p)) != (api.Num{}) || Rest(num(full)) != num(big.NewInt(37)) || Rest(num(new(big.Int).Lsh(p, 1))) != (api.Num{}) {
		t.Error("Rest of p, of 2p, of 2^256 - 1")
	}
}

func TestP31Of(t *testing.T) {
	for _, n := range []uint64{0, 1, 2, 255, 256, 1 << 31, 1<<51 - 1, 1 << 51, 0x0123456789abcdef, 1 << 63, 1<<64 - 1} {
		if got := Of(n); got != num(new(big.Int).SetUint64(n)) {
			t.Errorf("Of %d: %x", n, got)
		}
	}
	last := Of(1<<64 - 1)
	for i, b := range last {
		if (i < 8) != (b == 0xff) || (i >= 8) != (b == 0) {
			t.Errorf("Of 2^64 - 1: byte %d is %x", i, b)
		}
	}
}

func TestP31SumsAndProducts(t *testing.T) {
	list := all()
	for _, a := range list {
		for _, b := range list {
			x, y := whole(a), whole(b)
			if got := Add(a, b); got != rest(new(big.Int).Add(x, y)) {
				t.Fatalf("Add of %x and %x: %x", x, y, whole(got))
			}
			if got := Sub(a, b); got != rest(new(big.Int).Sub(x, y)) {
				t.Fatalf("Sub of %x and %x: %x", x, y, whole(got))
			}
			if got := Mul(a, b); got != rest(new(big.Int).Mul(x, y)) {
				t.Fatalf("Mul of %x and %x: %x", x, y, whole(got))
			}
		}
		if got := Neg(a); got != rest(new(big.Int).Neg(whole(a))) {
			t.Fatalf("Neg of %x: %x", whole(a), whole(got))
		}
	}
	if Neg(api.Num{}) != (api.Num{}) || Neg(num(p)) != (api.Num{}) || Sub(num(p), api.Num{}) != (api.Num{}) {
		t.Error("the negative of 0")
	}
	if Add(num(more(p, -1)), Of(2)) != Of(1) || Mul(Of(2), Inv(Of(2))) != Of(1) {
		t.Error("the chapter's examples")
	}
}

func TestP31Pow(t *testing.T) {
	exponents := append(few(), mixed(4)...)
	exponents = append(exponents, num(more(p, -2)), num(new(big.Int).Lsh(one, 255)), num(new(big.Int).Lsh(one, 64)), num(more(new(big.Int).Lsh(one, 192), -1)), Of(3), Of(1<<63))
	for _, a := range append(few(), mixed(4)...) {
		for _, e := range exponents {
			x, y := whole(a), whole(e)
			if got := Pow(a, e); got != num(new(big.Int).Exp(new(big.Int).Mod(x, p), y, p)) {
				t.Fatalf("%x to the power of %x: %x", x, y, whole(got))
			}
		}
	}
	// The exponent counts as it stands: p is no 0, though it stands for 0 elsewhere.
	if Pow(Of(2), num(p)) != Of(2) || Pow(Of(2), num(more(p, -1))) != Of(1) {
		t.Error("an exponent was taken modulo p")
	}
	if Pow(api.Num{}, api.Num{}) != Of(1) || Pow(num(p), api.Num{}) != Of(1) || Pow(num(p), Of(1)) != (api.Num{}) || Pow(num(full), api.Num{}) != Of(1) {
		t.Error("the power of 0, or 0 to a power")
	}
}

func TestP31Inv(t *testing.T) {
	less := num(more(p, -2))
	for _, a := range append(few(), mixed(20)...) {
		got := Inv(a)
		want := api.Num{}
		if n := new(big.Int).Mod(whole(a), p); n.Sign() != 0 {
			want = num(new(big.Int).ModInverse(n, p))
		}
		if got != want || got != Pow(a, less) {
			t.Errorf("Inv of %x: %x", whole(a), whole(got))
		}
	}
	if Inv(api.Num{}) != (api.Num{}) || Inv(num(p)) != (api.Num{}) || Inv(num(new(big.Int).Lsh(p, 1))) != (api.Num{}) {
		t.Error("Inv of 0")
	}
}

func TestP32Root(t *testing.T) {
	kinds := map[string]int{}
	eighth := new(big.Int).Rsh(more(p, 3), 3)
	for _, a := range append(all(), mixed(200)...) {
		n := new(big.Int).Mod(whole(a), p)
		got, ok := Root(a)
		if big.Jacobi(n, p) < 0 {
			kinds["none"]++
			if ok || got != (api.Num{}) {
				t.Errorf("%x has no root, Root answers %x %v", n, whole(got), ok)
			}
			continue
		}
		want := new(big.Int).ModSqrt(n, p)
		if want.Bit(0) == 1 {
			want.Sub(p, want)
		}
		if !ok || got != num(want) || Odd(got) || !Canon(got) || Mul(got, got) != num(n) {
			t.Errorf("Root of %x: %x %v, want %x", n, whole(got), ok, want)
		}
		try := new(big.Int).Exp(n, eighth, p)
		if try.Mul(try, try).Mod(try, p).Cmp(n) == 0 {
			kinds["first try"]++
		} else {
			kinds["with the root of - 1"]++
		}
	}
	for _, kind := range []string{"none", "first try", "with the root of - 1"} {
		if kinds[kind] < 20 {
			t.Errorf("only %d numbers: %s", kinds[kind], kind)
		}
	}
}

func TestP32RootsOfNamed(t *testing.T) {
	for _, zero := range []*big.Int{new(big.Int), p, new(big.Int).Lsh(p, 1)} {
		if got, ok := Root(num(zero)); !ok || got != (api.Num{}) {
			t.Errorf("Root of %x: %x %v", zero, got, ok)
		}
	}
	if got, ok := Root(Of(4)); !ok || got != Of(2) {
		t.Errorf("Root of 4: %x %v", got, ok)
	}
	if got, ok := Root(Of(1)); !ok || got != num(more(p, -1)) {
		t.Errorf("Root of 1: %x %v, want p less 1, which is not Odd", got, ok)
	}
	if got, ok := Root(Of(2)); ok || got != (api.Num{}) {
		t.Errorf("Root of 2: %x %v", got, ok)
	}
	minus, ok := Root(num(more(p, -1)))
	if !ok || Mul(minus, minus) != num(more(p, -1)) || Odd(minus) {
		t.Errorf("Root of - 1: %x %v", minus, ok)
	}
	for _, a := range mixed(40) {
		square := Mul(a, a)
		got, ok := Root(square)
		if !ok || !Same(got, a) && !Same(got, Neg(a)) {
			t.Errorf("Root of the square of %x: %x %v", a, got, ok)
		}
	}
}

func TestP32OddAndSame(t *testing.T) {
	list := all()
	for _, a := range list {
		x := new(big.Int).Mod(whole(a), p)
		if Odd(a) != (x.Bit(0) == 1) {
			t.Errorf("Odd of %x: %v", whole(a), Odd(a))
		}
		for _, b := range list {
			if same := x.Cmp(new(big.Int).Mod(whole(b), p)) == 0; Same(a, b) != same {
				t.Fatalf("Same of %x and %x: %v", whole(a), whole(b), !same)
			}
		}
	}
	if Odd(num(p)) || !Odd(num(more(p, 1))) || Odd(num(more(p, -1))) || !Same(num(p), api.Num{}) || Same(Of(1), Neg(Of(1))) {
		t.Error("Odd and Same at p")
	}
}

func TestP33Field(t *testing.T) {
	list := append(few(), mixed(6)...)
	for _, a := range list {
		for _, b := range list {
			if Add(a, b) != Add(b, a) || Mul(a, b) != Mul(b, a) || Add(Sub(a, b), b) != Rest(a) || Sub(a, b) != Neg(Sub(b, a)) {
				t.Fatalf("%x and %x in another order", a, b)
			}
			for _, c := range list {
				if Add(Add(a, b), c) != Add(a, Add(b, c)) || Mul(Mul(a, b), c) != Mul(a, Mul(b, c)) {
					t.Fatalf("%x, %x, %x together in another way", a, b, c)
				}
				if Mul(a, Add(b, c)) != Add(Mul(a, b), Mul(a, c)) {
					t.Fatalf("%x times %x and %x by parts", a, b, c)
				}
			}
		}
	}
}

func TestP33InverseAndNegative(t *testing.T) {
	for _, a := range all() {
		if Same(a, api.Num{}) {
			if Odd(a) || Odd(Neg(a)) {
				t.Errorf("0 as %x is Odd", a)
			}
			continue
		}
		if Mul(a, Inv(a)) != Of(1) {
			t.Errorf("%x times its Inv is not 1", a)
		}
		if Odd(a) == Odd(Neg(a)) {
			t.Errorf("%x and its negative are Odd both, or neither is", a)
		}
		if Add(a, Neg(a)) != (api.Num{}) {
			t.Errorf("%x and its negative are not 0", a)
		}
	}
}

// TestWords: a number that goes over to words and back is the canonical one, and what the words are told to stay below holds behind every step.
func TestWords(t *testing.T) {
	fits := func(name string, x five) {
		t.Helper()
		total := new(big.Int)
		for i := len(x) - 1; i >= 0; i-- {
			total.Add(total.Lsh(total, wordBits), new(big.Int).SetUint64(x[i]))
			if i > 0 && x[i] > wordMask || x[i] >= 1<<(wordBits+1) {
				t.Fatalf("%s: word %d is %x", name, i, x[i])
			}
		}
		if total.Cmp(new(big.Int).Add(new(big.Int).Lsh(one, 255), new(big.Int).Lsh(one, 64))) >= 0 {
			t.Fatalf("%s: %x", name, x)
		}
	}
	for _, a := range all() {
		for _, b := range few() {
			var x, y five
			x.spread(&a)
			y.spread(&b)
			sum, less, product := x, x, x
			sum.add(&y)
			less.sub(&y)
			product.mul(&y)
			fits("spread", x)
			fits("add", sum)
			fits("sub", less)
			fits("mul", product)
		}
	}
	// The highest words that are let in, though no number goes over to them.
	high := five{1<<52 - 1, wordMask, wordMask, wordMask, wordMask}
	value := new(big.Int)
	for i := len(high) - 1; i >= 0; i-- {
		value.Add(value.Lsh(value, wordBits), new(big.Int).SetUint64(high[i]))
	}
	sum, less, product := high, high, high
	sum.add(&high)
	less.sub(&high)
	product.mul(&high)
	for _, x := range []struct {
		name string
		got  five
		want *big.Int
	}{
		{"add", sum, new(big.Int).Lsh(value, 1)}, {"sub", less, new(big.Int)}, {"mul", product, new(big.Int).Mul(value, value)},
	} {
		var got api.Num
		fits(x.name, x.got)
		x.got.join(&got)
		if got != rest(x.want) {
			t.Errorf("%s of the highest words: %x", x.name, got)
		}
	}
}

func TestRootOfMinusOne(t *testing.T) {
	var got api.Num
	r := rootOfMinusOne()
	r.join(&got)
	if want := new(big.Int).Exp(big.NewInt(2), new(big.Int).Rsh(more(p, -1), 2), p); got != num(want) {
		t.Errorf("2 to the power of (p - 1) / 4: %x, want %x", whole(got), want)
	}
}

// TestRuleArguments: what was handed in stays as it is.
func TestRuleArguments(t *testing.T) {
	a, b := num(full), num(p)
	Add(a, b)
	Sub(a, b)
	Mul(a, b)
	Pow(a, b)
	Inv(a)
	Root(a)
	if a != num(full) || b != num(p) {
		t.Error("an argument is changed")
	}
}
