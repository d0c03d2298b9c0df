package sign

import (
	"bytes"
	"math/big"
	"math/rand"
	"slices"
	"testing"
)

func whole(n int64) *big.Int { return big.NewInt(n) }

// count is how many numbers there are: n.
func count() *big.Int {
	n, _ := new(big.Int).SetString("27742317777372353535851937790883648493", 10)
	return n.Add(n, new(big.Int).Lsh(whole(1), 252))
}

// little writes n in so many bytes, the lowest first.
func little(n *big.Int, size int) []byte {
	p := n.FillBytes(make([]byte, size))
	slices.Reverse(p)
	return p
}

// read reads bytes, the lowest first.
func read(p []byte) *big.Int {
	p = bytes.Clone(p)
	slices.Reverse(p)
	return new(big.Int).SetBytes(p)
}

func value(a number) *big.Int {
	p := a.bytes()
	return read(p[:])
}

func expect(t *testing.T, what string, got number, want *big.Int) {
	t.Helper()
	if want := new(big.Int).Mod(want, count()); value(got).Cmp(want) != 0 {
		t.Fatalf("%s = %v, not %v", what, value(got), want)
	}
}

// several has numbers around the powers of 2 and the multiples of n, and some at random, of at most 64 bytes.
func several() []*big.Int {
	var l []*big.Int
	around := func(n *big.Int) {
		for i := int64(-2); i <= 2; i++ {
			m := new(big.Int).Add(n, whole(i))
			if m.Sign() >= 0 && m.BitLen() <= 512 {
				l = append(l, m)
			}
		}
	}
	for _, bit := range []uint{0, 8, 63, 64, 65, 128, 192, 251, 252, 253, 255, 256, 257, 320, 511, 512} {
		around(new(big.Int).Lsh(whole(1), bit))
	}
	for _, many := range []int64{1, 2, 7, 8, 15, 16, 1 << 40} {
		around(new(big.Int).Mul(count(), whole(many)))
	}
	around(new(big.Int).Rsh(count(), 1))
	around(new(big.Int).Mul(count(), count()))
	around(new(big.Int).Lsh(count(), 259))
	source := rand.New(rand.NewSource(19))
	for i := range uint(30) {
		l = append(l, new(big.Int).Rand(source, new(big.Int).Lsh(whole(1), 220+i*10)))
	}
	return l
}

func TestModulo(t *testing.T) {
	for _, n := range several() {
		p := little(n, 64)
		expect(t, "modulo", modulo(p), n)
		expect(t, "modulo of more bytes", modulo(append(p, make([]byte, 9)...)), n)
		expect(t, "modulo of fewer bytes", modulo(little(n, (n.BitLen()+7)/8)), n)
	}
	expect(t, "modulo of no bytes", modulo(nil), whole(0))
	long := bytes.Repeat([]byte{0xff}, 200)
	for i := range long {
		expect(t, "modulo of the greatest", modulo(long[:i]), read(long[:i]))
	}
}

func TestBytesOfNumber(t *testing.T) {
	for _, n := range several() {
		least := new(big.Int).Mod(n, count())
		if got := modulo(little(n, 64)).bytes(); !bytes.Equal(got[:], little(least, 32)) {
			t.Errorf("the bytes of %v: %x", n, got)
		}
	}
}

func TestPlusAndTimes(t *testing.T) {
	for _, n := range several() {
		for _, m := range several() {
			a, b := modulo(little(n, 64)), modulo(little(m, 64))
			expect(t, "plus", a.plus(b), new(big.Int).Add(n, m))
			expect(t, "times", a.times(b), new(big.Int).Mul(n, m))
		}
	}
}
