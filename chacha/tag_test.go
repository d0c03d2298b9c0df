package chacha

import (
	"bytes"
	"math/big"
	"math/rand"
	"testing"
)

// TestTagKnown has the values of RFC 8439, section 2.5.2 and appendix A.3, of the latter those where something carries.
func TestTagKnown(t *testing.T) {
	same(t, "Tag", Tag(plain("85d6be7857556d337f4452fe42d506a80103808afb0db2fd4abff6af4149f51b"), []byte("Cryptographic Forum Research Group")), "a8061dc1305136c6c22b8baf0c0127a9")
	rows := []struct{ factor, rest, p, want string }{
		{"02", "00", "ffffffffffffffffffffffffffffffff", "03000000000000000000000000000000"},
		{"02", "ff", "02000000000000000000000000000000", "03000000000000000000000000000000"},
		{"01", "00", "fffffffffffffffffffffffffffffffff0ffffffffffffffffffffffffffffff11000000000000000000000000000000", "05000000000000000000000000000000"},
		{"01", "00", "fffffffffffffffffffffffffffffffffbfefefefefefefefefefefefefefefe01010101010101010101010101010101", "00000000000000000000000000000000"},
		{"02", "00", "fdffffffffffffffffffffffffffffff", "faffffffffffffffffffffffffffffff"},
		{"01000000000000000400", "00", "e33594d7505e43b900000000000000003394d7505e4379cd01000000000000000000000000000000000000000000000001000000000000000000000000000000", "14000000000000005500000000000000"},
		{"01000000000000000400", "00", "e33594d7505e43b900000000000000003394d7505e4379cd010000000000000000000000000000000000000000000000", "13000000000000000000000000000000"},
	}
	for _, r := range rows {
		key := make([]byte, 32)
		copy(key, plain(r.factor))
		copy(key[16:], bytes.Repeat(plain(r.rest), 16))
		same(t, "Tag of "+r.p, Tag(key, plain(r.p)), r.want)
	}
}

func whole(n int64) *big.Int { return big.NewInt(n) }

func power(n uint) *big.Int { return new(big.Int).Lsh(whole(1), n) }

func modulus() *big.Int { return new(big.Int).Sub(power(130), whole(5)) }

// little reads bytes, the lowest first.
func little(p []byte) *big.Int {
	high := make([]byte, len(p))
	for i, x := range p {
		high[len(p)-1-i] = x
	}
	return new(big.Int).SetBytes(high)
}

func sixteen(n *big.Int) []byte {
	p := n.FillBytes(make([]byte, 16))
	for i := range 8 {
		p[i], p[15-i] = p[15-i], p[i]
	}
	return p
}

// tag is Tag as RFC 8439, section 2.5, has it.
func tag(key, p []byte) []byte {
	factor := little(key[:16])
	mask, _ := new(big.Int).SetString("0ffffffc0ffffffc0ffffffc0fffffff", 16)
	factor.And(factor, mask)
	sum := new(big.Int)
	for len(p) > 0 {
		n := min(16, len(p))
		sum.Add(sum, little(append(bytes.Clone(p[:n]), 1)))
		sum.Mod(sum.Mul(sum, factor), modulus())
		p = p[n:]
	}
	sum.Add(sum, little(key[16:32]))
	return sixteen(sum.Mod(sum, power(128)))
}

func TestTag(t *testing.T) {
	source := rand.New(rand.NewSource(19))
	fill := func(n int) []byte {
		p := make([]byte, n)
		switch source.Intn(3) {
		case 0:
			source.Read(p)
		case 1:
			p = bytes.Repeat([]byte{0xff}, n)
		case 2:
			if n > 0 {
				p[source.Intn(n)] = byte(source.Intn(256))
			}
		}
		return p
	}
	for range 200 {
		for _, n := range lengths() {
			key, p := append(fill(16), fill(16)...), fill(n)
			if got, want := Tag(key, p), tag(key, p); !bytes.Equal(got, want) {
				t.Fatalf("Tag(%x, %x) = %x, not %x", key, p, got, want)
			}
		}
	}
	if got := Tag(rising(0, 32), nil); !bytes.Equal(got, rising(16, 16)) {
		t.Errorf("of nothing: %x", got)
	}
}

// TestTagAroundModulus has sums, by the factor 1, near the modulus and near 2^130.
func TestTagAroundModulus(t *testing.T) {
	key := append([]byte{1}, make([]byte, 31)...)
	for i := int64(-3); i < 12; i++ {
		want := new(big.Int).Add(modulus(), whole(i))
		rest := new(big.Int).Sub(want, new(big.Int).Mul(whole(3), power(128))) // three blocks have a bit of their own
		first := new(big.Int).Rsh(rest, 1)
		p := append(sixteen(first), sixteen(rest.Sub(rest, first))...)
		p = append(p, make([]byte, 16)...)
		want.Mod(want.Mod(want, modulus()), power(128))
		if got := Tag(key, p); !bytes.Equal(got, sixteen(want)) || !bytes.Equal(got, tag(key, p)) {
			t.Errorf("%d beyond the modulus: %x, not %x", i, got, sixteen(want))
		}
	}
}

func value(n number) *big.Int {
	out := new(big.Int)
	for i, x := range n {
		out.Add(out, new(big.Int).Lsh(new(big.Int).SetUint64(x), uint(26*i)))
	}
	return out
}

// TestGreatestParts has numbers whose parts are as great as a tag ever has them.
func TestGreatestParts(t *testing.T) {
	const most = 1<<26 - 1
	sum := number{2*most + 6, 2 * most, 2 * most, 2 * most, 2 * most}
	factor := number{most, most, most, most, most}
	got := sum.times(factor)
	want := new(big.Int).Mul(value(sum), value(factor))
	want.Mod(want, modulus())
	if value(got.least()).Cmp(want) != 0 {
		t.Errorf("%v times %v = %v, not %v", sum, factor, value(got.least()), want)
	}
	if value(got).Cmp(new(big.Int).Add(power(130), whole(5))) >= 0 {
		t.Errorf("%v times %v = %x", sum, factor, got)
	}
	// A text of many blocks that are as great as can be.
	key, p := bytes.Repeat([]byte{0xff}, 32), bytes.Repeat([]byte{0xff}, 16*500)
	if got, want := Tag(key, p), tag(key, p); !bytes.Equal(got, want) {
		t.Errorf("Tag = %x, not %x", got, want)
	}
}
