package sha_test

import (
	"crypto/sha256"
	"encoding/hex"
	"math/rand"
	"strings"
	"testing"

	"lighterman/api"
	"lighterman/sha"
)

const (
	ofNothing = "e3b0c44298fc1c149afbf4c8996fb92427ae41e4649b934ca495991b7852b855"
	ofAbc     = "ba7816bf8f01cfea414140de5dae2223b00361a396177a9cb410ff61f20015ad"
)

func TestSum(t *testing.T) { // P2.1
	if got := sha.Hex(sha.Sum()); got != ofNothing {
		t.Errorf("Sum() is %s", got)
	}
	if got := sha.Hex(sha.Sum("a", "bc")); got != ofAbc {
		t.Errorf("Sum(a, bc) is %s", got)
	}
	r := rand.New(rand.NewSource(2))
	for n := range 300 {
		b := make([]byte, n)
		r.Read(b)
		if got, want := sha.Sum(string(b)), api.Hash(sha256.Sum256(b)); got != want {
			t.Fatalf("Sum of %d bytes is %x, not %x", n, got, want)
		}
	}
	long := strings.Repeat("a", 1000000)
	if got := sha.Hex(sha.Sum(long)); got != "cdc76e5c9914fb9281a1c7e284d73e67f1809a48a497200e046d39ccc7112cd0" {
		t.Errorf("Sum of a million a is %s", got)
	}
}

func TestText(t *testing.T) { // P2.1
	h := sha.Sum("abc")
	s := sha.Text(h)
	if len(s) != 32 || hex.EncodeToString([]byte(s)) != ofAbc {
		t.Errorf("Text is %x", s)
	}
}

func TestHex(t *testing.T) { // P2.2
	var h api.Hash
	for i := range h {
		h[i] = byte(i*8 + 7)
	}
	s := sha.Hex(h)
	if s != hex.EncodeToString(h[:]) {
		t.Errorf("Hex is %s", s)
	}
	if got, e := sha.FromHex(s); got != h || e != api.OK {
		t.Errorf("FromHex(%s) is %x, %d", s, got, e)
	}
	for _, c := range []struct {
		s    string
		want api.Errno
	}{
		{"", api.ErrShort}, {s[1:], api.ErrShort}, {strings.Repeat("x", 63), api.ErrShort},
		{s + "0", api.ErrLong}, {strings.Repeat("x", 65), api.ErrLong},
		{strings.ToUpper(s), api.ErrForm}, {s[:63] + "g", api.ErrForm}, {"/" + s[1:], api.ErrForm},
		{":" + s[1:], api.ErrForm}, {"`" + s[1:], api.ErrForm}, {s[:10] + "\xff" + s[11:], api.ErrForm},
	} {
		if got, e := sha.FromHex(c.s); got != (api.Hash{}) || e != c.want {
			t.Errorf("FromHex(%s) is %x, %d", c.s, got, e)
		}
	}
}

func TestLess(t *testing.T) { // P2.2
	low, mid, high := api.Hash{}, api.Hash{31: 1}, api.Hash{0: 0x80}
	for _, c := range []struct {
		a, b api.Hash
		want bool
	}{
		{low, mid, true}, {mid, high, true}, {low, high, true},
		{mid, low, false}, {high, mid, false}, {mid, mid, false},
	} {
		if sha.Less(c.a, c.b) != c.want {
			t.Errorf("Less(%x, %x) is not %t", c.a, c.b, c.want)
		}
	}
}

func TestSumOfPieces(t *testing.T) { // P2.3
	r := rand.New(rand.NewSource(3))
	text := strings.Repeat("lighterman ", 40)
	want := sha.Sum(text)
	for range 200 {
		var pieces []string
		for rest := text; rest != ""; {
			n := r.Intn(len(rest) + 1)
			pieces = append(pieces, rest[:n])
			rest = rest[n:]
		}
		if got := sha.Sum(pieces...); got != want {
			t.Fatalf("Sum of %q is %x", pieces, got)
		}
	}
}
