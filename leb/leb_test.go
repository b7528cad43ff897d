package leb_test

import (
	"encoding/hex"
	"math"
	"math/rand"
	"strings"
	"testing"

	"lighterman/api"
	"lighterman/leb"
)

func bytesOf(t *testing.T, s string) string {
	t.Helper()
	b, err := hex.DecodeString(s)
	if err != nil {
		t.Fatal(err)
	}
	return string(b)
}

// outside are numbers that have no encoding.
func outside() []int {
	return []int{-1, -300, api.MaxNum + 1, 1 << 62, math.MaxInt, math.MinInt}
}

func TestPutAndSize(t *testing.T) { // P1.1
	for _, c := range []struct {
		v    int
		want string
	}{
		{0, "00"}, {1, "01"}, {127, "7f"}, {128, "8001"}, {300, "ac02"},
		{16383, "ff7f"}, {16384, "808001"}, {1<<21 - 1, "ffff7f"}, {1 << 49, "8080808080808001"},
		{api.MaxNum, "ffffffffffffff7f"},
	} {
		if got := leb.Put(c.v); got != bytesOf(t, c.want) {
			t.Errorf("Put(%d) is %x, not %s", c.v, got, c.want)
		}
		if got := leb.Size(c.v); got != len(c.want)/2 {
			t.Errorf("Size(%d) is %d", c.v, got)
		}
	}
	for _, v := range outside() {
		if leb.Put(v) != "" || leb.Size(v) != 0 {
			t.Errorf("Put(%d) is %x, Size %d", v, leb.Put(v), leb.Size(v))
		}
	}
}

func TestNext(t *testing.T) { // P1.2
	for _, c := range []struct {
		s    string
		at   int
		v    int
		next int
		e    api.Errno
	}{
		{"00", 0, 0, 1, api.OK},
		{"ac02", 0, 300, 2, api.OK},
		{"ffac02", 1, 300, 3, api.OK},
		{"ffffffffffffff7f", 0, api.MaxNum, 8, api.OK},
		{"", -1, 0, 0, api.ErrRange},
		{"00", 2, 0, 0, api.ErrRange},
		{"00", math.MaxInt, 0, 0, api.ErrRange},
		{"00", math.MinInt, 0, 0, api.ErrRange},
		{"", 0, 0, 0, api.ErrShort},
		{"00", 1, 0, 0, api.ErrShort},
		{"80", 0, 0, 0, api.ErrShort},
		{"80808080808080", 0, 0, 0, api.ErrShort},
		{"8080808080808080", 0, 0, 0, api.ErrLong},
		{"ffffffffffffffff01", 0, 0, 0, api.ErrLong},
		{"8000", 0, 0, 0, api.ErrForm},
		{"8080808080808000", 0, 0, 0, api.ErrForm},
	} {
		v, next, e := leb.Next(bytesOf(t, c.s), c.at)
		if v != c.v || next != c.next || e != c.e {
			t.Errorf("Next(%s, %d) is %d, %d, %d", c.s, c.at, v, next, e)
		}
	}
}

func TestEight(t *testing.T) { // P1.3
	for v, want := range map[int]string{0: "0000000000000000", 258: "0000000000000102", api.MaxNum: "00ffffffffffffff"} {
		s := leb.Eight(v)
		if s != bytesOf(t, want) {
			t.Errorf("Eight(%d) is %x", v, s)
		}
		if got, e := leb.FromEight(s); got != v || e != api.OK {
			t.Errorf("FromEight(%x) is %d, %d", s, got, e)
		}
	}
	for _, v := range outside() {
		if leb.Eight(v) != "" {
			t.Errorf("Eight(%d) is %x", v, leb.Eight(v))
		}
	}
	for s, want := range map[string]api.Errno{
		"": api.ErrShort, "00000000000001": api.ErrShort, "000000000000000001": api.ErrLong,
		"0100000000000000": api.ErrForm, "ffffffffffffffff": api.ErrForm, "8000000000000000": api.ErrForm,
	} {
		if v, e := leb.FromEight(bytesOf(t, s)); v != 0 || e != want {
			t.Errorf("FromEight(%s) is %d, %d", s, v, e)
		}
	}
}

func TestNextIgnoresWhatFollows(t *testing.T) { // P1.4
	r := rand.New(rand.NewSource(1))
	for range 2000 {
		v := (int(r.Int63()) & api.MaxNum) >> r.Intn(57)
		s := leb.Put(v)
		for _, tail := range []string{"", "\x00", "\xff", strings.Repeat("\x80", 9)} {
			if got, next, e := leb.Next("\x81"+s+tail, 1); got != v || next != 1+len(s) || e != api.OK {
				t.Fatalf("Next of %d with tail %x is %d, %d, %d", v, tail, got, next, e)
			}
		}
		if got, e := leb.FromEight(leb.Eight(v)); got != v || e != api.OK {
			t.Fatalf("FromEight(Eight(%d)) is %d, %d", v, got, e)
		}
	}
}
