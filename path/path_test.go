package path_test

import (
	"math"
	"strings"
	"testing"

	"lighterman/api"
	"lighterman/path"
)

var transfer = api.End{Port: "transfer", Chan: 7}

func TestName(t *testing.T) { // P3.1
	for _, s := range []string{"a", "z", "transfer", "a-0", "a--", "abcdefghijkl", "z9-"} {
		if !path.Name(s) {
			t.Errorf("Name(%q) is false", s)
		}
	}
	for _, s := range []string{"", "0a", "-a", "A", "aB", "a b", "a/b", "a_", "abcdefghijklm", "a\xff", "a\x00", "a`", "a{", "a:"} {
		if path.Name(s) {
			t.Errorf("Name(%q) is true", s)
		}
	}
}

func TestMayAndLess(t *testing.T) { // P3.1
	for _, c := range []struct {
		e    api.End
		want bool
	}{
		{transfer, true}, {api.End{Port: "a"}, true}, {api.End{Port: "a", Chan: 999}, true},
		{api.End{Port: "a", Chan: 1000}, false}, {api.End{Port: "a", Chan: -1}, false},
		{api.End{Port: "", Chan: 1}, false}, {api.End{Port: "A", Chan: 1}, false},
	} {
		if path.May(c.e) != c.want {
			t.Errorf("May(%v) is not %t", c.e, c.want)
		}
	}
	rising := []api.End{{Port: "", Chan: 5}, {Port: "a", Chan: -3}, {Port: "a", Chan: 2}, {Port: "a", Chan: 10}, {Port: "aa", Chan: 1}, {Port: "b", Chan: 0}}
	for i, a := range rising {
		for k, b := range rising {
			if path.Less(a, b) != (i < k) {
				t.Errorf("Less(%v, %v) is %t", a, b, i >= k)
			}
		}
	}
}

func TestNumber(t *testing.T) { // P3.2
	for _, c := range []struct {
		s    string
		want int
		e    api.Errno
	}{
		{"0", 0, api.OK}, {"9", 9, api.OK}, {"10", 10, api.OK}, {"72057594037927935", api.MaxNum, api.OK},
		{"", 0, api.ErrShort},
		{"007", 0, api.ErrForm}, {"00", 0, api.ErrForm}, {"-1", 0, api.ErrForm}, {"+1", 0, api.ErrForm}, {"1 ", 0, api.ErrForm},
		{"1/", 0, api.ErrForm}, {"1:", 0, api.ErrForm}, {"1_0", 0, api.ErrForm}, {strings.Repeat("9", 99) + "x", 0, api.ErrForm},
		{"0" + strings.Repeat("9", 99), 0, api.ErrForm},
		{"72057594037927936", 0, api.ErrLong}, {"18446744073709551617", 0, api.ErrLong}, {strings.Repeat("9", 500), 0, api.ErrLong},
	} {
		if got, e := path.Number(c.s); got != c.want || e != c.e {
			t.Errorf("Number(%q) is %d, %d", c.s, got, e)
		}
	}
}

func TestTextAndParse(t *testing.T) { // P3.3
	for s, e := range map[string]api.End{
		"transfer/channel-7": transfer, "a/channel-0": {Port: "a"}, "a-1/channel-999": {Port: "a-1", Chan: 999},
	} {
		if got := path.Text(e); got != s {
			t.Errorf("Text(%v) is %q", e, got)
		}
		if got, err := path.Parse(s); got != e || err != api.OK {
			t.Errorf("Parse(%q) is %v, %d", s, got, err)
		}
	}
	for _, e := range []api.End{{}, {Port: "A"}, {Port: "a", Chan: -1}, {Port: "a", Chan: 1000}} {
		if got := path.Text(e); got != "" {
			t.Errorf("Text(%v) is %q", e, got)
		}
	}
	for _, s := range []string{
		"", "transfer", "transfer/", "/channel-7", "transfer/channel-", "transfer/channel-07", "transfer/channel-1000",
		"transfer/channel-7/", "transfer/7", "transfer/channel-7 ", "transfer/channel--1", "transfer//channel-7",
		"Transfer/channel-7", "transfer/Channel-7", "transfer/channel-99999999999999999999",
	} {
		if got, err := path.Parse(s); got != (api.End{}) || err != api.ErrForm {
			t.Errorf("Parse(%q) is %v, %d", s, got, err)
		}
	}
}

func TestOfAndRead(t *testing.T) { // P3.4
	for _, c := range []struct {
		kind, seq int
		want      string
	}{
		{path.Commitments, 1, "commitments/ports/transfer/channels/channel-7/sequences/1"},
		{path.Receipts, 12, "receipts/ports/transfer/channels/channel-7/sequences/12"},
		{path.Acks, api.MaxSeq, "acks/ports/transfer/channels/channel-7/sequences/1099511627776"},
		{path.NextSend, 0, "nextSequenceSend/ports/transfer/channels/channel-7"},
		{path.NextRecv, 0, "nextSequenceRecv/ports/transfer/channels/channel-7"},
		{path.NextAck, 0, "nextSequenceAck/ports/transfer/channels/channel-7"},
		{path.ChannelEnds, 0, "channelEnds/ports/transfer/channels/channel-7"},
	} {
		if got := path.Of(c.kind, transfer, c.seq); got != c.want {
			t.Errorf("Of(%d, %d) is %q", c.kind, c.seq, got)
		}
		kind, e, seq, err := path.Read(c.want)
		if kind != c.kind || e != transfer || seq != c.seq || err != api.OK {
			t.Errorf("Read(%q) is %d, %v, %d, %d", c.want, kind, e, seq, err)
		}
	}
	for _, c := range []struct {
		kind int
		e    api.End
		seq  int
	}{
		{0, transfer, 0}, {8, transfer, 0}, {-1, transfer, 1}, {math.MaxInt, transfer, 1},
		{path.Acks, transfer, 0}, {path.Acks, transfer, -1}, {path.Acks, transfer, api.MaxSeq + 1},
		{path.NextAck, transfer, 1}, {path.ChannelEnds, transfer, -1},
		{path.Acks, api.End{Port: "A"}, 1}, {path.NextAck, api.End{Port: "a", Chan: 1000}, 0},
	} {
		if got := path.Of(c.kind, c.e, c.seq); got != "" {
			t.Errorf("Of(%d, %v, %d) is %q", c.kind, c.e, c.seq, got)
		}
	}
}

func TestReadRejects(t *testing.T) { // P3.4
	const ends = "channelEnds/ports/a/channels/channel-7"
	const acks = "acks/ports/a/channels/channel-7/sequences/12"
	for _, s := range []string{
		"", "/ports/", ends + "/", ends + " ", ends + "/sequences/1", ends + "/sequences/", ends + "/sequences/0",
		"acks/ports/a/channels/channel-7", acks + "/", acks + "0000000000000", strings.Replace(acks, "12", "012", 1),
		strings.Replace(acks, "12", "0", 1), strings.Replace(acks, "12", "", 1), strings.Replace(acks, "12", "-1", 1),
		strings.Replace(acks, "acks", "ack", 1), strings.Replace(acks, "acks", "", 1), strings.Replace(acks, "/a/", "//", 1),
		strings.Replace(acks, "-7", "-07", 1), strings.Replace(acks, "-7", "-1000", 1), strings.Replace(acks, "/ports/", "/port/", 1),
		"x" + acks, "/" + acks, strings.ToUpper(acks), acks + "/sequences/12", "acks/ports/a/ports/b/channels/channel-7/sequences/1",
	} {
		if kind, e, seq, err := path.Read(s); kind != 0 || e != (api.End{}) || seq != 0 || err != api.ErrForm {
			t.Errorf("Read(%q) is %d, %v, %d, %d", s, kind, e, seq, err)
		}
	}
}

func TestKeysDiffer(t *testing.T) { // P3.5
	seen := map[string]bool{}
	for kind := path.Commitments; kind <= path.ChannelEnds; kind++ {
		for _, e := range []api.End{{Port: "a", Chan: 1}, {Port: "a", Chan: 11}, {Port: "a1", Chan: 1}, {Port: "a-1", Chan: 1}} {
			for _, seq := range []int{0, 1, 11, 111} {
				key := path.Of(kind, e, seq)
				if key == "" {
					continue
				}
				if seen[key] {
					t.Errorf("Of(%d, %v, %d) occurs twice", kind, e, seq)
				}
				seen[key] = true
			}
		}
	}
	if len(seen) != 3*4*3+4*4 {
		t.Errorf("%d keys", len(seen))
	}
}
