package play_test

import (
	"math"
	"slices"
	"strings"
	"testing"

	"lighterman/api"
	"lighterman/driver"
	"lighterman/play"
	"lighterman/world"
)

func sample() []api.Act {
	return []api.Act{
		{Kind: api.ActSend, Side: 0, Chan: 1, N: 2, M: 3, Data: "\x00a\xff"}, {Kind: api.ActSend, Side: 1, Chan: api.MaxNum, N: api.MaxNum, M: api.MaxNum},
		{Kind: api.ActTick, Side: 1, N: 5}, {Kind: api.ActTick}, {Kind: api.ActCommit}, {Kind: api.ActCommit, Side: 1}, {Kind: api.ActRaw, Data: "-"}, {Kind: api.ActRaw, Side: 1},
		{Kind: api.ActRound}, {Kind: api.ActTurn},
	}
}

const sampleText = `send a 1 2 3 0061ff
send b 72057594037927935 72057594037927935 72057594037927935 -
tick b 5
tick a 0
commit a
commit b
raw a 2d
raw b -
round
turn
`

func spoilt() []api.Act {
	return []api.Act{
		{}, {Kind: 7}, {Kind: -1}, {Kind: math.MaxInt}, {Kind: api.ActSend, Side: 2}, {Kind: api.ActSend, Side: -1}, {Kind: api.ActSend, Chan: -1}, {Kind: api.ActSend, N: -1}, {Kind: api.ActSend, M: -1}, {Kind: api.ActSend, M: api.MaxNum + 1},
		{Kind: api.ActTick, Side: 2}, {Kind: api.ActTick, N: -1}, {Kind: api.ActTick, N: api.MaxNum + 1}, {Kind: api.ActTick, M: 1}, {Kind: api.ActTick, Chan: 1}, {Kind: api.ActTick, Data: "x"},
		{Kind: api.ActCommit, Side: 2}, {Kind: api.ActCommit, N: 1}, {Kind: api.ActCommit, Data: "x"}, {Kind: api.ActRaw, Side: -1}, {Kind: api.ActRaw, Chan: 1}, {Kind: api.ActRaw, N: 1},
		{Kind: api.ActRound, Side: 1}, {Kind: api.ActRound, Data: "x"}, {Kind: api.ActTurn, N: 1}, {Kind: api.ActTurn, Side: 1},
	}
}

func TestMayAndPrint(t *testing.T) { // P32.1
	for _, x := range sample() {
		if !play.May(x) {
			t.Errorf("May(%v) is false", x)
		}
	}
	if s, e := play.Print(sample()); s != sampleText || e != api.OK {
		t.Errorf("Print: %q, %d", s, e)
	}
	for _, x := range spoilt() {
		if play.May(x) {
			t.Errorf("May(%v) is true", x)
		}
		if s, e := play.Print(append(sample(), x)); s != "" || e != api.ErrRange {
			t.Errorf("Print(%v): %q, %d", x, s, e)
		}
	}
	many := slices.Repeat([]api.Act{{Kind: api.ActTurn}}, play.MaxActs)
	if s, e := play.Print(many); s != strings.Repeat("turn\n", play.MaxActs) || e != api.OK {
		t.Errorf("Print of MaxActs acts: %d", e)
	}
	if s, e := play.Print(make([]api.Act, play.MaxActs+1)); s != "" || e != api.ErrCount {
		t.Errorf("Print of more acts: %q, %d", s, e)
	}
	if s, e := play.Print(nil); s != "" || e != api.OK {
		t.Errorf("Print of no acts: %q, %d", s, e)
	}
}

func TestParse(t *testing.T) { // P32.1
	if l, line, e := play.Parse(sampleText); !slices.Equal(l, sample()) || line != 0 || e != api.OK {
		t.Errorf("Parse: %v, %d, %d", l, line, e)
	}
	if l, line, e := play.Parse(""); len(l) != 0 || line != 0 || e != api.OK {
		t.Errorf("Parse of no lines: %v, %d, %d", l, line, e)
	}
	for _, s := range []string{
		"", "x", "send", "send a", "send a 1 2 3", "send a 1 2 3 ", "send a 1 2 3 - ", "send a 1 2 3 - x", "send c 1 2 3 -", "send A 1 2 3 -", "send 0 1 2 3 -", "send a 01 2 3 -", "send a 1 -2 3 -", "send a 1 2 72057594037927936 -", "send a 1 2 3 0", "send a 1 2 3 0g",
		"send a 1 2 3 0A", "send a 1 2 3 --", "send a 1 2 3 -0", "send  a 1 2 3 -", " turn", "turn ", "turn\t", "turn\r", "Turn", "turn a", "round 1", "tick a", "tick a x", "tick a 1 1", "tick 1", "tick a ", "commit", "commit c", "commit a ", "commit a 1", "commit ab",
		"raw a", "raw a ", "raw a 616", "raw a 61 62", "raw - a", "# x", "raw a \xff\xff", "raw a 6/", "raw a :0", "raw a `0",
	} {
		for _, text := range []string{s + "\n", "turn\n" + s + "\nturn\n", "turn\n" + s + "\nx\n"} {
			want := 1 + strings.Count(text[:strings.Index(text, s+"\n")], "\n")
			if s == "" && text != "\n" {
				want, text = 2, "turn\n\nturn\n"
			}
			if l, line, e := play.Parse(text); len(l) != 0 || line != want || e != api.ErrForm {
				t.Errorf("Parse(%q): %v, %d, %d", text, l, line, e)
			}
		}
	}
	for s, want := range map[string]int{"turn": 1, "turn\nround": 2, "turn\nx": 2, "turn\n ": 2} {
		if l, line, e := play.Parse(s); len(l) != 0 || line != want || e != api.ErrForm {
			t.Errorf("Parse(%q): %v, %d, %d", s, l, line, e)
		}
	}
}

func TestParseCounts(t *testing.T) { // P32.1
	full := strings.Repeat("turn\n", play.MaxActs)
	if l, line, e := play.Parse(full); len(l) != play.MaxActs || line != 0 || e != api.OK {
		t.Errorf("MaxActs lines: %d, %d, %d", len(l), line, e)
	}
	for _, s := range []string{"turn\n", "x\n", "turn", "\n", "x"} {
		if l, line, e := play.Parse(full + s); len(l) != 0 || line != play.MaxActs+1 || e != api.ErrCount {
			t.Errorf("more lines: %d, %d, %d", len(l), line, e)
		}
	}
	if _, line, e := play.Parse("x\n" + full); line != 1 || e != api.ErrForm {
		t.Errorf("a bad first line: %d, %d", line, e)
	}
	if _, line, e := play.Parse(full[5:] + "x\n" + full); line != play.MaxActs || e != api.ErrForm {
		t.Errorf("a bad last line: %d, %d", line, e)
	}
}

func TestShow(t *testing.T) { // P32.2
	items := make([]api.Item, 3)
	for i, c := range []struct {
		o    world.Outcome
		want string
	}{
		{world.Outcome{}, "0"}, {world.Outcome{Code: api.ErrCount}, "22"}, {world.Outcome{Seq: 7}, "0 seq 7"}, {world.Outcome{Code: -3, Seq: -1}, "-3 seq -1"},
		{world.Outcome{Done: api.Done{Code: 4, Gas: 9, Results: []api.Result{{}, {Code: api.ErrGas, Gas: 5}}}}, "0 done 0 20"},
		{world.Outcome{Report: driver.Report{Items: items, Skipped: items[:1], Txs: make([]driver.Sent, 2)}}, "0 plan 3 skip 1 tx 2"},
		{world.Outcome{Report: driver.Report{Items: items[:1]}}, "0 plan 1 skip 0 tx 0"}, {world.Outcome{Report: driver.Report{Skipped: items, Txs: make([]driver.Sent, 2), Bad: 3}}, "0"},
		{world.Outcome{Code: 1, Seq: 2, Done: api.Done{Results: make([]api.Result, 1)}, Report: driver.Report{Items: items}}, "1 seq 2 done 0 plan 3 skip 0 tx 0"},
	} {
		if got := play.Show(c.o); got != c.want {
			t.Errorf("case %d: %q, not %q", i, got, c.want)
		}
	}
}

const configuration = `chain a east gas 100000 bytes 10000 count 10
chain b west gas 100000 bytes 10000 count 10
path t/channel-1 u/channel-2 unordered
path t/channel-2 u/channel-1 ordered
interval 2
`

func TestRun(t *testing.T) { // P32.2
	const script = `send a 0 0 0 6869
send a 1 1 0 -
send a 2 0 0 -
tick b 5
commit a
commit b
round
commit a
commit b
turn
turn
raw a 0101
raw a 00
`
	const want = "0 seq 1\n0 seq 1\n11\n0\n0\n0\n0 plan 2 skip 0 tx 2\n0\n0\n0\n0 plan 1 skip 0 tx 1\n2\n0\n"
	if got, line, e := play.Run(configuration, script); got != want || line != 0 || e != api.OK {
		t.Errorf("Run: %q, %d, %d", got, line, e)
	}
	for i, c := range []struct {
		configuration, script string
		line                  int
		want                  api.Errno
	}{
		{"", "x\n", 0, api.ErrNone}, {configuration + "x\n", "x\n", 6, api.ErrForm}, {configuration + "interval 0", "", 6, api.ErrRange},
		{configuration, "turn\nx\n", 2, api.ErrForm}, {configuration, "turn", 1, api.ErrForm}, {configuration, strings.Repeat("turn\n", 401), 401, api.ErrCount},
	} {
		if got, line, e := play.Run(c.configuration, c.script); got != "" || line != c.line || e != c.want {
			t.Errorf("case %d: %q, %d, %d", i, got, line, e)
		}
	}
	if got, line, e := play.Run(configuration, ""); got != "" || line != 0 || e != api.OK {
		t.Errorf("Run of no acts: %q, %d, %d", got, line, e)
	}
}
