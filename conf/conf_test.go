package conf_test

import (
	"math"
	"slices"
	"strconv"
	"strings"
	"testing"

	"lighterman/api"
	"lighterman/conf"
)

func end(port string, n int) api.End { return api.End{Port: port, Chan: n} }

func sample() api.Conf {
	return api.Conf{
		A: "east", B: "west", MaxA: api.Limits{Gas: 1, Bytes: 2, Count: 3}, MaxB: api.Limits{Gas: api.MaxLimit, Bytes: 5, Count: 6},
		Paths:    []api.Path{{A: end("t", 1), B: end("u", 2), Ordered: true}, {A: end("t", 2), B: end("u", 1)}},
		Rules:    []api.Rule{{Allow: true, Pattern: "t/*"}, {Pattern: "*"}},
		Interval: 7,
	}
}

const sampleText = `chain a east gas 1 bytes 2 count 3
chain b west gas 1073741824 bytes 5 count 6
path t/channel-1 u/channel-2 ordered
path t/channel-2 u/channel-1 unordered
allow t/*
deny *
interval 7
`

func changed(f func(c *api.Conf)) api.Conf {
	c := sample()
	f(&c)
	return c
}

func manyPaths(n int) []api.Path {
	var l []api.Path
	for i := range n {
		l = append(l, api.Path{A: end("p", i), B: end("q", n-i), Ordered: i%2 == 0})
	}
	return l
}

func manyRules(n int) []api.Rule {
	var l []api.Rule
	for i := range n {
		l = append(l, api.Rule{Allow: i%3 == 0, Pattern: strings.Repeat("x", i+1)})
	}
	return l
}

func good() []api.Conf {
	return []api.Conf{
		sample(),
		changed(func(c *api.Conf) { c.Paths, c.Rules, c.Interval = nil, nil, 1 }),
		changed(func(c *api.Conf) { c.Paths = manyPaths(api.MaxEnds) }),
		changed(func(c *api.Conf) { c.Rules = manyRules(api.MaxRules) }),
		changed(func(c *api.Conf) { c.Rules = append(c.Rules, c.Rules...) }),
		changed(func(c *api.Conf) { c.Interval = conf.MaxInterval }),
		changed(func(c *api.Conf) { c.Paths[0].B = c.Paths[0].A }),
	}
}

func spoilt() []api.Conf {
	return []api.Conf{
		{}, changed(func(c *api.Conf) { c.A = "" }), changed(func(c *api.Conf) { c.B = "West" }), changed(func(c *api.Conf) { c.B = c.A }),
		changed(func(c *api.Conf) { c.MaxA.Gas = 0 }), changed(func(c *api.Conf) { c.MaxA.Bytes = -1 }), changed(func(c *api.Conf) { c.MaxA.Count = api.MaxLimit + 1 }),
		changed(func(c *api.Conf) { c.MaxB.Gas = math.MaxInt }), changed(func(c *api.Conf) { c.MaxB.Bytes = 0 }), changed(func(c *api.Conf) { c.MaxB.Count = 0 }),
		changed(func(c *api.Conf) { c.Paths = manyPaths(api.MaxEnds + 1) }), changed(func(c *api.Conf) { c.Rules = manyRules(api.MaxRules + 1) }),
		changed(func(c *api.Conf) { c.Paths[1].A.Port = "" }), changed(func(c *api.Conf) { c.Paths[1].B.Chan = 1000 }),
		changed(func(c *api.Conf) { c.Paths[1].A = c.Paths[0].A }), changed(func(c *api.Conf) { c.Paths[1].B = c.Paths[0].B }),
		changed(func(c *api.Conf) { c.Rules[1].Pattern = "" }), changed(func(c *api.Conf) { c.Rules[0].Pattern = "A" }),
		changed(func(c *api.Conf) { c.Rules[0].Pattern = strings.Repeat("x", 41) }),
		changed(func(c *api.Conf) { c.Interval = 0 }), changed(func(c *api.Conf) { c.Interval = -1 }), changed(func(c *api.Conf) { c.Interval = conf.MaxInterval + 1 }),
	}
}

func TestMayAndSame(t *testing.T) { // P21.1
	for i, c := range good() {
		if !conf.May(c) || !conf.Same(c, good()[i]) {
			t.Errorf("May(%v) is false", c)
		}
	}
	for _, c := range spoilt() {
		if conf.May(c) {
			t.Errorf("May(%v) is true", c)
		}
	}
	for _, c := range append(good()[1:], spoilt()...) {
		if conf.Same(sample(), c) || conf.Same(c, sample()) {
			t.Errorf("the sample is the same as %v", c)
		}
	}
	none := changed(func(c *api.Conf) { c.Paths, c.Rules = nil, nil })
	empty := changed(func(c *api.Conf) { c.Paths, c.Rules = []api.Path{}, []api.Rule{} })
	if !conf.Same(none, empty) {
		t.Error("no list is not the same as an empty list")
	}
}

func TestParse(t *testing.T) { // P21.2
	for _, s := range []string{
		sampleText, strings.TrimSuffix(sampleText, "\n"), "# a comment\n\n \t \n" + sampleText + "\n\n#",
		strings.ReplaceAll(sampleText, " ", " \t  "), strings.ReplaceAll(sampleText, "\n", "#x\n"), strings.ReplaceAll(sampleText, "\n", " # chain # x\n"),
		"\t" + strings.ReplaceAll(sampleText, "\n", " \n\t "), sampleText + strings.Repeat("x", 0) + "#" + strings.Repeat("\xff", 119),
	} {
		if c, line, e := conf.Parse(s); !conf.Same(c, sample()) || line != 0 || e != api.OK {
			t.Errorf("Parse(%q): %v, %d, %d", s, c, line, e)
		}
	}
	if c, _, e := conf.Parse(strings.Replace(sampleText, "interval 7", "", 1)); c.Interval != 1 || e != api.OK {
		t.Errorf("without an interval: %v, %d", c, e)
	}
	lines := strings.SplitAfter(sampleText, "\n")
	slices.Reverse(lines)
	if c, _, e := conf.Parse(strings.Join(lines, "")); c.A != "east" || c.B != "west" || c.Paths[0].A.Chan != 2 || c.Rules[0].Pattern != "*" || e != api.OK {
		t.Errorf("lines in another order: %v, %d", c, e)
	}
}

func TestParseFails(t *testing.T) { // P21.2
	const two = "chain a east gas 1 bytes 2 count 3\npath t/channel-1 u/channel-2 ordered\n"
	for s, want := range map[string]api.Errno{
		strings.Repeat(" ", 121): api.ErrLong, "#" + strings.Repeat("x", 120): api.ErrLong, strings.Repeat("x", 121): api.ErrLong, strings.Repeat("x", 120): api.ErrForm,
		"interval 0" + strings.Repeat(" ", 111): api.ErrLong,
		"chains a b gas 1 bytes 2 count 3":      api.ErrForm, "Chain b w gas 1 bytes 2 count 3": api.ErrForm, "chain c w gas 1 bytes 2 count 3": api.ErrForm, "chain b w gas 1 bytes 2 count": api.ErrForm,
		"chain b w gas 1 bytes 2 count 3 4": api.ErrForm, "chain b W gas 01 bytes 2 count 3": api.ErrForm, "chain b W gas 1 bytes x count 3": api.ErrForm, "chain b W gas 1 bytes 2 count 99999999999999999999": api.ErrForm,
		"chain b W Gas 1 bytes 2 count 3": api.ErrForm, "chain b w gas 1 byte 2 count 3": api.ErrForm, "chain b w gas 1 bytes 2 counts 3": api.ErrForm,
		"chain b W gas 0 bytes 2 count 3": api.ErrName, "chain b a/b gas 1 bytes 2 count 3": api.ErrName, "chain a W gas 1 bytes 2 count 3": api.ErrName,
		"chain b w gas 0 bytes 2 count 3": api.ErrRange, "chain b w gas 1 bytes 0 count 3": api.ErrRange, "chain b w gas 1 bytes 2 count 1073741825": api.ErrRange, "chain a w gas 1 bytes 2 count 0": api.ErrRange, "chain b east gas 0 bytes 2 count 3": api.ErrRange,
		"chain a w gas 1 bytes 2 count 3": api.ErrTwice, "chain b east gas 1 bytes 2 count 3": api.ErrTwice, "chain a east gas 1 bytes 2 count 3": api.ErrTwice,
		"path t/channel-3 u/channel-3": api.ErrForm, "path t/channel-3 u/channel-3 order": api.ErrForm, "path t u sorted": api.ErrForm, "path t/channel-3 u/channel-3 ordered x": api.ErrForm, "path": api.ErrForm,
		"path t u ordered": api.ErrName, "path t/channel-03 u/channel-3 ordered": api.ErrName, "path t/channel-3 u/channel-1000 ordered": api.ErrName, "path t/channel-1 u ordered": api.ErrName,
		"path t/channel-1 u/channel-3 ordered": api.ErrTwice, "path t/channel-3 u/channel-2 unordered": api.ErrTwice, "path t/channel-1 u/channel-2 ordered": api.ErrTwice,
		"allow": api.ErrForm, "deny a b": api.ErrForm, "allow A": api.ErrName, "deny " + strings.Repeat("a", 41): api.ErrName, "allow a.b": api.ErrName,
		"interval": api.ErrForm, "interval 1 2": api.ErrForm, "interval x": api.ErrForm, "interval -1": api.ErrForm, "interval 0": api.ErrRange, "interval 1000001": api.ErrRange,
		"x": api.ErrForm, "path\rx": api.ErrForm, "interval 5\r": api.ErrForm, "interval\v5": api.ErrForm, "interval\u00a05": api.ErrForm, "\xff": api.ErrForm,
	} {
		if c, line, e := conf.Parse(two + s + "\nx"); !conf.Same(c, api.Conf{}) || line != 3 || e != want {
			t.Errorf("%q: line %d, %d, not %d", s, line, e, want)
		}
	}
	if _, line, e := conf.Parse("interval 0"); line != 1 || e != api.ErrRange {
		t.Errorf("interval 0: line %d, %d", line, e)
	}
	if _, line, e := conf.Parse("interval 2\n\ninterval 2\n"); line != 3 || e != api.ErrTwice {
		t.Errorf("a second interval: line %d, %d", line, e)
	}
	if _, line, e := conf.Parse("interval 1\n# x\ninterval 0\n"); line != 3 || e != api.ErrRange {
		t.Errorf("a second interval 0: line %d, %d", line, e)
	}
	for _, s := range []string{"", "\n\n", "# x", two, "chain b west gas 1 bytes 2 count 3", "interval 3"} {
		if c, line, e := conf.Parse(s); !conf.Same(c, api.Conf{}) || line != 0 || e != api.ErrNone {
			t.Errorf("Parse(%q): %v, %d, %d", s, c, line, e)
		}
	}
}

func TestParseCounts(t *testing.T) { // P21.2
	var paths, rules strings.Builder
	for i := range api.MaxEnds {
		paths.WriteString("path t/channel-" + strconv.Itoa(i) + " u/channel-" + strconv.Itoa(i) + " ordered\n")
	}
	for range api.MaxRules {
		rules.WriteString("deny a\n")
	}
	for s, want := range map[string]api.Errno{
		"path t/channel-9 u/channel-9 ordered": api.ErrCount, "path t/channel-0 u/channel-9 ordered": api.ErrTwice, "path t/channel-9 u ordered": api.ErrName,
		"allow a": api.ErrCount, "deny A": api.ErrName,
	} {
		if _, line, e := conf.Parse(paths.String() + rules.String() + s); line != api.MaxEnds+api.MaxRules+1 || e != want {
			t.Errorf("%q: line %d, %d, not %d", s, line, e, want)
		}
	}
	if _, line, e := conf.Parse(paths.String() + rules.String()); line != 0 || e != api.ErrNone {
		t.Errorf("at the limits: line %d, %d", line, e)
	}
}

func TestPrint(t *testing.T) { // P21.3
	if s, e := conf.Print(sample()); s != sampleText || e != api.OK {
		t.Errorf("Print: %q, %d", s, e)
	}
	for _, c := range spoilt() {
		if s, e := conf.Print(c); s != "" || e != api.ErrRange {
			t.Errorf("Print(%v): %q, %d", c, s, e)
		}
	}
}

func TestLets(t *testing.T) { // P21.4
	allow := func(p string) api.Rule { return api.Rule{Allow: true, Pattern: p} }
	deny := func(p string) api.Rule { return api.Rule{Pattern: p} }
	p := api.Path{A: end("t", 1), B: end("u", 2)}
	for i, c := range []struct {
		rules []api.Rule
		want  bool
	}{
		{nil, true}, {[]api.Rule{deny("x")}, true}, {[]api.Rule{allow("x")}, false}, {[]api.Rule{allow("t/*")}, true}, {[]api.Rule{deny("t/*")}, false},
		{[]api.Rule{deny("t/channel-?"), allow("*")}, false}, {[]api.Rule{allow("t/channel-1"), deny("*")}, true}, {[]api.Rule{deny("u/*"), allow("x")}, false},
		{[]api.Rule{allow("x"), deny("*"), allow("*")}, false}, {[]api.Rule{deny("A"), deny("")}, true}, {[]api.Rule{allow("A")}, false}, {[]api.Rule{deny("u/channel-2")}, true},
	} {
		if conf.Lets(api.Conf{Rules: c.rules}, p) != c.want {
			t.Errorf("case %d is not %t", i, c.want)
		}
	}
}

func TestLimitsAndSetup(t *testing.T) { // P21.4
	c := sample()
	for side, want := range map[int]api.Limits{0: c.MaxA, 1: c.MaxB, 2: {}, -1: {}, math.MaxInt: {}} {
		if conf.Limits(c, side) != want {
			t.Errorf("Limits of side %d: %v", side, conf.Limits(c, side))
		}
	}
	a, e := conf.Setup(c, 0, 5)
	if a.Name != "east" || a.Limits != c.MaxA || e != api.OK || !slices.Equal(a.Ends, []api.Gen{
		{Own: end("t", 1), Other: end("u", 2), Ordered: true, First: 5}, {Own: end("t", 2), Other: end("u", 1), First: 5},
	}) {
		t.Errorf("Setup of a: %v, %d", a, e)
	}
	b, e := conf.Setup(c, 1, api.MaxSeq+1)
	if b.Name != "west" || b.Limits != c.MaxB || e != api.OK || !slices.Equal(b.Ends, []api.Gen{
		{Own: end("u", 2), Other: end("t", 1), Ordered: true, First: api.MaxSeq + 1}, {Own: end("u", 1), Other: end("t", 2), First: api.MaxSeq + 1},
	}) {
		t.Errorf("Setup of b: %v, %d", b, e)
	}
	if s, e := conf.Setup(c, 1, 1); len(s.Ends) != 2 || s.Ends[1].First != 1 || e != api.OK {
		t.Errorf("Setup with first 1: %v, %d", s, e)
	}
	refuse := func(c api.Conf, side, first int) {
		t.Helper()
		if s, e := conf.Setup(c, side, first); s.Name != "" || s.Limits != (api.Limits{}) || len(s.Ends) != 0 || e != api.ErrRange {
			t.Errorf("Setup(%v, %d, %d): %v, %d", c, side, first, s, e)
		}
	}
	for _, x := range spoilt() {
		refuse(x, 0, 1)
	}
	for _, side := range []int{-1, 2, math.MinInt} {
		refuse(c, side, 1)
	}
	for _, first := range []int{0, -1, api.MaxSeq + 2, math.MaxInt} {
		refuse(c, 1, first)
	}
}

func TestRoundTrip(t *testing.T) { // P21.5
	for _, c := range good() {
		s, _ := conf.Print(c)
		if got, line, e := conf.Parse(s); !conf.Same(got, c) || line != 0 || e != api.OK {
			t.Errorf("Parse(%q): %v, %d, %d", s, got, line, e)
		}
	}
}
