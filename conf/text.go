package conf

import (
	"strconv"
	"strings"

	"lighterman/api"
	"lighterman/glob"
	"lighterman/path"
)

// The words of the lines.
const (
	wordChain     = "chain"
	wordGas       = "gas"
	wordBytes     = "bytes"
	wordCount     = "count"
	wordPath      = "path"
	wordOrdered   = "ordered"
	wordUnordered = "unordered"
	wordAllow     = "allow"
	wordDeny      = "deny"
	wordInterval  = "interval"
)

// Parse returns the configuration of a text, or the number of the first invalid line and why it is invalid.
func Parse(s string) (api.Conf, int, api.Errno) {
	var p parser
	rest, more := s, true
	for n := 1; more; n++ {
		var line string
		line, rest, more = strings.Cut(rest, "\n")
		if e := p.line(line); e != api.OK {
			return api.Conf{}, n, e
		}
	}
	if p.conf.A == "" || p.conf.B == "" {
		return api.Conf{}, 0, api.ErrNone
	}
	if p.conf.Interval == 0 {
		p.conf.Interval = 1
	}
	return p.conf, 0, api.OK
}

// Print returns a valid configuration as text.
func Print(c api.Conf) (string, api.Errno) {
	if !May(c) {
		return "", api.ErrRange
	}
	var b strings.Builder
	write(&b, chainLine("a", c.A, c.MaxA), chainLine("b", c.B, c.MaxB))
	for _, p := range c.Paths {
		order := wordUnordered
		if p.Ordered {
			order = wordOrdered
		}
		write(&b, []string{wordPath, path.Text(p.A), path.Text(p.B), order})
	}
	for _, r := range c.Rules {
		verb := wordDeny
		if r.Allow {
			verb = wordAllow
		}
		write(&b, []string{verb, r.Pattern})
	}
	write(&b, []string{wordInterval, strconv.Itoa(c.Interval)})
	return b.String(), api.OK
}

// parser has what the lines so far say; a name or an interval that no line has given is zero.
type parser struct {
	conf api.Conf
}

func (p *parser) line(s string) api.Errno {
	if len(s) > api.MaxLine {
		return api.ErrLong
	}
	s, _, _ = strings.Cut(s, "#")
	words := strings.FieldsFunc(s, func(r rune) bool { return r == ' ' || r == '\t' })
	if len(words) == 0 {
		return api.OK
	}
	switch words[0] {
	case wordChain:
		return p.chain(words)
	case wordPath:
		return p.path(words)
	case wordAllow, wordDeny:
		return p.rule(words)
	case wordInterval:
		return p.interval(words)
	}
	return api.ErrForm
}

func (p *parser) chain(words []string) api.Errno {
	if len(words) != 9 || words[3] != wordGas || words[5] != wordBytes || words[7] != wordCount {
		return api.ErrForm
	}
	own, most, other := &p.conf.A, &p.conf.MaxA, p.conf.B
	switch words[1] {
	case "a":
	case "b":
		own, most, other = &p.conf.B, &p.conf.MaxB, p.conf.A
	default:
		return api.ErrForm
	}
	gas, okGas := number(words[4])
	bytes, okBytes := number(words[6])
	count, okCount := number(words[8])
	if !okGas || !okBytes || !okCount {
		return api.ErrForm
	}
	name, limits := words[2], api.Limits{Gas: gas, Bytes: bytes, Count: count}
	if !path.Name(name) {
		return api.ErrName
	}
	if !mayLimits(limits) {
		return api.ErrRange
	}
	if *own != "" || other == name {
		return api.ErrTwice
	}
	*own, *most = name, limits
	return api.OK
}

func (p *parser) path(words []string) api.Errno {
	if len(words) != 4 || words[3] != wordOrdered && words[3] != wordUnordered {
		return api.ErrForm
	}
	a, errA := path.Parse(words[1])
	b, errB := path.Parse(words[2])
	if errA != api.OK || errB != api.OK {
		return api.ErrName
	}
	x := api.Path{A: a, B: b, Ordered: words[3] == wordOrdered}
	if shares(p.conf.Paths, x) {
		return api.ErrTwice
	}
	if len(p.conf.Paths) == api.MaxEnds {
		return api.ErrCount
	}
	p.conf.Paths = append(p.conf.Paths, x)
	return api.OK
}

func (p *parser) rule(words []string) api.Errno {
	if len(words) != 2 {
		return api.ErrForm
	}
	if !glob.May(words[1]) {
		return api.ErrName
	}
	if len(p.conf.Rules) == api.MaxRules {
		return api.ErrCount
	}
	p.conf.Rules = append(p.conf.Rules, api.Rule{Allow: words[0] == wordAllow, Pattern: words[1]})
	return api.OK
}

func (p *parser) interval(words []string) api.Errno {
	if len(words) != 2 {
		return api.ErrForm
	}
	n, ok := number(words[1])
	if !ok {
		return api.ErrForm
	}
	if !mayInterval(n) {
		return api.ErrRange
	}
	if p.conf.Interval != 0 {
		return api.ErrTwice
	}
	p.conf.Interval = n
	return api.OK
}

func number(word string) (int, bool) {
	n, e := path.Number(word)
	return n, e == api.OK
}

func chainLine(side string, name string, l api.Limits) []string {
	return []string{
		wordChain, side, name, wordGas, strconv.Itoa(l.Gas), wordBytes, strconv.Itoa(l.Bytes), wordCount, strconv.Itoa(l.Count),
	}
}

func write(b *strings.Builder, lines ...[]string) {
	for _, words := range lines {
		b.WriteString(strings.Join(words, " "))
		b.WriteByte('\n')
	}
}
