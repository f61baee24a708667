package script_test

import (
	"slices"
	"strconv"
	"strings"
	"testing"

	"herald/api"
	"herald/script"
)

// fullLines are a world's with two pages, two rules and two origins.
func fullLines() []string {
	l := exampleLines()
	return slices.Concat(l[:5], []string{`page "x" "/b" 404 "accept" "y" "1" "z" ""`}, l[5:6], []string{`rule "x" "/b"`}, l[6:7], []string{`origin ""`}, l[7:])
}

// TestWorldsLines: each line left out, doubled, at each other place; and each two
// of them in one another's.
func TestWorldsLines(t *testing.T) {
	l := fullLines()
	n := len(l)
	want := func(ok bool, lines []string) {
		t.Helper()
		for _, text := range []string{lined(lines...), lined(slices.Concat([]string{"answers"}, lines, []string{"log"})...)} {
			if _, taken := holdParse(t, text); taken != ok {
				t.Errorf("P26.1: Parse(%s) is taken: %v", shown(text), taken)
			}
		}
	}
	want(true, l)
	isOneOfMany := func(i int) bool { return i >= 4 && i < n-1 }
	block := func(i int) int { return (i - 4) / 2 } // of a line of which there may be many
	for i := range n {
		want(isOneOfMany(i), slices.Concat(l[:i], l[i+1:]))
		want(isOneOfMany(i), slices.Concat(l[:i+1], l[i:]))
		for k := range n {
			if k == i {
				continue
			}
			stays := isOneOfMany(i) && isOneOfMany(k) && block(i) == block(k)
			swapped := slices.Clone(l)
			swapped[i], swapped[k] = l[k], l[i]
			want(stays, swapped)
			want(stays, slices.Insert(slices.Concat(l[:i], l[i+1:]), k, l[i]))
		}
		if i > 0 {
			want(false, l[:i])
			want(false, l[i:])
		}
	}
}

// TestManyOfEach: no page, rule and origin, one, and many of each, with and without
// the others.
func TestManyOfEach(t *testing.T) {
	for _, pages := range []int{0, 1, 2, 64, 300} {
		for _, rules := range []int{0, 1, 2, 64, 300} {
			for _, origins := range []int{0, 1, 2, 16, 300} {
				w := exampleWorld()
				w.Pages, w.Rules, w.Origins = nil, nil, nil
				lines := slices.Clone(exampleLines()[:4])
				for i := range pages {
					path := "/" + strconv.Itoa(i)
					w.Pages = append(w.Pages, api.Page{Authority: "x", Path: path, Status: i})
					lines = append(lines, `page "x" "`+path+`" `+strconv.Itoa(i)+` ""`)
				}
				for i := range rules {
					path := "/" + strconv.Itoa(i)
					w.Rules = append(w.Rules, api.Rule{Of: api.Target{Authority: "y", Path: path}})
					lines = append(lines, `rule "y" "`+path+`"`)
				}
				for i := range origins {
					w.Origins = append(w.Origins, strconv.Itoa(i))
					lines = append(lines, `origin "`+strconv.Itoa(i)+`"`)
				}
				wantBoth(t, strings.Join(append(lines, "end"), "\n"), worldOf(w))
			}
		}
	}
}

// TestChoicesAndTargets: none, one, several, and many; each by its two texts.
func TestChoicesAndTargets(t *testing.T) {
	for _, n := range []int{0, 1, 2, 3, 8, 9, 300} {
		line, rule := "\"x\" \"/\" 200 \"v\"", "\"x\" \"/\""
		var choices []api.Choice
		var targets []api.Target
		for i := range n {
			one := strconv.Itoa(i)
			line += ` "` + one + `" "b"`
			rule += ` "a" "` + one + `"`
			choices = append(choices, api.Choice{Value: one, Body: "b"})
			targets = append(targets, api.Target{Authority: "a", Path: one})
		}
		p := api.Page{Authority: "x", Path: "/", Status: 200, Vary: "v", Choices: choices}
		r := api.Rule{Of: api.Target{Authority: "x", Path: "/"}, Push: targets}
		wantBoth(t, "put "+line, putOf(p))
		begin := lined(exampleLines()[:4]...)
		w := exampleWorld()
		w.Pages, w.Rules, w.Origins = []api.Page{p, p}, []api.Rule{r, r}, nil
		wantBoth(t, begin+lined("page "+line, "page "+line, "rule "+rule, "rule "+rule)+"end", worldOf(w))
		wantRefused(t, scriptError, "put "+line+` "odd"`)
		wantRefused(t, scriptError, begin+lined("page "+line+` "odd"`, "end"))
		wantRefused(t, scriptError, begin+lined("rule "+rule+` "odd"`, "end"))
		wantRefused(t, scriptError, begin+lined("page "+line+` "odd" 3`, "end"))
		wantRefused(t, scriptError, begin+lined("rule "+rule+` "odd" 3`, "end"))
		wantRefused(t, scriptError, begin+lined("rule "+rule+` odd "x"`, "end"))
	}
	for _, s := range []string{`page`, `page "x"`, `page "x" "/"`, `page "x" "/" 200`, `page "x" "/" "200" ""`, `page "x" 200 "/" ""`, `page x "/" 200 ""`, `rule`, `rule "x"`, `rule "x" "/" "y"`, `rule x "/"`, `rule "x" 3`, `origin`, `origin x`, `origin "x" "y"`, `origin 3`, `conf 1 2 3 4`, `never`} {
		wantRefused(t, scriptError, lined(slices.Concat(exampleLines()[:4], []string{s, "end"})...))
	}
}

// TestSettingsAndMoves: in a world server and client are settings, outside of one
// they are moves; no other command stands in a world.
func TestSettingsAndMoves(t *testing.T) {
	l := fullLines()
	moves := []said{{"server 3", numbered(moveServer, 3)}, {"client 3", numbered(moveClient, 3)}}
	for _, a := range moves {
		wantParse(t, lined(a.line)+lined(exampleLines()...)+lined(a.line), a.c, worldOf(exampleWorld()), a.c)
	}
	for _, s := range []string{l[1], l[2], "server 1 2", "client 1 2 3 4 5", "server", "client"} {
		wantRefused(t, scriptError, s)
		wantRefused(t, scriptError, lined(l...)+s)
		wantRefused(t, scriptError, s+"\n"+lined(l...))
	}
	var others []string
	for _, a := range everyKind() {
		others = append(others, a.line)
	}
	for at := 1; at < len(l); at++ {
		for _, line := range append(others, "world", "end", "x") {
			text := lined(slices.Insert(slices.Clone(l), at, line)...)
			if line == "end" && at >= 4 {
				wantRefused(t, scriptError, text) // what is behind that end is no command
				continue
			}
			wantRefused(t, scriptError, text)
			wantRefused(t, scriptError, lined(slices.Concat(l[:at], []string{line}, l[at+1:])...)+lined(l[at:]...))
		}
	}
	for at, six := range map[int]string{1: "server 1 2 3 4 5 6", 2: "client 1 2 3 4 5 6"} {
		for n := range 9 {
			words := strings.Split(six+" 7 8", " ")[:1+n]
			lines := slices.Clone(l)
			lines[at] = strings.Join(words, " ")
			if _, ok := holdParse(t, lined(lines...)); ok != (n == 6) {
				t.Errorf("P26.1: with %d numbers in %s a world is taken: %v", n, words[0], ok)
			}
		}
	}
	for n := range 7 {
		lines := slices.Clone(l)
		lines[3] = strings.Join(strings.Split("conf 1 2 3 4 5 6", " ")[:1+n], " ")
		if _, ok := holdParse(t, lined(lines...)); ok != (n == 4) {
			t.Errorf("P26.1: with %d numbers in conf a world is taken: %v", n, ok)
		}
	}
}

// TestWorldsAlone: the words world and end stand alone in their lines; a world may
// follow on another, none may stand in one.
func TestWorldsAlone(t *testing.T) {
	l := exampleLines()
	w := worldOf(exampleWorld())
	wantParse(t, lined(l...)+lined(l...), w, w)
	wantParse(t, strings.Repeat(lined(l...), 100)+strings.Join(l, "\n"), slices.Repeat([]script.Command{w}, 101)...)
	wantRefused(t, scriptError, lined(slices.Concat(l[:4], l, l[4:])...))
	wantRefused(t, scriptError, lined(slices.Concat(l[:7], l)...))
	wantRefused(t, scriptError, lined(l...)+"end\n")
	wantRefused(t, scriptError, "end\n"+lined(l...))
	for _, s := range []string{"world 1", `world "x"`, "world world", "worlds", "World", "world end", `"world"`} {
		wantRefused(t, scriptError, lined(slices.Concat([]string{s}, l[1:])...))
	}
	for _, s := range []string{"end 1", `end "x"`, "end end", "ends", "End", "end world", `"end"`} {
		wantRefused(t, scriptError, lined(slices.Concat(l[:7], []string{s})...))
		wantRefused(t, scriptError, lined(slices.Concat(l[:7], []string{s}, l[7:])...))
	}
	wantRefused(t, scriptError, strings.Join(l, " "))
}

// TestAnythingInAWorld: neither Parse nor Print judge what a world has.
func TestAnythingInAWorld(t *testing.T) {
	for _, w := range []api.World{
		{},
		{Server: api.Set{Table: -1, Push: least, Streams: longest}, Conf: api.Conf{Entries: least, Pending: longest}},
		{Pages: []api.Page{{}, {}}, Rules: []api.Rule{{}, {}}, Origins: []string{"", ""}},
		{Pages: []api.Page{{Authority: "\"\x00\\", Path: "no path", Status: -1, Vary: "\xff", Choices: []api.Choice{{}, {}}}}},
		{Rules: []api.Rule{{Push: slices.Repeat([]api.Target{{}}, 20)}}, Origins: slices.Repeat([]string{"end"}, 30)},
		{Pages: []api.Page{}, Rules: []api.Rule{{Push: []api.Target{}}}, Origins: []string{}},
	} {
		if _, ok := holdPrint(t, []script.Command{worldOf(w)}); !ok {
			t.Errorf("P26.1: Print(%s) is refused", brief(w))
		}
	}
}
