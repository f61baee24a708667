package manifest_test

import (
	"fmt"
	"slices"
	"strings"

	"herald/api"
	"herald/lists"
)

// The model keeps the rules as they were given, and walks by a list of what is
// still to be gone through, without a limit; what is asked for is cut off that.

const (
	longError  = api.Errno(3)
	twiceError = api.Errno(7)
	ruleError  = api.Errno(180)

	mostRules     = 64
	mostPush      = 8
	mostAuthority = 255
	mostPath      = 4096
)

func modelText(s string, most int) bool {
	for _, b := range []byte(s) {
		if b < 33 || b > 126 {
			return false
		}
	}
	return s != "" && len(s) <= most
}

func modelRight(t api.Target) bool {
	return modelText(t.Authority, mostAuthority) && modelText(t.Path, mostPath) && strings.HasPrefix(t.Path, "/")
}

func sameTarget(a, b api.Target) bool { return a.Authority == b.Authority && a.Path == b.Path }

func has(l []api.Target, t api.Target) bool {
	return slices.ContainsFunc(l, func(other api.Target) bool { return sameTarget(t, other) })
}

func isTwice(l []api.Target) bool {
	for i, t := range l {
		if has(l[i+1:], t) {
			return true
		}
	}
	return false
}

func modelOf(rules []api.Rule) api.Errno {
	long, wrong, twice := len(rules) > mostRules, false, false
	var ofs []api.Target
	for _, r := range rules {
		ofs = append(ofs, r.Of)
		long = long || len(r.Push) > mostPush
		for _, t := range append([]api.Target{r.Of}, r.Push...) {
			wrong = wrong || !modelRight(t)
		}
	}
	switch {
	case long:
		return longError
	case wrong:
		return ruleError
	}
	for _, r := range rules {
		twice = twice || isTwice(r.Push)
	}
	if twice || isTwice(ofs) {
		return twiceError
	}
	return api.OK
}

// modelNames is what a target names.
func modelNames(rules []api.Rule, t api.Target) []api.Target {
	for _, r := range rules {
		if sameTarget(r.Of, t) {
			return r.Push
		}
	}
	return nil
}

func modelWalk(rules []api.Rule, x api.Target) []api.Target {
	var told []api.Target
	ahead := modelNames(rules, x)
	for len(ahead) > 0 {
		y := ahead[0]
		ahead = ahead[1:]
		if !sameTarget(y, x) && !has(told, y) {
			told = append(told, y)
			ahead = slices.Concat(modelNames(rules, y), ahead)
		}
	}
	return told
}

func modelPlan(rules []api.Rule, t api.Target, most int) []api.Target {
	return firstOf(modelWalk(rules, t), min(most, mostPush))
}

func firstOf(l []api.Target, n int) []api.Target { return l[:min(max(n, 0), len(l))] }

func at(path string) api.Target { return api.Target{Authority: "a", Path: "/" + path} }

func targets(paths string) []api.Target {
	var l []api.Target
	for _, path := range strings.Fields(paths) {
		l = append(l, at(path))
	}
	return l
}

// rule is out of "x y z", where /x names /y and /z.
func rule(s string) api.Rule {
	l := targets(s)
	return api.Rule{Of: l[0], Push: l[1:]}
}

func rules(texts ...string) []api.Rule {
	var l []api.Rule
	for _, s := range texts {
		l = append(l, rule(s))
	}
	return l
}

// someRules are so many of unlike targets, each naming the next.
func someRules(n int) []api.Rule {
	var l []api.Rule
	for i := range n {
		l = append(l, rule(fmt.Sprint(i, " ", i+1)))
	}
	return l
}

// somePush is so many unlike targets.
func somePush(n int) []api.Target {
	var l []api.Target
	for i := range n {
		l = append(l, at(fmt.Sprint("push", i)))
	}
	return l
}

// ownRules is the rules in lists of their own.
func ownRules(l []api.Rule) []api.Rule {
	var own []api.Rule
	for _, r := range l {
		own = append(own, api.Rule{Of: r.Of, Push: slices.Clone(r.Push)})
	}
	return own
}

// everyTarget is each that the rules tell of, once.
func everyTarget(l []api.Rule) []api.Target {
	var all []api.Target
	for _, r := range l {
		for _, t := range append([]api.Target{r.Of}, r.Push...) {
			if !has(all, t) {
				all = append(all, t)
			}
		}
	}
	return all
}

func shownTarget(t api.Target) string {
	if t.Authority == "a" {
		return lists.ShownText(t.Path)
	}
	return lists.ShownText(t.Authority) + lists.ShownText(t.Path)
}

func shown(l []api.Target) string {
	var texts []string
	for _, t := range l {
		texts = append(texts, shownTarget(t))
	}
	if len(texts) > 20 {
		texts = append(texts[:20], fmt.Sprintf(".. (%d targets)", len(l)))
	}
	return "[" + strings.Join(texts, " ") + "]"
}

func shownRules(l []api.Rule) string {
	var texts []string
	for _, r := range l[:min(len(l), 20)] {
		texts = append(texts, shownTarget(r.Of)+" -> "+shown(r.Push))
	}
	if len(l) > 20 {
		texts = append(texts, fmt.Sprintf(".. (%d rules)", len(l)))
	}
	return "{" + strings.Join(texts, ", ") + "}"
}
